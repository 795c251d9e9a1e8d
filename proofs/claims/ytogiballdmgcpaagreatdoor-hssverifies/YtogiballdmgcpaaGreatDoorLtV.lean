/- Trees of leaves that sign once: the document's Verify, where it refuses at first. -/
import Derived.Test.YtogiballdmgcpaaGreatDoorLtR3
import Derived.Test.YtogiballdmgcpaaGreatDoorPgF
import Derived.Test.YtogiballdmgcpaaGreatDoorNumLe
namespace Go.Proofs.YtogiballdmgcpaaGreatDoor
open Go.RowKit
set_option linter.unusedVariables false
set_option linter.unusedSimpArgs false

/-- a key that can be one -/
def vKey (pub : List Nat) : Prop := pub.length = 56 ∧ hgtL (numL (pub.take 4)) ≠ 0 ∧ dgtL (numL ((pub.drop 4).take 4)) ≠ 0
set_option maxHeartbeats 4000000 in
set_option maxRecDepth 100000 in
theorem rver_key (pub : List Nat) (pv tv sv : Value) (w : World) (hp : Row .u8 256 w pv pub) (h : ¬ vKey pub) :
    Calls Tryz.prog 38 #[pv, tv, sv] w fun e w' => e = .returned (.int .i64 10) ∧ w' = w := by
  have hrow := hp
  obtain ⟨pa, pc, rfl, lc1, lc2, ho⟩ := hp.opens rfl
  by_cases h56 : pub.length = 56
  · obtain ⟨bb, bo, rfl, _⟩ := ho (by omega)
    have r4 : Row .u8 256 w (.slice (some ⟨bb, bo, none⟩) 4 pc) (pub.take 4) := hrow.cut (by omega)
    have r8 : Row .u8 256 w (.slice (some ⟨bb, bo + 4, none⟩) 4 (pc - 4)) ((pub.drop 4).take 4) := hrow.mid (i := 4) (j := 8) (by decide) (by omega)
    have hn4 := rnum_any _ _ _ r4
    have hn8 := rnum_any _ _ _ r8
    have hht := fun y => rheight_any (numL (pub.take 4)) y (numL_lt _)
    have hdg := fun y => rdigit_any (numL ((pub.drop 4).take 4)) y (numL_lt _)
    have hd : hgtL (numL (pub.take 4)) = 0 ∨ hgtL (numL (pub.take 4)) ≠ 0 ∧ dgtL (numL ((pub.drop 4).take 4)) = 0 := by
      by_cases h1 : hgtL (numL (pub.take 4)) = 0
      · exact .inl h1
      · refine .inr ⟨h1, Decidable.byContradiction fun h2 => h ⟨h56, h1, h2⟩⟩
    generalize hgtL (numL (pub.take 4)) = HH at *
    generalize dgtL (numL ((pub.drop 4).take 4)) = DD at *
    generalize numL (pub.take 4) = X at *
    generalize numL ((pub.drop 4).take 4) = Y at *
    rw [h56] at lc1 ⊢
    have h4c : (4 : Int) ≤ (pc : Int) := by omega
    have h8c : (8 : Int) ≤ (pc : Int) := by omega
    clear hp hrow r4 r8 ho h
    rcases hd with h0 | ⟨h0, h1⟩
    · rw [h0] at hht
      clear h0 hdg hn8
      go_enter Tryz.func38, Tryz.ntmps38
      go_wp2_with (first
        | (go_at_call 36; refine hn4.mono ?_; rintro e yy ⟨rfl, hy⟩; obtain rfl := hy.symm)
        | (go_at_call 68; refine (hht _).mono ?_; rintro e yy ⟨rfl, hy⟩; obtain rfl := hy.symm)
        | fail)
      go_ret
      exact ⟨rfl, rfl⟩
    · rw [h1] at hdg
      have hHb : ((HH : Int) == 0) = false := by simp; exact h0
      have hHi : ¬ (HH : Int) = 0 := by omega
      clear h0 h1
      go_enter Tryz.func38, Tryz.ntmps38
      go_wp2_with (first
        | (go_at_call 36; have hu := hn4; clear hn4; refine hu.mono ?_; rintro e yy ⟨rfl, hy⟩; obtain rfl := hy.symm; clear hu)
        | (go_at_call 36; refine hn8.mono ?_; rintro e yy ⟨rfl, hy⟩; obtain rfl := hy.symm)
        | (go_at_call 68; refine (hht _).mono ?_; rintro e yy ⟨rfl, hy⟩; obtain rfl := hy.symm)
        | (go_at_call 66; refine (hdg _).mono ?_; rintro e yy ⟨rfl, hy⟩; obtain rfl := hy.symm)
        | fail)
      go_ret
      exact ⟨rfl, rfl⟩
  · generalize pub.length = L at *
    have hi : ¬ (L : Int) = 56 := by omega
    have hb : ((L : Int) == 56) = false := beq_eq_false_iff_ne.2 hi
    have hn : ((L : Int) != 56) = true := by simp [bne, hb]
    clear hp hrow ho h h56
    go_enter Tryz.func38, Tryz.ntmps38
    go_wp2
    go_ret
    exact ⟨rfl, rfl⟩
theorem zeroTr : ∀ w, (zeroValue 45).run Tryz.prog w = .ok (.agg #[.int .i64 0, .int .i64 0]) w := fun w => by kernel_rfl
set_option maxHeartbeats 4000000 in
set_option maxRecDepth 100000 in
theorem rver_cut (pub sig : List Nat) (pv tv sv : Value) (w : World) (hp : Row .u8 256 w pv pub) (hs : Row .u8 256 w sv sig) (h : vKey pub) (hc : ctE sig ≠ 0) :
    Calls Tryz.prog 38 #[pv, tv, sv] w fun e w' => e = .returned (.int .i64 (ctE sig : Nat)) ∧ Below w.heap.size w w' := by
  obtain ⟨h56, h0, h1⟩ := h
  have hrow := hp
  have hct := rcut_no sig sv w hs hc
  obtain ⟨pa, pc, rfl, lc1, lc2, ho⟩ := hp.opens h56
  obtain ⟨bb, bo, rfl, _⟩ := ho (by decide)
  have r4 : Row .u8 256 w (.slice (some ⟨bb, bo, none⟩) 4 pc) (pub.take 4) := hrow.cut (by omega)
  have r8 : Row .u8 256 w (.slice (some ⟨bb, bo + 4, none⟩) 4 (pc - 4)) ((pub.drop 4).take 4) := hrow.mid (i := 4) (j := 8) (by decide) (by omega)
  have hn4 := rnum_any _ _ _ r4
  have hn8 := rnum_any _ _ _ r8
  have hht := fun y => rheight_any (numL (pub.take 4)) y (numL_lt _)
  have hdg := fun y => rdigit_any (numL ((pub.drop 4).take 4)) y (numL_lt _)
  generalize hgtL (numL (pub.take 4)) = HH at *
  generalize dgtL (numL ((pub.drop 4).take 4)) = DD at *
  generalize numL (pub.take 4) = X at *
  generalize numL ((pub.drop 4).take 4) = Y at *
  generalize ctE sig = E at *
  have h4c : (4 : Int) ≤ (pc : Int) := by omega
  have h8c : (8 : Int) ≤ (pc : Int) := by omega
  have hHb : ((HH : Int) == 0) = false := by simp; exact h0
  have hHi : ¬ (HH : Int) = 0 := by omega
  have hDb : ((DD : Int) == 0) = false := by simp; exact h1
  have hDi : ¬ (DD : Int) = 0 := by omega
  have hEi : ¬ (E : Int) = 0 := by omega
  have hEb : ((E : Int) == 0) = false := by simp; exact hc
  have hEn : ((E : Int) != 0) = true := by simp [bne, hEb]
  have hz := zeroTr
  clear hp hrow r4 r8 ho h0 h1 hc hs
  go_enter Tryz.func38, Tryz.ntmps38
  go_wp2_with (first
    | (go_at_call 36; have hu := hn4; clear hn4; refine hu.mono ?_; rintro e yy ⟨rfl, hy⟩; obtain rfl := hy.symm; clear hu)
    | (go_at_call 36; refine hn8.mono ?_; rintro e yy ⟨rfl, hy⟩; obtain rfl := hy.symm)
    | (go_at_call 68; refine (hht _).mono ?_; rintro e yy ⟨rfl, hy⟩; obtain rfl := hy.symm)
    | (go_at_call 66; refine (hdg _).mono ?_; rintro e yy ⟨rfl, hy⟩; obtain rfl := hy.symm)
    | (go_at_call 37; refine hct.mono ?_; rintro e w1 ⟨rfl, hb1⟩)
    | fail)
  go_ret
  exact ⟨rfl, keep_trans hb1 (keep_alloc _ _)⟩
end Go.Proofs.YtogiballdmgcpaaGreatDoor

/- Steps of a plan behind a guard, apart from keccak's. -/
namespace Go.Proofs.YtogiballdmgcpaaGreatDoor
open Go.RowKit
set_option linter.unusedVariables false
set_option linter.unusedSimpArgs false
section
variable {ops : Array Oper} {Q : Exit → Act → World → Prop} {S : World → Prop} {K : Act → World → Prop}
theorem y_toG {o : Oper} {a : Act} {x y : Operand} {aa : Option Addr} {n c F : Nat} (hw : Region.wanted o (yielded ops a.tmps) = true) (ho : o.op = .slice 23 x none (some y) none) (hx : a.eval x = .slice aa n c) (hy : a.eval y = .int .i64 (F : Int)) (hF : F ≤ c) : YieldsIf Tryz.prog ops S o (.slice aa F c) a := by
  refine y_ofG hw fun w _ => ?_
  have h := slice_to aa n c F hF w
  unfold execOp
  simp only [ho, hx, Option.map_none, Option.map_some, hy]
  simp [Instr.sliceAt, Sem.run_bind, h, run_underlying Tryz.underlying23, go_sem]
theorem y_gtrG {o : Oper} {a : Act} {x : Operand} {n : Nat} {b : Bool} (hg : o.guard = none) (ho : o.op = .binOp .gtr 3 x (.const (.int .i64 0)) 3) (hx : a.eval x = .int .i64 (n : Int)) (hb : b = decide (0 < n)) : YieldsIf Tryz.prog ops S o (.bool b) a := by
  have h : decide ((0 : Int) < (n : Int)) = b := by rw [hb]; exact decide_eq_decide.2 (by omega)
  refine y_of hg fun w _ => ?_
  unfold execOp
  simp only [ho, hx, ev_const]
  simp [go_sem, ← h]
theorem y_lenG {o : Oper} {a : Act} {x : Operand} {aa : Option Addr} {n cc : Nat} (hg : o.guard = none) (ho : o.op = .call { callee := .builtin .len, args := #[x], argTypes := #[23] }) (hx : a.eval x = .slice aa n cc) : YieldsIf Tryz.prog ops S o (.int .i64 (n : Int)) a :=
  y_of hg fun w _ => by
    unfold execOp
    have ha : (#[x] : Array Operand).map a.eval = #[.slice aa n cc] := by simp only [List.map_toArray, List.map_cons, List.map_nil, hx]
    generalize (#[x] : Array Operand) = xs at ho ha
    simp only [ho]
    simp [resolve, ha, go_sem]
end
end Go.Proofs.YtogiballdmgcpaaGreatDoor

/- Contract of apostilleref01.Digits. -/
namespace Go.Proofs.YtogiballdmgcpaaGreatDoor
open Go.RowKit
set_option linter.unusedVariables false

/-- a bit of a byte -/
theorem bit_and (x s : Nat) (hx : x < 256) : bits .and .u8 ((x : Int) / 2 ^ s) 1 = ((x / 2 ^ s % 2 : Nat) : Int) := by
  have h1 : x / 2 ^ s < 256 := Nat.lt_of_le_of_lt (Nat.div_le_self _ _) hx
  rw [show ((x : Int) / 2 ^ s) = ((x / 2 ^ s : Nat) : Int) from by simp, show (1 : Int) = ((1 : Nat) : Int) from rfl, u8_and_nat _ 1 h1 (by decide), nat_mask1]

set_option maxHeartbeats 1000000 in
theorem rdig_any (va : Value) (l : List Nat) (x c : Int) (w : World) (ha : Row .u8 256 w va l) (hl : l.length ≤ 1000000) :
    Calls Tryz.prog 113 #[va, .int .i64 x, .int .i64 c] w fun e w' => ∃ v, e = .returned v ∧ Own 52 .u32 4294967296 w' w.heap.size v (digS l x c) ∧ Below w.heap.size w w' := by
  have ha' := ha
  obtain ⟨a, ca, rfl, ha1, ha2, ha3, ha4⟩ := ha
  unfold maxLen at ha2
  cases hok : okB l.length x c with
  | false =>
    have hS : digS l x c = [] := by unfold digS; rw [if_neg (by rw [hok]; decide)]
    rw [hS]; clear hS
    go_enter Tryz.func113, Tryz.ntmps113
    go_wp2_with (go_at_call 124; refine (such_any _ l x c _ ha' (by omega)).mono ?_; rintro e w' ⟨rfl, rfl⟩)
    go_ret
    exact ⟨_, rfl, dig_nil _ _ _ _ _, Below.refl _ _⟩
  | true =>
    have hS : digS l x c = digL l x.toNat c.toNat := by unfold digS; rw [if_pos hok]
    rw [hS]; clear hS
    obtain ⟨W, C, rfl, rfl, hW1, hW2, hCW⟩ := okB_of hok
    rw [Int.toNat_natCast, Int.toNat_natCast]
    have hC : C ≤ 8000000 := by
      have : C * 1 ≤ C * W := Nat.mul_le_mul_left C hW1
      omega
    obtain ⟨i0, hi, hz0, hz1, hz2⟩ := info_parts Tryz.info52
    go_enter Tryz.func113, Tryz.ntmps113
    go_wp2_with fail
    refine (such_any _ l W C _ ha' (by omega)).mono ?_
    rintro e w' ⟨rfl, hw'⟩
    rw [hw', hok]
    clear hok hw'
    go_wp2
    go_loopw [7, 8] (fun v i wr => ∃ k : Nat, k ≤ C ∧ i = .int .i64 k ∧
        wr.ownsRow w.heap.size 52 1 v k (vals .u32 (digL l W k)) ∧ Below w.heap.size w wr) (fun _ i _ => C - (intOf i).toNat)
    case atStart => exact ⟨0, Nat.zero_le _, rfl, World.ownsRow_nil _ _ _ _, Below.refl _ _⟩
    case round =>
      obtain ⟨k, hk, rfl, how, hbr⟩ := hrel
      by_cases hlt : k < C
      · have hq : (k + 1) * W ≤ C * W := Nat.mul_le_mul_right W (by omega)
        rw [Nat.add_mul, Nat.one_mul] at hq
        have hPl : k * W + W ≤ 8 * l.length := by omega
        clear hq hCW
        have hPl' : (k : Int) * (W : Int) + W ≤ 8 * l.length := by
          have : ((k * W : Nat) : Int) = (k : Int) * W := by simp
          omega
        have hP0 : 0 ≤ (k : Int) * (W : Int) := Int.mul_nonneg (by omega) (by omega)
        have hc0' := ha3.below hbr (Nat.le_refl _)
        go_wp2
        go_loop [9, 10] (fun n j => ∃ t : Nat, t ≤ W ∧ j = .int .i64 t ∧ n = .int .u32 (digTo l W k t : Nat)) (fun _ j => W - (intOf j).toNat)
        case atStart => exact ⟨0, Nat.zero_le _, rfl, by rw [digTo_zero]; rfl⟩
        case round =>
          obtain ⟨t, ht, rfl, rfl⟩ := hrel
          by_cases hlt2 : t < W
          · have hpl : k * W + t < 8 * l.length := by omega
            obtain ⟨ba, oa, rfl, hca⟩ := hc0' (by omega)
            have c1 := hca ((k * W + t) / 8) (by omega)
            have hx := el_lt ha4 (by decide) ((k * W + t) / 8)
            clear hca
            have hN := digTo_lt l W k t
            have hN2 : digTo l W k t < 16777216 := by
              have := Nat.pow_le_pow_right (show 0 < 2 by decide) (show t ≤ 24 by omega)
              have e : (2 : Nat) ^ 24 = 16777216 := by decide
              omega
            clear hN
            go_wp2
            go_round
            case rel =>
              refine ⟨t + 1, by omega, by go_num, vint ?_⟩
              have hs := digTo_succ l ha4 W k t hpl
              rw [bit_and _ _ hx, ← hs]
              have h2 : el l ((k * W + t) / 8) / 2 ^ (7 - (k * W + t) % 8) % 2 < 2 := Nat.mod_lt _ (by decide)
              generalize el l ((k * W + t) / 8) / 2 ^ (7 - (k * W + t) % 8) % 2 = b at *
              omega
            case measure => simp [intOf]; omega
          · have e : t = W := by omega
            subst e
            rw [digTo_full]
            have hsz := hbr.size
            generalize hD : dig l t k = D at *
            have HD := hide hD
            clear hD
            go_wp2_with (first | (at_builtin; refine wpList_append_own _ rfl _ _ 49 rfl w.heap.size 52 i0 (.int .u32 0) 1 4 Tryz.underlying49 hi hz0 hz1 hz2 rfl (by decide) _ _ _ rfl (how.alloc _) ⟨wr.heap.size, 0, none⟩ 1 1 [.int .u32 D] rfl rfl (cells_new _ _ _) (one_new _ _) (by unfold maxLen; omega) (by omega) (by simp; omega) ?_; intro v' w3 how' hgrow _) | fail)
            have hb3 := below_append hbr hsz how _ hgrow
            clear how hgrow hbr
            go_roundw
            case rel => exact ⟨k + 1, by omega, by go_num, by rw [digL_succ, vals_append, HD.out]; exact how', hb3⟩
            case measure => simp [intOf]; omega
      · go_wp2
        go_ret
        have e : k = C := by omega
        subst e
        exact ⟨_, rfl, ⟨by rw [digL_length]; exact how, digL_under _ _ _ hW2⟩, hbr⟩
end Go.Proofs.YtogiballdmgcpaaGreatDoor
