/- Contracts of oid.numbers (an iterator) and oid.loose (a loop over it). -/
import Derived.RangeFuncBox
import Derived.RangeFuncNested
import Derived.RangeFuncBound
import Derived.RangeFuncCalls
import Derived.RangeFuncLeaves
import Derived.Shelf.Abstract
import Derived.OwnWalkIn
import Derived.TacticsInMore
import Derived.LoopNIn
import Derived.LoopIn
import Derived.Maps.AppendAt
import Derived.Test.YtlddpjcacnahmaaGreatDoorOPar
import Derived.Lib.MinMax
namespace Go.Proofs.YtlddpjcacnahmaaGreatDoor
open Go.RowKit Go.Shelf
set_option linter.unusedVariables false
attribute [local go_sem] Oper.semAt_some

/-- numbers of 32 bits -/
abbrev U32 := { x : Nat // x < 4294967296 }
def numsU (n : Nat) : List Nat → List U32
  | [] => []
  | x :: r => if x < 128 then ⟨(n * 128 + x % 128) % 4294967296, by omega⟩ :: numsU 0 r else numsU ((n * 128 + x % 128) % 4294967296) r
def plainU (l : List U32) : List Nat := l.map (·.1)
theorem numsU_plain (n : Nat) (b : List Nat) : plainU (numsU n b) = nums n b := by
  induction b generalizing n with
  | nil => rfl
  | cons x r ih =>
    unfold numsU nums
    split
    · show _ :: plainU _ = _; rw [ih]
    · exact ih _
theorem numsU_low {n x : Nat} {r : List Nat} (h : x < 128) (hN : (n * 128 + x % 128) % 4294967296 < 4294967296) : numsU n (x :: r) = ⟨(n * 128 + x % 128) % 4294967296, hN⟩ :: numsU 0 r := by
  conv => lhs; unfold numsU
  rw [if_pos h]
theorem numsU_high {n x : Nat} {r : List Nat} (h : ¬ x < 128) : numsU n (x :: r) = numsU ((n * 128 + x % 128) % 4294967296) r := by
  conv => lhs; unfold numsU
  rw [if_neg h]

theorem or_step (n x : Nat) (hx : x < 256) : bits .or .u32 ((n : Int) * 128 % 4294967296) ((x : Int) % 128) = (((n * 128 + x % 128) % 4294967296 : Nat) : Int) := by
  have e : (n : Int) * 128 % 4294967296 = ((n * 128 % 4294967296 : Nat) : Int) := by omega
  rw [e, show ((x : Int) % 128) = ((x % 128 : Nat) : Int) from by simp, u32_or_nat _ _ (by omega) (by omega), nat_join 7 _ _ (by omega) (by omega)]
  congr 1
  omega

set_option maxRecDepth 100000 in
set_option maxHeartbeats 2000000 in
theorem numbers1_in (F : Fence) (n : Nat) (h38 : F.fn 146) (hro : F.round = none) (hn : 1 ≤ n) (l Bn : Nat) (ad : Option Addr) (cap : Nat) (b : List Nat) (w0 : World) (hr : Row .u8 256 w0 (.slice ad b.length cap) b) (J Jx : List U32 → World → Prop)
    (hY : ∀ pre (x : U32) W, J pre W → pre.length < (numsU 0 b).length → YieldAt F (n - 1) Tryz.prog l #[.int .u32 (x.1 : Int)] W fun e W' =>
      (e = .returned (.bool true) ∧ J (pre ++ [x]) W' ∧ Below w0.heap.size W W') ∨ (e = .returned (.bool false) ∧ Jx (pre ++ [x]) W'))
    (W : World) (hW : Below w0.heap.size w0 W) (hBn : W.cell? ⟨Bn, 0, none⟩ = some (.slice ad b.length cap)) (h0 : J [] W) :
    CallsIn F n Tryz.prog 146 #[.func (.yield l) #[] #[], .pointer (some ⟨Bn, 0, none⟩)] W fun e W' => (∃ v, e = .returned v) ∧
      ((∃ ys, ys = numsU 0 b ∧ J ys W') ∨ (∃ pre, pre <+: numsU 0 b ∧ Jx pre W')) := by
  have hr' := hr
  obtain ⟨_, _, hee, hb1, hb2, hb3, hb4⟩ := hr
  simp only [Value.slice.injEq, true_and] at hee
  obtain ⟨rfl, rfl⟩ := hee
  unfold maxLen at hb2
  refine callsIn_of_wp Tryz.func146 rfl h38 ?_ hro
  simp only [Tryz.ntmps146, List.size_toArray, List.length_cons, List.length_nil, Nat.reduceAdd, Nat.reduceSub, Array.replicate_succ, Array.replicate_zero, List.push_toArray, List.append_toArray, List.nil_append, List.cons_append]
  gi_wp2
  gi_loopw [3, 8] (fun vn vi wr => ∃ (k m : Nat) (pre : List U32), k ≤ b.length ∧ m < 4294967296 ∧ vi = .int .i64 k ∧ vn = .int .u32 m ∧ Hid (numsU 0 b = pre ++ numsU m (b.drop k)) ∧ J pre wr ∧ Below w0.heap.size w0 wr)
    (fun _ i _ => b.length - (intOf i).toNat)
  case atStart => exact ⟨0, 0, [], Nat.zero_le _, by decide, rfl, rfl, hide (by simp), h0, hW⟩
  case round =>
    obtain ⟨k, m, pre, hk, hm, rfl, rfl, HP, hJs, hbr⟩ := hrel
    by_cases hlt : k < b.length
    · obtain ⟨_, _, hee, _, _, hcc, _⟩ := hr'.below hbr
      simp only [Value.slice.injEq, true_and] at hee
      obtain ⟨rfl, rfl⟩ := hee
      obtain ⟨bb, off, rfl, hcell⟩ := hcc (by omega)
      have ck := hcell k hlt
      clear hcell hcc hb3
      have hx := el_lt hb4 (by decide) k
      have HDR := hide (drop_el hlt)
      generalize el b k = x at *
      have HOR := hide (or_step m x hx)
      by_cases hlow : x < 128
      · have gl : ¬ (128 : Int) ≤ (x : Int) := by omega
        have hN : (m * 128 + x % 128) % 4294967296 < 4294967296 := by omega
        have hP2 : numsU 0 b = pre ++ (⟨(m * 128 + x % 128) % 4294967296, hN⟩ :: numsU 0 (b.drop (k + 1))) := by rw [HP.out, HDR.out, numsU_low hlow hN]
        generalize (m * 128 + x % 128) % 4294967296 = N at *
        obtain ⟨fn, tmps, assign, body, hy, hR⟩ := hY pre ⟨N, hN⟩ wr hJs (by rw [hP2]; simp)
        have HP2 := hide hP2
        clear hP2
        gi_wp2
        rw [HOR.out, hy]
        gi_wp2
        refine hR.mono ?_
        rintro e W3 (⟨rfl, hJ3, hk3⟩ | ⟨rfl, hJx3⟩)
        · gi_wp2
          go_roundw
          case rel => exact ⟨k + 1, 0, pre ++ [⟨N, hN⟩], by omega, by decide, by go_num, rfl, hide (by rw [HP2.out]; simp), hJ3, hbr.trans hk3⟩
          case measure => simp [intOf]; omega
        · gi_wp2
          refine bodyPost_ret (results_none rfl _ _ _) rfl ?_
          exact ⟨⟨_, rfl⟩, .inr ⟨pre ++ [⟨N, hN⟩], ⟨numsU 0 (b.drop (k + 1)), by rw [HP2.out]; simp⟩, hJx3⟩⟩
      · have gl : (128 : Int) ≤ (x : Int) := by omega
        have hN : (m * 128 + x % 128) % 4294967296 < 4294967296 := by omega
        have hP2 : numsU 0 b = pre ++ numsU ((m * 128 + x % 128) % 4294967296) (b.drop (k + 1)) := by rw [HP.out, HDR.out, numsU_high hlow]
        generalize (m * 128 + x % 128) % 4294967296 = N at *
        have HP2 := hide hP2
        clear hP2
        gi_wp2
        rw [HOR.out]
        go_roundw
        case rel => exact ⟨k + 1, N, pre, by omega, hN, by go_num, rfl, HP2, hJs, hbr⟩
        case measure => simp [intOf]; omega
    · have hP := HP.out
      rw [List.drop_of_length_le (by omega)] at hP
      have HP2 : Hid (numsU 0 b = pre) := hide (by rw [hP]; simp [numsU])
      clear hP
      gi_wp2
      go_end0
      exact ⟨⟨_, rfl⟩, .inl ⟨pre, HP2.out.symm, hJs⟩⟩

set_option maxHeartbeats 1000000 in
theorem numbers_in (F : Fence) (n : Nat) (h32 : F.fn 123) (hro : F.round = none) (v : Value) (l : List Nat) (w : World) (hv : Row .u8 256 w v l) :
    CallsIn F n Tryz.prog 123 #[v] w fun e w' => e = .returned (.func (.func 146) #[] #[.pointer (some ⟨w.heap.size, 0, none⟩)]) ∧ w' = w.alloc (.cells #[v] 22) := by
  obtain ⟨a, cap, rfl, _⟩ := hv
  refine callsIn_of_wp Tryz.func123 rfl h32 ?_ hro
  simp only [Tryz.ntmps123, List.size_toArray, List.length_cons, List.length_nil, Nat.reduceAdd, Nat.reduceSub, Array.replicate_succ, Array.replicate_zero, List.push_toArray, List.append_toArray, List.nil_append, List.cons_append]
  gi_wp2
  go_ret
  exact ⟨rfl, rfl⟩

theorem numbers_stops (F : Fence) (n : Nat) (h38 : F.fn 146) (hro : F.round = none) (hn : 1 ≤ n) (Bn : Nat) (ad : Option Addr) (cap : Nat) (b : List Nat) (w0 w : World) (hr : Row .u8 256 w0 (.slice ad b.length cap) b)
    (hBn : Bn < w.heap.size) (hw : Below w0.heap.size w0 w) (hc : w.cell? ⟨Bn, 0, none⟩ = some (.slice ad b.length cap)) :
    SeqStopsK F n Tryz.prog 146 #[.pointer (some ⟨Bn, 0, none⟩)] (fun x : U32 => #[Value.int .u32 (x.1 : Int)]) (Below w0.heap.size) (fun ys => ys = numsU 0 b) (fun pre => pre <+: numsU 0 b) (numsU 0 b).length w :=
  fun l J Jx W hW _ _ hY h0 =>
    numbers1_in F n h38 hro hn l Bn ad cap b w0 hr J Jx hY W (hw.trans (hW.mono hw.size)) ((hW.cell (p := ⟨Bn, 0, none⟩) hBn).trans hc) h0

/-- what the loop has made of the numbers that have come -/
def looseP (pre : List U32) : List Nat := looseN (plainU pre)
theorem looseP_nil : looseP [] = [] := rfl
theorem looseP_first (x : U32) : looseP [x] = fst2 x.1 := by simp [looseP, looseN, plainU, expand]
theorem plainU_len (pre : List U32) : (plainU pre).length = pre.length := by simp [plainU]
theorem looseP_len (pre : List U32) : (looseP pre).length ≤ 21 := by
  unfold looseP looseN
  have := expand_len ((plainU pre).take 20)
  simp at this ⊢
  omega
theorem looseP_zero {pre : List U32} (h : (looseP pre).length = 0) : pre = [] := by
  have h := (expand_nil_iff ((plainU pre).take 20)).1 h
  have := congrArg List.length h
  simp [plainU_len] at this
  exact this
theorem looseP_full {pre : List U32} (h : 20 < (looseP pre).length) : 20 ≤ pre.length := by
  unfold looseP looseN at h
  have := expand_len ((plainU pre).take 20)
  simp [plainU_len] at this
  omega
theorem looseP_snoc_full {pre : List U32} (h : 20 < (looseP pre).length) (x : U32) : looseP (pre ++ [x]) = looseP pre := by
  have h := looseP_full h
  unfold looseP looseN plainU
  rw [List.map_append, List.take_append_of_le_length (by simp; exact h)]
theorem looseP_snoc {pre : List U32} (h0 : pre ≠ []) (h : ¬ 20 < (looseP pre).length) (x : U32) : looseP (pre ++ [x]) = looseP pre ++ [x.1] := by
  have hl : pre.length < 20 := by
    rcases Nat.lt_or_ge pre.length 20 with h1 | h1
    · exact h1
    · exfalso; apply h
      unfold looseP looseN
      match pre, h0, h1 with
      | p :: r, _, h1 => simp [plainU, expand, fst2] at h1 ⊢; omega
  unfold looseP looseN plainU
  rw [List.map_append, List.take_of_length_le (by simp; omega), List.take_of_length_le (by simp; omega), List.map_cons, List.map_nil, expand_snoc (fun h => h0 (List.map_eq_nil_iff.1 h))]
theorem looseP_under (pre : List U32) : Under 4294967296 (looseP pre) := by
  apply expand_under
  intro x hx
  obtain ⟨y, _, rfl⟩ := List.mem_map.1 (List.mem_of_mem_take hx)
  exact y.2
theorem looseP_prefix {pre xs : List U32} (h : pre <+: xs) (hf : 20 < (looseP pre).length) : looseP xs = looseP pre := by
  obtain ⟨t, rfl⟩ := h
  have h := looseP_full hf
  unfold looseP looseN plainU
  rw [List.map_append, List.take_append_of_le_length (by simp; exact h)]
theorem looseP_all (b : List Nat) : looseP (numsU 0 b) = looseS b := by unfold looseP looseS; rw [numsU_plain]
end Go.Proofs.YtlddpjcacnahmaaGreatDoor

/- Contracts of oid.loose (a loop over an iterator), oid.Parse. -/
namespace Go.Proofs.YtlddpjcacnahmaaGreatDoor
open Go.RowKit Go.Shelf
set_option linter.unusedVariables false
attribute [local go_sem] Oper.semAt_some

set_option maxRecDepth 100000 in
set_option maxHeartbeats 4000000 in
theorem loose_in (F : Fence) (n : Nat) (h21 : F.fn 102) (h32 : F.fn 123) (h38 : F.fn 146) (hro : F.round = none) (hn : 3 ≤ n) (v : Value) (b : List Nat) (w : World) (hr : Row .u8 256 w v b) :
    CallsIn F n Tryz.prog 102 #[v] w fun e W' => ∃ u, e = .returned u ∧ Own 102 .u32 4294967296 W' w.heap.size u (looseS b) ∧ Below w.heap.size w W' := by
  have h1 : 1 ≤ n := by omega
  obtain ⟨i0, hi, hz0, hz1, hz2⟩ := info_parts Tryz.info102
  have hr' := hr
  obtain ⟨a, cap, rfl, hb1, hb2, hb3, hb4⟩ := hr
  refine callsIn_of_wp_marks Tryz.func102 rfl h21 ?_ hro
  simp only [Tryz.ntmps102, List.size_toArray, List.length_cons, List.length_nil, Nat.reduceAdd, Nat.reduceSub, Array.replicate_succ, Array.replicate_zero, List.push_toArray, List.append_toArray, List.nil_append, List.cons_append]
  have hB1 : Below w.heap.size w (w.alloc (.cells #[.slice none 0 0] 24)) := keep_alloc _ _
  gi_wp2_with (gi_at_call 123; refine (numbers_in F (n - 1) h32 hro _ b _ (hr'.below hB1)).mono ?_; rintro e w' ⟨rfl, rfl⟩)
  have bO := Boxed.new w 24 (.slice none 0 0)
  have bN := Boxed.new (w.alloc (.cells #[.slice none 0 0] 24)) 22 (.slice a b.length cap)
  rw [World.size_alloc] at bN
  have hB0 : Below w.heap.size w ((w.alloc (.cells #[.slice none 0 0] 24)).alloc (.cells #[.slice a b.length cap] 22)) := ((Below.refl _ w).alloc (Nat.le_refl _) _).alloc (by simp) _
  have hIown : OwnFrom ((w.alloc (.cells #[.slice none 0 0] 24)).alloc (.cells #[.slice a b.length cap] 22)).heap.size
      (fun (pre : List U32) W => (∃ v, Boxed W w.heap.size 24 v ∧ W.ownsRow w.heap.size 102 1 v (looseP pre).length (vals .u32 (looseP pre)) ∧ True) ∧ Below w.heap.size w W) :=
    OwnFrom.and (Own.from (holdsRow_own w.heap.size w.heap.size 24 102 1 (fun pre => (looseP pre).length) (fun pre => vals .u32 (looseP pre)) (fun _ _ => True)) _) (ownFrom_below (Nat.le_refl _) (by simp; omega))
  refine wpIn_rangeFunc_ownG hro h1 (gf := 146) (lb := #[.pointer (some ⟨w.heap.size + 1, 0, none⟩)]) rfl h38 (enters_of Tryz.func146 (by kernel_rfl) rfl)
    (numbers_stops F (n - 1) h38 hro (by omega) (w.heap.size + 1) a cap b w _ hr' (by simp) hB0 bN.cell) belowK_t (belowK_b (by simp; omega)) (Below.refl _ _) (fun _ => rfl)
    (fun pre W => (∃ v, Boxed W w.heap.size 24 v ∧ W.ownsRow w.heap.size 102 1 v (looseP pre).length (vals .u32 (looseP pre)) ∧ True) ∧ Below w.heap.size w W)
    (fun c pre W => (c = .exit 0 ∧ 20 < (looseP pre).length) ∧ (∃ v, Boxed W w.heap.size 24 v ∧ W.ownsRow w.heap.size 102 1 v (looseP pre).length (vals .u32 (looseP pre)) ∧ True) ∧ Below w.heap.size w W)
    hIown
    (fun c => OwnFrom.and (ownFrom_pure _ _) hIown)
    ⟨⟨_, bO.alloc _, World.ownsRow_nil _ _ _ _, trivial⟩, hB0⟩
    (fun x => { tmps := #[.slice a b.length cap, undef, .slice none 0 0, .pointer (some ⟨w.heap.size, 0, none⟩), .int .u32 (x.1 : Int), undef, .slice a b.length cap, .func (.func 146) #[] #[.pointer (some ⟨w.heap.size + 1, 0, none⟩)], .int .u32 (x.1 : Int), undef, undef, undef, undef, undef, undef, undef, undef, undef, undef, undef, undef, undef, undef, undef, undef, undef, undef, undef, undef, undef, undef], defers := [] }) ?assign ?body ?done ?stop
  case assign =>
    intro l x W K hK
    gi_wp2
    exact hK
  case body =>
    rintro l pre ⟨x, hx⟩ W ⟨⟨v, hv, hrow, _⟩, hB⟩ hlt
    have hc := hv.cell
    have hll := looseP_len pre
    have hsz := hB.size
    obtain ⟨ad, co, rfl, ho1, ho2, _, _⟩ := Own.row (⟨hrow, looseP_under pre⟩ : Own 102 .u32 4294967296 W w.heap.size v (looseP pre))
    unfold maxLen at ho2
    by_cases hfull : 20 < (looseP pre).length
    · have HS := hide (looseP_snoc_full hfull ⟨x, hx⟩)
      gi_wp2
      exact ⟨KeepsFrom.refl _ _, ⟨rfl, by rw [HS.out]; exact hfull⟩, ⟨_, hv, by rw [HS.out]; exact hrow, trivial⟩, hB⟩
    by_cases hz : (looseP pre).length = 0
    · obtain rfl := looseP_zero hz
      have HF := hide (looseP_first ⟨x, hx⟩)
      rw [hz] at hrow hc hv
      have gq0 : (0 : Int) ≤ min ((x : Int) / 40) 2 := by omega
      have gq1 : (0 : Int) ≤ (x : Int) - min ((x : Int) / 40) 2 * 40 := by omega
      have gq2 : (x : Int) - min ((x : Int) / 40) 2 * 40 < 4294967296 := by omega
      have gq3 : min ((x : Int) / 40) 2 * 40 < 4294967296 := by omega
      have gq4 : min ((x : Int) / 40) 2 < 4294967296 := by omega
      have hnew : ∀ j u, (vals .u32 (fst2 x))[j]? = some u → (W.alloc (.cells #[.int .u32 (min ((x : Int) / 40) 2), .int .u32 ((x : Int) - min ((x : Int) / 40) 2 * 40)] 102)).cell? ((⟨W.heap.size, 0, none⟩ : Addr).add j) = some u := by
        have e1 : min ((x : Int) / 40) 2 = ((min (x / 40) 2 : Nat) : Int) := by omega
        have e2 : (x : Int) - min ((x : Int) / 40) 2 * 40 = ((x - min (x / 40) 2 * 40 : Nat) : Int) := by omega
        rw [e2, e1]
        exact (two_own 102 .u32 (min (x / 40) 2) (x - min (x / 40) 2 * 40) W W.heap.size (Nat.le_refl _)).cells rfl
      gi_wp2_with (gi_at_builtin; refine wpListIn_append_own _ rfl _ _ 24 rfl w.heap.size 102 i0 (.int .u32 0) 1 4 Tryz.underlying24 hi hz0 hz1 hz2 rfl (by decide) _ _ _ rfl (hrow.alloc _) ⟨W.heap.size, 0, none⟩ 2 2 (vals .u32 (fst2 x)) rfl rfl hnew (vals_one _ _) (by decide) (by decide) (by simp; omega) ?_; intro v' w1 hown' hgrow _; obtain ⟨g', cap', rfl⟩ := ownsRow_succ hown'; obtain ⟨hv1, hv2, hr2, hk2, hb2⟩ := hv.appended (by decide) hrow hB.size (Nat.le_refl _) hown' hgrow; have hc1 := hv1.cell; have hf1 := hv1.frozen)
      exact ⟨hk2.from _, hb2, ⟨_, hv2, by rw [HF.out]; exact hr2⟩, hB.trans hb2⟩
    · have hpn : pre ≠ [] := by rintro rfl; exact hz rfl
      have HS := hide (looseP_snoc hpn hfull ⟨x, hx⟩)
      have hzz : (((looseP pre).length : Int) == 0) = false := beq_eq_false_iff_ne.2 (by omega)
      gi_wp2_with (gi_at_builtin; refine wpListIn_append_own _ rfl _ _ 24 rfl w.heap.size 102 i0 (.int .u32 0) 1 4 Tryz.underlying24 hi hz0 hz1 hz2 rfl (by decide) _ _ _ rfl (hrow.alloc _) ⟨W.heap.size, 0, none⟩ 1 1 (vals .u32 [x]) rfl rfl (app_cells W .u32 x _ _ rfl) (vals_one _ _) (by unfold maxLen; omega) (by omega) (by simp; omega) ?_; intro v' w1 hown' hgrow _; obtain ⟨g', cap', rfl⟩ := ownsRow_succ hown'; obtain ⟨hv1, hv2, hr2, hk2, hb2⟩ := hv.appended (by decide) hrow hB.size (Nat.le_refl _) hown' hgrow; have hc1 := hv1.cell; have hf1 := hv1.frozen)
      exact ⟨hk2.from _, hb2, ⟨_, hv2, by rw [HS.out, List.length_append, vals_append]; exact hr2⟩, hB.trans hb2⟩
  case done =>
    rintro D ys W hD rfl ⟨⟨v, hv, hrow, _⟩, hB⟩ hK
    have hc := hv.cell
    gi_wp2
    refine ⟨by simp, .inl ⟨_, _, rfl, run_takeDeferred hK, ?_⟩⟩
    rw [looseP_all] at hrow
    exact ⟨_, results_tmp rfl _ _ _, v, rfl, ⟨ownsRow_putObj hrow _ hK rfl, looseS_under b⟩, hB.trans (belowK_b (w := w) (Nat.le_refl _) W D _ _ (by simp at hD; omega) hK rfl rfl)⟩
  case stop =>
    rintro D c pre W hD hpre ⟨⟨rfl, hfull⟩, ⟨v, hv, hrow, _⟩, hB⟩ hK
    have hc := hv.cell
    rw [← looseP_prefix hpre hfull, looseP_all] at hrow
    gi_wp2
    refine ⟨by simp, .inl ⟨_, _, rfl, run_takeDeferred hK, ?_⟩⟩
    exact ⟨_, results_tmp rfl _ _ _, v, rfl, ⟨ownsRow_putObj hrow _ hK rfl, looseS_under b⟩, hB.trans (belowK_b (w := w) (Nat.le_refl _) W D _ _ (by simp at hD; omega) hK rfl rfl)⟩

theorem loose_any (v : Value) (b : List Nat) (w : World) (hr : Row .u8 256 w v b) :
    Calls Tryz.prog 102 #[v] w fun e W' => ∃ u, e = .returned u ∧ Own 102 .u32 4294967296 W' w.heap.size u (looseS b) ∧ Below w.heap.size w W' :=
  callsIn_wide.1 (loose_in Fence.wide 3 trivial trivial trivial rfl (by decide) v b w hr)

theorem parO_some {b : List Nat} (h1 : fitB (looseS b) = true) (h2 : bytesS (looseS b) = b) : parO b = some (looseS b) := by unfold parO; rw [if_pos ⟨h1, h2⟩]
theorem parO_none {b : List Nat} (h : ¬ (fitB (looseS b) = true ∧ bytesS (looseS b) = b)) : parO b = none := by unfold parO; rw [if_neg h]

set_option maxHeartbeats 1000000 in
theorem parse_any (v : Value) (b : List Nat) (w : World) (h : Row .u8 256 w v b) :
    Calls Tryz.prog 69 #[v] w fun e w' => Told .i64 5 (parO b) w' e ∧ Below w.heap.size w w' := by
  have h' := h
  obtain ⟨a, cap, rfl, _⟩ := h
  go_enter Tryz.func69, Tryz.ntmps69
  go_wp2_with fail
  refine (loose_any _ b _ h').mono ?_
  rintro e w1 ⟨u, rfl, ho, hb1⟩
  have hro := ho.row
  have hfit := fit_any u (looseS b) w1 hro
  cases hf : fitB (looseS b) with
  | false =>
    rw [hf] at hfit
    have HN := hide (parO_none (b := b) (by rw [hf]; simp))
    go_wp2_with (first | (go_at_call 49; refine hfit.mono ?_; rintro e w2 ⟨rfl, rfl⟩) | fail)
    go_ret2
    exact ⟨Told.none HN.out, hb1⟩
  | true =>
    rw [hf] at hfit
    go_wp2_with (first | (go_at_call 49; refine hfit.mono ?_; rintro e w2 ⟨rfl, rfl⟩) | fail)
    refine (bytes_any u (looseS b) w2 hro).mono ?_
    rintro e w3 ⟨v3, rfl, ho3, hb3⟩
    have heq := beq_any v3 _ _ b w3 ho3.row (h'.below (keep_trans hb1 hb3))
    by_cases hbb : bytesS (looseS b) = b
    · have HN := hide (parO_some hf hbb)
      rw [decide_eq_true hbb] at heq
      go_wp2_with (first | (go_at_call 103; refine heq.mono ?_; rintro e w4 ⟨rfl, rfl⟩) | fail)
      go_ret2
      exact ⟨⟨_, by rw [HN.out]; rfl, by rw [HN.out]; exact hro.below hb3⟩, keep_trans hb1 hb3⟩
    · have HN := hide (parO_none (b := b) (fun h => hbb h.2))
      rw [decide_eq_false hbb] at heq
      go_wp2_with (first | (go_at_call 103; refine heq.mono ?_; rintro e w4 ⟨rfl, rfl⟩) | fail)
      go_ret2
      exact ⟨Told.none HN.out, keep_trans hb1 hb3⟩
end Go.Proofs.YtlddpjcacnahmaaGreatDoor
