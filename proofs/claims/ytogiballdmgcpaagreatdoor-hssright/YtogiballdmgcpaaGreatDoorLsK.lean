/- Trees of leaves that sign once, the program's own: Verify, whatever comes. -/
import Derived.Test.YtogiballdmgcpaaGreatDoorLsJ
import Derived.Test.YtogiballdmgcpaaGreatDoorLtV8
import Derived.Test.YtogiballdmgcpaaGreatDoorLsD
import Derived.Test.YtogiballdmgcpaaGreatDoorLcC
import Derived.Test.YtogiballdmgcpaaGreatDoorLsA
import Derived.Test.YtogiballdmgcpaaGreatDoorBase
namespace Go.Proofs.YtogiballdmgcpaaGreatDoor
open Go.RowKit Go.Shelf
set_option linter.unusedVariables false
set_option linter.unusedSimpArgs false

theorem num_be4L {n : Nat} (h : n < 4294967296) : numL (be4 n) = n := by
  have e : be4 n = [n / 16777216 % 256, n / 65536 % 256, n / 256 % 256, n % 256] := by
    unfold be4 leL
    simp [List.range, List.range.loop]
  rw [e]
  show ((((0 * 256 + n / 16777216 % 256) % 18446744073709551616 * 256 + n / 65536 % 256) % 18446744073709551616 * 256 + n / 256 % 256) % 18446744073709551616 * 256 + n % 256) % 18446744073709551616 = n
  omega
theorem num4_inj {l m : List Nat} (hl : l.length = 4) (hm : m.length = 4) (hu : Under 256 l) (hv : Under 256 m) (e : numL l = numL m) : l = m := by
  match l, hl, m, hm with
  | [p, q, r, s], _, [p', q', r', s'], _ =>
    have e1 := num4_is p q r s (hu p (by simp)) (hu q (by simp)) (hu r (by simp)) (hu s (by simp))
    have e2 := num4_is p' q' r' s' (hv p' (by simp)) (hv q' (by simp)) (hv r' (by simp)) (hv s' (by simp))
    have b1 := hu p (by simp)
    have b2 := hu q (by simp)
    have b3 := hu r (by simp)
    have b4 := hu s (by simp)
    have c1 := hv p' (by simp)
    have c2 := hv q' (by simp)
    have c3 := hv r' (by simp)
    have c4 := hv s' (by simp)
    rw [e1, e2] at e
    simp only [List.cons.injEq, and_true]
    omega
theorem under_take {m n : Nat} {l : List Nat} (h : Under m l) : Under m (l.take n) := fun x hx => h x (List.mem_of_mem_take hx)
theorem under_drop {m n : Nat} {l : List Nat} (h : Under m l) : Under m (l.drop n) := fun x hx => h x (List.mem_of_mem_drop hx)
/-- a signature's kind is the key's just when its typecodes are -/
theorem hd_iff {pub sig : List Nat} (h : vKey pub) (hc : ctE sig = 0) (hu : Under 256 pub) (hv : Under 256 sig) : (ctH sig = hgtL (numL (pub.take 4)) ∧ ctW sig = dgtL (numL ((pub.drop 4).take 4))) ↔ hdT sig = pub.take 8 := by
  obtain ⟨h56, hH, hD⟩ := h
  obtain ⟨g8, gw0, _, gH0, _⟩ := ctE_zero hc
  have e8 : pub.take 8 = pub.take 4 ++ (pub.drop 4).take 4 := by rw [← List.take_add]
  have l4 : (pub.take 4).length = 4 := by rw [List.length_take]; omega
  have l8 : ((pub.drop 4).take 4).length = 4 := by rw [List.length_take, List.length_drop]; omega
  have s8 : ((sig.drop 4).take 4).length = 4 := by rw [List.length_take, List.length_drop]; omega
  have hs48 : numL ((sig.drop 4).take 4) < 4294967296 := num4_lt (under_take (under_drop hv)) (by omega)
  have hb : be4 (numL ((sig.drop 4).take 4)) = (sig.drop 4).take 4 := num4_inj (be4_len _) s8 (be4_under _) (under_take (under_drop hv)) (num_be4L hs48)
  unfold hdT
  rw [hb, e8]
  have hcd : ∀ c, hgtL c ≠ 0 → lmCode (hgtL c : Nat) = c := fun c h0 => by
    rcases hgtL_or c with h | ⟨h, _⟩
    · exact absurd h h0
    · exact h
  have hdd : ∀ c, dgtL c ≠ 0 → kdC (dgtL c) = c := fun c h0 => by
    rcases dgtL_or c with h | ⟨n, m, s, h⟩
    · exact absurd h h0
    · have e0 : ∀ {k n m s c : Nat}, Kd k n m s c → kdC k = c := fun hk => by cases hk <;> rfl
      exact e0 h
  constructor
  · rintro ⟨e1, e2⟩
    congr 1
    · rw [e1, hcd _ hH]
      exact num4_inj (be4_len _) l4 (be4_under _) (under_take hu) (num_be4L (num4_lt (under_take hu) (by omega)))
    · refine num4_inj s8 l8 (under_take (under_drop hv)) (under_take (under_drop hu)) ?_
      rw [← hdd _ hD, ← e2]
      exact (hdd _ gw0).symm
  · intro e
    obtain ⟨e1, e2⟩ := List.append_inj e (by rw [be4_len, l4])
    constructor
    · rw [← e1, num_be4L (lmCode_32 _), hgtL_code]
      have := (fit_ct gw0 gH0).1
      exact this
    · rw [← e2]; rfl
theorem cvfT_any (pub text sig : List Nat) (pv tv sv : Value) (w : World) (hT : Roots w) (hp : Row .u8 256 w pv pub) (ht : Row .u8 256 w tv text) (tt : Tidy tv) (htl : text.length ≤ 10000) (hs : Row .u8 256 w sv sig) (hsl : sig.length ≤ 100000) :
    Calls Tryz.prog 35 #[pv, tv, sv] w fun e w' => e = .returned (.int .i64 (vfT pub text sig)) ∧ Below w.heap.size w w' := by
  unfold vfT
  by_cases h1 : vKey pub
  · rw [if_neg (by simp [h1])]
    by_cases h2 : ctE sig = 0
    · rw [if_neg (by simp [h2])]
      by_cases h3 : ctN sig < sig.length
      · rw [if_pos h3]
        exact cver_more pub sig pv tv sv w hp hs hsl h1 h2 h3
      · rw [if_neg h3]
        have hm : sig.length = ctN sig := by have := (ctE_zero h2).2.2.2.2; omega
        have hi := hd_iff h1 h2 hp.under hs.under
        by_cases h4 : hdT sig = pub.take 8
        · rw [if_neg (by simp [h4])]
          by_cases h5 : 2 ^ ctH sig ≤ numL (sig.take 4)
          · rw [if_pos h5]
            exact cver_spent pub sig pv tv sv w hp hs hsl h1 h2 hm (hi.2 h4) h5
          · rw [if_neg h5]
            obtain ⟨n, m, s, hk⟩ : ∃ n m s, Kd (ctW sig) n m s (numL ((sig.drop 4).take 4)) := by
              rcases dgtL_or (numL ((sig.drop 4).take 4)) with hz | hz
              · exact absurd hz (ctE_zero h2).2.1
              · exact hz
            obtain ⟨e1, e2, e3, _⟩ := hk.is
            rw [← e1, ← e2, ← e3]
            exact cver_sums (c := 0) pub text sig pv tv sv w hT hp ht tt htl hs hsl h1 h2 hm (hi.2 h4) (by omega) hk
        · rw [if_pos h4]
          exact cver_kind pub sig pv tv sv w hp hs hsl h1 h2 hm (fun q => h4 (hi.1 q))
    · rw [if_pos h2]
      exact cver_cut pub sig pv tv sv w hp hs h1 h2
  · rw [if_pos h1]
    exact cver_key pub pv tv sv w hp h1
end Go.Proofs.YtogiballdmgcpaaGreatDoor

/- Trees of trees, the program's own: next and Verify. -/
namespace Go.Proofs.YtogiballdmgcpaaGreatDoor
open Go.RowKit
set_option linter.unusedVariables false
set_option linter.unusedSimpArgs false

/-- what is wrong with a level but the last, if anything -/
def nxE (key b : List Nat) : Int :=
  if ctE b ≠ 0 then (ctE b : Int) else if (b.drop (ctN b)).length < 56 then 1 else vfT key ((b.drop (ctN b)).take 56) (b.take (ctN b))
theorem hv_next (text : List Nat) {r : Nat} (hr : r ≠ 0) (key rest : List Nat) : hvL text (r + 1) key rest = if nxE key rest ≠ 0 then nxE key rest else hvL text r ((rest.drop (ctN rest)).take 56) ((rest.drop (ctN rest)).drop 56) := by
  show (if ctE rest ≠ 0 then (ctE rest : Int) else if r = 0 then _ else _) = _
  by_cases h1 : ctE rest = 0
  · have hx : nxE key rest = if (rest.drop (ctN rest)).length < 56 then 1 else vfT key ((rest.drop (ctN rest)).take 56) (rest.take (ctN rest)) := by unfold nxE; exact if_neg (by simp [h1])
    rw [if_neg (by simp [h1]), if_neg hr]
    by_cases h2 : (rest.drop (ctN rest)).length < 56
    · rw [if_pos h2] at hx
      rw [if_pos h2, hx]
      rfl
    · rw [if_neg h2] at hx
      rw [if_neg h2, hx]
  · have hx : nxE key rest = (ctE rest : Int) := by unfold nxE; exact if_pos h1
    rw [if_pos h1, hx, if_pos (by omega)]
theorem hv_one (text key rest : List Nat) : hvL text 1 key rest = if ctE rest ≠ 0 then (ctE rest : Int) else if ctN rest < rest.length then 1 else vfT key text (rest.take (ctN rest)) := rfl
set_option maxHeartbeats 4000000 in
set_option maxRecDepth 100000 in
theorem cnext_no (key b : List Nat) (kv bv : Value) (w : World) (hT : Roots w) (hk : Row .u8 256 w kv key) (hb : Row .u8 256 w bv b) (hbl : b.length ≤ 100000) (hne : nxE key b ≠ 0) :
    Calls Tryz.prog 33 #[kv, bv] w fun e w' => e = .returned (.tuple #[.slice none 0 0, .slice none 0 0, .int .i64 (nxE key b)]) ∧ Below w.heap.size w w' := by
  obtain ⟨R, hR⟩ : ∃ R, nxE key b = R := ⟨_, rfl⟩
  have hR0 := hR
  unfold nxE at hR0
  rw [hR] at hne ⊢
  by_cases hE : ctE b ≠ 0
  · rw [if_pos hE] at hR0
    have hct := ccut_no b bv w hb hE
    rw [hR0] at hct
    have hRb : (R == 0) = false := beq_eq_false_iff_ne.2 hne
    have hRn : (R != 0) = true := by simp [bne, hRb]
    clear hk hb hbl hE hR0 hR
    go_enter Tryz.func33, Tryz.ntmps33
    go_wp2_with (first
      | (go_at_call 34; refine hct.mono ?_; rintro e w1 ⟨rfl, g1⟩)
      | fail)
    go_ret3
    exact ⟨rfl, keep_trans g1 (keep_alloc _ _)⟩
  · rw [if_neg hE] at hR0
    have hct := ccut_ok b bv w hb (Decidable.not_not.1 hE) hbl
    obtain ⟨A, hA⟩ : ∃ A, (b.take (ctN b)).length = A := ⟨_, rfl⟩
    obtain ⟨D, hD⟩ : ∃ D, (b.drop (ctN b)).length = D := ⟨_, rfl⟩
    have hAl : A ≤ 100000 := by rw [← hA, List.length_take]; omega
    rw [hD] at hR0
    generalize ctH b = H at *
    generalize ctW b = W at *
    generalize b.take (ctN b) = S1 at *
    generalize b.drop (ctN b) = S2 at *
    by_cases hd : D < 56
    · rw [if_pos hd] at hR0
      have hd' : (D : Int) < 56 := by omega
      have HL := hide (And.intro hA hD)
      have HR := hide hR0
      clear hk hb hbl hE hR0 hR hA hD hAl hd
      go_enter Tryz.func33, Tryz.ntmps33
      go_wp2_with (first
        | (go_at_call 34; refine hct.mono ?_; rintro e w1 ⟨v1, v2, rfl, o1, o2, g1⟩; obtain ⟨a1, c1, rfl, _⟩ := o1.row.opens HL.out.1; obtain ⟨a2, c2, rfl, l21, _, _⟩ := o2.row.opens HL.out.2)
        | fail)
      go_ret3
      exact ⟨by rw [← HR.out]; rfl, keep_trans g1 (keep_alloc _ _)⟩
    · rw [if_neg hd] at hR0
      have hd' : ¬ ((D : Int) < 56) := by omega
      have hv := fun y (kv2 pv sv2 : Value) (h1 : Row .u8 256 y kv2 key) (h2 : Row .u8 256 y pv (S2.take 56)) (h3 : Row .u8 256 y sv2 S1) (t2 : Tidy pv) (hTy : Roots y) => cvfT_any key (S2.take 56) S1 kv2 pv sv2 y hTy h1 h2 t2 (by rw [List.length_take]; omega) h3 (by omega)
      rw [hR0] at hv
      have hRb : (R == 0) = false := beq_eq_false_iff_ne.2 hne
      have hRn : (R != 0) = true := by simp [bne, hRb]
      have HL := hide (And.intro hA (And.intro hD hd))
      obtain ⟨ka, kc, rfl, _⟩ := hk.opens rfl
      have HK := hide (And.intro hk hT)
      clear hk hb hbl hE hR0 hR hA hD hAl hd hT
      go_enter Tryz.func33, Tryz.ntmps33
      go_wp2_with (first
        | (go_at_call 34; refine hct.mono ?_; rintro e w1 ⟨v1, v2, rfl, o1, o2, g1⟩; obtain ⟨a1, c1, rfl, _⟩ := o1.row.opens HL.out.1; obtain ⟨a2, c2, rfl, l21, _, _⟩ := o2.row.opens HL.out.2.1; have k1 := keep_alloc w1 (.cells #[.int .i64 (H : Int), .int .i64 (W : Int)] 45); have h56c : (56 : Int) ≤ (c2 : Int) := by (have := HL.out.2.2; omega))
        | (go_at_call 35; refine (hv _ _ _ _ (HK.out.1.below (keep_trans g1 k1)) ((o2.row.below k1).cut (M := 56) (by have := HL.out.2; omega)) (o1.row.below k1) (row_tidyA (o2.row.cut (M := 56) (by have := HL.out.2; omega)) (by rw [List.length_take]; have := HL.out.2; omega)) (HK.out.2.below (keep_trans g1 k1))).mono ?_; rintro e w3 ⟨rfl, g3⟩)
        | fail)
      go_ret3
      exact ⟨rfl, keep_trans (keep_trans g1 k1) g3⟩
def nx10lt : List Lt := [(0, some 35, [11]), (0, some 36, [9]), (2, some 37, [36]), (1, some 4, [35]), (15, some 5, [37]), (31, some 6, [])]
theorem nx10reg : Reg (opsA (cLA (cRA (cRA (cRA (cRA (cRA (cRA (Tryz.f33.body.getD .skip))))))))) nx10lt := ⟨by kernel_rfl, by kernel_rfl⟩
set_option maxHeartbeats 4000000 in
set_option maxRecDepth 100000 in
theorem cnext_ok (key b : List Nat) (kv bv : Value) (w : World) (hT : Roots w) (hk : Row .u8 256 w kv key) (hb : Row .u8 256 w bv b) (hbl : b.length ≤ 100000) (hne : nxE key b = 0) :
    Calls Tryz.prog 33 #[kv, bv] w fun e w' => ∃ u v, e = .returned (.tuple #[u, v, .int .i64 0]) ∧ Row .u8 256 w' u ((b.drop (ctN b)).take 56) ∧ Row .u8 256 w' v ((b.drop (ctN b)).drop 56) ∧ Below w.heap.size w w' := by
  unfold nxE at hne
  have hE : ctE b = 0 := by
    by_cases h : ctE b = 0
    · exact h
    · rw [if_pos h] at hne; omega
  rw [if_neg (by simp [hE])] at hne
  have hd : ¬ (b.drop (ctN b)).length < 56 := fun h => by rw [if_pos h] at hne; exact absurd hne (by decide)
  rw [if_neg hd] at hne
  have hct := ccut_ok b bv w hb hE hbl
  obtain ⟨A, hA⟩ : ∃ A, (b.take (ctN b)).length = A := ⟨_, rfl⟩
  obtain ⟨D, hD⟩ : ∃ D, (b.drop (ctN b)).length = D := ⟨_, rfl⟩
  have hAl : A ≤ 100000 := by rw [← hA, List.length_take]; omega
  rw [hD] at hd
  generalize ctH b = H at *
  generalize ctW b = W at *
  generalize b.take (ctN b) = S1 at *
  generalize b.drop (ctN b) = S2 at *
  have hd' : ¬ ((D : Int) < 56) := by omega
  have hv := fun y (kv2 pv sv2 : Value) (h1 : Row .u8 256 y kv2 key) (h2 : Row .u8 256 y pv (S2.take 56)) (h3 : Row .u8 256 y sv2 S1) (t2 : Tidy pv) (hTy : Roots y) => cvfT_any key (S2.take 56) S1 kv2 pv sv2 y hTy h1 h2 t2 (by rw [List.length_take]; omega) h3 (by omega)
  rw [hne] at hv
  have HL := hide (And.intro hA (And.intro hD hd))
  obtain ⟨ka, kc, rfl, _⟩ := hk.opens rfl
  have HK := hide (And.intro hk hT)
  clear hk hb hbl hE hA hD hAl hd hT hne
  go_enter Tryz.func33, Tryz.ntmps33
  go_wp2_with (first
    | (go_at_call 34; refine hct.mono ?_; rintro e w1 ⟨v1, v2, rfl, o1, o2, g1⟩; obtain ⟨a1, c1, rfl, _⟩ := o1.row.opens HL.out.1; obtain ⟨a2, c2, rfl, l21, _, _⟩ := o2.row.opens HL.out.2.1; have k1 := keep_alloc w1 (.cells #[.int .i64 (H : Int), .int .i64 (W : Int)] 45); have h56c : (56 : Int) ≤ (c2 : Int) := by (have := HL.out.2.2; omega))
    | (go_at_call 35; refine (hv _ _ _ _ (HK.out.1.below (keep_trans g1 k1)) ((o2.row.below k1).cut (M := 56) (by have := HL.out.2; omega)) (o1.row.below k1) (row_tidyA (o2.row.cut (M := 56) (by have := HL.out.2; omega)) (by rw [List.length_take]; have := HL.out.2; omega)) (HK.out.2.below (keep_trans g1 k1))).mono ?_; rintro e w3 ⟨rfl, g3⟩)
    | fail)
  obtain ⟨hA, hD, hd⟩ := HL.out
  obtain ⟨A6, hsl6, hA6⟩ := slice_from a2 D c2 56 (by omega) l21
  have hsl56 : ∀ w, (Instr.slice 23 (.slice a2 D c2) (some (.int .i64 56)) none none).run Tryz.prog w = .ok (.slice A6 (D - 56) (c2 - 56)) w := hsl6
  clear hsl6
  have hbd : Below w3.heap.size w3 w3.drew := (Below.refl _ _).drew
  refine at_begin (ops := opsA (cLA (cRA (cRA (cRA (cRA (cRA (cRA (Tryz.f33.body.getD .skip))))))))) (n := 6) (fun y => Below w3.heap.size w3 y) (by kernel_rfl) (by kernel_rfl) ?_
  refine at_takeD (i := 0) (m' := 1) (d := some 35) (v := .slice a2 56 c2) nx10reg rfl (by decide) rfl rfl (y_moveG (wanted_free rfl) rfl rfl) hbd ?_
  simp only [Act.put, List.setIfInBounds_toArray, List.set_cons_zero, List.set_cons_succ]
  refine at_takeD (i := 1) (m' := 3) (d := some 36) (v := .slice a2 D c2) nx10reg rfl (by decide) rfl rfl (y_moveG (wanted_free rfl) rfl rfl) hbd ?_
  simp only [Act.put, List.setIfInBounds_toArray, List.set_cons_zero, List.set_cons_succ]
  refine at_takeD (i := 2) (m' := 7) (d := some 37) (v := .slice A6 (D - 56) (c2 - 56)) nx10reg rfl (by decide) rfl rfl (y_fromC (wanted_free rfl) rfl rfl rfl hsl56 ⟨_, _, _, rfl⟩) hbd ?_
  simp only [Act.put, List.setIfInBounds_toArray, List.set_cons_zero, List.set_cons_succ]
  refine at_takeD (i := 3) (m' := 15) (d := some 4) (v := .slice a2 56 c2) nx10reg rfl (by decide) rfl rfl (y_assignG (wanted_free rfl) rfl rfl) hbd ?_
  simp only [Act.put, List.setIfInBounds_toArray, List.set_cons_zero, List.set_cons_succ]
  refine at_takeD (i := 4) (m' := 31) (d := some 5) (v := .slice A6 (D - 56) (c2 - 56)) nx10reg rfl (by decide) rfl rfl (y_assignG (wanted_free rfl) rfl rfl) hbd ?_
  simp only [Act.put, List.setIfInBounds_toArray, List.set_cons_zero, List.set_cons_succ]
  refine at_takeD (i := 5) (m' := 63) (d := some 6) (v := .int .i64 0) nx10reg rfl (by decide) rfl rfl (y_assignG (wanted_free rfl) rfl rfl) hbd ?_
  simp only [Act.put, List.setIfInBounds_toArray, List.set_cons_zero, List.set_cons_succ]
  refine at_done nx10reg (by decide) ?_
  go_wp2
  go_ret3
  have r2 := ((o2.row.below k1).below g3).below hbd
  exact ⟨_, _, rfl, r2.cut (M := 56) (by omega), r2.behind (F := 56) (by omega) hA6, keep_trans (keep_trans (keep_trans g1 k1) g3) hbd⟩
/-- where Verify stands -/
def HvC (w : World) (text : List Nat) (n M : Nat) (R : Int) (vk vr vi : Value) (wr : World) : Prop := ∃ (i : Nat) (key rest : List Nat), vi = .int .u64 (i : Int) ∧ i < n ∧ Row .u8 256 wr vk key ∧ Row .u8 256 wr vr rest ∧ rest.length ≤ M ∧ hvL text (n - i) key rest = R ∧ Below w.heap.size w wr
def vr8lt : List Lt := [(0, some 38, [0]), (1, some 39, [38]), (0, some 40, [2]), (4, some 41, [40]), (3, some 8, [39]), (31, some 9, [41])]
theorem vr8reg : Reg (opsA (cLA (cRA (cRA (cRA (cRA (cRA (Tryz.f14.body.getD .skip)))))))) vr8lt := ⟨by kernel_rfl, by kernel_rfl⟩
set_option maxHeartbeats 8000000 in
set_option maxRecDepth 100000 in
theorem cvfH_any (pub text sig : List Nat) (pv tv sv : Value) (w : World) (hT : Roots w) (hp : Row .u8 256 w pv pub) (ht : Row .u8 256 w tv text) (tt : Tidy tv) (htl : text.length ≤ 10000) (hs : Row .u8 256 w sv sig) (hsgl : sig.length ≤ 100000) :
    Calls Tryz.prog 14 #[pv, tv, sv] w fun e w' => e = .returned (.int .i64 (vfH pub text sig)) ∧ Below w.heap.size w w' := by
  by_cases h60 : ¬ (pub.length = 60)
  · have he : vfH pub text sig = 10 := by unfold vfH; rw [if_pos (fun h => h60 h.1)]
    rw [he]
    obtain ⟨pa, pc, rfl, _⟩ := hp.opens rfl
    generalize pub.length = L at *
    have hi : ¬ (L : Int) = 60 := by omega
    have hb : ((L : Int) == 60) = false := beq_eq_false_iff_ne.2 hi
    have hn : ((L : Int) != 60) = true := by simp [bne, hb]
    clear hp he h60
    go_enter Tryz.func14, Tryz.ntmps14
    go_wp2
    go_ret
    exact ⟨rfl, Below.refl _ _⟩
  replace h60 := Decidable.not_not.1 h60
  have hp' := hp
  obtain ⟨pa, pc, rfl, lc1, lc2, ho⟩ := hp'.opens h60
  obtain ⟨bb, bo, rfl, _⟩ := ho (by decide)
  clear hp' ho
  have r4 : Row .u8 256 w (.slice (some ⟨bb, bo, none⟩) 4 pc) (pub.take 4) := hp.cut (by omega)
  have hn4 := num_any _ _ _ r4
  have h4c : (4 : Int) ≤ (pc : Int) := by omega
  have hnl := numL_lt (pub.take 4)
  obtain ⟨n, hne⟩ : ∃ n, numL (pub.take 4) = n := ⟨_, rfl⟩
  rw [hne] at hn4 hnl
  by_cases h18 : ¬ (1 ≤ n ∧ n ≤ 8)
  · have he : vfH pub text sig = 10 := by unfold vfH; rw [if_pos (fun h => h18 (by rw [← hne]; exact h.2))]
    rw [he]
    clear hp he r4 lc1 lc2
    by_cases h1 : n < 1
    · have h1' : (n : Int) < 1 := by omega
      clear h18 hne
      go_enter Tryz.func14, Tryz.ntmps14
      go_wp2_with (first
        | (go_at_call 32; refine hn4.mono ?_; rintro e yy ⟨rfl, hy⟩; obtain rfl := hy.symm)
        | fail)
      go_ret
      exact ⟨rfl, Below.refl _ _⟩
    · have h1' : ¬ ((n : Int) < 1) := by omega
      have h2' : (8 : Int) < (n : Int) := by omega
      have h2'' : (n : Int) > 8 := by omega
      clear h18 hne
      go_enter Tryz.func14, Tryz.ntmps14
      go_wp2_with (first
        | (go_at_call 32; refine hn4.mono ?_; rintro e yy ⟨rfl, hy⟩; obtain rfl := hy.symm)
        | fail)
      go_ret
      exact ⟨rfl, Below.refl _ _⟩
  replace h18 := Decidable.not_not.1 h18
  have h1' : ¬ ((n : Int) < 1) := by omega
  have h2' : ¬ ((8 : Int) < (n : Int)) := by omega
  have h2'' : ¬ ((n : Int) > 8) := by omega
  obtain ⟨n1, hn1⟩ : ∃ x : Nat, x = n - 1 := ⟨_, rfl⟩
  have e_n : (n : Int) - 1 = (n1 : Int) := by omega
  have s_n : IntKind.u64.wrap (n1 : Int) = (n1 : Int) := by rw [IntKind.wrap_u64]; omega
  obtain ⟨L, hL⟩ : ∃ L, sig.length = L := ⟨_, rfl⟩
  have hs' := hs
  obtain ⟨sa, sc, rfl, ls1, ls2, hso⟩ := hs'.opens hL
  clear hs'
  by_cases h4 : ¬ (4 ≤ L)
  · have he : vfH pub text sig = 1 := by unfold vfH; rw [if_neg (by rw [hne]; simp [h60, h18]), if_pos (fun h => by have := h.1; omega)]
    rw [he]
    have h4' : (L : Int) < 4 := by omega
    clear hp he r4 lc1 lc2 hs hso hL hn1
    go_enter Tryz.func14, Tryz.ntmps14
    go_wp2_with (first
      | (go_at_call 32; refine hn4.mono ?_; rintro e yy ⟨rfl, hy⟩; obtain rfl := hy.symm)
      | fail)
    go_ret
    exact ⟨rfl, Below.refl _ _⟩
  replace h4 := Decidable.not_not.1 h4
  have h4' : ¬ ((L : Int) < 4) := by omega
  obtain ⟨sb, so, rfl, _⟩ := hso (by omega)
  clear hso
  have s4 : Row .u8 256 w (.slice (some ⟨sb, so, none⟩) 4 sc) (sig.take 4) := hs.cut (by omega)
  have hm4 := num_any _ _ _ s4
  have h4s : (4 : Int) ≤ (sc : Int) := by omega
  obtain ⟨m, hme⟩ : ∃ m, numL (sig.take 4) = m := ⟨_, rfl⟩
  rw [hme] at hm4
  by_cases hmn : ¬ (m = n1)
  · have he : vfH pub text sig = 1 := by unfold vfH; rw [if_neg (by rw [hne]; simp [h60, h18]), if_pos (fun h => hmn (by have := h.2; rw [hme, hne] at this; omega))]
    rw [he]
    have hi : ¬ (m : Int) = (n1 : Int) := by omega
    have hb : ((m : Int) == (n1 : Int)) = false := beq_eq_false_iff_ne.2 hi
    have hn' : ((m : Int) != (n1 : Int)) = true := by simp [bne, hb]
    clear hp he r4 lc1 lc2 hs hL s4 hn1 hmn
    go_enter Tryz.func14, Tryz.ntmps14
    go_wp2_with (first
    | (go_at_call_of 32 (#[Value.slice (some ⟨sb, so, none⟩) 4 sc]); refine hm4.mono ?_; rintro e yy ⟨rfl, hy⟩; obtain rfl := hy.symm)
    | (go_at_call_of 32 (#[Value.slice (some ⟨bb, bo, none⟩) 4 pc]); refine hn4.mono ?_; rintro e yy ⟨rfl, hy⟩; obtain rfl := hy.symm)
    | fail)
    go_ret
    exact ⟨rfl, Below.refl _ _⟩
  replace hmn := Decidable.not_not.1 hmn
  subst hmn
  have he : vfH pub text sig = hvL text n (pub.drop 4) (sig.drop 4) := by unfold vfH; rw [if_neg (by rw [hne]; simp [h60, h18]), if_neg (by rw [hme, hne, hL]; simp [h4]; omega), hne]
  rw [he]
  obtain ⟨R, hR⟩ : ∃ R, hvL text n (pub.drop 4) (sig.drop 4) = R := ⟨_, rfl⟩
  rw [hR]
  obtain ⟨AP, hslP, hAP⟩ := slice_from (some ⟨bb, bo, none⟩) 60 pc 4 (by decide) lc1
  have hsl60 : ∀ w, (Instr.slice 23 (.slice (some ⟨bb, bo, none⟩) 60 pc) (some (.int .i64 4)) none none).run Tryz.prog w = .ok (.slice AP 56 (pc - 4)) w := hslP
  have rk : Row .u8 256 w (.slice AP 56 (pc - 4)) (pub.drop 4) := hp.behind (F := 4) (by omega) hAP
  obtain ⟨AS, hslS, hAS⟩ := slice_from (some ⟨sb, so, none⟩) L sc 4 h4 ls1
  have hsl4 : ∀ w, (Instr.slice 23 (.slice (some ⟨sb, so, none⟩) L sc) (some (.int .i64 4)) none none).run Tryz.prog w = .ok (.slice AS (L - 4) (sc - 4)) w := hslS
  have rr := hs.behind (F := 4) h4 hAS
  clear hslS hAS hslP hAP
  have h0 : HvC w text n 100000 R (.slice AP 56 (pc - 4)) (.slice AS (L - 4) (sc - 4)) (.int .u64 0) w.drew := ⟨0, _, _, rfl, by omega, rk.below ((Below.refl _ _).drew), rr.below ((Below.refl _ _).drew), by rw [List.length_drop]; omega, by rw [Nat.sub_zero]; exact hR, (Below.refl _ _).drew⟩
  have H0 := hide h0
  have HT := hide (And.intro ht (And.intro tt (And.intro htl (And.intro hT (And.intro hn1 h18)))))
  clear h0 rk rr hR he hp hs r4 s4 hn1 hL lc1 lc2 ls1 ls2 hne hme ht tt htl h60 hT hsgl
  go_enter Tryz.func14, Tryz.ntmps14
  go_wp2_with (first
    | (go_at_call_of 32 (#[Value.slice (some ⟨sb, so, none⟩) 4 sc]); refine hm4.mono ?_; rintro e yy ⟨rfl, hy⟩; obtain rfl := hy.symm)
    | (go_at_call_of 32 (#[Value.slice (some ⟨bb, bo, none⟩) 4 pc]); refine hn4.mono ?_; rintro e yy ⟨rfl, hy⟩; obtain rfl := hy.symm)
    | fail)
  have hbd : Below w.heap.size w w.drew := (Below.refl _ _).drew
  refine at_begin (ops := opsA (cLA (cRA (cRA (cRA (cRA (cRA (Tryz.f14.body.getD .skip)))))))) (n := 6) (fun y => Below w.heap.size w y) (by kernel_rfl) (by kernel_rfl) ?_
  refine at_takeD (i := 0) (m' := 1) (d := some 38) (v := .slice (some ⟨bb, bo, none⟩) 60 pc) vr8reg rfl (by decide) rfl rfl (y_moveG (wanted_free rfl) rfl rfl) hbd ?_
  simp only [Act.put, List.setIfInBounds_toArray, List.set_cons_zero, List.set_cons_succ]
  refine at_takeD (i := 1) (m' := 3) (d := some 39) (v := .slice AP 56 (pc - 4)) vr8reg rfl (by decide) rfl rfl (y_fromC (wanted_free rfl) rfl rfl rfl hsl60 ⟨_, _, _, rfl⟩) hbd ?_
  simp only [Act.put, List.setIfInBounds_toArray, List.set_cons_zero, List.set_cons_succ]
  refine at_takeD (i := 2) (m' := 7) (d := some 40) (v := .slice (some ⟨sb, so, none⟩) L sc) vr8reg rfl (by decide) rfl rfl (y_moveG (wanted_free rfl) rfl rfl) hbd ?_
  simp only [Act.put, List.setIfInBounds_toArray, List.set_cons_zero, List.set_cons_succ]
  refine at_takeD (i := 3) (m' := 15) (d := some 41) (v := .slice AS (L - 4) (sc - 4)) vr8reg rfl (by decide) rfl rfl (y_fromC (wanted_free rfl) rfl rfl rfl hsl4 ⟨_, _, _, rfl⟩) hbd ?_
  simp only [Act.put, List.setIfInBounds_toArray, List.set_cons_zero, List.set_cons_succ]
  refine at_takeD (i := 4) (m' := 31) (d := some 8) (v := .slice AP 56 (pc - 4)) vr8reg rfl (by decide) rfl rfl (y_assignG (wanted_free rfl) rfl rfl) hbd ?_
  simp only [Act.put, List.setIfInBounds_toArray, List.set_cons_zero, List.set_cons_succ]
  refine at_takeD (i := 5) (m' := 63) (d := some 9) (v := .slice AS (L - 4) (sc - 4)) vr8reg rfl (by decide) rfl rfl (y_assignG (wanted_free rfl) rfl rfl) hbd ?_
  simp only [Act.put, List.setIfInBounds_toArray, List.set_cons_zero, List.set_cons_succ]
  refine at_done vr8reg (by decide) ?_
  generalize w.drew = wd at *
  go_wp2
  go_loopw [8, 9, 44] (fun vk vr vi wr => HvC w text n 100000 R vk vr vi wr) (fun _ _ vi _ => n - (intOf vi).toNat)
  case atStart => exact H0.out
  case round =>
    obtain ⟨i, key, rest, rfl, hi, rk, rr, hrl, hR, hbr⟩ := hrel
    obtain ⟨ht, tt, htl, hT, hn1, h18⟩ := HT.out
    clear H0
    obtain ⟨ka, kc, rfl, _⟩ := rk.opens rfl
    obtain ⟨ra, rc, rfl, _⟩ := rr.opens rfl
    by_cases hlt : i < m
    · have hlt' : (i : Int) < (m : Int) := by omega
      obtain ⟨r, hr⟩ : ∃ r, n - i = r + 1 := ⟨n - i - 1, by omega⟩
      rw [hr, hv_next text (by omega)] at hR
      by_cases hx : nxE key rest = 0
      · rw [if_neg (by simp [hx])] at hR
        have hnx := cnext_ok key rest _ _ wr (hT.below hbr) rk rr hrl hx
        obtain ⟨Q, hQ⟩ : ∃ Q : Nat, i + 1 = Q := ⟨_, rfl⟩
        have e_Q : (i : Int) + 1 = (Q : Int) := by omega
        have s_Q : IntKind.u64.wrap (Q : Int) = (Q : Int) := by rw [IntKind.wrap_u64]; omega
        have hrl2 : ((rest.drop (ctN rest)).drop 56).length ≤ 100000 := by rw [List.length_drop, List.length_drop]; omega
        generalize (rest.drop (ctN rest)).take 56 = S1 at *
        generalize (rest.drop (ctN rest)).drop 56 = S2 at *
        have HR := hide (And.intro hR (And.intro hQ (And.intro hr (And.intro hlt (And.intro hbr hrl2)))))
        clear hR hQ hr hlt hbr hrl2 hn1 ht tt htl hT h18 rk rr hrl hx hi
        go_wp2_with (first
          | (go_at_call 33; refine hnx.mono ?_; rintro e w1 ⟨u, v, rfl, r1, r2, g1⟩; obtain ⟨a1, c1, rfl, _⟩ := r1.opens rfl; obtain ⟨a2, c2, rfl, _⟩ := r2.opens rfl)
          | fail)
        obtain ⟨hR, hQ, hr, hlt, hbr, hrl2⟩ := HR.out
        refine ⟨⟨Q, S1, S2, rfl, by omega, r1, r2, hrl2, by rw [show n - Q = r by omega]; exact hR, keep_trans hbr g1⟩, by simp [intOf]; omega⟩
      · rw [if_pos hx] at hR
        have hnx := cnext_no key rest _ _ wr (hT.below hbr) rk rr hrl hx
        rw [hR] at hnx hx
        have hRb : (R == 0) = false := beq_eq_false_iff_ne.2 hx
        have hRn : (R != 0) = true := by simp [bne, hRb]
        have HB := hide hbr
        clear hR hr hlt hbr hn1 ht tt htl hT h18 rk rr hrl hi
        go_wp2_with (first
          | (go_at_call 33; refine hnx.mono ?_; rintro e w1 ⟨rfl, g1⟩)
          | fail)
        go_ret
        exact ⟨rfl, keep_trans HB.out g1⟩
    · obtain rfl : i = m := by omega
      have hge : ¬ ((i : Int) < (i : Int)) := by omega
      rw [show n - i = 1 by omega, hv_one] at hR
      by_cases hE : ctE rest ≠ 0
      · rw [if_pos hE] at hR
        have hct := ccut_no rest _ wr rr hE
        rw [hR] at hct
        have hR0 : R ≠ 0 := by omega
        have hRb : (R == 0) = false := beq_eq_false_iff_ne.2 hR0
        have hRn : (R != 0) = true := by simp [bne, hRb]
        have HB := hide hbr
        clear hR hbr hn1 ht tt htl hT h18 rk rr hrl hi hE
        go_wp2_with (first
          | (go_at_call 34; refine hct.mono ?_; rintro e w1 ⟨rfl, g1⟩)
          | fail)
        go_ret
        exact ⟨rfl, keep_trans (keep_trans HB.out g1) (keep_alloc _ _)⟩
      · rw [if_neg hE] at hR
        have hct := ccut_ok rest _ wr rr (Decidable.not_not.1 hE) hrl
        obtain ⟨A, hA⟩ : ∃ A, (rest.take (ctN rest)).length = A := ⟨_, rfl⟩
        obtain ⟨D, hD⟩ : ∃ D, (rest.drop (ctN rest)).length = D := ⟨_, rfl⟩
        have hDl : ctN rest < rest.length ↔ 0 < D := by rw [← hD, List.length_drop]; omega
        have hAl : A ≤ 100000 := by rw [← hA, List.length_take]; omega
        generalize ctH rest = H at *
        generalize ctW rest = W at *
        generalize rest.take (ctN rest) = S1 at *
        generalize rest.drop (ctN rest) = S2 at *
        by_cases hd : 0 < D
        · rw [if_pos (hDl.2 hd)] at hR
          have hd' : (0 : Int) < (D : Int) := by omega
          have hd'' : (D : Int) > 0 := by omega
          have HL := hide (And.intro hA (And.intro hD hR))
          have HB := hide hbr
          clear hR hbr hn1 ht tt htl hT h18 rk rr hrl hi hE hA hD hDl hAl hd
          go_wp2_with (first
            | (go_at_call 34; refine hct.mono ?_; rintro e w1 ⟨v1, v2, rfl, o1, o2, g1⟩; obtain ⟨a1, c1, rfl, _⟩ := o1.row.opens HL.out.1; obtain ⟨a2, c2, rfl, l21, _, _⟩ := o2.row.opens HL.out.2.1)
            | fail)
          go_ret
          exact ⟨by rw [← HL.out.2.2]; rfl, keep_trans (keep_trans HB.out g1) (keep_alloc _ _)⟩
        · rw [if_neg (fun h => hd (hDl.1 h))] at hR
          obtain rfl : D = 0 := by omega
          have hv := fun y (kv2 sv2 : Value) (h1 : Row .u8 256 y kv2 key) (h2 : Row .u8 256 y tv text) (h3 : Row .u8 256 y sv2 S1) (hTy : Roots y) => cvfT_any key text S1 kv2 tv sv2 y hTy h1 h2 tt htl h3 (by omega)
          rw [hR] at hv
          obtain ⟨ta, tc, rfl, _⟩ := ht.opens rfl
          have HL := hide (And.intro hA (And.intro hD (And.intro rk (And.intro ht hT))))
          have HB := hide hbr
          clear hR hbr hn1 ht tt htl hT h18 rk rr hrl hi hE hA hD hDl hAl hd
          go_wp2_with (first
            | (go_at_call 34; refine hct.mono ?_; rintro e w1 ⟨v1, v2, rfl, o1, o2, g1⟩; obtain ⟨a1, c1, rfl, _⟩ := o1.row.opens HL.out.1; obtain ⟨a2, c2, rfl, l21, _, _⟩ := o2.row.opens HL.out.2.1; have k1 := keep_alloc w1 (.cells #[.int .i64 (H : Int), .int .i64 (W : Int)] 45))
            | (go_at_call 35; refine (hv _ _ _ (HL.out.2.2.1.below (keep_trans g1 k1)) (HL.out.2.2.2.1.below (keep_trans HB.out (keep_trans g1 k1))) (o1.row.below k1) (HL.out.2.2.2.2.below (keep_trans HB.out (keep_trans g1 k1)))).mono ?_; rintro e w3 ⟨rfl, g3⟩)
            | fail)
          go_ret
          exact ⟨rfl, keep_trans (keep_trans HB.out (keep_trans g1 k1)) g3⟩
end Go.Proofs.YtogiballdmgcpaaGreatDoor
