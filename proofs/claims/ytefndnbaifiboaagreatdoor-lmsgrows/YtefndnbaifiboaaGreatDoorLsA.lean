/- Trees of leaves that sign once, the program's own: typecodes, Fit, Size, where a signature's parts lie. -/
import Derived.Test.YtefndnbaifiboaaGreatDoorApO
import Derived.Test.YtefndnbaifiboaaGreatDoorLcD
import Derived.Test.YtefndnbaifiboaaGreatDoorLtM
namespace Go.Proofs.YtefndnbaifiboaaGreatDoor
open Go.RowKit
set_option linter.unusedVariables false
set_option linter.unusedSimpArgs false

set_option maxHeartbeats 4000000 in
set_option maxRecDepth 100000 in
theorem chc_any (h : Int) (w : World) : Calls Tryz.prog 32 #[.int .i64 h] w fun e w' => e = .returned (.int .u64 (lmCode h : Nat)) ∧ w' = w := by
  by_cases h1 : 1 ≤ h
  · by_cases h4 : h ≤ 4
    · obtain ⟨n, rfl⟩ : ∃ n : Nat, h = (n : Int) := ⟨h.toNat, by omega⟩
      obtain ⟨C, hC⟩ : ∃ C : Nat, C = 3758096384 + n := ⟨_, rfl⟩
      have e0 : lmCode (n : Int) = C := by unfold lmCode; rw [if_pos ⟨h1, h4⟩, hC]; rfl
      rw [e0]
      have u_n : IntKind.u64.wrap (n : Int) = (n : Int) := by rw [IntKind.wrap_u64]; omega
      have e_C : (3758096384 : Int) + (n : Int) = (C : Int) := by omega
      have u_C : IntKind.u64.wrap (C : Int) = (C : Int) := by rw [IntKind.wrap_u64]; omega
      clear hC e0
      go_enter Tryz.func32, Tryz.ntmps32
      go_wp2
      go_ret
      exact ⟨rfl, rfl⟩
    · have h5 : 5 ≤ h := by omega
      by_cases h25 : h ≤ 25
      · by_cases hm : h % 5 = 0
        · have hk : h = 5 ∨ h = 10 ∨ h = 15 ∨ h = 20 ∨ h = 25 := by omega
          clear h1 h4 h5 h25 hm
          rcases hk with hk | hk | hk | hk | hk <;> subst hk
          all_goals
            go_enter Tryz.func32, Tryz.ntmps32
            go_wp2
            go_ret
            exact ⟨rfl, rfl⟩
        · have e0 : lmCode h = 0 := by unfold lmCode; rw [if_neg (by omega), if_neg (by omega)]
          rw [e0]
          have hb : (h % 5 == 0) = false := by simp [hm]
          have ht : ¬ h.tmod 5 = 0 := by rw [Int.tmod_eq_emod_of_nonneg (by omega)]; exact hm
          clear e0
          go_enter Tryz.func32, Tryz.ntmps32
          go_wp2
          go_ret
          exact ⟨rfl, rfl⟩
      · have e0 : lmCode h = 0 := by unfold lmCode; rw [if_neg (by omega), if_neg (by omega)]
        rw [e0]
        clear e0
        go_enter Tryz.func32, Tryz.ntmps32
        go_wp2
        go_ret
        exact ⟨rfl, rfl⟩
  · have e0 : lmCode h = 0 := by unfold lmCode; rw [if_neg (by omega), if_neg (by omega)]
    rw [e0]
    have h5 : ¬ 5 ≤ h := by omega
    clear e0
    go_enter Tryz.func32, Tryz.ntmps32
    go_wp2
    go_ret
    exact ⟨rfl, rfl⟩
theorem chc_b (h : Int) (w : World) : Calls Tryz.prog 32 #[.int .i64 h] w fun e w' => e = .returned (.int .u64 (lmCode h : Nat)) ∧ Below w.heap.size w w' :=
  (chc_any h w).mono fun e w' k => ⟨k.1, by rw [k.2]; exact Below.refl _ _⟩
/-- a leaf's typecode by its width -/
def wdC (x : Int) : Nat := if x = 1 then 1 else if x = 2 then 2 else if x = 4 then 3 else if x = 8 then 4 else 0
theorem wdC_nat (k : Nat) : wdC (k : Int) = kdC k := by
  unfold wdC kdC
  by_cases h1 : k = 1
  · subst h1; rfl
  by_cases h2 : k = 2
  · subst h2; rfl
  by_cases h4 : k = 4
  · subst h4; rfl
  by_cases h8 : k = 8
  · subst h8; rfl
  rw [if_neg (by omega), if_neg (by omega), if_neg (by omega), if_neg (by omega), if_neg h1, if_neg h2, if_neg h4, if_neg h8]
theorem wdC_sz (x : Int) : wdC x = 0 ↔ szW x = 0 := by
  unfold wdC szW
  repeat' split
  all_goals simp
theorem wdC_kd {k n m s c : Nat} (h : Kd k n m s c) : wdC (k : Int) = c := by cases h <;> rfl
theorem wdC_lt (x : Int) : wdC x ≤ 4 := by
  unfold wdC
  repeat' split
  all_goals omega
set_option maxHeartbeats 4000000 in
set_option maxRecDepth 100000 in
theorem cwc_any (x : Int) (w : World) : Calls Tryz.prog 37 #[.int .i64 x] w fun e w' => e = .returned (.int .u64 (wdC x : Nat)) ∧ w' = w := by
  by_cases h1 : x = 1
  · subst h1
    go_enter Tryz.func37, Tryz.ntmps37
    go_wp2
    go_ret
    exact ⟨rfl, rfl⟩
  by_cases h2 : x = 2
  · subst h2
    go_enter Tryz.func37, Tryz.ntmps37
    go_wp2
    go_ret
    exact ⟨rfl, rfl⟩
  by_cases h4 : x = 4
  · subst h4
    go_enter Tryz.func37, Tryz.ntmps37
    go_wp2
    go_ret
    exact ⟨rfl, rfl⟩
  by_cases h8 : x = 8
  · subst h8
    go_enter Tryz.func37, Tryz.ntmps37
    go_wp2
    go_ret
    exact ⟨rfl, rfl⟩
  have e0 : wdC x = 0 := by unfold wdC; rw [if_neg h1, if_neg h2, if_neg h4, if_neg h8]
  rw [e0]
  go_enter Tryz.func37, Tryz.ntmps37
  go_wp2
  go_ret
  exact ⟨rfl, rfl⟩
theorem cwc_b (x : Int) (w : World) : Calls Tryz.prog 37 #[.int .i64 x] w fun e w' => e = .returned (.int .u64 (wdC x : Nat)) ∧ Below w.heap.size w w' :=
  (cwc_any x w).mono fun e w' k => ⟨k.1, by rw [k.2]; exact Below.refl _ _⟩
set_option maxHeartbeats 4000000 in
set_option maxRecDepth 100000 in
theorem cfitT_any (h x : Int) (w : World) : Calls Tryz.prog 12 #[.agg #[.int .i64 h, .int .i64 x]] w fun e w' => e = .returned (.bool (decide (FitL h x))) ∧ Below w.heap.size w w' := by
  have hc := fun y => chc_any h y
  have hs := fun y => cwc_any x y
  by_cases h1 : lmCode h = 0
  · have hd : decide (FitL h x) = false := decide_eq_false fun hh => hh.1 h1
    rw [hd]
    rw [h1] at hc
    clear hd h1
    go_enter Tryz.func12, Tryz.ntmps12
    go_wp2_with (first | (go_at_call 32; refine (hc _).mono ?_; rintro e yy ⟨rfl, hy⟩; obtain rfl := hy.symm) | fail)
    go_ret
    exact ⟨rfl, keep_alloc _ _⟩
  · obtain ⟨C, hC⟩ : ∃ C, C = lmCode h := ⟨_, rfl⟩
    obtain ⟨Z, hZ⟩ : ∃ Z, Z = wdC x := ⟨_, rfl⟩
    have hCb : ((C : Int) != 0) = true := by have : C ≠ 0 := by rw [hC]; exact h1
                                             simp [this]
    have hd : decide (FitL h x) = ((Z : Int) != 0) := by
      by_cases hz : Z = 0
      · rw [decide_eq_false (fun hh => hh.2 ((wdC_sz x).1 (by rw [← hZ]; exact hz)))]; simp [hz]
      · rw [decide_eq_true ⟨h1, fun e => hz (by rw [hZ]; exact (wdC_sz x).2 e)⟩]; simp [hz]
    rw [hd]
    rw [← hC] at hc
    rw [← hZ] at hs
    clear hd h1 hC hZ
    go_enter Tryz.func12, Tryz.ntmps12
    go_wp2_with (first
      | (go_at_call 32; refine (hc _).mono ?_; rintro e yy ⟨rfl, hy⟩; obtain rfl := hy.symm)
      | (go_at_call 37; refine (hs _).mono ?_; rintro e yy ⟨rfl, hy⟩; obtain rfl := hy.symm)
      | fail)
    go_ret
    exact ⟨rfl, keep_alloc _ _⟩
theorem csizeW (x : Int) (w : World) : Calls Tryz.prog 79 #[.int .i64 x] w fun e w' => e = .returned (.int .i64 (szW x : Nat)) ∧ Below w.heap.size w w' := by
  rcases kd_or x with h | ⟨k, n, m, s, c, rfl, h⟩
  · have e0 : szW x = 0 := by
      obtain ⟨h1, h2, h4, h8⟩ := h
      unfold szW
      rw [if_neg h1, if_neg h2, if_neg h4, if_neg h8]
    rw [e0]
    exact csize_no x w h
  · have e0 : szW (k : Int) = 36 + 32 * (n + m) := by cases h <;> rfl
    rw [e0]
    exact csize_ok h rfl w
theorem szW_le (x : Int) : szW x ≤ 8516 := by
  unfold szW; repeat' split
  all_goals omega
set_option maxHeartbeats 2000000 in
set_option maxRecDepth 100000 in
theorem ccodeAt (x : Int) (w : World) : Calls Tryz.prog 47 #[.int .i64 x] w fun e w' => e = .returned (.int .i64 ((4 + szW x : Nat) : Int)) ∧ Below w.heap.size w w' := by
  have hs := fun y => csizeW x y
  have hl := szW_le x
  obtain ⟨Z, hZ⟩ : ∃ Z, Z = szW x := ⟨_, rfl⟩
  rw [← hZ] at hs hl ⊢
  obtain ⟨A, hA⟩ : ∃ A : Nat, A = 4 + Z := ⟨_, rfl⟩
  have e_A : (4 : Int) + (Z : Int) = (A : Int) := by omega
  have s_A : IntKind.i64.wrap (A : Int) = (A : Int) := by rw [IntKind.wrap_i64]; omega
  rw [← hA]
  clear hZ hA hl
  go_enter Tryz.func47, Tryz.ntmps47
  go_wp2_with (first | (go_at_call 79; refine (hs _).mono ?_; rintro e w1 ⟨rfl, hb1⟩) | fail)
  go_ret
  exact ⟨rfl, hb1⟩
set_option maxHeartbeats 2000000 in
set_option maxRecDepth 100000 in
theorem cbesideAt (x : Int) (w : World) : Calls Tryz.prog 39 #[.int .i64 x] w fun e w' => e = .returned (.int .i64 ((8 + szW x : Nat) : Int)) ∧ Below w.heap.size w w' := by
  have hs := fun y => ccodeAt x y
  have hl := szW_le x
  obtain ⟨Z, hZ⟩ : ∃ Z, Z = 4 + szW x := ⟨_, rfl⟩
  rw [← hZ] at hs
  obtain ⟨A, hA⟩ : ∃ A : Nat, A = 8 + szW x := ⟨_, rfl⟩
  have e_A : (Z : Int) + (4 : Int) = (A : Int) := by omega
  have s_A : IntKind.i64.wrap (A : Int) = (A : Int) := by rw [IntKind.wrap_i64]; omega
  rw [← hA]
  clear hZ hA hl
  go_enter Tryz.func39, Tryz.ntmps39
  go_wp2_with (first | (go_at_call 47; refine (hs _).mono ?_; rintro e w1 ⟨rfl, hb1⟩) | fail)
  go_ret
  exact ⟨rfl, hb1⟩
def sz3lt : List Lt := [(0, some 6, [1]), (1, some 7, [6]), (2, some 8, [7]), (0, some 9, [1]), (8, some 10, [9]), (16, some 11, [10]), (36, some 12, [8, 11]), (127, some 2, [12])]
theorem sz3reg : Reg (opsA (cLA (cRA (cRA (Tryz.f14.body.getD .skip))))) sz3lt := ⟨by kernel_rfl, by kernel_rfl⟩
set_option maxHeartbeats 4000000 in
set_option maxRecDepth 100000 in
theorem csizeT_any (h x : Int) (w : World) : Calls Tryz.prog 14 #[.agg #[.int .i64 h, .int .i64 x]] w fun e w' => e = .returned (.int .i64 (szT h x : Nat)) ∧ Below w.heap.size w w' := by
  have hf := fun y => cfitT_any h x y
  have hs := fun y => cbesideAt x y
  by_cases hh : FitL h x
  · have hp := hh.pos
    rw [decide_eq_true hh] at hf
    obtain ⟨n, rfl⟩ : ∃ n : Nat, h = (n : Int) := ⟨h.toNat, by omega⟩
    have e0 : szT (n : Int) x = (8 + szW x) + 32 * n := by unfold szT; rw [if_pos hh]; show 8 + 32 * n + szW x = _; omega
    rw [e0]
    obtain ⟨Z, hZ⟩ : ∃ Z, Z = 8 + szW x := ⟨_, rfl⟩
    rw [← hZ] at hs ⊢
    obtain ⟨A, hA⟩ : ∃ A : Nat, A = 32 * n := ⟨_, rfl⟩
    obtain ⟨B, hB⟩ : ∃ B : Nat, B = Z + A := ⟨_, rfl⟩
    have e_A : IntKind.i64.wrap ((n : Int) * 32) = (A : Int) := by rw [IntKind.wrap_i64]; omega
    have e_B : IntKind.i64.wrap ((Z : Int) + (A : Int)) = (B : Int) := by rw [IntKind.wrap_i64]; omega
    rw [← hA, ← hB]
    clear e0 hh hp hZ hA hB
    have bN := Bx2T.new w (.int .i64 (n : Int)) (.int .i64 x)
    go_enter Tryz.func14, Tryz.ntmps14
    go_wp2_with (first
      | (go_at_call 12; refine (hf _).mono ?_; rintro e w1 ⟨rfl, hb1⟩; have b1 := bN.below hb1)
      | fail)
    have hbd : Below w1.heap.size w1 w1.drew := (Below.refl _ _).drew
    refine at_begin (ops := opsA (cLA (cRA (cRA (Tryz.f14.body.getD .skip))))) (n := 8) (fun y => Below w1.heap.size w1 y) (by kernel_rfl) (by kernel_rfl) ?_
    refine at_takeD (i := 0) (m' := 1) (d := some 6) (v := .pointer (some ⟨w.heap.size, 1, none⟩)) sz3reg rfl (by decide) rfl rfl (y_fieldG (wanted_free rfl) rfl rfl (fun w => by simp [go_sem])) hbd ?_
    simp only [Act.put, List.setIfInBounds_toArray, List.set_cons_zero, List.set_cons_succ]
    refine at_takeD (i := 1) (m' := 3) (d := some 7) (v := .int .i64 x) sz3reg rfl (by decide) rfl rfl (y_plainG (wanted_free rfl) rfl rfl Tryz.underlying3 rfl (fun _ h => (b1.below h).c1)) hbd ?_
    simp only [Act.put, List.setIfInBounds_toArray, List.set_cons_zero, List.set_cons_succ]
    refine at_takeD (i := 3) (m' := 11) (d := some 9) (v := .pointer (some ⟨w.heap.size, 0, none⟩)) sz3reg rfl (by decide) rfl rfl (y_fieldG (wanted_free rfl) rfl rfl (fun w => by simp [go_sem])) hbd ?_
    simp only [Act.put, List.setIfInBounds_toArray, List.set_cons_zero, List.set_cons_succ]
    refine at_takeD (i := 4) (m' := 27) (d := some 10) (v := .int .i64 (n : Int)) sz3reg rfl (by decide) rfl rfl (y_plainG (wanted_free rfl) rfl rfl Tryz.underlying3 rfl (fun _ h => (b1.below h).c0)) hbd ?_
    simp only [Act.put, List.setIfInBounds_toArray, List.set_cons_zero, List.set_cons_succ]
    refine at_takeD (i := 5) (m' := 59) (d := some 11) (v := .int .i64 (A : Int)) sz3reg rfl (by decide) rfl rfl (y_mulI (wanted_free rfl) rfl rfl rfl Tryz.underlying3 e_A) hbd ?_
    simp only [Act.put, List.setIfInBounds_toArray, List.set_cons_zero, List.set_cons_succ]
    refine at_one (i := 2) (m' := 63) sz3reg (by decide) rfl ?_
    refine p_callG (args := #[.int .i64 x]) (d := some 8) rfl (wanted_free rfl) rfl (by simp only [List.map_toArray, List.map_cons, List.map_nil]; rfl) rfl Tryz.call39 ((hs w1.drew).mono ?_)
    rintro e y6 ⟨rfl, g6⟩
    have hb6 := keep_trans hbd g6
    refine ⟨_, rfl, hb6, ?_⟩
    simp only [Act.put, List.setIfInBounds_toArray, List.set_cons_zero, List.set_cons_succ]
    refine at_takeD (i := 6) (m' := 127) (d := some 12) (v := .int .i64 (B : Int)) sz3reg rfl (by decide) rfl rfl (y_addI (wanted_free rfl) rfl rfl rfl Tryz.underlying3 e_B) hb6 ?_
    simp only [Act.put, List.setIfInBounds_toArray, List.set_cons_zero, List.set_cons_succ]
    refine at_takeD (i := 7) (m' := 255) (d := some 2) (v := .int .i64 (B : Int)) sz3reg rfl (by decide) rfl rfl (y_assignG (wanted_free rfl) rfl rfl) hb6 ?_
    simp only [Act.put, List.setIfInBounds_toArray, List.set_cons_zero, List.set_cons_succ]
    refine at_done sz3reg (by decide) ?_
    go_wp2
    go_ret
    exact ⟨rfl, keep_trans (keep_trans (keep_alloc _ _) hb1) hb6⟩
  · rw [decide_eq_false hh] at hf
    have e0 : szT h x = 0 := if_neg hh
    rw [e0]
    clear e0 hh
    go_enter Tryz.func14, Tryz.ntmps14
    go_wp2_with (first | (go_at_call 12; refine (hf _).mono ?_; rintro e w1 ⟨rfl, hb1⟩) | fail)
    go_ret
    exact ⟨rfl, keep_trans (keep_alloc _ _) hb1⟩
def co1lt : List Lt := [(0, some 3, [1]), (1, some 4, [3]), (2, some 5, [4]), (4, some 6, [5]), (0, some 7, [1]), (16, some 8, [7]), (40, some 9, [8]), (64, some 10, [9]), (136, some 11, [6, 10]), (384, some 12, [11]), (1023, some 2, [12])]
theorem co1reg : Reg (opsA (cLA (cRA (Tryz.f24.body.getD .skip)))) co1lt := ⟨by kernel_rfl, by kernel_rfl⟩
set_option maxHeartbeats 4000000 in
set_option maxRecDepth 100000 in
theorem ccodes_any (h x : Int) (w : World) : Calls Tryz.prog 24 #[.agg #[.int .i64 h, .int .i64 x]] w fun e w' => ∃ v, e = .returned v ∧ Own 5 .u8 256 w' w.heap.size v (be4 (lmCode h) ++ be4 (wdC x)) ∧ Below w.heap.size w w' := by
  have hh := fun y => chc_b h y
  have hw := fun y => cwc_b x y
  have hcl := lmCode_32 h
  have hwl := wdC_lt x
  obtain ⟨C, hC⟩ : ∃ C, C = lmCode h := ⟨_, rfl⟩
  obtain ⟨D, hD⟩ : ∃ D, D = wdC x := ⟨_, rfl⟩
  rw [← hC] at hh hcl ⊢
  rw [← hD] at hw hwl ⊢
  have h4 := fun y => cbe4 C y (by omega)
  have h5 := fun y => cbe4 D y (by omega)
  have hj := fun y v (r : Rows2 y v [be4 C, be4 D]) => join_any v _ y r (by simp [be4_len])
  have hfl : [be4 C, be4 D].flatten = be4 C ++ be4 D := by simp
  rw [hfl] at hj
  obtain ⟨i0, hi0, hz0, hz1, hz2⟩ := info_text
  have bN := Bx2T.new w (.int .i64 h) (.int .i64 x)
  have k0 := keep_alloc w (.cells #[.int .i64 h, .int .i64 x] 23)
  clear hC hD hcl hwl hfl
  go_enter Tryz.func24, Tryz.ntmps24
  go_wp2
  generalize hW0 : w.alloc (.cells #[.int .i64 h, .int .i64 x] 23) = W0 at *
  have hbd : Below W0.heap.size W0 W0.drew := (Below.refl _ _).drew
  refine at_begin (ops := opsA (cLA (cRA (Tryz.f24.body.getD .skip)))) (n := 11) (fun y => Below W0.heap.size W0 y) (by kernel_rfl) (by kernel_rfl) ?_
  refine at_takeD (i := 0) (m' := 1) (d := some 3) (v := .pointer (some ⟨w.heap.size, 0, none⟩)) co1reg rfl (by decide) rfl rfl (y_fieldG (wanted_free rfl) rfl rfl (fun w => by simp [go_sem])) hbd ?_
  simp only [Act.put, List.setIfInBounds_toArray, List.set_cons_zero, List.set_cons_succ]
  refine at_takeD (i := 1) (m' := 3) (d := some 4) (v := .int .i64 h) co1reg rfl (by decide) rfl rfl (y_plainG (wanted_free rfl) rfl rfl Tryz.underlying3 rfl (fun _ h => (bN.below h).c0)) hbd ?_
  simp only [Act.put, List.setIfInBounds_toArray, List.set_cons_zero, List.set_cons_succ]
  refine at_takeD (i := 4) (m' := 19) (d := some 7) (v := .pointer (some ⟨w.heap.size, 1, none⟩)) co1reg rfl (by decide) rfl rfl (y_fieldG (wanted_free rfl) rfl rfl (fun w => by simp [go_sem])) hbd ?_
  simp only [Act.put, List.setIfInBounds_toArray, List.set_cons_zero, List.set_cons_succ]
  refine at_takeD (i := 5) (m' := 51) (d := some 8) (v := .int .i64 x) co1reg rfl (by decide) rfl rfl (y_plainG (wanted_free rfl) rfl rfl Tryz.underlying3 rfl (fun _ h => (bN.below h).c1)) hbd ?_
  simp only [Act.put, List.setIfInBounds_toArray, List.set_cons_zero, List.set_cons_succ]
  refine at_one (i := 2) (m' := 55) co1reg (by decide) rfl ?_
  refine p_callG (args := #[.int .i64 h]) (d := some 5) rfl (wanted_free rfl) rfl (by simp only [List.map_toArray, List.map_cons, List.map_nil]; rfl) rfl Tryz.call32 ((hh W0.drew).mono ?_)
  rintro e y5 ⟨rfl, g5⟩
  have gm := g5
  have hb5 := keep_trans hbd g5
  refine ⟨_, rfl, hb5, ?_⟩
  simp only [Act.put, List.setIfInBounds_toArray, List.set_cons_zero, List.set_cons_succ]
  refine at_one (i := 3) (m' := 63) co1reg (by decide) rfl ?_
  refine p_callG (args := #[.int .u64 (C : Int), .int .i64 4]) (d := some 6) rfl (wanted_free rfl) rfl (by simp only [List.map_toArray, List.map_cons, List.map_nil]; rfl) rfl Tryz.call31 ((h4 y5).mono ?_)
  rintro e y6 ⟨bv, rfl, ob, g6⟩
  obtain ⟨ba, bc, rfl, _⟩ := ob.row.opens (be4_len C)
  have hb6 := keep_trans hb5 g6
  refine ⟨_, rfl, hb6, ?_⟩
  simp only [Act.put, List.setIfInBounds_toArray, List.set_cons_zero, List.set_cons_succ]
  refine at_one (i := 6) (m' := 127) co1reg (by decide) rfl ?_
  refine p_callG (args := #[.int .i64 x]) (d := some 9) rfl (wanted_free rfl) rfl (by simp only [List.map_toArray, List.map_cons, List.map_nil]; rfl) rfl Tryz.call37 ((hw y6).mono ?_)
  rintro e y7 ⟨rfl, g7⟩
  have gm := g7
  have hb7 := keep_trans hb6 g7
  refine ⟨_, rfl, hb7, ?_⟩
  simp only [Act.put, List.setIfInBounds_toArray, List.set_cons_zero, List.set_cons_succ]
  refine at_one (i := 7) (m' := 255) co1reg (by decide) rfl ?_
  refine p_callG (args := #[.int .u64 (D : Int), .int .i64 4]) (d := some 10) rfl (wanted_free rfl) rfl (by simp only [List.map_toArray, List.map_cons, List.map_nil]; rfl) rfl Tryz.call31 ((h5 y7).mono ?_)
  rintro e y8 ⟨dv, rfl, od, g8⟩
  have gd := g8
  obtain ⟨da, dc, rfl, _⟩ := od.row.opens (be4_len D)
  have hb8 := keep_trans hb7 g8
  refine ⟨_, rfl, hb8, ?_⟩
  simp only [Act.put, List.setIfInBounds_toArray, List.set_cons_zero, List.set_cons_succ]
  refine at_one (i := 8) (m' := 511) co1reg (by decide) rfl ?_
  refine p_build2G (d := some 11) rfl (wanted_free rfl) rfl rfl rfl rfl Tryz.underlying46 hi0 hz1 hz0 ?_
  have hb9 := keep_trans hb8 (keep_alloc y8 (.cells #[.slice ba 4 bc, .slice da 4 dc] 24))
  have rr := rows_litL (B := y8.heap.size) (k := 2) (texts_cons ((ob.row).below (keep_trans gm gd)) ob.tidy (texts_cons od.row od.tidy (Texts.nil _))) rfl rfl (by decide)
  refine ⟨hb9, ?_⟩
  simp only [Act.put, List.setIfInBounds_toArray, List.set_cons_zero, List.set_cons_succ]
  refine at_one (i := 9) (m' := 1023) co1reg (by decide) rfl ?_
  refine p_callG (args := #[.slice (some ⟨y8.heap.size, 0, none⟩) 2 2]) (d := some 12) rfl (wanted_free rfl) rfl (by simp only [List.map_toArray, List.map_cons, List.map_nil]; rfl) rfl Tryz.call23 ((hj (y8.alloc (.cells #[.slice ba 4 bc, .slice da 4 dc] 24)) _ rr).mono ?_)
  rintro e y10 ⟨jv, rfl, oj, g10⟩
  obtain ⟨ja, jc, rfl, _⟩ := oj.row.opens (N := 8) (by simp [be4_len])
  have hb10 := keep_trans hb9 g10
  refine ⟨_, rfl, hb10, ?_⟩
  simp only [Act.put, List.setIfInBounds_toArray, List.set_cons_zero, List.set_cons_succ]
  refine at_takeD (i := 10) (m' := 2047) (d := some 2) (v := .slice ja 8 jc) co1reg rfl (by decide) rfl rfl (y_assignG (wanted_free rfl) rfl rfl) hb10 ?_
  simp only [Act.put, List.setIfInBounds_toArray, List.set_cons_zero, List.set_cons_succ]
  refine at_done co1reg (by decide) ?_
  go_wp2
  go_ret
  exact ⟨_, rfl, oj.mono (keep_trans k0 hb9).size, keep_trans k0 hb10⟩
end Go.Proofs.YtefndnbaifiboaaGreatDoor

/- Trees of leaves that sign once: the knots by their numbers, plain. -/
namespace Go.Proofs.YtefndnbaifiboaaGreatDoor
open Go.RowKit
set_option linter.unusedVariables false
set_option linter.unusedSimpArgs false

section
variable (ov : Nat → List Nat → List Nat → List Nat) (lf : Nat → List Nat)
/-- the sum of knot i of a tree of height h -/
def knA (h i : Nat) : List Nat := kn ov lf (h - Nat.log2 i) i
end
/-- i lies l levels below the top -/
def Lev (l i : Nat) : Prop := 2 ^ l ≤ i ∧ i < 2 ^ (l + 1)
theorem Lev.log {l i : Nat} (h : Lev l i) : Nat.log2 i = l := by
  have h0 : i ≠ 0 := by have := Nat.two_pow_pos l; have := h.1; omega
  have h1 := (Nat.le_log2 h0).2 h.1
  have h2 := (Nat.log2_lt h0).2 h.2
  omega
theorem Lev.of {i : Nat} (h : 1 ≤ i) : Lev (Nat.log2 i) i := by
  have h0 : i ≠ 0 := by omega
  exact ⟨(Nat.le_log2 h0).1 (Nat.le_refl _), (Nat.log2_lt h0).1 (Nat.lt_succ_self _)⟩
theorem Lev.left {l i : Nat} (h : Lev l i) : Lev (l + 1) (2 * i) := by
  obtain ⟨h1, h2⟩ := h
  have e1 : 2 ^ (l + 1) = 2 * 2 ^ l := by rw [Nat.pow_succ]; omega
  have e2 : 2 ^ (l + 1 + 1) = 2 * 2 ^ (l + 1) := by rw [Nat.pow_succ]; omega
  exact ⟨by omega, by omega⟩
theorem Lev.right {l i : Nat} (h : Lev l i) : Lev (l + 1) (2 * i + 1) := by
  obtain ⟨h1, h2⟩ := h
  have e1 : 2 ^ (l + 1) = 2 * 2 ^ l := by rw [Nat.pow_succ]; omega
  have e2 : 2 ^ (l + 1 + 1) = 2 * 2 ^ (l + 1) := by rw [Nat.pow_succ]; omega
  exact ⟨by omega, by omega⟩
theorem Lev.up {l i : Nat} (h : Lev (l + 1) i) : Lev l (i / 2) := by
  obtain ⟨h1, h2⟩ := h
  have e1 : 2 ^ (l + 1) = 2 * 2 ^ l := by rw [Nat.pow_succ]; omega
  have e2 : 2 ^ (l + 1 + 1) = 2 * 2 ^ (l + 1) := by rw [Nat.pow_succ]; omega
  exact ⟨by omega, by omega⟩
theorem Lev.next {l i : Nat} (h : Lev (l + 1) i) : Lev (l + 1) (i ^^^ 1) := by
  obtain ⟨h1, h2⟩ := h
  have e1 : 2 ^ (l + 1) = 2 * 2 ^ l := by rw [Nat.pow_succ]; omega
  have e2 : 2 ^ (l + 1 + 1) = 2 * 2 ^ (l + 1) := by rw [Nat.pow_succ]; omega
  rw [xor_one]
  by_cases e : i % 2 = 0
  · rw [if_pos e]; exact ⟨by omega, by omega⟩
  · rw [if_neg e]; exact ⟨by omega, by omega⟩
theorem Lev.le {l i h : Nat} (hl : Lev l i) (hh : i < 2 ^ (h + 1)) : l ≤ h := by
  have h1 := hl.1
  have h2 : 2 ^ l < 2 ^ (h + 1) := by omega
  have := (Nat.pow_lt_pow_iff_right (a := 2) (by decide)).1 h2
  omega
section
variable {ov : Nat → List Nat → List Nat → List Nat} {lf : Nat → List Nat}
theorem knA_lev {h l i : Nat} (hl : Lev l i) : knA ov lf h i = kn ov lf (h - l) i := by
  unfold knA; rw [hl.log]
theorem knA_leaf {h i : Nat} (h1 : 2 ^ h ≤ i) (h2 : i < 2 ^ (h + 1)) : knA ov lf h i = lf i := by
  rw [knA_lev (l := h) ⟨h1, h2⟩, Nat.sub_self]; rfl
theorem knA_ov {h i : Nat} (h1 : 1 ≤ i) (h2 : i < 2 ^ h) : knA ov lf h i = ov i (knA ov lf h (2 * i)) (knA ov lf h (2 * i + 1)) := by
  have hL := Lev.of h1
  obtain ⟨l, hl⟩ : ∃ l, l = Nat.log2 i := ⟨_, rfl⟩
  rw [← hl] at hL
  have hlt : l < h := (Nat.pow_lt_pow_iff_right (a := 2) (by decide)).1 (by have := hL.1; omega)
  rw [knA_lev hL, knA_lev hL.left, knA_lev hL.right]
  obtain ⟨d, rfl⟩ : ∃ d, h = l + 1 + d := ⟨h - (l + 1), by omega⟩
  rw [show l + 1 + d - l = d + 1 by omega, show l + 1 + d - (l + 1) = d by omega]
  rfl
theorem knA_top {h : Nat} : knA ov lf h 1 = kn ov lf h 1 := by
  rw [knA_lev (l := 0) ⟨by decide, by decide⟩, Nat.sub_zero]
theorem knA_32 (h1 : ∀ n a b, (ov n a b).length = 32) (h2 : ∀ n, (lf n).length = 32) (h i : Nat) : (knA ov lf h i).length = 32 := kn_32 h1 h2 _ _
/-- the neighbours on the way up, by their numbers -/
def pthA (f : Nat → List Nat) : Nat → Nat → List (List Nat)
  | 0, _ => []
  | k + 1, n => f (n ^^^ 1) :: pthA f k (n / 2)
theorem pthA_is : ∀ (k d n : Nat), Lev k n → pth ov lf d k n = pthA (knA ov lf (k + d)) k n
  | 0, d, n, _ => rfl
  | k + 1, d, n, h => by
    show kn ov lf d (n ^^^ 1) :: pth ov lf (d + 1) k (n / 2) = knA ov lf (k + 1 + d) (n ^^^ 1) :: pthA (knA ov lf (k + 1 + d)) k (n / 2)
    rw [knA_lev h.next, show k + 1 + d - (k + 1) = d by omega, pthA_is k (d + 1) (n / 2) h.up, show k + 1 + d = k + (d + 1) by omega]
/-- the way up, a step at its end: how many are laid when knot n / 2 ^ j is met -/
theorem pthA_snoc (f : Nat → List Nat) : ∀ (k n : Nat), pthA f (k + 1) n = pthA f k n ++ [f ((n / 2 ^ k) ^^^ 1)]
  | 0, n => by rw [Nat.pow_zero, Nat.div_one]; rfl
  | k + 1, n => by
    show f (n ^^^ 1) :: pthA f (k + 1) (n / 2) = f (n ^^^ 1) :: (pthA f k (n / 2) ++ [f ((n / 2 ^ (k + 1)) ^^^ 1)])
    rw [pthA_snoc f k (n / 2), Nat.div_div_eq_div_mul, Nat.pow_succ, Nat.mul_comm 2]
theorem lev_leaf {h q : Nat} (hq : q < 2 ^ h) : Lev h (2 ^ h + q) := ⟨by omega, by rw [Nat.pow_succ]; omega⟩
/-- P15: from a leaf its neighbours lead to the top -/
theorem climb_top {h q : Nat} (hq : q < 2 ^ h) : climb ov (pthA (knA ov lf h) h (2 ^ h + q)) (2 ^ h + q) (lf (2 ^ h + q)) = knA ov lf h 1 := by
  have hL := lev_leaf hq
  have e := pthA_is (ov := ov) (lf := lf) h 0 (2 ^ h + q) hL
  rw [Nat.add_zero] at e
  have hc := climb_path (ov := ov) (lf := lf) h 0 (2 ^ h + q)
  rw [e, Nat.zero_add, show (2 ^ h + q) / 2 ^ h = 1 by rw [Nat.add_div_left _ (Nat.two_pow_pos h), Nat.div_eq_of_lt hq]] at hc
  rw [knA_top]
  exact hc
end
end Go.Proofs.YtefndnbaifiboaaGreatDoor

/- Trees of leaves that sign once: typecodes back to heights and kinds; where a signature's parts lie. Plain. -/
namespace Go.Proofs.YtefndnbaifiboaaGreatDoor
open Go.RowKit
set_option linter.unusedVariables false
set_option linter.unusedSimpArgs false

theorem findN_is {P : Nat → Bool} {x : Nat} (hx : P x = true) : ∀ (k f : Nat), f ≤ x → x < f + k → (∀ y, f ≤ y → y < x → P y = false) → findN P f k = x
  | 0, f, h1, h2, _ => by omega
  | k + 1, f, h1, h2, h => by
    show (if P f = true then f else findN P (f + 1) k) = x
    by_cases e : f = x
    · rw [e, if_pos hx]
    · rw [if_neg (by rw [h f (Nat.le_refl _) (by omega)]; decide)]
      exact findN_is hx k (f + 1) (by omega) (by omega) (fun y k1 k2 => h y (by omega) k2)
theorem findN_or {P : Nat → Bool} : ∀ (k f : Nat), findN P f k = 0 ∨ (P (findN P f k) = true ∧ f ≤ findN P f k ∧ findN P f k < f + k)
  | 0, f => .inl rfl
  | k + 1, f => by
    by_cases e : P f = true
    · have : findN P f (k + 1) = f := if_pos e
      rw [this]
      exact .inr ⟨e, Nat.le_refl _, by omega⟩
    · have : findN P f (k + 1) = findN P (f + 1) k := if_neg e
      rw [this]
      rcases findN_or k (f + 1) with h | ⟨h1, h2, h3⟩
      · exact .inl h
      · exact .inr ⟨h1, by omega, by omega⟩
/-- a height is told by its typecode -/
theorem hgtL_code {h : Nat} (h0 : lmCode (h : Int) ≠ 0) : hgtL (lmCode (h : Int)) = h := by
  have hb : 1 ≤ h ∧ h ≤ 25 := by
    unfold lmCode at h0
    repeat' split at h0
    all_goals omega
  refine findN_is (by simp [h0]) 25 1 hb.1 (by omega) (fun y k1 k2 => ?_)
  refine decide_eq_false fun ⟨e, _⟩ => ?_
  have := lmCode_inj e.symm h0
  omega
theorem hgtL_or (c : Nat) : hgtL c = 0 ∨ (lmCode (hgtL c : Nat) = c ∧ c ≠ 0 ∧ 1 ≤ hgtL c ∧ hgtL c ≤ 25) := by
  rcases findN_or (P := fun h : Nat => decide (lmCode (h : Int) = c ∧ c ≠ 0)) 25 1 with h | ⟨h1, h2, h3⟩
  · exact .inl h
  · have := of_decide_eq_true h1
    exact .inr ⟨this.1, this.2, h2, by unfold hgtL; omega⟩
/-- a kind is told by its typecode -/
theorem dgtL_code {k n m s c : Nat} (hk : Kd k n m s c) : dgtL c = k := by cases hk <;> rfl
theorem dgtL_or (c : Nat) : dgtL c = 0 ∨ ∃ n m s, Kd (dgtL c) n m s c := by
  rcases findN_or (P := fun w => decide (kdC w = c ∧ c ≠ 0)) 8 1 with h | ⟨h1, _, _⟩
  · exact .inl h
  · have h2 : kdC (dgtL c) = c ∧ c ≠ 0 := of_decide_eq_true h1
    rename_i g1 g2
    clear g1 g2
    obtain ⟨h3, h4⟩ := h2
    refine .inr ?_
    clear h1
    generalize dgtL c = d at *
    unfold kdC at h3
    split at h3
    · rename_i e; subst h3; subst e; exact ⟨_, _, _, Kd.k1⟩
    split at h3
    · rename_i e; subst h3; subst e; exact ⟨_, _, _, Kd.k2⟩
    split at h3
    · rename_i e; subst h3; subst e; exact ⟨_, _, _, Kd.k4⟩
    split at h3
    · rename_i e; subst h3; subst e; exact ⟨_, _, _, Kd.k8⟩
    · exact absurd h3.symm h4
/-- where a signature's parts lie -/
def ctW (b : List Nat) : Nat := dgtL (numL ((b.drop 4).take 4))
def ctA (b : List Nat) : Nat := 4 + szW (ctW b)
def ctH (b : List Nat) : Nat := hgtL (numL ((b.drop (ctA b)).take 4))
def ctN (b : List Nat) : Nat := ctA b + 4 + 32 * ctH b
/-- what is wrong with a signature -/
def ctE (b : List Nat) : Nat := if b.length < 8 then 1 else if ctW b = 0 then 9 else if b.length < ctA b + 4 then 1 else if ctH b = 0 then 9 else if b.length < ctN b then 1 else 0
theorem ctA_le (b : List Nat) : ctA b ≤ 8520 := by
  unfold ctA szW
  repeat' split
  all_goals omega
theorem ctH_le (b : List Nat) : ctH b ≤ 25 := by
  unfold ctH
  rcases hgtL_or (numL ((b.drop (ctA b)).take 4)) with h | ⟨_, _, _, h⟩
  · rw [h]; omega
  · exact h
end Go.Proofs.YtefndnbaifiboaaGreatDoor

/- Trees of leaves that sign once: the document's Cut. -/
namespace Go.Proofs.YtefndnbaifiboaaGreatDoor
open Go.RowKit
set_option linter.unusedVariables false
set_option linter.unusedSimpArgs false

theorem Bx2T.load4 {P : Program} {W : World} {B : Nat} {v0 v1 : Value} (h : Bx2T W B v0 v1) {fn : Func} {s p u v : Tmp} (hr : fn.results = #[.tmp s, .cell p 23, .tmp u, .tmp v]) (hP : P = Tryz.prog) (tmps : Array Value) (hp : tmps.getD p undef = .pointer (some ⟨B, 0, none⟩)) :
    (results fn tmps).run P W = .ok (.tuple #[tmps.getD s undef, .agg #[v0, v1], tmps.getD u undef, tmps.getD v undef]) W := by
  subst hP
  have hp' : tmps[p]?.getD undef = .pointer (some ⟨B, 0, none⟩) := by simpa using hp
  simp [results, hr, hp', asAddr, run_loadVar_row W B 23 23 #[v0, v1] (0, 0) _ h.here Tryz.underlying23 rfl (by kernel_rfl)]
set_option maxHeartbeats 4000000 in
set_option maxRecDepth 100000 in
theorem rcut_no (b : List Nat) (bv : Value) (w : World) (hb : Row .u8 256 w bv b) (h : ctE b ≠ 0) :
    Calls Tryz.prog 18 #[bv] w fun e w' => e = .returned (.tuple #[.slice none 0 0, .agg #[.int .i64 0, .int .i64 0], .slice none 0 0, .int .i64 (ctE b : Nat)]) ∧ Below w.heap.size w w' := by
  have hrow := hb
  obtain ⟨ba, bc, rfl, lc1, lc2, ho⟩ := hb.opens rfl
  have z0 := Bx2T.new w (.int .i64 0) (.int .i64 0)
  have hbw := keep_alloc w (.cells #[.int .i64 0, .int .i64 0] 23)
  have c0 := z0.c0
  have c1 := z0.c1
  by_cases h8 : b.length < 8
  · have hi : (b.length : Int) < 8 := by omega
    have hc : ctE b = 1 := by unfold ctE; rw [if_pos h8]
    rw [hc]
    generalize b.length = L at *
    clear hb h hc ho hrow
    go_enter Tryz.func18, Tryz.ntmps18
    go_wp2
    refine bodyPost_ret (z0.load4 rfl rfl _ rfl) rfl ?_
    exact ⟨rfl, hbw⟩
  · obtain ⟨bb, bo, rfl, _⟩ := ho (by omega)
    have r4 : Row .u8 256 w (.slice (some ⟨bb, bo + 4, none⟩) 4 (bc - 4)) ((b.drop 4).take 4) := hrow.mid (i := 4) (j := 8) (by decide) (by omega)
    have hn4 := rnum_any _ _ _ (r4.below hbw)
    have hdg := fun y => rdigit_any (numL ((b.drop 4).take 4)) y (numL_lt _)
    rw [show dgtL (numL ((b.drop 4).take 4)) = ctW b from rfl] at hdg
    have hsz := fun y => rsizeW (ctW b : Nat) y
    have hi8 : ¬ (b.length : Int) < 8 := by omega
    have h8c : (8 : Int) ≤ (bc : Int) := by omega
    obtain ⟨X, hX⟩ : ∃ X, X = numL ((b.drop 4).take 4) := ⟨_, rfl⟩
    rw [← hX] at hn4 hdg
    by_cases hw0 : ctW b = 0
    · have hc : ctE b = 9 := by unfold ctE; rw [if_neg h8, if_pos hw0]
      rw [hc]
      rw [hw0] at hdg
      clear hb h hc hrow r4 hX hw0 hsz
      generalize b.length = L at *
      go_enter Tryz.func18, Tryz.ntmps18
      go_wp2_with (first
        | (go_at_call 42; refine hn4.mono ?_; rintro e yy ⟨rfl, hy⟩; obtain rfl := hy.symm)
        | (go_at_call 41; refine (hdg _).mono ?_; rintro e yy ⟨rfl, hy⟩; obtain rfl := hy.symm)
        | fail)
      refine bodyPost_ret (z0.load4 rfl rfl _ rfl) rfl ?_
      exact ⟨rfl, hbw⟩
    · have hWi : ((ctW b : Nat) : Int) ≠ 0 := by omega
      have hWb : (((ctW b : Nat) : Int) == 0) = false := by simp; exact hw0
      have hAl := ctA_le b
      have hAd : ctA b = 4 + szW (ctW b : Nat) := rfl
      obtain ⟨Z, hZ⟩ : ∃ Z, Z = szW (ctW b : Nat) := ⟨_, rfl⟩
      rw [← hZ] at hsz hAd
      have rA : b.length ≥ ctA b + 4 → Row .u8 256 w (.slice (some ⟨bb, bo + ctA b, none⟩) 4 (bc - ctA b)) ((b.drop (ctA b)).take 4) := fun hl => by
        have := hrow.mid (i := ctA b) (j := ctA b + 4) (by omega) (by omega)
        rwa [Nat.add_sub_cancel_left] at this
      have hnA := fun hl => rnum_any _ _ _ ((rA hl).below hbw)
      have hht := fun y => rheight_any (numL ((b.drop (ctA b)).take 4)) y (numL_lt _)
      rw [show hgtL (numL ((b.drop (ctA b)).take 4)) = ctH b from rfl] at hht
      obtain ⟨Y, hY⟩ : ∃ Y, Y = numL ((b.drop (ctA b)).take 4) := ⟨_, rfl⟩
      rw [← hY] at hnA hht
      have hHl := ctH_le b
      have hNd : ctN b = ctA b + 4 + 32 * ctH b := rfl
      have hEd : ctE b = if b.length < ctA b + 4 then 1 else if ctH b = 0 then 9 else if b.length < ctN b then 1 else 0 := by unfold ctE; rw [if_neg h8, if_neg hw0]
      rw [hEd] at h ⊢
      clear hEd hw0 hZ hrow hb r4 rA hX hY
      generalize ctW b = W at *
      generalize ctA b = A at *
      generalize ctH b = H at *
      generalize ctN b = N at *
      generalize b.length = L at *
      have e_A : (4 : Int) + (Z : Int) = (A : Int) := by omega
      have s_A : IntKind.i64.wrap (A : Int) = (A : Int) := by rw [IntKind.wrap_i64]; omega
      obtain ⟨E, hE⟩ : ∃ E : Nat, E = A + 4 := ⟨_, rfl⟩
      have e_E : (A : Int) + 4 = (E : Int) := by omega
      have s_E : IntKind.i64.wrap (E : Int) = (E : Int) := by rw [IntKind.wrap_i64]; omega
      by_cases hLE : L < E
      · have hLi : (L : Int) < (E : Int) := by omega
        rw [if_pos (by omega)]
        clear h hnA hht hHl hNd hE hLE hAd hAl
        go_enter Tryz.func18, Tryz.ntmps18
        go_wp2_with (first
          | (go_at_call 42; refine hn4.mono ?_; rintro e yy ⟨rfl, hy⟩; obtain rfl := hy.symm)
          | (go_at_call 41; refine (hdg _).mono ?_; rintro e yy ⟨rfl, hy⟩; obtain rfl := hy.symm)
          | (go_at_call 38; refine (hsz _).mono ?_; rintro e yy ⟨rfl, hy⟩; obtain rfl := hy.symm)
          | fail)
        refine bodyPost_ret (z0.load4 rfl rfl _ rfl) rfl ?_
        exact ⟨rfl, hbw⟩
      · have hLi : ¬ (L : Int) < (E : Int) := by omega
        have hnA' := hnA (by omega)
        rw [if_neg (by omega)] at h ⊢
        have hAE : (A : Int) ≤ (E : Int) := by omega
        have hEc : (E : Int) ≤ (bc : Int) := by omega
        have hEA : E - A = 4 := by omega
        have hEAi : (E : Int) - (A : Int) = 4 := by omega
        have z_A : (0 : Int) ≤ (A : Int) := Int.natCast_nonneg _
        by_cases hH0 : H = 0
        · rw [if_pos hH0]
          rw [hH0] at hht
          clear h hnA hHl hNd hE hLE hAd hAl hH0
          go_enter Tryz.func18, Tryz.ntmps18
          go_wp2_with (first
            | (go_at_call 42; have hn4u := hn4; clear hn4; refine hn4u.mono ?_; rintro e yy ⟨rfl, hy⟩; obtain rfl := hy.symm; clear hn4u)
            | (go_at_call 42; refine hnA'.mono ?_; rintro e yy ⟨rfl, hy⟩; obtain rfl := hy.symm)
            | (go_at_call 41; refine (hdg _).mono ?_; rintro e yy ⟨rfl, hy⟩; obtain rfl := hy.symm)
            | (go_at_call 38; refine (hsz _).mono ?_; rintro e yy ⟨rfl, hy⟩; obtain rfl := hy.symm)
            | (go_at_call 43; refine (hht _).mono ?_; rintro e yy ⟨rfl, hy⟩; obtain rfl := hy.symm)
            | fail)
          refine bodyPost_ret (z0.load4 rfl rfl _ rfl) rfl ?_
          exact ⟨rfl, hbw⟩
        · rw [if_neg hH0] at h ⊢
          have hLN : L < N := Decidable.byContradiction fun hh => h (if_neg hh)
          rw [if_pos hLN]
          have hLNi : (L : Int) < (N : Int) := by omega
          have hHb : ((H : Int) == 0) = false := by simp; exact hH0
          have hHi : (H : Int) ≠ 0 := by omega
          obtain ⟨T, hT⟩ : ∃ T : Nat, T = 32 * H := ⟨_, rfl⟩
          have e_T : (32 : Int) * (H : Int) = (T : Int) := by omega
          have s_T : IntKind.i64.wrap (T : Int) = (T : Int) := by rw [IntKind.wrap_i64]; omega
          have e_N : (E : Int) + (T : Int) = (N : Int) := by omega
          have s_N : IntKind.i64.wrap (N : Int) = (N : Int) := by rw [IntKind.wrap_i64]; omega
          clear h hnA hHl hNd hE hLE hAd hAl hH0 hT hLN
          go_enter Tryz.func18, Tryz.ntmps18
          go_wp2_with (first
            | (go_at_call 42; have hn4u := hn4; clear hn4; refine hn4u.mono ?_; rintro e yy ⟨rfl, hy⟩; obtain rfl := hy.symm; clear hn4u)
            | (go_at_call 42; refine hnA'.mono ?_; rintro e yy ⟨rfl, hy⟩; obtain rfl := hy.symm)
            | (go_at_call 41; refine (hdg _).mono ?_; rintro e yy ⟨rfl, hy⟩; obtain rfl := hy.symm)
            | (go_at_call 38; refine (hsz _).mono ?_; rintro e yy ⟨rfl, hy⟩; obtain rfl := hy.symm)
            | (go_at_call 43; refine (hht _).mono ?_; rintro e yy ⟨rfl, hy⟩; obtain rfl := hy.symm)
            | fail)
          refine bodyPost_ret (z0.load4 rfl rfl _ rfl) rfl ?_
          exact ⟨rfl, hbw⟩
end Go.Proofs.YtefndnbaifiboaaGreatDoor
