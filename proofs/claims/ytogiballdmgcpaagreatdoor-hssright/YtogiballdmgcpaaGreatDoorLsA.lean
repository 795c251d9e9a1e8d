/- Trees of leaves that sign once, the program's own: typecodes, Fit, Size, where a signature's parts lie. -/
import Derived.Test.YtogiballdmgcpaaGreatDoorLmM
import Derived.Test.YtogiballdmgcpaaGreatDoorLcD
namespace Go.Proofs.YtogiballdmgcpaaGreatDoor
open Go.RowKit
set_option linter.unusedVariables false
set_option linter.unusedSimpArgs false

set_option maxHeartbeats 4000000 in
set_option maxRecDepth 100000 in
theorem chc_any (h : Int) (w : World) : Calls Tryz.prog 72 #[.int .i64 h] w fun e w' => e = .returned (.int .u64 (lmCode h : Nat)) ∧ w' = w := by
  by_cases h1 : 1 ≤ h
  · by_cases h4 : h ≤ 4
    · obtain ⟨n, rfl⟩ : ∃ n : Nat, h = (n : Int) := ⟨h.toNat, by omega⟩
      obtain ⟨C, hC⟩ : ∃ C : Nat, C = 3758096384 + n := ⟨_, rfl⟩
      have e0 : lmCode (n : Int) = C := by unfold lmCode; rw [if_pos ⟨h1, h4⟩, hC]; rfl
      rw [e0]
      have u_n : IntKind.u64.wrap (n : Int) = (n : Int) := by rw [IntKind.wrap_u64]; omega
      have e_C : (3758096384 : Int) + (n : Int) = (C : Int) := by omega
      have u_C : IntKind.u64.wrap (C : Int) = (C : Int) := by rw [IntKind.wrap_u64]; omega
      clear hC e0
      go_enter Tryz.func72, Tryz.ntmps72
      go_wp2
      go_ret
      exact ⟨rfl, rfl⟩
    · have h5 : 5 ≤ h := by omega
      by_cases h25 : h ≤ 25
      · by_cases hm : h % 5 = 0
        · have hk : h = 5 ∨ h = 10 ∨ h = 15 ∨ h = 20 ∨ h = 25 := by omega
          clear h1 h4 h5 h25 hm
          rcases hk with hk | hk | hk | hk | hk <;> subst hk
          all_goals
            go_enter Tryz.func72, Tryz.ntmps72
            go_wp2
            go_ret
            exact ⟨rfl, rfl⟩
        · have e0 : lmCode h = 0 := by unfold lmCode; rw [if_neg (by omega), if_neg (by omega)]
          rw [e0]
          have hb : (h % 5 == 0) = false := by simp [hm]
          have ht : ¬ h.tmod 5 = 0 := by rw [Int.tmod_eq_emod_of_nonneg (by omega)]; exact hm
          clear e0
          go_enter Tryz.func72, Tryz.ntmps72
          go_wp2
          go_ret
          exact ⟨rfl, rfl⟩
      · have e0 : lmCode h = 0 := by unfold lmCode; rw [if_neg (by omega), if_neg (by omega)]
        rw [e0]
        clear e0
        go_enter Tryz.func72, Tryz.ntmps72
        go_wp2
        go_ret
        exact ⟨rfl, rfl⟩
  · have e0 : lmCode h = 0 := by unfold lmCode; rw [if_neg (by omega), if_neg (by omega)]
    rw [e0]
    have h5 : ¬ 5 ≤ h := by omega
    clear e0
    go_enter Tryz.func72, Tryz.ntmps72
    go_wp2
    go_ret
    exact ⟨rfl, rfl⟩
theorem chc_b (h : Int) (w : World) : Calls Tryz.prog 72 #[.int .i64 h] w fun e w' => e = .returned (.int .u64 (lmCode h : Nat)) ∧ Below w.heap.size w w' :=
  (chc_any h w).mono fun e w' k => ⟨k.1, by rw [k.2]; exact Below.refl _ _⟩
/-- a leaf's typecode by its width -/
def wdC (x : Int) : Nat := if x = 1 then 1 else if x = 2 then 2 else if x = 4 then 3 else if x = 8 then 4 else 0
theorem wdC_nat (k : Nat) : wdC (k : Int) = kdC k := by
  unfold wdC kdC
  by_cases h1 : k = 1
  · subst h1; rfl
  by_cases h2 : k = 2
  · subst h2; rfl
  by_cases h4 : k = 4
  · subst h4; rfl
  by_cases h8 : k = 8
  · subst h8; rfl
  rw [if_neg (by omega), if_neg (by omega), if_neg (by omega), if_neg (by omega), if_neg h1, if_neg h2, if_neg h4, if_neg h8]
theorem wdC_sz (x : Int) : wdC x = 0 ↔ szW x = 0 := by
  unfold wdC szW
  repeat' split
  all_goals simp
theorem wdC_kd {k n m s c : Nat} (h : Kd k n m s c) : wdC (k : Int) = c := by cases h <;> rfl
theorem wdC_lt (x : Int) : wdC x ≤ 4 := by
  unfold wdC
  repeat' split
  all_goals omega
set_option maxHeartbeats 4000000 in
set_option maxRecDepth 100000 in
theorem cwc_any (x : Int) (w : World) : Calls Tryz.prog 73 #[.int .i64 x] w fun e w' => e = .returned (.int .u64 (wdC x : Nat)) ∧ w' = w := by
  by_cases h1 : x = 1
  · subst h1
    go_enter Tryz.func73, Tryz.ntmps73
    go_wp2
    go_ret
    exact ⟨rfl, rfl⟩
  by_cases h2 : x = 2
  · subst h2
    go_enter Tryz.func73, Tryz.ntmps73
    go_wp2
    go_ret
    exact ⟨rfl, rfl⟩
  by_cases h4 : x = 4
  · subst h4
    go_enter Tryz.func73, Tryz.ntmps73
    go_wp2
    go_ret
    exact ⟨rfl, rfl⟩
  by_cases h8 : x = 8
  · subst h8
    go_enter Tryz.func73, Tryz.ntmps73
    go_wp2
    go_ret
    exact ⟨rfl, rfl⟩
  have e0 : wdC x = 0 := by unfold wdC; rw [if_neg h1, if_neg h2, if_neg h4, if_neg h8]
  rw [e0]
  go_enter Tryz.func73, Tryz.ntmps73
  go_wp2
  go_ret
  exact ⟨rfl, rfl⟩
theorem cwc_b (x : Int) (w : World) : Calls Tryz.prog 73 #[.int .i64 x] w fun e w' => e = .returned (.int .u64 (wdC x : Nat)) ∧ Below w.heap.size w w' :=
  (cwc_any x w).mono fun e w' k => ⟨k.1, by rw [k.2]; exact Below.refl _ _⟩
set_option maxHeartbeats 4000000 in
set_option maxRecDepth 100000 in
theorem cfitT_any (h x : Int) (w : World) : Calls Tryz.prog 41 #[.agg #[.int .i64 h, .int .i64 x]] w fun e w' => e = .returned (.bool (decide (FitL h x))) ∧ Below w.heap.size w w' := by
  have hc := fun y => chc_any h y
  have hs := fun y => cwc_any x y
  by_cases h1 : lmCode h = 0
  · have hd : decide (FitL h x) = false := decide_eq_false fun hh => hh.1 h1
    rw [hd]
    rw [h1] at hc
    clear hd h1
    go_enter Tryz.func41, Tryz.ntmps41
    go_wp2_with (first | (go_at_call 72; refine (hc _).mono ?_; rintro e yy ⟨rfl, hy⟩; obtain rfl := hy.symm) | fail)
    go_ret
    exact ⟨rfl, keep_alloc _ _⟩
  · obtain ⟨C, hC⟩ : ∃ C, C = lmCode h := ⟨_, rfl⟩
    obtain ⟨Z, hZ⟩ : ∃ Z, Z = wdC x := ⟨_, rfl⟩
    have hCb : ((C : Int) != 0) = true := by have : C ≠ 0 := by rw [hC]; exact h1
                                             simp [this]
    have hd : decide (FitL h x) = ((Z : Int) != 0) := by
      by_cases hz : Z = 0
      · rw [decide_eq_false (fun hh => hh.2 ((wdC_sz x).1 (by rw [← hZ]; exact hz)))]; simp [hz]
      · rw [decide_eq_true ⟨h1, fun e => hz (by rw [hZ]; exact (wdC_sz x).2 e)⟩]; simp [hz]
    rw [hd]
    rw [← hC] at hc
    rw [← hZ] at hs
    clear hd h1 hC hZ
    go_enter Tryz.func41, Tryz.ntmps41
    go_wp2_with (first
      | (go_at_call 72; refine (hc _).mono ?_; rintro e yy ⟨rfl, hy⟩; obtain rfl := hy.symm)
      | (go_at_call 73; refine (hs _).mono ?_; rintro e yy ⟨rfl, hy⟩; obtain rfl := hy.symm)
      | fail)
    go_ret
    exact ⟨rfl, keep_alloc _ _⟩
theorem csizeW (x : Int) (w : World) : Calls Tryz.prog 98 #[.int .i64 x] w fun e w' => e = .returned (.int .i64 (szW x : Nat)) ∧ Below w.heap.size w w' := by
  rcases kd_or x with h | ⟨k, n, m, s, c, rfl, h⟩
  · have e0 : szW x = 0 := by
      obtain ⟨h1, h2, h4, h8⟩ := h
      unfold szW
      rw [if_neg h1, if_neg h2, if_neg h4, if_neg h8]
    rw [e0]
    exact csize_no x w h
  · have e0 : szW (k : Int) = 36 + 32 * (n + m) := by cases h <;> rfl
    rw [e0]
    exact csize_ok h rfl w
theorem szW_le (x : Int) : szW x ≤ 8516 := by
  unfold szW; repeat' split
  all_goals omega
set_option maxHeartbeats 2000000 in
set_option maxRecDepth 100000 in
theorem ccodeAt (x : Int) (w : World) : Calls Tryz.prog 62 #[.int .i64 x] w fun e w' => e = .returned (.int .i64 ((4 + szW x : Nat) : Int)) ∧ Below w.heap.size w w' := by
  have hs := fun y => csizeW x y
  have hl := szW_le x
  obtain ⟨Z, hZ⟩ : ∃ Z, Z = szW x := ⟨_, rfl⟩
  rw [← hZ] at hs hl ⊢
  obtain ⟨A, hA⟩ : ∃ A : Nat, A = 4 + Z := ⟨_, rfl⟩
  have e_A : (4 : Int) + (Z : Int) = (A : Int) := by omega
  have s_A : IntKind.i64.wrap (A : Int) = (A : Int) := by rw [IntKind.wrap_i64]; omega
  rw [← hA]
  clear hZ hA hl
  go_enter Tryz.func62, Tryz.ntmps62
  go_wp2_with (first | (go_at_call 98; refine (hs _).mono ?_; rintro e w1 ⟨rfl, hb1⟩) | fail)
  go_ret
  exact ⟨rfl, hb1⟩
set_option maxHeartbeats 2000000 in
set_option maxRecDepth 100000 in
theorem cbesideAt (x : Int) (w : World) : Calls Tryz.prog 65 #[.int .i64 x] w fun e w' => e = .returned (.int .i64 ((8 + szW x : Nat) : Int)) ∧ Below w.heap.size w w' := by
  have hs := fun y => ccodeAt x y
  have hl := szW_le x
  obtain ⟨Z, hZ⟩ : ∃ Z, Z = 4 + szW x := ⟨_, rfl⟩
  rw [← hZ] at hs
  obtain ⟨A, hA⟩ : ∃ A : Nat, A = 8 + szW x := ⟨_, rfl⟩
  have e_A : (Z : Int) + (4 : Int) = (A : Int) := by omega
  have s_A : IntKind.i64.wrap (A : Int) = (A : Int) := by rw [IntKind.wrap_i64]; omega
  rw [← hA]
  clear hZ hA hl
  go_enter Tryz.func65, Tryz.ntmps65
  go_wp2_with (first | (go_at_call 62; refine (hs _).mono ?_; rintro e w1 ⟨rfl, hb1⟩) | fail)
  go_ret
  exact ⟨rfl, hb1⟩
def sz3lt : List Lt := [(0, some 6, [1]), (1, some 7, [6]), (2, some 8, [7]), (0, some 9, [1]), (8, some 10, [9]), (16, some 11, [10]), (36, some 12, [8, 11]), (127, some 2, [12])]
theorem sz3reg : Reg (opsA (cLA (cRA (cRA (Tryz.f58.body.getD .skip))))) sz3lt := ⟨by kernel_rfl, by kernel_rfl⟩
set_option maxHeartbeats 4000000 in
set_option maxRecDepth 100000 in
theorem csizeT_any (h x : Int) (w : World) : Calls Tryz.prog 58 #[.agg #[.int .i64 h, .int .i64 x]] w fun e w' => e = .returned (.int .i64 (szT h x : Nat)) ∧ Below w.heap.size w w' := by
  have hf := fun y => cfitT_any h x y
  have hs := fun y => cbesideAt x y
  by_cases hh : FitL h x
  · have hp := hh.pos
    rw [decide_eq_true hh] at hf
    obtain ⟨n, rfl⟩ : ∃ n : Nat, h = (n : Int) := ⟨h.toNat, by omega⟩
    have e0 : szT (n : Int) x = (8 + szW x) + 32 * n := by unfold szT; rw [if_pos hh]; show 8 + 32 * n + szW x = _; omega
    rw [e0]
    obtain ⟨Z, hZ⟩ : ∃ Z, Z = 8 + szW x := ⟨_, rfl⟩
    rw [← hZ] at hs ⊢
    obtain ⟨A, hA⟩ : ∃ A : Nat, A = 32 * n := ⟨_, rfl⟩
    obtain ⟨B, hB⟩ : ∃ B : Nat, B = Z + A := ⟨_, rfl⟩
    have e_A : IntKind.i64.wrap ((n : Int) * 32) = (A : Int) := by rw [IntKind.wrap_i64]; omega
    have e_B : IntKind.i64.wrap ((Z : Int) + (A : Int)) = (B : Int) := by rw [IntKind.wrap_i64]; omega
    rw [← hA, ← hB]
    clear e0 hh hp hZ hA hB
    have bN := Bx2T.new w (.int .i64 (n : Int)) (.int .i64 x)
    go_enter Tryz.func58, Tryz.ntmps58
    go_wp2_with (first
      | (go_at_call 41; refine (hf _).mono ?_; rintro e w1 ⟨rfl, hb1⟩; have b1 := bN.below hb1)
      | fail)
    have hbd : Below w1.heap.size w1 w1.drew := (Below.refl _ _).drew
    refine at_begin (ops := opsA (cLA (cRA (cRA (Tryz.f58.body.getD .skip))))) (n := 8) (fun y => Below w1.heap.size w1 y) (by kernel_rfl) (by kernel_rfl) ?_
    refine at_takeD (i := 0) (m' := 1) (d := some 6) (v := .pointer (some ⟨w.heap.size, 1, none⟩)) sz3reg rfl (by decide) rfl rfl (y_fieldG (wanted_free rfl) rfl rfl (fun w => by simp [go_sem])) hbd ?_
    simp only [Act.put, List.setIfInBounds_toArray, List.set_cons_zero, List.set_cons_succ]
    refine at_takeD (i := 1) (m' := 3) (d := some 7) (v := .int .i64 x) sz3reg rfl (by decide) rfl rfl (y_plainG (wanted_free rfl) rfl rfl Tryz.underlying3 rfl (fun _ h => (b1.below h).c1)) hbd ?_
    simp only [Act.put, List.setIfInBounds_toArray, List.set_cons_zero, List.set_cons_succ]
    refine at_takeD (i := 3) (m' := 11) (d := some 9) (v := .pointer (some ⟨w.heap.size, 0, none⟩)) sz3reg rfl (by decide) rfl rfl (y_fieldG (wanted_free rfl) rfl rfl (fun w => by simp [go_sem])) hbd ?_
    simp only [Act.put, List.setIfInBounds_toArray, List.set_cons_zero, List.set_cons_succ]
    refine at_takeD (i := 4) (m' := 27) (d := some 10) (v := .int .i64 (n : Int)) sz3reg rfl (by decide) rfl rfl (y_plainG (wanted_free rfl) rfl rfl Tryz.underlying3 rfl (fun _ h => (b1.below h).c0)) hbd ?_
    simp only [Act.put, List.setIfInBounds_toArray, List.set_cons_zero, List.set_cons_succ]
    refine at_takeD (i := 5) (m' := 59) (d := some 11) (v := .int .i64 (A : Int)) sz3reg rfl (by decide) rfl rfl (y_mulI (wanted_free rfl) rfl rfl rfl Tryz.underlying3 e_A) hbd ?_
    simp only [Act.put, List.setIfInBounds_toArray, List.set_cons_zero, List.set_cons_succ]
    refine at_one (i := 2) (m' := 63) sz3reg (by decide) rfl ?_
    refine p_callG (args := #[.int .i64 x]) (d := some 8) rfl (wanted_free rfl) rfl (by simp only [List.map_toArray, List.map_cons, List.map_nil]; rfl) rfl Tryz.call65 ((hs w1.drew).mono ?_)
    rintro e y6 ⟨rfl, g6⟩
    have hb6 := keep_trans hbd g6
    refine ⟨_, rfl, hb6, ?_⟩
    simp only [Act.put, List.setIfInBounds_toArray, List.set_cons_zero, List.set_cons_succ]
    refine at_takeD (i := 6) (m' := 127) (d := some 12) (v := .int .i64 (B : Int)) sz3reg rfl (by decide) rfl rfl (y_addI (wanted_free rfl) rfl rfl rfl Tryz.underlying3 e_B) hb6 ?_
    simp only [Act.put, List.setIfInBounds_toArray, List.set_cons_zero, List.set_cons_succ]
    refine at_takeD (i := 7) (m' := 255) (d := some 2) (v := .int .i64 (B : Int)) sz3reg rfl (by decide) rfl rfl (y_assignG (wanted_free rfl) rfl rfl) hb6 ?_
    simp only [Act.put, List.setIfInBounds_toArray, List.set_cons_zero, List.set_cons_succ]
    refine at_done sz3reg (by decide) ?_
    go_wp2
    go_ret
    exact ⟨rfl, keep_trans (keep_trans (keep_alloc _ _) hb1) hb6⟩
  · rw [decide_eq_false hh] at hf
    have e0 : szT h x = 0 := if_neg hh
    rw [e0]
    clear e0 hh
    go_enter Tryz.func58, Tryz.ntmps58
    go_wp2_with (first | (go_at_call 41; refine (hf _).mono ?_; rintro e w1 ⟨rfl, hb1⟩) | fail)
    go_ret
    exact ⟨rfl, keep_trans (keep_alloc _ _) hb1⟩
def co1lt : List Lt := [(0, some 3, [1]), (1, some 4, [3]), (2, some 5, [4]), (4, some 6, [5]), (0, some 7, [1]), (16, some 8, [7]), (40, some 9, [8]), (64, some 10, [9]), (136, some 11, [6, 10]), (384, some 12, [11]), (1023, some 2, [12])]
theorem co1reg : Reg (opsA (cLA (cRA (Tryz.f76.body.getD .skip)))) co1lt := ⟨by kernel_rfl, by kernel_rfl⟩
set_option maxHeartbeats 4000000 in
set_option maxRecDepth 100000 in
theorem ccodes_any (h x : Int) (w : World) : Calls Tryz.prog 76 #[.agg #[.int .i64 h, .int .i64 x]] w fun e w' => ∃ v, e = .returned v ∧ Own 5 .u8 256 w' w.heap.size v (be4 (lmCode h) ++ be4 (wdC x)) ∧ Below w.heap.size w w' := by
  have hh := fun y => chc_b h y
  have hw := fun y => cwc_b x y
  have hcl := lmCode_32 h
  have hwl := wdC_lt x
  obtain ⟨C, hC⟩ : ∃ C, C = lmCode h := ⟨_, rfl⟩
  obtain ⟨D, hD⟩ : ∃ D, D = wdC x := ⟨_, rfl⟩
  rw [← hC] at hh hcl ⊢
  rw [← hD] at hw hwl ⊢
  have h4 := fun y => cbe4 C y (by omega)
  have h5 := fun y => cbe4 D y (by omega)
  have hj := fun y v (r : Rows2 y v [be4 C, be4 D]) => join_any v _ y r (by simp [be4_len])
  have hfl : [be4 C, be4 D].flatten = be4 C ++ be4 D := by simp
  rw [hfl] at hj
  obtain ⟨i0, hi0, hz0, hz1, hz2⟩ := info_text
  have bN := Bx2T.new w (.int .i64 h) (.int .i64 x)
  have k0 := keep_alloc w (.cells #[.int .i64 h, .int .i64 x] 45)
  clear hC hD hcl hwl hfl
  go_enter Tryz.func76, Tryz.ntmps76
  go_wp2
  generalize hW0 : w.alloc (.cells #[.int .i64 h, .int .i64 x] 45) = W0 at *
  have hbd : Below W0.heap.size W0 W0.drew := (Below.refl _ _).drew
  refine at_begin (ops := opsA (cLA (cRA (Tryz.f76.body.getD .skip)))) (n := 11) (fun y => Below W0.heap.size W0 y) (by kernel_rfl) (by kernel_rfl) ?_
  refine at_takeD (i := 0) (m' := 1) (d := some 3) (v := .pointer (some ⟨w.heap.size, 0, none⟩)) co1reg rfl (by decide) rfl rfl (y_fieldG (wanted_free rfl) rfl rfl (fun w => by simp [go_sem])) hbd ?_
  simp only [Act.put, List.setIfInBounds_toArray, List.set_cons_zero, List.set_cons_succ]
  refine at_takeD (i := 1) (m' := 3) (d := some 4) (v := .int .i64 h) co1reg rfl (by decide) rfl rfl (y_plainG (wanted_free rfl) rfl rfl Tryz.underlying3 rfl (fun _ h => (bN.below h).c0)) hbd ?_
  simp only [Act.put, List.setIfInBounds_toArray, List.set_cons_zero, List.set_cons_succ]
  refine at_takeD (i := 4) (m' := 19) (d := some 7) (v := .pointer (some ⟨w.heap.size, 1, none⟩)) co1reg rfl (by decide) rfl rfl (y_fieldG (wanted_free rfl) rfl rfl (fun w => by simp [go_sem])) hbd ?_
  simp only [Act.put, List.setIfInBounds_toArray, List.set_cons_zero, List.set_cons_succ]
  refine at_takeD (i := 5) (m' := 51) (d := some 8) (v := .int .i64 x) co1reg rfl (by decide) rfl rfl (y_plainG (wanted_free rfl) rfl rfl Tryz.underlying3 rfl (fun _ h => (bN.below h).c1)) hbd ?_
  simp only [Act.put, List.setIfInBounds_toArray, List.set_cons_zero, List.set_cons_succ]
  refine at_one (i := 2) (m' := 55) co1reg (by decide) rfl ?_
  refine p_callG (args := #[.int .i64 h]) (d := some 5) rfl (wanted_free rfl) rfl (by simp only [List.map_toArray, List.map_cons, List.map_nil]; rfl) rfl Tryz.call72 ((hh W0.drew).mono ?_)
  rintro e y5 ⟨rfl, g5⟩
  have gm := g5
  have hb5 := keep_trans hbd g5
  refine ⟨_, rfl, hb5, ?_⟩
  simp only [Act.put, List.setIfInBounds_toArray, List.set_cons_zero, List.set_cons_succ]
  refine at_one (i := 3) (m' := 63) co1reg (by decide) rfl ?_
  refine p_callG (args := #[.int .u64 (C : Int), .int .i64 4]) (d := some 6) rfl (wanted_free rfl) rfl (by simp only [List.map_toArray, List.map_cons, List.map_nil]; rfl) rfl Tryz.call21 ((h4 y5).mono ?_)
  rintro e y6 ⟨bv, rfl, ob, g6⟩
  obtain ⟨ba, bc, rfl, _⟩ := ob.row.opens (be4_len C)
  have hb6 := keep_trans hb5 g6
  refine ⟨_, rfl, hb6, ?_⟩
  simp only [Act.put, List.setIfInBounds_toArray, List.set_cons_zero, List.set_cons_succ]
  refine at_one (i := 6) (m' := 127) co1reg (by decide) rfl ?_
  refine p_callG (args := #[.int .i64 x]) (d := some 9) rfl (wanted_free rfl) rfl (by simp only [List.map_toArray, List.map_cons, List.map_nil]; rfl) rfl Tryz.call73 ((hw y6).mono ?_)
  rintro e y7 ⟨rfl, g7⟩
  have gm := g7
  have hb7 := keep_trans hb6 g7
  refine ⟨_, rfl, hb7, ?_⟩
  simp only [Act.put, List.setIfInBounds_toArray, List.set_cons_zero, List.set_cons_succ]
  refine at_one (i := 7) (m' := 255) co1reg (by decide) rfl ?_
  refine p_callG (args := #[.int .u64 (D : Int), .int .i64 4]) (d := some 10) rfl (wanted_free rfl) rfl (by simp only [List.map_toArray, List.map_cons, List.map_nil]; rfl) rfl Tryz.call21 ((h5 y7).mono ?_)
  rintro e y8 ⟨dv, rfl, od, g8⟩
  have gd := g8
  obtain ⟨da, dc, rfl, _⟩ := od.row.opens (be4_len D)
  have hb8 := keep_trans hb7 g8
  refine ⟨_, rfl, hb8, ?_⟩
  simp only [Act.put, List.setIfInBounds_toArray, List.set_cons_zero, List.set_cons_succ]
  refine at_one (i := 8) (m' := 511) co1reg (by decide) rfl ?_
  refine p_build2G (d := some 11) rfl (wanted_free rfl) rfl rfl rfl rfl Tryz.underlying48 hi0 hz1 hz0 ?_
  have hb9 := keep_trans hb8 (keep_alloc y8 (.cells #[.slice ba 4 bc, .slice da 4 dc] 23))
  have rr := rows_litL (B := y8.heap.size) (k := 2) (texts_cons ((ob.row).below (keep_trans gm gd)) ob.tidy (texts_cons od.row od.tidy (Texts.nil _))) rfl rfl (by decide)
  refine ⟨hb9, ?_⟩
  simp only [Act.put, List.setIfInBounds_toArray, List.set_cons_zero, List.set_cons_succ]
  refine at_one (i := 9) (m' := 1023) co1reg (by decide) rfl ?_
  refine p_callG (args := #[.slice (some ⟨y8.heap.size, 0, none⟩) 2 2]) (d := some 12) rfl (wanted_free rfl) rfl (by simp only [List.map_toArray, List.map_cons, List.map_nil]; rfl) rfl Tryz.call20 ((hj (y8.alloc (.cells #[.slice ba 4 bc, .slice da 4 dc] 23)) _ rr).mono ?_)
  rintro e y10 ⟨jv, rfl, oj, g10⟩
  obtain ⟨ja, jc, rfl, _⟩ := oj.row.opens (N := 8) (by simp [be4_len])
  have hb10 := keep_trans hb9 g10
  refine ⟨_, rfl, hb10, ?_⟩
  simp only [Act.put, List.setIfInBounds_toArray, List.set_cons_zero, List.set_cons_succ]
  refine at_takeD (i := 10) (m' := 2047) (d := some 2) (v := .slice ja 8 jc) co1reg rfl (by decide) rfl rfl (y_assignG (wanted_free rfl) rfl rfl) hb10 ?_
  simp only [Act.put, List.setIfInBounds_toArray, List.set_cons_zero, List.set_cons_succ]
  refine at_done co1reg (by decide) ?_
  go_wp2
  go_ret
  exact ⟨_, rfl, oj.mono (keep_trans k0 hb9).size, keep_trans k0 hb10⟩
end Go.Proofs.YtogiballdmgcpaaGreatDoor
