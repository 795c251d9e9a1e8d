/- Trees of leaves that sign once, the program's own: typecodes, Fit, Size, where a signature's parts lie. -/
import Derived.Test.YtogiballdmgcpaaGreatDoorLtR3
import Derived.Test.YtogiballdmgcpaaGreatDoorLcA
import Derived.Test.YtogiballdmgcpaaGreatDoorBase
import Derived.RangeFuncBox
import Derived.RangeFuncNested
import Derived.RangeFuncBound
import Derived.RangeFuncCalls
import Derived.RangeFuncLeaves
import Derived.Shelf.Abstract
import Derived.OwnWalkIn
import Derived.Test.YtogiballdmgcpaaGreatDoorProg
namespace Go.Proofs.YtogiballdmgcpaaGreatDoor
open Go.RowKit
set_option linter.unusedVariables false
set_option linter.unusedSimpArgs false

set_option maxHeartbeats 4000000 in
set_option maxRecDepth 100000 in
theorem chc_any (h : Int) (w : World) : Calls Tryz.prog 72 #[.int .i64 h] w fun e w' => e = .returned (.int .u64 (lmCode h : Nat)) ∧ w' = w := by
  by_cases h1 : 1 ≤ h
  · by_cases h4 : h ≤ 4
    · obtain ⟨n, rfl⟩ : ∃ n : Nat, h = (n : Int) := ⟨h.toNat, by omega⟩
      obtain ⟨C, hC⟩ : ∃ C : Nat, C = 3758096384 + n := ⟨_, rfl⟩
      have e0 : lmCode (n : Int) = C := by unfold lmCode; rw [if_pos ⟨h1, h4⟩, hC]; rfl
      rw [e0]
      have u_n : IntKind.u64.wrap (n : Int) = (n : Int) := by rw [IntKind.wrap_u64]; omega
      have e_C : (3758096384 : Int) + (n : Int) = (C : Int) := by omega
      have u_C : IntKind.u64.wrap (C : Int) = (C : Int) := by rw [IntKind.wrap_u64]; omega
      clear hC e0
      go_enter Tryz.func72, Tryz.ntmps72
      go_wp2
      go_ret
      exact ⟨rfl, rfl⟩
    · have h5 : 5 ≤ h := by omega
      by_cases h25 : h ≤ 25
      · by_cases hm : h % 5 = 0
        · have hk : h = 5 ∨ h = 10 ∨ h = 15 ∨ h = 20 ∨ h = 25 := by omega
          clear h1 h4 h5 h25 hm
          rcases hk with hk | hk | hk | hk | hk <;> subst hk
          all_goals
            go_enter Tryz.func72, Tryz.ntmps72
            go_wp2
            go_ret
            exact ⟨rfl, rfl⟩
        · have e0 : lmCode h = 0 := by unfold lmCode; rw [if_neg (by omega), if_neg (by omega)]
          rw [e0]
          have hb : (h % 5 == 0) = false := by simp [hm]
          have ht : ¬ h.tmod 5 = 0 := by rw [Int.tmod_eq_emod_of_nonneg (by omega)]; exact hm
          clear e0
          go_enter Tryz.func72, Tryz.ntmps72
          go_wp2
          go_ret
          exact ⟨rfl, rfl⟩
      · have e0 : lmCode h = 0 := by unfold lmCode; rw [if_neg (by omega), if_neg (by omega)]
        rw [e0]
        clear e0
        go_enter Tryz.func72, Tryz.ntmps72
        go_wp2
        go_ret
        exact ⟨rfl, rfl⟩
  · have e0 : lmCode h = 0 := by unfold lmCode; rw [if_neg (by omega), if_neg (by omega)]
    rw [e0]
    have h5 : ¬ 5 ≤ h := by omega
    clear e0
    go_enter Tryz.func72, Tryz.ntmps72
    go_wp2
    go_ret
    exact ⟨rfl, rfl⟩
/-- a leaf's typecode by its width -/
def wdC (x : Int) : Nat := if x = 1 then 1 else if x = 2 then 2 else if x = 4 then 3 else if x = 8 then 4 else 0
theorem wdC_nat (k : Nat) : wdC (k : Int) = kdC k := by
  unfold wdC kdC
  by_cases h1 : k = 1
  · subst h1; rfl
  by_cases h2 : k = 2
  · subst h2; rfl
  by_cases h4 : k = 4
  · subst h4; rfl
  by_cases h8 : k = 8
  · subst h8; rfl
  rw [if_neg (by omega), if_neg (by omega), if_neg (by omega), if_neg (by omega), if_neg h1, if_neg h2, if_neg h4, if_neg h8]
theorem wdC_sz (x : Int) : wdC x = 0 ↔ szW x = 0 := by
  unfold wdC szW
  repeat' split
  all_goals simp
set_option maxHeartbeats 4000000 in
set_option maxRecDepth 100000 in
theorem cwc_any (x : Int) (w : World) : Calls Tryz.prog 73 #[.int .i64 x] w fun e w' => e = .returned (.int .u64 (wdC x : Nat)) ∧ w' = w := by
  by_cases h1 : x = 1
  · subst h1
    go_enter Tryz.func73, Tryz.ntmps73
    go_wp2
    go_ret
    exact ⟨rfl, rfl⟩
  by_cases h2 : x = 2
  · subst h2
    go_enter Tryz.func73, Tryz.ntmps73
    go_wp2
    go_ret
    exact ⟨rfl, rfl⟩
  by_cases h4 : x = 4
  · subst h4
    go_enter Tryz.func73, Tryz.ntmps73
    go_wp2
    go_ret
    exact ⟨rfl, rfl⟩
  by_cases h8 : x = 8
  · subst h8
    go_enter Tryz.func73, Tryz.ntmps73
    go_wp2
    go_ret
    exact ⟨rfl, rfl⟩
  have e0 : wdC x = 0 := by unfold wdC; rw [if_neg h1, if_neg h2, if_neg h4, if_neg h8]
  rw [e0]
  go_enter Tryz.func73, Tryz.ntmps73
  go_wp2
  go_ret
  exact ⟨rfl, rfl⟩
set_option maxHeartbeats 4000000 in
set_option maxRecDepth 100000 in
theorem cfitT_any (h x : Int) (w : World) : Calls Tryz.prog 41 #[.agg #[.int .i64 h, .int .i64 x]] w fun e w' => e = .returned (.bool (decide (FitL h x))) ∧ Below w.heap.size w w' := by
  have hc := fun y => chc_any h y
  have hs := fun y => cwc_any x y
  by_cases h1 : lmCode h = 0
  · have hd : decide (FitL h x) = false := decide_eq_false fun hh => hh.1 h1
    rw [hd]
    rw [h1] at hc
    clear hd h1
    go_enter Tryz.func41, Tryz.ntmps41
    go_wp2_with (first | (go_at_call 72; refine (hc _).mono ?_; rintro e yy ⟨rfl, hy⟩; obtain rfl := hy.symm) | fail)
    go_ret
    exact ⟨rfl, keep_alloc _ _⟩
  · obtain ⟨C, hC⟩ : ∃ C, C = lmCode h := ⟨_, rfl⟩
    obtain ⟨Z, hZ⟩ : ∃ Z, Z = wdC x := ⟨_, rfl⟩
    have hCb : ((C : Int) != 0) = true := by have : C ≠ 0 := by rw [hC]; exact h1
                                             simp [this]
    have hd : decide (FitL h x) = ((Z : Int) != 0) := by
      by_cases hz : Z = 0
      · rw [decide_eq_false (fun hh => hh.2 ((wdC_sz x).1 (by rw [← hZ]; exact hz)))]; simp [hz]
      · rw [decide_eq_true ⟨h1, fun e => hz (by rw [hZ]; exact (wdC_sz x).2 e)⟩]; simp [hz]
    rw [hd]
    rw [← hC] at hc
    rw [← hZ] at hs
    clear hd h1 hC hZ
    go_enter Tryz.func41, Tryz.ntmps41
    go_wp2_with (first
      | (go_at_call 72; refine (hc _).mono ?_; rintro e yy ⟨rfl, hy⟩; obtain rfl := hy.symm)
      | (go_at_call 73; refine (hs _).mono ?_; rintro e yy ⟨rfl, hy⟩; obtain rfl := hy.symm)
      | fail)
    go_ret
    exact ⟨rfl, keep_alloc _ _⟩
theorem csizeW (x : Int) (w : World) : Calls Tryz.prog 98 #[.int .i64 x] w fun e w' => e = .returned (.int .i64 (szW x : Nat)) ∧ Below w.heap.size w w' := by
  rcases kd_or x with h | ⟨k, n, m, s, c, rfl, h⟩
  · have e0 : szW x = 0 := by
      obtain ⟨h1, h2, h4, h8⟩ := h
      unfold szW
      rw [if_neg h1, if_neg h2, if_neg h4, if_neg h8]
    rw [e0]
    exact csize_no x w h
  · have e0 : szW (k : Int) = 36 + 32 * (n + m) := by cases h <;> rfl
    rw [e0]
    exact csize_ok h rfl w
theorem szW_le (x : Int) : szW x ≤ 8516 := by
  unfold szW; repeat' split
  all_goals omega
set_option maxHeartbeats 2000000 in
set_option maxRecDepth 100000 in
theorem ccodeAt (x : Int) (w : World) : Calls Tryz.prog 62 #[.int .i64 x] w fun e w' => e = .returned (.int .i64 ((4 + szW x : Nat) : Int)) ∧ Below w.heap.size w w' := by
  have hs := fun y => csizeW x y
  have hl := szW_le x
  obtain ⟨Z, hZ⟩ : ∃ Z, Z = szW x := ⟨_, rfl⟩
  rw [← hZ] at hs hl ⊢
  obtain ⟨A, hA⟩ : ∃ A : Nat, A = 4 + Z := ⟨_, rfl⟩
  have e_A : (4 : Int) + (Z : Int) = (A : Int) := by omega
  have s_A : IntKind.i64.wrap (A : Int) = (A : Int) := by rw [IntKind.wrap_i64]; omega
  rw [← hA]
  clear hZ hA hl
  go_enter Tryz.func62, Tryz.ntmps62
  go_wp2_with (first | (go_at_call 98; refine (hs _).mono ?_; rintro e w1 ⟨rfl, hb1⟩) | fail)
  go_ret
  exact ⟨rfl, hb1⟩
set_option maxHeartbeats 2000000 in
set_option maxRecDepth 100000 in
theorem cbesideAt (x : Int) (w : World) : Calls Tryz.prog 65 #[.int .i64 x] w fun e w' => e = .returned (.int .i64 ((8 + szW x : Nat) : Int)) ∧ Below w.heap.size w w' := by
  have hs := fun y => ccodeAt x y
  have hl := szW_le x
  obtain ⟨Z, hZ⟩ : ∃ Z, Z = 4 + szW x := ⟨_, rfl⟩
  rw [← hZ] at hs
  obtain ⟨A, hA⟩ : ∃ A : Nat, A = 8 + szW x := ⟨_, rfl⟩
  have e_A : (Z : Int) + (4 : Int) = (A : Int) := by omega
  have s_A : IntKind.i64.wrap (A : Int) = (A : Int) := by rw [IntKind.wrap_i64]; omega
  rw [← hA]
  clear hZ hA hl
  go_enter Tryz.func65, Tryz.ntmps65
  go_wp2_with (first | (go_at_call 62; refine (hs _).mono ?_; rintro e w1 ⟨rfl, hb1⟩) | fail)
  go_ret
  exact ⟨rfl, hb1⟩
def sz3lt : List Lt := [(0, some 6, [1]), (1, some 7, [6]), (2, some 8, [7]), (0, some 9, [1]), (8, some 10, [9]), (16, some 11, [10]), (36, some 12, [8, 11]), (127, some 2, [12])]
theorem sz3reg : Reg (opsA (cLA (cRA (cRA (Tryz.f58.body.getD .skip))))) sz3lt := ⟨by kernel_rfl, by kernel_rfl⟩
set_option maxHeartbeats 4000000 in
set_option maxRecDepth 100000 in
theorem csizeT_any (h x : Int) (w : World) : Calls Tryz.prog 58 #[.agg #[.int .i64 h, .int .i64 x]] w fun e w' => e = .returned (.int .i64 (szT h x : Nat)) ∧ Below w.heap.size w w' := by
  have hf := fun y => cfitT_any h x y
  have hs := fun y => cbesideAt x y
  by_cases hh : FitL h x
  · have hp := hh.pos
    rw [decide_eq_true hh] at hf
    obtain ⟨n, rfl⟩ : ∃ n : Nat, h = (n : Int) := ⟨h.toNat, by omega⟩
    have e0 : szT (n : Int) x = (8 + szW x) + 32 * n := by unfold szT; rw [if_pos hh]; show 8 + 32 * n + szW x = _; omega
    rw [e0]
    obtain ⟨Z, hZ⟩ : ∃ Z, Z = 8 + szW x := ⟨_, rfl⟩
    rw [← hZ] at hs ⊢
    obtain ⟨A, hA⟩ : ∃ A : Nat, A = 32 * n := ⟨_, rfl⟩
    obtain ⟨B, hB⟩ : ∃ B : Nat, B = Z + A := ⟨_, rfl⟩
    have e_A : IntKind.i64.wrap ((n : Int) * 32) = (A : Int) := by rw [IntKind.wrap_i64]; omega
    have e_B : IntKind.i64.wrap ((Z : Int) + (A : Int)) = (B : Int) := by rw [IntKind.wrap_i64]; omega
    rw [← hA, ← hB]
    clear e0 hh hp hZ hA hB
    have bN := Bx2T.new w (.int .i64 (n : Int)) (.int .i64 x)
    go_enter Tryz.func58, Tryz.ntmps58
    go_wp2_with (first
      | (go_at_call 41; refine (hf _).mono ?_; rintro e w1 ⟨rfl, hb1⟩; have b1 := bN.below hb1)
      | fail)
    have hbd : Below w1.heap.size w1 w1.drew := (Below.refl _ _).drew
    refine at_begin (ops := opsA (cLA (cRA (cRA (Tryz.f58.body.getD .skip))))) (n := 8) (fun y => Below w1.heap.size w1 y) (by kernel_rfl) (by kernel_rfl) ?_
    refine at_takeD (i := 0) (m' := 1) (d := some 6) (v := .pointer (some ⟨w.heap.size, 1, none⟩)) sz3reg rfl (by decide) rfl rfl (y_fieldG (wanted_free rfl) rfl rfl (fun w => by simp [go_sem])) hbd ?_
    simp only [Act.put, List.setIfInBounds_toArray, List.set_cons_zero, List.set_cons_succ]
    refine at_takeD (i := 1) (m' := 3) (d := some 7) (v := .int .i64 x) sz3reg rfl (by decide) rfl rfl (y_plainG (wanted_free rfl) rfl rfl Tryz.underlying3 rfl (fun _ h => (b1.below h).c1)) hbd ?_
    simp only [Act.put, List.setIfInBounds_toArray, List.set_cons_zero, List.set_cons_succ]
    refine at_takeD (i := 3) (m' := 11) (d := some 9) (v := .pointer (some ⟨w.heap.size, 0, none⟩)) sz3reg rfl (by decide) rfl rfl (y_fieldG (wanted_free rfl) rfl rfl (fun w => by simp [go_sem])) hbd ?_
    simp only [Act.put, List.setIfInBounds_toArray, List.set_cons_zero, List.set_cons_succ]
    refine at_takeD (i := 4) (m' := 27) (d := some 10) (v := .int .i64 (n : Int)) sz3reg rfl (by decide) rfl rfl (y_plainG (wanted_free rfl) rfl rfl Tryz.underlying3 rfl (fun _ h => (b1.below h).c0)) hbd ?_
    simp only [Act.put, List.setIfInBounds_toArray, List.set_cons_zero, List.set_cons_succ]
    refine at_takeD (i := 5) (m' := 59) (d := some 11) (v := .int .i64 (A : Int)) sz3reg rfl (by decide) rfl rfl (y_mulI (wanted_free rfl) rfl rfl rfl Tryz.underlying3 e_A) hbd ?_
    simp only [Act.put, List.setIfInBounds_toArray, List.set_cons_zero, List.set_cons_succ]
    refine at_one (i := 2) (m' := 63) sz3reg (by decide) rfl ?_
    refine p_callG (args := #[.int .i64 x]) (d := some 8) rfl (wanted_free rfl) rfl (by simp only [List.map_toArray, List.map_cons, List.map_nil]; rfl) rfl Tryz.call65 ((hs w1.drew).mono ?_)
    rintro e y6 ⟨rfl, g6⟩
    have hb6 := keep_trans hbd g6
    refine ⟨_, rfl, hb6, ?_⟩
    simp only [Act.put, List.setIfInBounds_toArray, List.set_cons_zero, List.set_cons_succ]
    refine at_takeD (i := 6) (m' := 127) (d := some 12) (v := .int .i64 (B : Int)) sz3reg rfl (by decide) rfl rfl (y_addI (wanted_free rfl) rfl rfl rfl Tryz.underlying3 e_B) hb6 ?_
    simp only [Act.put, List.setIfInBounds_toArray, List.set_cons_zero, List.set_cons_succ]
    refine at_takeD (i := 7) (m' := 255) (d := some 2) (v := .int .i64 (B : Int)) sz3reg rfl (by decide) rfl rfl (y_assignG (wanted_free rfl) rfl rfl) hb6 ?_
    simp only [Act.put, List.setIfInBounds_toArray, List.set_cons_zero, List.set_cons_succ]
    refine at_done sz3reg (by decide) ?_
    go_wp2
    go_ret
    exact ⟨rfl, keep_trans (keep_trans (keep_alloc _ _) hb1) hb6⟩
  · rw [decide_eq_false hh] at hf
    have e0 : szT h x = 0 := if_neg hh
    rw [e0]
    clear e0 hh
    go_enter Tryz.func58, Tryz.ntmps58
    go_wp2_with (first | (go_at_call 41; refine (hf _).mono ?_; rintro e w1 ⟨rfl, hb1⟩) | fail)
    go_ret
    exact ⟨rfl, keep_trans (keep_alloc _ _) hb1⟩
end Go.Proofs.YtogiballdmgcpaaGreatDoor

/- Trees of leaves that sign once, the program's own: the number that has a typecode; a signature's kind. -/
namespace Go.Proofs.YtogiballdmgcpaaGreatDoor
open Go.RowKit
set_option linter.unusedVariables false
set_option linter.unusedSimpArgs false

theorem findN_congr {P Q : Nat → Bool} : ∀ (k f : Nat), (∀ y, f ≤ y → P y = Q y) → findN P f k = findN Q f k
  | 0, _, _ => rfl
  | k + 1, f, h => by
    show (if P f = true then f else findN P (f + 1) k) = (if Q f = true then f else findN Q (f + 1) k)
    rw [h f (Nat.le_refl _), findN_congr k (f + 1) fun y hy => h y (by omega)]
/-- from 0 on, where nothing has typecode 0 but what is none -/
theorem findN_zero {g : Nat → Nat} (h0 : g 0 = 0) (c k : Nat) : findN (fun n => decide (g n = c)) 0 (k + 1) = findN (fun n => decide (g n = c ∧ c ≠ 0)) 1 k := by
  show (if decide (g 0 = c) = true then 0 else findN (fun n => decide (g n = c)) (0 + 1) k) = _
  by_cases hc : c = 0
  · subst hc
    rw [if_pos (by simp [h0])]
    have : ∀ (k f : Nat), findN (fun n => decide (g n = 0 ∧ (0 : Nat) ≠ 0)) f k = 0 := by
      intro k
      induction k with
      | zero => intro f; rfl
      | succ k ih => intro f; show (if _ then f else _) = 0; rw [if_neg (by simp)]; exact ih _
    exact (this _ _).symm
  · rw [if_neg (by rw [h0]; simp; exact fun e => hc e.symm)]
    exact findN_congr _ _ fun y _ => by simp [hc]
def FnZ (P : Nat → Bool) (T k0 : Nat) (vi : Value) (w wr : World) : Prop := ∃ f k : Nat, f + k = T ∧ vi = .int .i64 (f : Int) ∧ findN P f k = k0 ∧ wr = w
set_option maxHeartbeats 4000000 in
set_option maxRecDepth 100000 in
theorem whose_any (F : FuncId) (g : Nat → Nat) (N : Nat) (hN : N ≤ 100) (l : List Nat) (cv : Value) (w : World) (hl : Row .u8 256 w cv l)
    (he : ∀ (args : Array Value) (y : World), (callFunc F args).run Tryz.prog y = .ok (.enter F args) y)
    (hf : ∀ (n : Nat) (y : World), Calls Tryz.prog F #[.int .i64 (n : Int)] y fun e w' => e = .returned (.int .u64 (g n : Nat)) ∧ w' = y) :
    Calls Tryz.prog 114 #[cv, .func (.func F) #[] #[], .int .i64 (N : Int)] w fun e w' => e = .returned (.int .i64 (findN (fun n => decide (g n = numL l)) 0 (N + 1) : Nat)) ∧ w' = w := by
  obtain ⟨M, hM⟩ : ∃ M : Nat, M = N + 1 := ⟨_, rfl⟩
  have e_M : (N : Int) + 1 = (M : Int) := by omega
  have s_M : IntKind.i64.wrap (M : Int) = (M : Int) := by rw [IntKind.wrap_i64]; omega
  rw [← hM]
  have hn := num_any _ _ _ hl
  obtain ⟨c, hc⟩ : ∃ c, c = numL l := ⟨_, rfl⟩
  rw [← hc] at hn ⊢
  obtain ⟨P, hP⟩ : ∃ P : Nat → Bool, P = fun n => decide (g n = c) := ⟨_, rfl⟩
  rw [← hP]
  obtain ⟨R, hR⟩ : ∃ R, R = findN P 0 M := ⟨_, rfl⟩
  rw [← hR]
  have H0 : Hid (FnZ P M R (.int .i64 0) w w) := hide ⟨0, M, by omega, rfl, hR.symm, rfl⟩
  have HP := hide (And.intro hP (And.intro hM hN))
  clear hP hR hc hM hN hl
  go_enter Tryz.func114, Tryz.ntmps114
  go_wp2
  go_loopw [10] (fun vi wr => FnZ P M R vi w wr) (fun vi _ => M - (intOf vi).toNat)
  case atStart => exact H0.out
  case round =>
    obtain ⟨f, k, hfk, rfl, hfn, rfl⟩ := hrel
    clear H0
    by_cases hlt : f < M
    · obtain ⟨k', rfl⟩ : ∃ k', k = k' + 1 := ⟨k - 1, by omega⟩
      have hle : (f : Int) < (M : Int) := by omega
      have hst : (if P f = true then f else findN P (f + 1) k') = R := hfn
      obtain ⟨X, hX⟩ : ∃ X : Nat, X = g f := ⟨_, rfl⟩
      have hcf := hf f
      rw [← hX] at hcf
      have hPf : P f = decide (X = c) := by rw [HP.out.1, hX]
      obtain ⟨I, hI⟩ : ∃ I : Nat, I = f + 1 := ⟨_, rfl⟩
      have e_I : (f : Int) + 1 = (I : Int) := by omega
      have s_I : IntKind.i64.wrap (I : Int) = (I : Int) := by rw [IntKind.wrap_i64]; have := HP.out.2; omega
      have HK := hide (And.intro hst (And.intro hX (And.intro hPf (And.intro hI (And.intro hfk hlt)))))
      by_cases hq : X = c
      · have hqi : (X : Int) = (c : Int) := by omega
        have HQ := hide hq
        clear hst hX hPf hI hfn hfk hlt hq
        go_wp2_with (first
          | (go_at_call 32; refine hn.mono ?_; rintro e yy ⟨rfl, hy⟩; obtain rfl := hy.symm)
          | (refine (hcf _).mono ?_; rintro e yy ⟨rfl, hy⟩; obtain rfl := hy.symm)
          | fail)
        go_ret
        obtain ⟨hst, hX, hPf, hI, hfk, hlt⟩ := HK.out
        exact ⟨by rw [← hst, if_pos (by rw [hPf]; simp [HQ.out])]; rfl, rfl⟩
      · have hqi : ¬ (X : Int) = (c : Int) := by omega
        have HQ := hide hq
        clear hst hX hPf hI hfn hfk hlt hq
        go_wp2_with (first
          | (go_at_call 32; refine hn.mono ?_; rintro e yy ⟨rfl, hy⟩; obtain rfl := hy.symm)
          | (refine (hcf _).mono ?_; rintro e yy ⟨rfl, hy⟩; obtain rfl := hy.symm)
          | fail)
        obtain ⟨hst, hX, hPf, hI, hfk, hlt⟩ := HK.out
        go_roundw
        case rel => exact ⟨f + 1, k', by omega, vint (by omega), by rw [← hst, if_neg (by rw [hPf]; simp [HQ.out])], rfl⟩
        case measure => simp [intOf]; omega
    · obtain rfl : k = 0 := by omega
      have hR0 : R = 0 := hfn.symm
      have hge : ¬ (f : Int) < (M : Int) := by omega
      rw [hR0]
      clear hfn hfk hlt
      go_wp2
      go_ret
      exact ⟨rfl, rfl⟩
set_option maxHeartbeats 4000000 in
set_option maxRecDepth 100000 in
theorem cheightOf (l : List Nat) (cv : Value) (w : World) (hl : Row .u8 256 w cv l) : Calls Tryz.prog 89 #[cv] w fun e w' => e = .returned (.int .i64 (hgtL (numL l) : Nat)) ∧ w' = w := by
  have hw := whose_any 72 (fun n => lmCode (n : Int)) 25 (by decide) l cv w hl (fun args y => by simp [Tryz.call72]) (fun n y => chc_any _ y)
  rw [findN_zero (g := fun n => lmCode (n : Int)) (by decide)] at hw
  have e0 : hgtL (numL l) = findN (fun n => decide (lmCode (n : Int) = numL l ∧ numL l ≠ 0)) 1 25 := rfl
  rw [← e0] at hw
  generalize hgtL (numL l) = R at *
  clear e0
  go_enter Tryz.func89, Tryz.ntmps89
  go_wp2_with (first
    | (go_at_call 114; refine hw.mono ?_; rintro e yy ⟨rfl, hy⟩; obtain rfl := hy.symm)
    | fail)
  go_ret
  exact ⟨rfl, rfl⟩
set_option maxHeartbeats 4000000 in
set_option maxRecDepth 100000 in
theorem cwidthOf (l : List Nat) (cv : Value) (w : World) (hl : Row .u8 256 w cv l) : Calls Tryz.prog 88 #[cv] w fun e w' => e = .returned (.int .i64 (dgtL (numL l) : Nat)) ∧ w' = w := by
  have hw := whose_any 73 kdC 8 (by decide) l cv w hl (fun args y => by simp [Tryz.call73]) (fun n y => by have := cwc_any (n : Int) y; rwa [wdC_nat] at this)
  rw [findN_zero (g := kdC) (by decide)] at hw
  have e0 : dgtL (numL l) = findN (fun n => decide (kdC n = numL l ∧ numL l ≠ 0)) 1 8 := rfl
  rw [← e0] at hw
  generalize dgtL (numL l) = R at *
  clear e0
  go_enter Tryz.func88, Tryz.ntmps88
  go_wp2_with (first
    | (go_at_call 114; refine hw.mono ?_; rintro e yy ⟨rfl, hy⟩; obtain rfl := hy.symm)
    | fail)
  go_ret
  exact ⟨rfl, rfl⟩
end Go.Proofs.YtogiballdmgcpaaGreatDoor

/- A loop over an iterator that is made of another: the contract and the law that serve here. -/
namespace Go.Proofs.YtogiballdmgcpaaGreatDoor
open Go.RowKit Go.Shelf
set_option linter.unusedVariables false
set_option linter.unusedSimpArgs false

/-- all blocks from lo on are as they were -/
structure Kept (lo : Nat) (W W' : World) : Prop where
  size : W.heap.size ≤ W'.heap.size
  block : ∀ k, lo ≤ k → k < W.heap.size → W'.heap[k]? = W.heap[k]?
theorem Kept.trans {lo : Nat} {A B C : World} (h : Kept lo A B) (k : Kept lo B C) : Kept lo A C := ⟨Nat.le_trans h.size k.size, fun i h1 h2 => (k.block i h1 (Nat.lt_of_lt_of_le h2 h.size)).trans (h.block i h1 h2)⟩
theorem Kept.mono {lo lo' : Nat} {A B : World} (h : Kept lo A B) (hl : lo ≤ lo') : Kept lo' A B := ⟨h.size, fun i h1 h2 => h.block i (by omega) h2⟩
theorem Kept.at {lo : Nat} {A B : World} (h : Kept lo A B) {k : Nat} {o : Obj} (hk : lo ≤ k) (h0 : A.heap[k]? = some o) : B.heap[k]? = some o := (h.block k hk (Array.getElem?_eq_some_iff.1 h0).1).trans h0
theorem kept_put {lo : Nat} {W : World} {l : Nat} (o : Obj) (h : l < lo) : Kept lo W (W.putObj l o) := ⟨by simp [World.putObj], fun k h1 h2 => World.putObj_heap_other (by omega)⟩
/-- what a round's body must leave -/
def goesOn (B : Nat) (W : World) (R : World → Prop) : Exit → Act → World → Prop
  | .normal, _, W' => Kept B W W' ∧ R W'
  | _, _, _ => False
end Go.Proofs.YtogiballdmgcpaaGreatDoor

/- A loop over an iterator of the program's own, whose rounds know what has been handed out. -/
namespace Go.Proofs.YtogiballdmgcpaaGreatDoor
open Go.RowKit Go.Shelf
set_option linter.unusedVariables false
set_option linter.unusedSimpArgs false

/-- an iterator that hands out xs, one behind the other, to rounds that go on and turn no block of the iterator's own -/
def OwnPre {α : Type} (m : Nat) (P : Program) (gf : Nat) (lb : Array Value) (encs : α → Array Value) (xs : List α) (V : World → Prop) (w0 : World) : Prop :=
  ∀ (l : Nat) (J : List α → World → Prop) (W : World), Below w0.heap.size w0 W → l < W.heap.size → OwnFrom W.heap.size J → (∀ pre W1, J pre W1 → V W1) →
    (∀ pre x W1, J pre W1 → (pre ++ [x]) <+: xs → W.heap.size ≤ W1.heap.size → YieldAt Fence.wide (m - 1) P l (encs x) W1 fun e W' => e = .returned (.bool true) ∧ J (pre ++ [x]) W' ∧ Kept W.heap.size W1 W') →
    J [] W → CallsIn Fence.wide m P gf (#[.func (.yield l) #[] #[]] ++ lb) W fun e W' => (∃ v, e = .returned v) ∧ J xs W'

theorem range_pre {α : Type} {n : Nat} {P : Program} {g : Operand} {ps : Array Tmp} {assign body : Code} {Q : Exit → Act → World → Prop} {a : Act} {w : World}
    {gf : Nat} {lb : Array Value} (hg : a.eval g = .func (.func gf) #[] lb) (eg : ∀ args w, (callFunc gf args).run P w = .ok (.enter gf args) w)
    {encs : α → Array Value} {xs : List α} {V : World → Prop} (hseq : OwnPre (n - 1) P gf lb encs xs V w) (hps : ∀ x, (encs x).size = ps.size)
    (I : List α → World → Prop) (hI : OwnFrom w.heap.size I) (hV : ∀ pre W, I pre W → V W) (h0 : I [] w)
    (Ax : List α → α → Act → World → Prop) (hAx : ∀ pre x a', OwnFrom w.heap.size (fun (_ : Unit) W => Ax pre x a' W))
    (hassign : ∀ (l : Nat) (pre : List α) (x : α) (W : World) (K : Act → World → Prop), I pre W → (pre ++ [x]) <+: xs → (∀ a' W', Kept w.heap.size W W' → Ax pre x a' W' → K a' W') →
      assign.wpIn (Fence.wide.inRound l) (n - 1 - 1) P (Exit.then K (fun _ _ _ => False)) { tmps := (ps.zip (encs x)).foldl (fun t (p, v) => t.setIfInBounds p v) a.tmps, defers := [] } W)
    (hbody : ∀ (l : Nat) (pre : List α) (x : α) (a' : Act) (W : World), Ax pre x a' W → (pre ++ [x]) <+: xs → body.wpIn (Fence.wide.inRound l) (n - 1 - 1) P (goesOn w.heap.size W (I (pre ++ [x]))) a' W)
    (hdone : ∀ (W : World), I xs W → W.heap[w.heap.size]? = some (.deferred (some [])) → Q .normal { a with defers := { target := .collected w.heap.size, args := #[] } :: a.defers } W) :
    (Code.rangeFunc g ps assign body).wpIn Fence.wide n P Q a w := by
  refine wpIn_rangeFunc fun fn hfn => ?_
  generalize hD : w.heap.size = D at *
  obtain ⟨R0, hR0⟩ : ∃ R0 : Loop, R0 = { state := .ready, pending := none, fn, tmps := a.tmps, params := ps, assign, body, defers := D } := ⟨_, rfl⟩
  obtain ⟨W1, hW1⟩ : ∃ W1, W1 = (w.alloc (.deferred (some []))).alloc (.loop R0) := ⟨_, rfl⟩
  have sz1 : W1.heap.size = D + 2 := by rw [hW1]; simp [hD]
  have kD : W1.heap[D]? = some (.deferred (some [])) := by
    rw [hW1, ← hD]; exact (Below.heap_alloc _ _ _ (by simp)).trans (World.alloc_heap_new w _)
  have kL : W1.heap[D + 1]? = some (.loop R0) := by
    have := World.alloc_heap_new (w.alloc (.deferred (some []))) (.loop R0)
    rw [World.size_alloc, hD] at this
    rw [hW1]; exact this
  have I1 : I [] W1 := by rw [hW1]; exact hI.alloc _ (hI.alloc _ h0)
  have b1 : Below w.heap.size w W1 := by rw [hW1]; exact ((Below.refl _ w).alloc (Nat.le_refl _) _).alloc (by simp) _
  refine ⟨D + 1, [{ target := .collected D, args := #[] }], W1, { target := .fn (.func gf) lb, args := #[.func (.yield (D + 1)) #[] #[]] }, W1, gf, #[.func (.yield (D + 1)) #[] #[]] ++ lb, W1, ?_, ?_, ?_, ?_, ?_, ?_⟩
  · have := run_enterLoop_outer (P := P) (w := w) fn a.tmps ps assign body
    rw [hW1, hR0, ← hD]
    exact this
  · simp only [resolve, hg]
    simp [go_sem]
  · intro f' hf'; trivial
  · simp [invoke, go_sem, eg]
  · intro h; cases h
  refine (hseq (D + 1) (fun pre W => I pre W ∧ W.heap[D + 1]? = some (.loop R0) ∧ W.heap[D]? = some (.deferred (some []))) W1 b1 (by omega) ?_ (fun pre W h => hV pre W h.1) ?_ ⟨I1, kL, kD⟩).mono ?_
  · intro s A B row hs hgr hr
    have hr2 : ∀ r, row = some r → D ≤ r ∧ ∃ o : Obj, A.heap[r]? = some o ∧ o.isCells = false := fun r e => ⟨by have := (hr r e).1; omega, (hr r e).2⟩
    have ne : ∀ k, k < D + 2 → some k ≠ row := fun k hk e => by have := (hr k e.symm).1; omega
    exact ⟨hI s A B row hs.1 hgr hr2, (hgr.block _ (Array.getElem?_eq_some_iff.1 hs.2.1).1 (ne _ (by omega))).trans hs.2.1, (hgr.block _ (Array.getElem?_eq_some_iff.1 hs.2.2).1 (ne _ (by omega))).trans hs.2.2⟩
  · rintro pre x W ⟨i1, kl, kd⟩ hpre hsz
    have hy := run_yield (P := P) (args := encs x) kl (by rw [hR0]; exact hps x)
    rw [hR0] at hy
    refine ⟨fn, _, assign, body, hy, roundIn_of_wpIn hfn (hassign (D + 1) pre x W _ i1 hpre ?_)⟩
    intro a' W2 kf2 ax2
    have kl2 := kf2.at (by omega) kl
    have kd2 := kf2.at (Nat.le_refl _) kd
    refine ⟨_, run_beginRound kl2 (by rw [hR0]), ?_⟩
    obtain ⟨RB, hRB⟩ : ∃ RB : Loop, RB = { R0 with state := .busy } := ⟨_, rfl⟩
    rw [← hRB]
    have lt2 := (Array.getElem?_eq_some_iff.1 kl2).1
    have kl3 : (W2.putObj (D + 1) (.loop RB)).heap[D + 1]? = some (.loop RB) := World.putObj_heap_same lt2
    have kd3 : (W2.putObj (D + 1) (.loop RB)).heap[D]? = some (.deferred (some [])) := (World.putObj_heap_other (by omega)).trans kd2
    have ax3 : Ax pre x a' (W2.putObj (D + 1) (.loop RB)) := (hAx pre x a').putObj (s := ()) _ ax2 (by omega) kl2 rfl
    refine wpIn_mono (hbody (D + 1) pre x a' _ ax3 hpre) ?_
    rintro e a4 W4 hp
    cases e with
    | normal =>
      obtain ⟨kf4, i4⟩ := hp
      have kl4 := kf4.at (by omega) kl3
      have kd4 := kf4.at (Nat.le_refl _) kd3
      have hend := run_endRound (P := P) none kl4
      refine ⟨_, _, hend, rfl, ⟨hI.putObj _ i4 (by omega) kl4 rfl, ?_, (World.putObj_heap_other (by omega)).trans kd4⟩, ?_⟩
      · rw [World.putObj_heap_same (Array.getElem?_eq_some_iff.1 kl4).1, hRB, hR0]
        rfl
      · exact (((kf2.mono (by omega)).trans (kept_put _ (by omega))).trans (kf4.mono (by omega))).trans (kept_put _ (by omega))
    | ret => exact hp.elim
    | exit id => exact hp.elim
    | goto t => exact hp.elim
    | panic ch => exact hp.elim
    | outgrown => exact hp.elim
  · rintro e W2 ⟨⟨v, rfl⟩, i2, kl, kd⟩
    exact ⟨none, _, by have := run_endLoop (P := P) kl (by rw [hR0]; simp); rw [hR0] at this; exact this, hdone _ (hI.putObj _ i2 (by omega) kl rfl) ((World.putObj_heap_other (by omega)).trans kd)⟩
end Go.Proofs.YtogiballdmgcpaaGreatDoor
