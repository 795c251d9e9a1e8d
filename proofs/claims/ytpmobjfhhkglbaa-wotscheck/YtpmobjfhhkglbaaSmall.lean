/- Contracts of the small helpers: room, isWidth, holds, such, lowest, packedSize. -/
import Derived.Test.YtpmobjfhhkglbaaBitm
namespace Go.Proofs.Ytpmobjfhhkglbaa
open Go.RowKit
set_option linter.unusedVariables false

/-- may so many numbers of so many bits be in a text of so many bytes? -/
def okB (len : Nat) (w c : Int) : Bool := decide (1 ≤ w ∧ w ≤ 24 ∧ 0 ≤ c ∧ c ≤ (len : Int) * 8 / w)

theorem okB_of {len : Nat} {w c : Int} (h : okB len w c = true) : ∃ W C : Nat, w = W ∧ c = C ∧ 1 ≤ W ∧ W ≤ 24 ∧ C * W ≤ 8 * len := by
  unfold okB at h
  have h := of_decide_eq_true h
  obtain ⟨W, rfl⟩ := Int.eq_ofNat_of_zero_le (show 0 ≤ w by omega)
  obtain ⟨C, rfl⟩ := Int.eq_ofNat_of_zero_le h.2.2.1
  refine ⟨W, C, rfl, rfl, by omega, by omega, ?_⟩
  have h4 := h.2.2.2
  have h5 : C ≤ len * 8 / W := by
    have : ((len : Int) * 8 / (W : Int)) = ((len * 8 / W : Nat) : Int) := by simp
    omega
  have h6 : C * W ≤ len * 8 / W * W := Nat.mul_le_mul_right W h5
  have h7 : len * 8 / W * W ≤ len * 8 := Nat.div_mul_le_self _ _
  omega
theorem okB_mk {len W C : Nat} (h1 : 1 ≤ W) (h2 : W ≤ 24) (h : C * W ≤ 8 * len) : okB len (W : Int) (C : Int) = true := by
  unfold okB
  refine decide_eq_true ⟨by omega, by omega, by omega, ?_⟩
  have : ((len : Int) * 8 / (W : Int)) = ((len * 8 / W : Nat) : Int) := by simp
  rw [this]
  have h3 : C ≤ len * 8 / W := (Nat.le_div_iff_mul_le (by omega)).2 (by omega)
  omega

set_option maxHeartbeats 400000 in
theorem isWidth_any (x : Int) (w : World) : Calls Try.prog 20 #[.int .i64 x] w fun e w' => e = .returned (.bool (decide (1 ≤ x ∧ x ≤ 24))) ∧ w' = w := by
  by_cases h1 : 1 ≤ x
  · by_cases h2 : x ≤ 24
    · go_enter Try.func20, Try.ntmps20
      go_wp2
      go_ret
      exact ⟨ret_bool (by simp [h1, h2]), rfl⟩
    · go_enter Try.func20, Try.ntmps20
      go_wp2
      go_ret
      exact ⟨ret_bool (by symm; apply decide_eq_false; omega), rfl⟩
  · go_enter Try.func20, Try.ntmps20
    go_wp2
    go_ret
    exact ⟨ret_bool (by simp; intro _; omega), rfl⟩

set_option maxHeartbeats 400000 in
theorem holds_any (va : Value) (l : List Nat) (x c : Int) (w : World) (ha : Row .u8 256 w va l) (hl : l.length ≤ 140737488355328)
    (hc0 : -9223372036854775808 ≤ c) (hc1 : c ≤ 9223372036854775807) :
    Calls Try.prog 13 #[va, .int .i64 x, .int .i64 c] w fun e w' => e = .returned (.bool (okB l.length x c)) ∧ w' = w := by
  obtain ⟨a, ca, rfl, ha1, ha2, ha3, ha4⟩ := ha
  unfold maxLen at ha2
  by_cases h1 : 1 ≤ x ∧ x ≤ 24
  · have hd : decide (1 ≤ x ∧ x ≤ 24) = true := by simp [h1]
    obtain ⟨h1, h2⟩ := h1
    by_cases h3 : c < 0
    · go_enter Try.func13, Try.ntmps13
      go_wp2_with (go_at_call 20; refine (isWidth_any _ _).mono ?_; rintro e w' ⟨rfl, rfl⟩)
      go_ret
      exact ⟨ret_bool (by unfold okB; symm; apply decide_eq_false; omega), rfl⟩
    · have h3' : 0 ≤ c := by omega
      go_enter Try.func13, Try.ntmps13
      go_wp2_with (go_at_call 20; refine (isWidth_any _ _).mono ?_; rintro e w' ⟨rfl, rfl⟩)
      go_ret
      exact ⟨ret_bool (by unfold okB; simp [h1, h2, h3']), rfl⟩
  · have hd : decide (1 ≤ x ∧ x ≤ 24) = false := decide_eq_false h1
    go_enter Try.func13, Try.ntmps13
    go_wp2_with (go_at_call 20; refine (isWidth_any _ _).mono ?_; rintro e w' ⟨rfl, rfl⟩)
    go_ret
    exact ⟨ret_bool (by unfold okB; symm; apply decide_eq_false; omega), rfl⟩

theorem mask_and (n W : Nat) (hn : n < 4294967296) (hW : W ≤ 24) : bits BinOp.and IntKind.u32 (n : Int) ((2 ^ W - 1) % 4294967296) = ((n % 2 ^ W : Nat) : Int) := by
  have h2 : 2 ^ W ≤ 2 ^ 24 := Nat.pow_le_pow_right (by decide) hW
  have h3 : (2 : Nat) ^ 24 = 16777216 := by decide
  have h4 := pp W
  have e : (((2 : Int) ^ W - 1) % 4294967296) = ((2 ^ W - 1 : Nat) : Int) := by
    have e1 : ((2 : Int) ^ W) = ((2 ^ W : Nat) : Int) := by simp
    rw [e1]
    omega
  rw [e, u32_and_nat n _ hn (by omega), Nat.and_two_pow_sub_one_eq_mod]

set_option maxHeartbeats 400000 in
theorem lowest_any (n W : Nat) (w : World) (hn : n < 4294967296) (hW : W ≤ 24) :
    Calls Try.prog 15 #[.int .u32 n, .int .i64 W] w fun e w' => e = .returned (.int .u32 ((n % 2 ^ W : Nat) : Int)) ∧ w' = w := by
  go_enter Try.func15, Try.ntmps15
  go_wp2
  go_ret
  exact ⟨ret_int (mask_and n W hn hW), rfl⟩

set_option maxHeartbeats 400000 in
theorem room8_any (c : Nat) (w : World) (hc : c ≤ 140737488355328) :
    Calls Try.prog 16 #[.int .i64 c] w fun e w' => ∃ v, e = .returned v ∧ Own 5 .u8 256 w' w.heap.size v [] ∧ Below w.heap.size w w' := by
  obtain ⟨i0, hi, hz0, hz1, hz2⟩ := info_parts Try.info5
  by_cases h0 : c = 0
  · subst h0
    go_enter Try.func16, Try.ntmps16
    go_wp2
    go_ret
    exact ⟨_, rfl, ⟨World.ownsRow_nil _ _ _ _, fun x hx => by simp at hx⟩, Below.refl _ _⟩
  · have hne : ((c : Int) == 0) = false := by simp; omega
    go_enter Try.func16, Try.ntmps16
    go_wp2_with (first | (at_make; refine wpList_make_own _ rfl _ _ 25 rfl w.heap.size 5 i0 (.int .u8 0) 1 Try.underlying25 hi hz0 hz1 _ _ _ c rfl rfl rfl (by rw [hz2]; omega) (by unfold maxLen; omega) (Nat.le_refl _) ?_; intro w1 hown hgrow) | go_in)
    go_ret
    exact ⟨_, rfl, ⟨hown, fun x hx => by simp at hx⟩, (Below.refl w.heap.size w).grown hgrow (Nat.le_refl _) (fun k h => by cases h)⟩

set_option maxHeartbeats 400000 in
theorem room32_any (c : Nat) (w : World) (hc : c ≤ 70368744177664) :
    Calls Try.prog 14 #[.int .i64 c] w fun e w' => ∃ v, e = .returned v ∧ Own 26 .u32 4294967296 w' w.heap.size v [] ∧ Below w.heap.size w w' := by
  obtain ⟨i0, hi, hz0, hz1, hz2⟩ := info_parts Try.info26
  by_cases h0 : c = 0
  · subst h0
    go_enter Try.func14, Try.ntmps14
    go_wp2
    go_ret
    exact ⟨_, rfl, ⟨World.ownsRow_nil _ _ _ _, fun x hx => by simp at hx⟩, Below.refl _ _⟩
  · have hne : ((c : Int) == 0) = false := by simp; omega
    go_enter Try.func14, Try.ntmps14
    go_wp2_with (first | (at_make; refine wpList_make_own _ rfl _ _ 23 rfl w.heap.size 26 i0 (.int .u32 0) 1 Try.underlying23 hi hz0 hz1 _ _ _ c rfl rfl rfl (by rw [hz2]; omega) (by unfold maxLen; omega) (Nat.le_refl _) ?_; intro w1 hown hgrow) | go_in)
    go_ret
    exact ⟨_, rfl, ⟨hown, fun x hx => by simp at hx⟩, (Below.refl w.heap.size w).grown hgrow (Nat.le_refl _) (fun k h => by cases h)⟩
end Go.Proofs.Ytpmobjfhhkglbaa
