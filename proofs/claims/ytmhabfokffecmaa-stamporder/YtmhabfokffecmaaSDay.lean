/- Contracts of Days, leap, daysAhead, years. -/
import Derived.Test.YtmhabfokffecmaaStT
namespace Go.Proofs.Ytmhabfokffecmaa
open Go.RowKit
set_option linter.unusedVariables false

theorem days_none {y m : Int} (h : y < 1 ∨ 9999 < y ∨ m < 1 ∨ 12 < m) : daysS y m = 0 := by unfold daysS; rw [if_pos h]
theorem days_at {y m : Nat} (h1 : 1 ≤ y) (h2 : y ≤ 9999) (h3 : 1 ≤ m) (h4 : m ≤ 12) : daysS (y : Int) (m : Int) = dimY y m := by
  unfold daysS
  rw [if_neg (by omega)]
  rfl
theorem yrs_int (z : Nat) : 365 * (z : Int) + (z : Int) / 4 - (z : Int) / 100 + (z : Int) / 400 = ((yrs (z + 1) : Nat) : Int) := by
  unfold yrs
  rw [show z + 1 - 1 = z by omega]
  omega

set_option maxHeartbeats 1000000 in
theorem leap_any (y : Nat) (w : World) (h : y ≤ 9999) :
    Calls Try.prog 21 #[.int .i64 y] w fun e w' => e = .returned (.bool (leapY y)) ∧ w' = w := by
  by_cases h1 : y % 4 = 0 <;> by_cases h2 : y % 100 = 0 <;> by_cases h3 : y % 400 = 0
  all_goals
    have hl : leapY y = decide ((y % 4 = 0 ∧ y % 100 ≠ 0) ∨ y % 400 = 0) := rfl
    simp only [h1, h2, h3, ne_eq, not_true_eq_false, not_false_eq_true, and_true, and_false, or_false, or_true, decide_true, decide_false, and_self, or_self] at hl
    rw [hl]
    go_enter Try.func21, Try.ntmps21
    go_wp2
    try (go_ret; exact ⟨ret_bool (by first | rfl | (simp; omega)), rfl⟩)

set_option maxHeartbeats 1000000 in
theorem rleap_any (y : Nat) (w : World) (h : y ≤ 9999) :
    Calls Try.prog 22 #[.int .i64 y] w fun e w' => e = .returned (.bool (leapY y)) ∧ w' = w := by
  by_cases h1 : y % 4 = 0 <;> by_cases h2 : y % 100 = 0 <;> by_cases h3 : y % 400 = 0
  all_goals
    have hl : leapY y = decide ((y % 4 = 0 ∧ y % 100 ≠ 0) ∨ y % 400 = 0) := rfl
    simp only [h1, h2, h3, ne_eq, not_true_eq_false, not_false_eq_true, and_true, and_false, or_false, or_true, decide_true, decide_false, and_self, or_self] at hl
    rw [hl]
    go_enter Try.func22, Try.ntmps22
    go_wp2
    try (go_ret; exact ⟨ret_bool (by first | rfl | (simp; omega)), rfl⟩)

set_option maxHeartbeats 1000000 in
theorem days_any (y m : Int) (w : World) :
    Calls Try.prog 11 #[.int .i64 y, .int .i64 m] w fun e w' => e = .returned (.int .i64 (daysS y m : Nat)) ∧ w' = w := by
  by_cases c1 : y < 1
  · rw [days_none (.inl c1)]
    go_enter Try.func11, Try.ntmps11
    go_wp2
    go_ret
    exact ⟨rfl, rfl⟩
  by_cases c2 : 9999 < y
  · rw [days_none (.inr (.inl c2))]
    go_enter Try.func11, Try.ntmps11
    go_wp2
    go_ret
    exact ⟨rfl, rfl⟩
  by_cases c3 : m < 1
  · rw [days_none (.inr (.inr (.inl c3)))]
    go_enter Try.func11, Try.ntmps11
    go_wp2
    go_ret
    exact ⟨rfl, rfl⟩
  by_cases c4 : 12 < m
  · rw [days_none (.inr (.inr (.inr c4)))]
    go_enter Try.func11, Try.ntmps11
    go_wp2
    go_ret
    exact ⟨rfl, rfl⟩
  obtain ⟨y, rfl⟩ : ∃ k : Nat, y = (k : Int) := ⟨y.toNat, by omega⟩
  obtain ⟨m, rfl⟩ : ∃ k : Nat, m = (k : Int) := ⟨m.toNat, by omega⟩
  rw [days_at (by omega) (by omega) (by omega) (by omega)]
  have hy : y ≤ 9999 := by omega
  have hl := leap_any y w hy
  by_cases k2 : m = 2
  · subst k2
    rw [dim_two]
    cases hb : leapY y with
    | true =>
      rw [hb] at hl
      go_enter Try.func11, Try.ntmps11
      go_wp2_with (go_at_call 21; refine hl.mono ?_; rintro e w' ⟨rfl, rfl⟩)
      go_ret
      exact ⟨rfl, rfl⟩
    | false =>
      rw [hb] at hl
      go_enter Try.func11, Try.ntmps11
      go_wp2_with (go_at_call 21; refine hl.mono ?_; rintro e w' ⟨rfl, rfl⟩)
      go_ret
      exact ⟨rfl, rfl⟩
  have g2 : ((m : Int) == 2) = false := by simp; omega
  by_cases k4 : m = 4
  · subst k4
    rw [show dimY y 4 = 30 by simp [dimY]]
    go_enter Try.func11, Try.ntmps11
    go_wp2
    go_ret
    exact ⟨rfl, rfl⟩
  have g4 : ((m : Int) == 4) = false := by simp; omega
  by_cases k6 : m = 6
  · subst k6
    rw [show dimY y 6 = 30 by simp [dimY]]
    go_enter Try.func11, Try.ntmps11
    go_wp2
    go_ret
    exact ⟨rfl, rfl⟩
  have g6 : ((m : Int) == 6) = false := by simp; omega
  by_cases k9 : m = 9
  · subst k9
    rw [show dimY y 9 = 30 by simp [dimY]]
    go_enter Try.func11, Try.ntmps11
    go_wp2
    go_ret
    exact ⟨rfl, rfl⟩
  have g9 : ((m : Int) == 9) = false := by simp; omega
  by_cases k11 : m = 11
  · subst k11
    rw [show dimY y 11 = 30 by simp [dimY]]
    go_enter Try.func11, Try.ntmps11
    go_wp2
    go_ret
    exact ⟨rfl, rfl⟩
  have g11 : ((m : Int) == 11) = false := by simp; omega
  rw [show dimY y m = 31 by unfold dimY; rw [if_neg k2, if_neg (by omega), if_pos (by omega)]]
  go_enter Try.func11, Try.ntmps11
  go_wp2
  go_ret
  exact ⟨rfl, rfl⟩

set_option maxHeartbeats 1000000 in
theorem rdays_any (y m : Int) (w : World) :
    Calls Try.prog 12 #[.int .i64 y, .int .i64 m] w fun e w' => e = .returned (.int .i64 (daysS y m : Nat)) ∧ w' = w := by
  by_cases c1 : y < 1
  · rw [days_none (.inl c1)]
    go_enter Try.func12, Try.ntmps12
    go_wp2
    go_ret
    exact ⟨rfl, rfl⟩
  by_cases c2 : 9999 < y
  · rw [days_none (.inr (.inl c2))]
    go_enter Try.func12, Try.ntmps12
    go_wp2
    go_ret
    exact ⟨rfl, rfl⟩
  by_cases c3 : m < 1
  · rw [days_none (.inr (.inr (.inl c3)))]
    go_enter Try.func12, Try.ntmps12
    go_wp2
    go_ret
    exact ⟨rfl, rfl⟩
  by_cases c4 : 12 < m
  · rw [days_none (.inr (.inr (.inr c4)))]
    go_enter Try.func12, Try.ntmps12
    go_wp2
    go_ret
    exact ⟨rfl, rfl⟩
  obtain ⟨y, rfl⟩ : ∃ k : Nat, y = (k : Int) := ⟨y.toNat, by omega⟩
  obtain ⟨m, rfl⟩ : ∃ k : Nat, m = (k : Int) := ⟨m.toNat, by omega⟩
  rw [days_at (by omega) (by omega) (by omega) (by omega)]
  have hy : y ≤ 9999 := by omega
  have hl := rleap_any y w hy
  by_cases k2 : m = 2
  · subst k2
    rw [dim_two]
    cases hb : leapY y with
    | true =>
      rw [hb] at hl
      go_enter Try.func12, Try.ntmps12
      go_wp2_with (go_at_call 22; refine hl.mono ?_; rintro e w' ⟨rfl, rfl⟩)
      go_ret
      exact ⟨rfl, rfl⟩
    | false =>
      rw [hb] at hl
      go_enter Try.func12, Try.ntmps12
      go_wp2_with (go_at_call 22; refine hl.mono ?_; rintro e w' ⟨rfl, rfl⟩)
      go_ret
      exact ⟨rfl, rfl⟩
  have g2 : ((m : Int) == 2) = false := by simp; omega
  by_cases k4 : m = 4
  · subst k4
    rw [show dimY y 4 = 30 by simp [dimY]]
    go_enter Try.func12, Try.ntmps12
    go_wp2
    go_ret
    exact ⟨rfl, rfl⟩
  have g4 : ((m : Int) == 4) = false := by simp; omega
  by_cases k6 : m = 6
  · subst k6
    rw [show dimY y 6 = 30 by simp [dimY]]
    go_enter Try.func12, Try.ntmps12
    go_wp2
    go_ret
    exact ⟨rfl, rfl⟩
  have g6 : ((m : Int) == 6) = false := by simp; omega
  by_cases k9 : m = 9
  · subst k9
    rw [show dimY y 9 = 30 by simp [dimY]]
    go_enter Try.func12, Try.ntmps12
    go_wp2
    go_ret
    exact ⟨rfl, rfl⟩
  have g9 : ((m : Int) == 9) = false := by simp; omega
  by_cases k11 : m = 11
  · subst k11
    rw [show dimY y 11 = 30 by simp [dimY]]
    go_enter Try.func12, Try.ntmps12
    go_wp2
    go_ret
    exact ⟨rfl, rfl⟩
  have g11 : ((m : Int) == 11) = false := by simp; omega
  rw [show dimY y m = 31 by unfold dimY; rw [if_neg k2, if_neg (by omega), if_pos (by omega)]]
  go_enter Try.func12, Try.ntmps12
  go_wp2
  go_ret
  exact ⟨rfl, rfl⟩

set_option maxHeartbeats 1000000 in
theorem ahead_any (y : Nat) (w : World) (h1 : 1 ≤ y) (h : y ≤ 10000) :
    Calls Try.prog 23 #[.int .i64 y] w fun e w' => e = .returned (.int .i64 (yrs y : Nat)) ∧ w' = w := by
  obtain ⟨z, rfl⟩ : ∃ z, y = z + 1 := ⟨y - 1, by omega⟩
  have g1 : ((z + 1 : Nat) : Int) - 1 = (z : Int) := by omega
  have hy := yrs_int z
  go_enter Try.func23, Try.ntmps23
  go_wp2
  go_ret
  exact ⟨ret_int (by first | exact hy | omega), rfl⟩

set_option maxHeartbeats 1000000 in
theorem ryears_any (y : Nat) (w : World) (h1 : 1 ≤ y) (h : y ≤ 10000) :
    Calls Try.prog 17 #[.int .i64 y] w fun e w' => e = .returned (.int .i64 (yrs y : Nat)) ∧ w' = w := by
  obtain ⟨z, rfl⟩ : ∃ z, y = z + 1 := ⟨y - 1, by omega⟩
  have g1 : ((z + 1 : Nat) : Int) - 1 = (z : Int) := by omega
  have hy := yrs_int z
  go_enter Try.func17, Try.ntmps17
  go_wp2
  go_ret
  exact ⟨ret_int (by first | exact hy | omega), rfl⟩
end Go.Proofs.Ytmhabfokffecmaa
