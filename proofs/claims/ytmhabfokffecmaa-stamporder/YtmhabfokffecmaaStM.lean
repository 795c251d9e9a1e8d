/- Plain facts on the calendar: days, months, years. -/
import Derived.Test.YtmhabfokffecmaaBase
namespace Go.Proofs.Ytmhabfokffecmaa
open Go.RowKit
set_option linter.unusedVariables false

/-- has a year a 29th of February? -/
def leapY (y : Nat) : Bool := decide ((y % 4 = 0 ∧ y % 100 ≠ 0) ∨ y % 400 = 0)
/-- how many days a month has, of any year -/
def dimY (y m : Nat) : Nat := if m = 2 then (if leapY y = true then 29 else 28) else if m = 4 ∨ m = 6 ∨ m = 9 ∨ m = 11 then 30 else if 1 ≤ m ∧ m ≤ 12 then 31 else 0
/-- what Days tells -/
def daysS (y m : Int) : Nat := if y < 1 ∨ 9999 < y ∨ m < 1 ∨ 12 < m then 0 else dimY y.toNat m.toNat
/-- how many days are ahead of a year -/
def yrs (y : Nat) : Nat := (y - 1) * 365 + (y - 1) / 4 - (y - 1) / 100 + (y - 1) / 400
/-- how many days of its year are ahead of a month -/
def mon (y : Nat) : Nat → Nat
  | 0 => 0
  | m + 1 => mon y m + dimY y m
/-- a day's number, from the first one on -/
def dayNo (y m d : Nat) : Nat := yrs y + mon y m + (d - 1)
/-- a date that is -/
def DateOk (y m d : Nat) : Prop := 1 ≤ y ∧ y ≤ 9999 ∧ 1 ≤ m ∧ m ≤ 12 ∧ 1 ≤ d ∧ d ≤ dimY y m

theorem leap_true {y : Nat} (h : leapY y = true) : (y % 4 = 0 ∧ y % 100 ≠ 0) ∨ y % 400 = 0 := of_decide_eq_true h
theorem leap_false {y : Nat} (h : leapY y = false) : ¬ ((y % 4 = 0 ∧ y % 100 ≠ 0) ∨ y % 400 = 0) := of_decide_eq_false h

theorem yrs_succ {y : Nat} (h : 1 ≤ y) : yrs (y + 1) = yrs y + (if leapY y = true then 366 else 365) := by
  unfold yrs
  have e : y + 1 - 1 = y := by omega
  rw [e]
  have d4 : (y % 4 = 0 ∧ y / 4 = (y - 1) / 4 + 1) ∨ (y % 4 ≠ 0 ∧ y / 4 = (y - 1) / 4) := by omega
  have d100 : (y % 100 = 0 ∧ y / 100 = (y - 1) / 100 + 1) ∨ (y % 100 ≠ 0 ∧ y / 100 = (y - 1) / 100) := by omega
  have d400 : (y % 400 = 0 ∧ y / 400 = (y - 1) / 400 + 1) ∨ (y % 400 ≠ 0 ∧ y / 400 = (y - 1) / 400) := by omega
  have r1 : y % 100 = 0 → y % 4 = 0 := by omega
  have r2 : y % 400 = 0 → y % 100 = 0 := by omega
  have l1 : (y - 1) / 100 ≤ (y - 1) / 4 := by omega
  have l2 : y / 100 ≤ y / 4 := by omega
  have hm : (y - 1) * 365 + 365 = y * 365 := by omega
  cases hl : leapY y with
  | true =>
    have hc := leap_true hl
    simp only [if_true]
    generalize y % 4 = a at *
    generalize y % 100 = b at *
    generalize y % 400 = c at *
    generalize y / 4 = a1 at *
    generalize y / 100 = b1 at *
    generalize y / 400 = c1 at *
    generalize (y - 1) / 4 = a2 at *
    generalize (y - 1) / 100 = b2 at *
    generalize (y - 1) / 400 = c2 at *
    omega
  | false =>
    have hc := leap_false hl
    simp only [Bool.false_eq_true, if_false]
    generalize y % 4 = a at *
    generalize y % 100 = b at *
    generalize y % 400 = c at *
    generalize y / 4 = a1 at *
    generalize y / 100 = b1 at *
    generalize y / 400 = c1 at *
    generalize (y - 1) / 4 = a2 at *
    generalize (y - 1) / 100 = b2 at *
    generalize (y - 1) / 400 = c2 at *
    omega
theorem dim_two (y : Nat) : dimY y 2 = if leapY y = true then 29 else 28 := by simp [dimY]
theorem mon_year (y : Nat) : mon y 13 = if leapY y = true then 366 else 365 := by
  simp only [mon, dimY]
  cases leapY y <;> decide
theorem dim_le (y m : Nat) : dimY y m ≤ 31 := by unfold dimY; (repeat' split) <;> omega
theorem dim_pos {y m : Nat} (h1 : 1 ≤ m) (h2 : m ≤ 12) : 28 ≤ dimY y m := by unfold dimY; (repeat' split) <;> omega
theorem mon_mono (y : Nat) {a b : Nat} (h : a ≤ b) : mon y a ≤ mon y b := by
  induction h with
  | refl => exact Nat.le_refl _
  | step _ ih => exact Nat.le_trans ih (Nat.le_add_right _ _)
theorem mon_le {y m d : Nat} (hm : m ≤ 12) (hd : d ≤ dimY y m) (h0 : 1 ≤ d) : mon y m + (d - 1) < mon y 13 := by
  have h1 : mon y (m + 1) ≤ mon y 13 := mon_mono y (by omega)
  have h2 : mon y (m + 1) = mon y m + dimY y m := rfl
  omega
theorem yrs_mono {a b : Nat} (h1 : 1 ≤ a) (h : a ≤ b) : yrs a ≤ yrs b := by
  induction h with
  | refl => exact Nat.le_refl _
  | @step m h ih =>
    have hs := yrs_succ (y := m) (Nat.le_trans h1 h)
    show yrs a ≤ yrs (m + 1)
    split at hs <;> omega
theorem yrs_next {y : Nat} (h : 1 ≤ y) : yrs (y + 1) = yrs y + mon y 13 := by rw [yrs_succ h, mon_year]

/-- a date ahead of another has the lesser number -/
theorem day_lt {y m d y' m' d' : Nat} (h : DateOk y m d) (h' : DateOk y' m' d') (hl : y < y' ∨ (y = y' ∧ (m < m' ∨ (m = m' ∧ d < d')))) : dayNo y m d < dayNo y' m' d' := by
  obtain ⟨a1, a2, a3, a4, a5, a6⟩ := h
  obtain ⟨b1, b2, b3, b4, b5, b6⟩ := h'
  unfold dayNo
  rcases hl with hl | ⟨rfl, hl | ⟨rfl, hl⟩⟩
  · have e1 := mon_le a4 a6 a5
    have e2 := yrs_next a1
    have e3 := yrs_mono (a := y + 1) (b := y') (by omega) (by omega)
    omega
  · have e1 : mon y (m + 1) ≤ mon y m' := mon_mono y (by omega)
    have e2 : mon y (m + 1) = mon y m + dimY y m := rfl
    omega
  · omega
theorem day_inj {y m d y' m' d' : Nat} (h : DateOk y m d) (h' : DateOk y' m' d') (he : dayNo y m d = dayNo y' m' d') : y = y' ∧ m = m' ∧ d = d' := by
  by_cases c1 : y < y'
  · have := day_lt h h' (.inl c1); omega
  by_cases c2 : y' < y
  · have := day_lt h' h (.inl c2); omega
  obtain rfl : y = y' := by omega
  by_cases c3 : m < m'
  · have := day_lt h h' (.inr ⟨rfl, .inl c3⟩); omega
  by_cases c4 : m' < m
  · have := day_lt h' h (.inr ⟨rfl, .inl c4⟩); omega
  obtain rfl : m = m' := by omega
  by_cases c5 : d < d'
  · have := day_lt h h' (.inr ⟨rfl, .inr ⟨rfl, c5⟩⟩); omega
  by_cases c6 : d' < d
  · have := day_lt h' h (.inr ⟨rfl, .inr ⟨rfl, c6⟩⟩); omega
  exact ⟨rfl, rfl, by omega⟩
theorem day_max {y m d : Nat} (h : DateOk y m d) : dayNo y m d ≤ 3652058 := by
  obtain ⟨a1, a2, a3, a4, a5, a6⟩ := h
  unfold dayNo
  have e1 := mon_le a4 a6 a5
  have e2 := yrs_next a1
  have e3 := yrs_mono (a := y + 1) (b := 10000) (by omega) (by omega)
  have e4 : yrs 10000 = 3652059 := by decide
  omega

/-- the year of a day: the last one that begins no later -/
theorem year_ex (n : Nat) (hn : n ≤ 3652058) : ∃ y, 1 ≤ y ∧ y ≤ 9999 ∧ yrs y ≤ n ∧ n < yrs (y + 1) := by
  have key : ∀ k, k ≤ 9999 → n < yrs (k + 1) → ∃ y, 1 ≤ y ∧ y ≤ 9999 ∧ yrs y ≤ n ∧ n < yrs (y + 1) := by
    intro k
    induction k with
    | zero => intro _ h; rw [show yrs (0 + 1) = 0 by decide] at h; omega
    | succ k ih =>
      intro hk h
      by_cases hy : yrs (k + 1) ≤ n
      · exact ⟨k + 1, by omega, hk, hy, h⟩
      · exact ih (by omega) (by omega)
  exact key 9999 (Nat.le_refl _) (by rw [show yrs (9999 + 1) = 3652059 by decide]; omega)
theorem month_ex (y r : Nat) (hr : r < mon y 13) : ∃ m, 1 ≤ m ∧ m ≤ 12 ∧ mon y m ≤ r ∧ r < mon y (m + 1) := by
  have key : ∀ k, k ≤ 12 → r < mon y (k + 1) → ∃ m, 1 ≤ m ∧ m ≤ 12 ∧ mon y m ≤ r ∧ r < mon y (m + 1) := by
    intro k
    induction k with
    | zero => intro _ h; have : mon y (0 + 1) = 0 := by simp [mon, dimY]
              omega
    | succ k ih =>
      intro hk h
      by_cases hy : mon y (k + 1) ≤ r
      · exact ⟨k + 1, by omega, hk, hy, h⟩
      · exact ih (by omega) (by omega)
  exact key 12 (Nat.le_refl _) hr
theorem date_ex (n : Nat) (hn : n ≤ 3652058) : ∃ y m d, DateOk y m d ∧ dayNo y m d = n := by
  obtain ⟨y, h1, h2, h3, h4⟩ := year_ex n hn
  rw [yrs_next h1] at h4
  obtain ⟨m, k1, k2, k3, k4⟩ := month_ex y (n - yrs y) (by omega)
  have e : mon y (m + 1) = mon y m + dimY y m := rfl
  refine ⟨y, m, n - yrs y - mon y m + 1, ⟨h1, h2, k1, k2, by omega, by omega⟩, ?_⟩
  unfold dayNo
  omega
end Go.Proofs.Ytmhabfokffecmaa
