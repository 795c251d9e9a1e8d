/- Plain facts on the calendar: days, months, years. -/
import Derived.Test.YtjkciheoknjfhaaDoorBase
import Derived.Test.YtjkciheoknjfhaaDoorETag
import Derived.Deep.RegionHeld3
import Derived.Deep.AppendLies
import Derived.Laws.EntriesVeiled
namespace Go.Proofs.YtjkciheoknjfhaaDoor
open Go.RowKit
set_option linter.unusedVariables false

/-- has a year a 29th of February? -/
def leapY (y : Nat) : Bool := decide ((y % 4 = 0 ∧ y % 100 ≠ 0) ∨ y % 400 = 0)
/-- how many days a month has, of any year -/
def dimY (y m : Nat) : Nat := if m = 2 then (if leapY y = true then 29 else 28) else if m = 4 ∨ m = 6 ∨ m = 9 ∨ m = 11 then 30 else if 1 ≤ m ∧ m ≤ 12 then 31 else 0
/-- what Days tells -/
def daysS (y m : Int) : Nat := if y < 1 ∨ 9999 < y ∨ m < 1 ∨ 12 < m then 0 else dimY y.toNat m.toNat
/-- how many days are ahead of a year -/
def yrs (y : Nat) : Nat := (y - 1) * 365 + (y - 1) / 4 - (y - 1) / 100 + (y - 1) / 400
/-- how many days of its year are ahead of a month -/
def mon (y : Nat) : Nat → Nat
  | 0 => 0
  | m + 1 => mon y m + dimY y m
/-- a day's number, from the first one on -/
def dayNo (y m d : Nat) : Nat := yrs y + mon y m + (d - 1)
/-- a date that is -/
def DateOk (y m d : Nat) : Prop := 1 ≤ y ∧ y ≤ 9999 ∧ 1 ≤ m ∧ m ≤ 12 ∧ 1 ≤ d ∧ d ≤ dimY y m

theorem leap_true {y : Nat} (h : leapY y = true) : (y % 4 = 0 ∧ y % 100 ≠ 0) ∨ y % 400 = 0 := of_decide_eq_true h
theorem leap_false {y : Nat} (h : leapY y = false) : ¬ ((y % 4 = 0 ∧ y % 100 ≠ 0) ∨ y % 400 = 0) := of_decide_eq_false h

theorem yrs_succ {y : Nat} (h : 1 ≤ y) : yrs (y + 1) = yrs y + (if leapY y = true then 366 else 365) := by
  unfold yrs
  have e : y + 1 - 1 = y := by omega
  rw [e]
  have d4 : (y % 4 = 0 ∧ y / 4 = (y - 1) / 4 + 1) ∨ (y % 4 ≠ 0 ∧ y / 4 = (y - 1) / 4) := by omega
  have d100 : (y % 100 = 0 ∧ y / 100 = (y - 1) / 100 + 1) ∨ (y % 100 ≠ 0 ∧ y / 100 = (y - 1) / 100) := by omega
  have d400 : (y % 400 = 0 ∧ y / 400 = (y - 1) / 400 + 1) ∨ (y % 400 ≠ 0 ∧ y / 400 = (y - 1) / 400) := by omega
  have r1 : y % 100 = 0 → y % 4 = 0 := by omega
  have r2 : y % 400 = 0 → y % 100 = 0 := by omega
  have l1 : (y - 1) / 100 ≤ (y - 1) / 4 := by omega
  have l2 : y / 100 ≤ y / 4 := by omega
  have hm : (y - 1) * 365 + 365 = y * 365 := by omega
  cases hl : leapY y with
  | true =>
    have hc := leap_true hl
    simp only [if_true]
    generalize y % 4 = a at *
    generalize y % 100 = b at *
    generalize y % 400 = c at *
    generalize y / 4 = a1 at *
    generalize y / 100 = b1 at *
    generalize y / 400 = c1 at *
    generalize (y - 1) / 4 = a2 at *
    generalize (y - 1) / 100 = b2 at *
    generalize (y - 1) / 400 = c2 at *
    omega
  | false =>
    have hc := leap_false hl
    simp only [Bool.false_eq_true, if_false]
    generalize y % 4 = a at *
    generalize y % 100 = b at *
    generalize y % 400 = c at *
    generalize y / 4 = a1 at *
    generalize y / 100 = b1 at *
    generalize y / 400 = c1 at *
    generalize (y - 1) / 4 = a2 at *
    generalize (y - 1) / 100 = b2 at *
    generalize (y - 1) / 400 = c2 at *
    omega
theorem dim_two (y : Nat) : dimY y 2 = if leapY y = true then 29 else 28 := by simp [dimY]
theorem mon_year (y : Nat) : mon y 13 = if leapY y = true then 366 else 365 := by
  simp only [mon, dimY]
  cases leapY y <;> decide
theorem dim_le (y m : Nat) : dimY y m ≤ 31 := by unfold dimY; (repeat' split) <;> omega
theorem dim_pos {y m : Nat} (h1 : 1 ≤ m) (h2 : m ≤ 12) : 28 ≤ dimY y m := by unfold dimY; (repeat' split) <;> omega
theorem mon_mono (y : Nat) {a b : Nat} (h : a ≤ b) : mon y a ≤ mon y b := by
  induction h with
  | refl => exact Nat.le_refl _
  | step _ ih => exact Nat.le_trans ih (Nat.le_add_right _ _)
theorem mon_le {y m d : Nat} (hm : m ≤ 12) (hd : d ≤ dimY y m) (h0 : 1 ≤ d) : mon y m + (d - 1) < mon y 13 := by
  have h1 : mon y (m + 1) ≤ mon y 13 := mon_mono y (by omega)
  have h2 : mon y (m + 1) = mon y m + dimY y m := rfl
  omega
theorem yrs_mono {a b : Nat} (h1 : 1 ≤ a) (h : a ≤ b) : yrs a ≤ yrs b := by
  induction h with
  | refl => exact Nat.le_refl _
  | @step m h ih =>
    have hs := yrs_succ (y := m) (Nat.le_trans h1 h)
    show yrs a ≤ yrs (m + 1)
    split at hs <;> omega
theorem yrs_next {y : Nat} (h : 1 ≤ y) : yrs (y + 1) = yrs y + mon y 13 := by rw [yrs_succ h, mon_year]

/-- a date ahead of another has the lesser number -/
theorem day_lt {y m d y' m' d' : Nat} (h : DateOk y m d) (h' : DateOk y' m' d') (hl : y < y' ∨ (y = y' ∧ (m < m' ∨ (m = m' ∧ d < d')))) : dayNo y m d < dayNo y' m' d' := by
  obtain ⟨a1, a2, a3, a4, a5, a6⟩ := h
  obtain ⟨b1, b2, b3, b4, b5, b6⟩ := h'
  unfold dayNo
  rcases hl with hl | ⟨rfl, hl | ⟨rfl, hl⟩⟩
  · have e1 := mon_le a4 a6 a5
    have e2 := yrs_next a1
    have e3 := yrs_mono (a := y + 1) (b := y') (by omega) (by omega)
    omega
  · have e1 : mon y (m + 1) ≤ mon y m' := mon_mono y (by omega)
    have e2 : mon y (m + 1) = mon y m + dimY y m := rfl
    omega
  · omega
theorem day_inj {y m d y' m' d' : Nat} (h : DateOk y m d) (h' : DateOk y' m' d') (he : dayNo y m d = dayNo y' m' d') : y = y' ∧ m = m' ∧ d = d' := by
  by_cases c1 : y < y'
  · have := day_lt h h' (.inl c1); omega
  by_cases c2 : y' < y
  · have := day_lt h' h (.inl c2); omega
  obtain rfl : y = y' := by omega
  by_cases c3 : m < m'
  · have := day_lt h h' (.inr ⟨rfl, .inl c3⟩); omega
  by_cases c4 : m' < m
  · have := day_lt h' h (.inr ⟨rfl, .inl c4⟩); omega
  obtain rfl : m = m' := by omega
  by_cases c5 : d < d'
  · have := day_lt h h' (.inr ⟨rfl, .inr ⟨rfl, c5⟩⟩); omega
  by_cases c6 : d' < d
  · have := day_lt h' h (.inr ⟨rfl, .inr ⟨rfl, c6⟩⟩); omega
  exact ⟨rfl, rfl, by omega⟩
theorem day_max {y m d : Nat} (h : DateOk y m d) : dayNo y m d ≤ 3652058 := by
  obtain ⟨a1, a2, a3, a4, a5, a6⟩ := h
  unfold dayNo
  have e1 := mon_le a4 a6 a5
  have e2 := yrs_next a1
  have e3 := yrs_mono (a := y + 1) (b := 10000) (by omega) (by omega)
  have e4 : yrs 10000 = 3652059 := by decide
  omega

/-- the year of a day: the last one that begins no later -/
theorem year_ex (n : Nat) (hn : n ≤ 3652058) : ∃ y, 1 ≤ y ∧ y ≤ 9999 ∧ yrs y ≤ n ∧ n < yrs (y + 1) := by
  have key : ∀ k, k ≤ 9999 → n < yrs (k + 1) → ∃ y, 1 ≤ y ∧ y ≤ 9999 ∧ yrs y ≤ n ∧ n < yrs (y + 1) := by
    intro k
    induction k with
    | zero => intro _ h; rw [show yrs (0 + 1) = 0 by decide] at h; omega
    | succ k ih =>
      intro hk h
      by_cases hy : yrs (k + 1) ≤ n
      · exact ⟨k + 1, by omega, hk, hy, h⟩
      · exact ih (by omega) (by omega)
  exact key 9999 (Nat.le_refl _) (by rw [show yrs (9999 + 1) = 3652059 by decide]; omega)
theorem month_ex (y r : Nat) (hr : r < mon y 13) : ∃ m, 1 ≤ m ∧ m ≤ 12 ∧ mon y m ≤ r ∧ r < mon y (m + 1) := by
  have key : ∀ k, k ≤ 12 → r < mon y (k + 1) → ∃ m, 1 ≤ m ∧ m ≤ 12 ∧ mon y m ≤ r ∧ r < mon y (m + 1) := by
    intro k
    induction k with
    | zero => intro _ h; have : mon y (0 + 1) = 0 := by simp [mon, dimY]
              omega
    | succ k ih =>
      intro hk h
      by_cases hy : mon y (k + 1) ≤ r
      · exact ⟨k + 1, by omega, hk, hy, h⟩
      · exact ih (by omega) (by omega)
  exact key 12 (Nat.le_refl _) hr
theorem date_ex (n : Nat) (hn : n ≤ 3652058) : ∃ y m d, DateOk y m d ∧ dayNo y m d = n := by
  obtain ⟨y, h1, h2, h3, h4⟩ := year_ex n hn
  rw [yrs_next h1] at h4
  obtain ⟨m, k1, k2, k3, k4⟩ := month_ex y (n - yrs y) (by omega)
  have e : mon y (m + 1) = mon y m + dimY y m := rfl
  refine ⟨y, m, n - yrs y - mon y m + 1, ⟨h1, h2, k1, k2, by omega, by omega⟩, ?_⟩
  unfold dayNo
  omega
end Go.Proofs.YtjkciheoknjfhaaDoor

/- Plain facts on the texts of times. -/
namespace Go.Proofs.YtjkciheoknjfhaaDoor
open Go.RowKit
set_option linter.unusedVariables false

/-- two digits -/
def dd (n : Nat) : List UInt8 := [ch (48 + n / 10), ch (48 + n % 10)]
/-- a date and a second of it, as a text -/
def txt (y m d s : Nat) : List UInt8 := dd (y / 100) ++ (dd (y % 100) ++ (dd m ++ (dd d ++ (dd (s / 3600) ++ (dd (s / 60 % 60) ++ (dd (s % 60) ++ [ch 90]))))))
/-- a date's and a second's time -/
def tim (y m d s : Nat) : Int := -62135596800 + ((dayNo y m d * 86400 + s : Nat) : Int)
/-- a date, and a second of its day -/
def Mom (y m d s : Nat) : Prop := DateOk y m d ∧ s < 86400
/-- the text of a time -/
def TextT (t : Int) (l : List UInt8) : Prop := ((t < -62135596800 ∨ 253402300799 < t) ∧ l = []) ∨ ∃ y m d s, Mom y m d s ∧ t = tim y m d s ∧ l = txt y m d s
/-- what Read tells of a text -/
def ReadT (l : List UInt8) (v e : Int) : Prop := (e = 0 ∧ ∃ y m d s, Mom y m d s ∧ v = tim y m d s ∧ l = txt y m d s) ∨ (e = 1 ∧ v = 0 ∧ ∀ y m d s, Mom y m d s → l ≠ txt y m d s)

theorem ch_inj {a b : Nat} (ha : a < 256) (hb : b < 256) (h : ch a = ch b) : a = b := by
  have := congrArg UInt8.toNat h
  rw [ch_nat ha, ch_nat hb] at this
  exact this
theorem dd_inj {a b : Nat} (ha : a < 100) (hb : b < 100) (h : dd a = dd b) : a = b := by
  unfold dd at h
  have h1 := ch_inj (by omega) (by omega) (List.cons.inj h).1
  have h2 := ch_inj (by omega) (by omega) (List.cons.inj (List.cons.inj h).2).1
  omega
theorem dd_app {a b : Nat} (ha : a < 100) (hb : b < 100) {x y : List UInt8} (h : dd a ++ x = dd b ++ y) : a = b ∧ x = y := by
  have hh := List.append_inj h rfl
  exact ⟨dd_inj ha hb hh.1, hh.2⟩
theorem txt_len (y m d s : Nat) : (txt y m d s).length = 15 := rfl
theorem mom_le {y m d s : Nat} (h : Mom y m d s) : y / 100 < 100 ∧ y % 100 < 100 ∧ m < 100 ∧ d < 100 ∧ s / 3600 < 100 ∧ s / 60 % 60 < 100 ∧ s % 60 < 100 := by
  obtain ⟨⟨a1, a2, a3, a4, a5, a6⟩, a7⟩ := h
  have := dim_le y m
  omega
theorem txt_inj {y m d s y' m' d' s' : Nat} (h : Mom y m d s) (h' : Mom y' m' d' s') (he : txt y m d s = txt y' m' d' s') : y = y' ∧ m = m' ∧ d = d' ∧ s = s' := by
  obtain ⟨a1, a2, a3, a4, a5, a6, a7⟩ := mom_le h
  obtain ⟨b1, b2, b3, b4, b5, b6, b7⟩ := mom_le h'
  unfold txt at he
  obtain ⟨e1, he⟩ := dd_app a1 b1 he
  obtain ⟨e2, he⟩ := dd_app a2 b2 he
  obtain ⟨e3, he⟩ := dd_app a3 b3 he
  obtain ⟨e4, he⟩ := dd_app a4 b4 he
  obtain ⟨e5, he⟩ := dd_app a5 b5 he
  obtain ⟨e6, he⟩ := dd_app a6 b6 he
  obtain ⟨e7, he⟩ := dd_app a7 b7 he
  refine ⟨by omega, e3, e4, ?_⟩
  have f1 : s / 60 / 60 = s / 3600 := by omega
  have f2 : s' / 60 / 60 = s' / 3600 := by omega
  omega
theorem tim_range {y m d s : Nat} (h : Mom y m d s) : -62135596800 ≤ tim y m d s ∧ tim y m d s ≤ 253402300799 := by
  have h1 := day_max h.1
  have h2 := h.2
  unfold tim
  omega
theorem tim_inj {y m d s y' m' d' s' : Nat} (h : Mom y m d s) (h' : Mom y' m' d' s') (he : tim y m d s = tim y' m' d' s') : y = y' ∧ m = m' ∧ d = d' ∧ s = s' := by
  have h1 := h.2
  have h2 := h'.2
  unfold tim at he
  have e : dayNo y m d = dayNo y' m' d' := by omega
  obtain ⟨r1, r2, r3⟩ := day_inj h.1 h'.1 e
  exact ⟨r1, r2, r3, by omega⟩
/-- each time is a date's and a second's -/
theorem tim_ex {t : Int} (h1 : -62135596800 ≤ t) (h2 : t ≤ 253402300799) : ∃ y m d s, Mom y m d s ∧ t = tim y m d s := by
  obtain ⟨n, hn⟩ : ∃ n : Nat, t - -62135596800 = (n : Int) := ⟨(t - -62135596800).toNat, by omega⟩
  obtain ⟨y, m, d, hd, he⟩ := date_ex (n / 86400) (by omega)
  refine ⟨y, m, d, n % 86400, ⟨hd, by omega⟩, ?_⟩
  unfold tim
  rw [he]
  omega
theorem TextT.same {t : Int} {l l' : List UInt8} (h : TextT t l) (h' : TextT t l') : l = l' := by
  rcases h with ⟨h, rfl⟩ | ⟨y, m, d, s, hm, ht, rfl⟩
  · rcases h' with ⟨h', rfl⟩ | ⟨y', m', d', s', hm', ht', rfl⟩
    · rfl
    · have := tim_range hm'; omega
  · rcases h' with ⟨h', rfl⟩ | ⟨y', m', d', s', hm', ht', rfl⟩
    · have := tim_range hm; omega
    · obtain ⟨rfl, rfl, rfl, rfl⟩ := tim_inj hm hm' (ht.symm.trans ht')
      rfl
theorem ReadT.same {l : List UInt8} {v e v' e' : Int} (h : ReadT l v e) (h' : ReadT l v' e') : v = v' ∧ e = e' := by
  rcases h with ⟨rfl, y, m, d, s, hm, rfl, rfl⟩ | ⟨rfl, rfl, hn⟩
  · rcases h' with ⟨rfl, y', m', d', s', hm', rfl, ht⟩ | ⟨rfl, rfl, hn'⟩
    · obtain ⟨rfl, rfl, rfl, rfl⟩ := txt_inj hm hm' ht
      exact ⟨rfl, rfl⟩
    · exact absurd rfl (hn' _ _ _ _ hm)
  · rcases h' with ⟨rfl, y', m', d', s', hm', rfl, ht⟩ | ⟨rfl, rfl, hn'⟩
    · exact absurd ht (hn _ _ _ _ hm')
    · exact ⟨rfl, rfl⟩
/-- there and back -/
theorem back_in {t v e : Int} {l : List UInt8} (h : TextT t l) (hr : ReadT l v e) (h1 : -62135596800 ≤ t) (h2 : t ≤ 253402300799) : e = 0 ∧ v = t := by
  rcases h with ⟨h, _⟩ | ⟨y, m, d, s, hm, rfl, rfl⟩
  · omega
  · rcases hr with ⟨rfl, y', m', d', s', hm', rfl, ht⟩ | ⟨rfl, rfl, hn⟩
    · obtain ⟨rfl, rfl, rfl, rfl⟩ := txt_inj hm hm' ht
      exact ⟨rfl, rfl⟩
    · exact absurd rfl (hn _ _ _ _ hm)
theorem back_out {t v e : Int} {l : List UInt8} (h : TextT t l) (hr : ReadT l v e) (h1 : t < -62135596800 ∨ 253402300799 < t) : e = 1 ∧ l = [] := by
  rcases h with ⟨_, rfl⟩ | ⟨y, m, d, s, hm, rfl, rfl⟩
  · rcases hr with ⟨rfl, y', m', d', s', hm', rfl, ht⟩ | ⟨rfl, rfl, hn⟩
    · exact absurd (congrArg List.length ht) (by rw [txt_len]; simp)
    · exact ⟨rfl, rfl⟩
  · have := tim_range hm; omega
theorem back_read {v : Int} {l l' : List UInt8} (hr : ReadT l v 0) (h : TextT v l') : l' = l := by
  rcases hr with ⟨_, y, m, d, s, hm, rfl, rfl⟩ | ⟨h0, _⟩
  · exact h.same (.inr ⟨y, m, d, s, hm, rfl, rfl⟩)
  · exact absurd h0 (by decide)

/-- the order of texts, digit by digit -/
theorem dd_less {a b : Nat} (ha : a < 100) (hb : b < 100) (x y : List UInt8) : Op.bytesLess (dd a ++ x) (dd b ++ y) = decide (a < b ∨ (a = b ∧ Op.bytesLess x y = true)) := by
  have l1 : (ch (48 + a / 10) < ch (48 + b / 10)) = (a / 10 < b / 10) := by
    rw [UInt8.lt_iff_toNat_lt, ch_nat (by omega), ch_nat (by omega)]; exact propext (by omega)
  have l2 : (ch (48 + a % 10) < ch (48 + b % 10)) = (a % 10 < b % 10) := by
    rw [UInt8.lt_iff_toNat_lt, ch_nat (by omega), ch_nat (by omega)]; exact propext (by omega)
  have q1 : (ch (48 + a / 10) = ch (48 + b / 10)) = (a / 10 = b / 10) := propext ⟨fun h => by have := ch_inj (by omega) (by omega) h; omega, fun h => by rw [h]⟩
  have q2 : (ch (48 + a % 10) = ch (48 + b % 10)) = (a % 10 = b % 10) := propext ⟨fun h => by have := ch_inj (by omega) (by omega) h; omega, fun h => by rw [h]⟩
  show Op.bytesLess (ch (48 + a / 10) :: ch (48 + a % 10) :: x) (ch (48 + b / 10) :: ch (48 + b % 10) :: y) = _
  rw [Op.bytesLess, Op.bytesLess]
  rw [Bool.eq_iff_iff]
  simp only [Bool.or_eq_true, Bool.and_eq_true, decide_eq_true_eq, beq_iff_eq, l1, l2, q1, q2]
  generalize Op.bytesLess x y = b0
  cases b0
  · simp only [Bool.false_eq_true, and_false, or_false]; omega
  · simp only [and_true]; omega
theorem tim_lt {y m d s y' m' d' s' : Nat} (h : Mom y m d s) (h' : Mom y' m' d' s') :
    (y < y' ∨ (y = y' ∧ (m < m' ∨ (m = m' ∧ (d < d' ∨ (d = d' ∧ s < s')))))) ↔ tim y m d s < tim y' m' d' s' := by
  have hs := h.2
  have hs' := h'.2
  have up : ∀ {y m d s y' m' d' s' : Nat}, Mom y m d s → Mom y' m' d' s' → (y < y' ∨ (y = y' ∧ (m < m' ∨ (m = m' ∧ (d < d' ∨ (d = d' ∧ s < s')))))) → tim y m d s < tim y' m' d' s' := by
    intro y m d s y' m' d' s' h h' hl
    have hs := h.2
    have hs' := h'.2
    unfold tim
    by_cases hd : y < y' ∨ (y = y' ∧ (m < m' ∨ (m = m' ∧ d < d')))
    · have := day_lt h.1 h'.1 hd; omega
    · obtain ⟨rfl, rfl, rfl, hlt⟩ : y = y' ∧ m = m' ∧ d = d' ∧ s < s' := by omega
      omega
  refine ⟨up h h', fun hlt => ?_⟩
  apply Classical.byContradiction
  intro hn
  by_cases he : y = y' ∧ m = m' ∧ d = d' ∧ s = s'
  · obtain ⟨rfl, rfl, rfl, rfl⟩ := he
    omega
  · have := up h' h (by omega)
    omega
theorem txt_less {y m d s y' m' d' s' : Nat} (h : Mom y m d s) (h' : Mom y' m' d' s') : Op.bytesLess (txt y m d s) (txt y' m' d' s') = decide (tim y m d s < tim y' m' d' s') := by
  obtain ⟨a1, a2, a3, a4, a5, a6, a7⟩ := mom_le h
  obtain ⟨b1, b2, b3, b4, b5, b6, b7⟩ := mom_le h'
  rw [Bool.eq_iff_iff, decide_eq_true_eq, ← tim_lt h h']
  unfold txt
  have e0 : Op.bytesLess [ch 90] [ch 90] = false := by decide
  simp only [dd_less a1 b1, dd_less a2 b2, dd_less a3 b3, dd_less a4 b4, dd_less a5 b5, dd_less a6 b6, dd_less a7 b7, decide_eq_true_eq, e0, Bool.false_eq_true, and_false, or_false]
  have hs := h.2
  have hs' := h'.2
  have f1 : s / 60 / 60 = s / 3600 := by omega
  have f2 : s' / 60 / 60 = s' / 3600 := by omega
  have k1 : (s < s') ↔ (s / 3600 < s' / 3600 ∨ s / 3600 = s' / 3600 ∧ (s / 60 % 60 < s' / 60 % 60 ∨ s / 60 % 60 = s' / 60 % 60 ∧ s % 60 < s' % 60)) := by omega
  have k2 : (y < y') ↔ (y / 100 < y' / 100 ∨ y / 100 = y' / 100 ∧ y % 100 < y' % 100) := by omega
  have k3 : (y = y') ↔ (y / 100 = y' / 100 ∧ y % 100 = y' % 100) := by omega
  rw [k1, k2, k3]
  generalize y / 100 = p1
  generalize y % 100 = p2
  generalize y' / 100 = q1
  generalize y' % 100 = q2
  generalize (s / 3600 < s' / 3600 ∨ s / 3600 = s' / 3600 ∧ (s / 60 % 60 < s' / 60 % 60 ∨ s / 60 % 60 = s' / 60 % 60 ∧ s % 60 < s' % 60)) = S
  by_cases hS : S <;> simp only [hS, and_true, and_false, or_false] <;> omega
theorem TextT.less {t u : Int} {a b : List UInt8} (ha : TextT t a) (hb : TextT u b) (h1 : -62135596800 ≤ t) (h2 : t ≤ 253402300799) (k1 : -62135596800 ≤ u) (k2 : u ≤ 253402300799) : Op.bytesLess a b = decide (t < u) := by
  rcases ha with ⟨h, _⟩ | ⟨y, m, d, s, hm, rfl, rfl⟩
  · omega
  rcases hb with ⟨h, _⟩ | ⟨y', m', d', s', hm', rfl, rfl⟩
  · omega
  exact txt_less hm hm'
theorem TextT.len {t : Int} {a : List UInt8} (ha : TextT t a) (h1 : -62135596800 ≤ t) (h2 : t ≤ 253402300799) : a.length = 15 := by
  rcases ha with ⟨h, _⟩ | ⟨y, m, d, s, hm, rfl, rfl⟩
  · omega
  · rfl

theorem TextT.len_le {t : Int} {a : List UInt8} (ha : TextT t a) : a.length ≤ 15 := by
  rcases ha with ⟨_, rfl⟩ | ⟨y, m, d, s, hm, rfl, rfl⟩
  · simp
  · rw [txt_len]; omega

/-- the next day has another number in its month -/
theorem next_day {y m d y' m' d' : Nat} (h : DateOk y m d) (h' : DateOk y' m' d') (he : dayNo y' m' d' = dayNo y m d + 1) : d ≠ d' := by
  obtain ⟨a1, a2, a3, a4, a5, a6⟩ := h
  have h'' := h'
  obtain ⟨b1, b2, b3, b4, b5, b6⟩ := h''
  have dp := dim_pos (y := y) a3 a4
  by_cases c1 : d < dimY y m
  · have hk : DateOk y m (d + 1) := ⟨a1, a2, a3, a4, by omega, c1⟩
    have e : dayNo y' m' d' = dayNo y m (d + 1) := by rw [he]; unfold dayNo; omega
    have := day_inj h' hk e
    omega
  by_cases c2 : m < 12
  · have dp' := dim_pos (y := y) (m := m + 1) (by omega) (by omega)
    have hk : DateOk y (m + 1) 1 := ⟨a1, a2, by omega, by omega, by omega, by omega⟩
    have e : dayNo y' m' d' = dayNo y (m + 1) 1 := by rw [he]; unfold dayNo; rw [show mon y (m + 1) = mon y m + dimY y m from rfl]; omega
    have := day_inj h' hk e
    omega
  obtain rfl : m = 12 := by omega
  have em : mon y 13 = mon y 12 + dimY y 12 := rfl
  have ey := yrs_next a1
  by_cases c3 : y < 9999
  · have dp' := dim_pos (y := y + 1) (m := 1) (by omega) (by omega)
    have hk : DateOk (y + 1) 1 1 := ⟨by omega, by omega, by omega, by omega, by omega, by omega⟩
    have e0 : mon (y + 1) 1 = 0 := by simp [mon, dimY]
    have e : dayNo y' m' d' = dayNo (y + 1) 1 1 := by rw [he]; unfold dayNo; omega
    have := day_inj h' hk e
    omega
  · have := day_max h'
    obtain rfl : y = 9999 := by omega
    have ey' : yrs (9999 + 1) = 3652059 := by decide
    rw [he] at this
    unfold dayNo at this
    omega
theorem TextT.next {t : Int} {a c : List UInt8} (ha : TextT t a) (hc : TextT (t + 86400) c) (h1 : -62135596800 ≤ t) (h2 : t ≤ 253402300799 - 86400) : a.drop 8 = c.drop 8 ∧ (a.take 8).drop 6 ≠ (c.take 8).drop 6 := by
  rcases ha with ⟨h, _⟩ | ⟨y, m, d, s, hm, rfl, rfl⟩
  · omega
  rcases hc with ⟨h, _⟩ | ⟨y', m', d', s', hm', ht, rfl⟩
  · omega
  have hs := hm.2
  have hs' := hm'.2
  have hd : dayNo y' m' d' = dayNo y m d + 1 ∧ s' = s := by unfold tim at ht; omega
  obtain ⟨hd, rfl⟩ := hd
  refine ⟨rfl, fun h => next_day hm.1 hm'.1 hd ?_⟩
  exact dd_inj (mom_le hm).2.2.2.1 (mom_le hm').2.2.2.1 h
/-- the days of a year's months, 0 to 13 -/
theorem mon_14 (y : Nat) : mon y 14 = if leapY y = true then 366 else 365 := by
  rw [show mon y 14 = mon y 13 + dimY y 13 from rfl, mon_year, show dimY y 13 = 0 by simp [dimY]]
  rfl
end Go.Proofs.YtjkciheoknjfhaaDoor

/- Contracts of Days, leap, daysAhead, years. -/
namespace Go.Proofs.YtjkciheoknjfhaaDoor
open Go.RowKit
set_option linter.unusedVariables false

theorem days_none {y m : Int} (h : y < 1 ∨ 9999 < y ∨ m < 1 ∨ 12 < m) : daysS y m = 0 := by unfold daysS; rw [if_pos h]
theorem days_at {y m : Nat} (h1 : 1 ≤ y) (h2 : y ≤ 9999) (h3 : 1 ≤ m) (h4 : m ≤ 12) : daysS (y : Int) (m : Int) = dimY y m := by
  unfold daysS
  rw [if_neg (by omega)]
  rfl
theorem yrs_int (z : Nat) : 365 * (z : Int) + (z : Int) / 4 - (z : Int) / 100 + (z : Int) / 400 = ((yrs (z + 1) : Nat) : Int) := by
  unfold yrs
  rw [show z + 1 - 1 = z by omega]
  omega

set_option maxHeartbeats 1000000 in
theorem leap_any (y : Nat) (w : World) (h : y ≤ 9999) :
    Calls Tryd.prog 89 #[.int .i64 y] w fun e w' => e = .returned (.bool (leapY y)) ∧ w' = w := by
  by_cases h1 : y % 4 = 0 <;> by_cases h2 : y % 100 = 0 <;> by_cases h3 : y % 400 = 0
  all_goals
    have hl : leapY y = decide ((y % 4 = 0 ∧ y % 100 ≠ 0) ∨ y % 400 = 0) := rfl
    simp only [h1, h2, h3, ne_eq, not_true_eq_false, not_false_eq_true, and_true, and_false, or_false, or_true, decide_true, decide_false, and_self, or_self] at hl
    rw [hl]
    go_enter Tryd.func89, Tryd.ntmps89
    go_wp2
    try (go_ret; exact ⟨ret_bool (by first | rfl | (simp; omega)), rfl⟩)

set_option maxHeartbeats 1000000 in
theorem rleap_any (y : Nat) (w : World) (h : y ≤ 9999) :
    Calls Tryd.prog 73 #[.int .i64 y] w fun e w' => e = .returned (.bool (leapY y)) ∧ w' = w := by
  by_cases h1 : y % 4 = 0 <;> by_cases h2 : y % 100 = 0 <;> by_cases h3 : y % 400 = 0
  all_goals
    have hl : leapY y = decide ((y % 4 = 0 ∧ y % 100 ≠ 0) ∨ y % 400 = 0) := rfl
    simp only [h1, h2, h3, ne_eq, not_true_eq_false, not_false_eq_true, and_true, and_false, or_false, or_true, decide_true, decide_false, and_self, or_self] at hl
    rw [hl]
    go_enter Tryd.func73, Tryd.ntmps73
    go_wp2
    try (go_ret; exact ⟨ret_bool (by first | rfl | (simp; omega)), rfl⟩)

set_option maxHeartbeats 1000000 in
theorem days_any (y m : Int) (w : World) :
    Calls Tryd.prog 84 #[.int .i64 y, .int .i64 m] w fun e w' => e = .returned (.int .i64 (daysS y m : Nat)) ∧ w' = w := by
  by_cases c1 : y < 1
  · rw [days_none (.inl c1)]
    go_enter Tryd.func84, Tryd.ntmps84
    go_wp2
    go_ret
    exact ⟨rfl, rfl⟩
  by_cases c2 : 9999 < y
  · rw [days_none (.inr (.inl c2))]
    go_enter Tryd.func84, Tryd.ntmps84
    go_wp2
    go_ret
    exact ⟨rfl, rfl⟩
  by_cases c3 : m < 1
  · rw [days_none (.inr (.inr (.inl c3)))]
    go_enter Tryd.func84, Tryd.ntmps84
    go_wp2
    go_ret
    exact ⟨rfl, rfl⟩
  by_cases c4 : 12 < m
  · rw [days_none (.inr (.inr (.inr c4)))]
    go_enter Tryd.func84, Tryd.ntmps84
    go_wp2
    go_ret
    exact ⟨rfl, rfl⟩
  obtain ⟨y, rfl⟩ : ∃ k : Nat, y = (k : Int) := ⟨y.toNat, by omega⟩
  obtain ⟨m, rfl⟩ : ∃ k : Nat, m = (k : Int) := ⟨m.toNat, by omega⟩
  rw [days_at (by omega) (by omega) (by omega) (by omega)]
  have hy : y ≤ 9999 := by omega
  have hl := leap_any y w hy
  by_cases k2 : m = 2
  · subst k2
    rw [dim_two]
    cases hb : leapY y with
    | true =>
      rw [hb] at hl
      go_enter Tryd.func84, Tryd.ntmps84
      go_wp2_with (go_at_call 89; refine hl.mono ?_; rintro e w' ⟨rfl, rfl⟩)
      go_ret
      exact ⟨rfl, rfl⟩
    | false =>
      rw [hb] at hl
      go_enter Tryd.func84, Tryd.ntmps84
      go_wp2_with (go_at_call 89; refine hl.mono ?_; rintro e w' ⟨rfl, rfl⟩)
      go_ret
      exact ⟨rfl, rfl⟩
  have g2 : ((m : Int) == 2) = false := by simp; omega
  by_cases k4 : m = 4
  · subst k4
    rw [show dimY y 4 = 30 by simp [dimY]]
    go_enter Tryd.func84, Tryd.ntmps84
    go_wp2
    go_ret
    exact ⟨rfl, rfl⟩
  have g4 : ((m : Int) == 4) = false := by simp; omega
  by_cases k6 : m = 6
  · subst k6
    rw [show dimY y 6 = 30 by simp [dimY]]
    go_enter Tryd.func84, Tryd.ntmps84
    go_wp2
    go_ret
    exact ⟨rfl, rfl⟩
  have g6 : ((m : Int) == 6) = false := by simp; omega
  by_cases k9 : m = 9
  · subst k9
    rw [show dimY y 9 = 30 by simp [dimY]]
    go_enter Tryd.func84, Tryd.ntmps84
    go_wp2
    go_ret
    exact ⟨rfl, rfl⟩
  have g9 : ((m : Int) == 9) = false := by simp; omega
  by_cases k11 : m = 11
  · subst k11
    rw [show dimY y 11 = 30 by simp [dimY]]
    go_enter Tryd.func84, Tryd.ntmps84
    go_wp2
    go_ret
    exact ⟨rfl, rfl⟩
  have g11 : ((m : Int) == 11) = false := by simp; omega
  rw [show dimY y m = 31 by unfold dimY; rw [if_neg k2, if_neg (by omega), if_pos (by omega)]]
  go_enter Tryd.func84, Tryd.ntmps84
  go_wp2
  go_ret
  exact ⟨rfl, rfl⟩

set_option maxHeartbeats 1000000 in
theorem rdays_any (y m : Int) (w : World) :
    Calls Tryd.prog 65 #[.int .i64 y, .int .i64 m] w fun e w' => e = .returned (.int .i64 (daysS y m : Nat)) ∧ w' = w := by
  by_cases c1 : y < 1
  · rw [days_none (.inl c1)]
    go_enter Tryd.func65, Tryd.ntmps65
    go_wp2
    go_ret
    exact ⟨rfl, rfl⟩
  by_cases c2 : 9999 < y
  · rw [days_none (.inr (.inl c2))]
    go_enter Tryd.func65, Tryd.ntmps65
    go_wp2
    go_ret
    exact ⟨rfl, rfl⟩
  by_cases c3 : m < 1
  · rw [days_none (.inr (.inr (.inl c3)))]
    go_enter Tryd.func65, Tryd.ntmps65
    go_wp2
    go_ret
    exact ⟨rfl, rfl⟩
  by_cases c4 : 12 < m
  · rw [days_none (.inr (.inr (.inr c4)))]
    go_enter Tryd.func65, Tryd.ntmps65
    go_wp2
    go_ret
    exact ⟨rfl, rfl⟩
  obtain ⟨y, rfl⟩ : ∃ k : Nat, y = (k : Int) := ⟨y.toNat, by omega⟩
  obtain ⟨m, rfl⟩ : ∃ k : Nat, m = (k : Int) := ⟨m.toNat, by omega⟩
  rw [days_at (by omega) (by omega) (by omega) (by omega)]
  have hy : y ≤ 9999 := by omega
  have hl := rleap_any y w hy
  by_cases k2 : m = 2
  · subst k2
    rw [dim_two]
    cases hb : leapY y with
    | true =>
      rw [hb] at hl
      go_enter Tryd.func65, Tryd.ntmps65
      go_wp2_with (go_at_call 73; refine hl.mono ?_; rintro e w' ⟨rfl, rfl⟩)
      go_ret
      exact ⟨rfl, rfl⟩
    | false =>
      rw [hb] at hl
      go_enter Tryd.func65, Tryd.ntmps65
      go_wp2_with (go_at_call 73; refine hl.mono ?_; rintro e w' ⟨rfl, rfl⟩)
      go_ret
      exact ⟨rfl, rfl⟩
  have g2 : ((m : Int) == 2) = false := by simp; omega
  by_cases k4 : m = 4
  · subst k4
    rw [show dimY y 4 = 30 by simp [dimY]]
    go_enter Tryd.func65, Tryd.ntmps65
    go_wp2
    go_ret
    exact ⟨rfl, rfl⟩
  have g4 : ((m : Int) == 4) = false := by simp; omega
  by_cases k6 : m = 6
  · subst k6
    rw [show dimY y 6 = 30 by simp [dimY]]
    go_enter Tryd.func65, Tryd.ntmps65
    go_wp2
    go_ret
    exact ⟨rfl, rfl⟩
  have g6 : ((m : Int) == 6) = false := by simp; omega
  by_cases k9 : m = 9
  · subst k9
    rw [show dimY y 9 = 30 by simp [dimY]]
    go_enter Tryd.func65, Tryd.ntmps65
    go_wp2
    go_ret
    exact ⟨rfl, rfl⟩
  have g9 : ((m : Int) == 9) = false := by simp; omega
  by_cases k11 : m = 11
  · subst k11
    rw [show dimY y 11 = 30 by simp [dimY]]
    go_enter Tryd.func65, Tryd.ntmps65
    go_wp2
    go_ret
    exact ⟨rfl, rfl⟩
  have g11 : ((m : Int) == 11) = false := by simp; omega
  rw [show dimY y m = 31 by unfold dimY; rw [if_neg k2, if_neg (by omega), if_pos (by omega)]]
  go_enter Tryd.func65, Tryd.ntmps65
  go_wp2
  go_ret
  exact ⟨rfl, rfl⟩

set_option maxHeartbeats 1000000 in
theorem ahead_any (y : Nat) (w : World) (h1 : 1 ≤ y) (h : y ≤ 10000) :
    Calls Tryd.prog 85 #[.int .i64 y] w fun e w' => e = .returned (.int .i64 (yrs y : Nat)) ∧ w' = w := by
  obtain ⟨z, rfl⟩ : ∃ z, y = z + 1 := ⟨y - 1, by omega⟩
  have g1 : ((z + 1 : Nat) : Int) - 1 = (z : Int) := by omega
  have hy := yrs_int z
  go_enter Tryd.func85, Tryd.ntmps85
  go_wp2
  go_ret
  exact ⟨ret_int (by first | exact hy | omega), rfl⟩

set_option maxHeartbeats 1000000 in
theorem ryears_any (y : Nat) (w : World) (h1 : 1 ≤ y) (h : y ≤ 10000) :
    Calls Tryd.prog 66 #[.int .i64 y] w fun e w' => e = .returned (.int .i64 (yrs y : Nat)) ∧ w' = w := by
  obtain ⟨z, rfl⟩ : ∃ z, y = z + 1 := ⟨y - 1, by omega⟩
  have g1 : ((z + 1 : Nat) : Int) - 1 = (z : Int) := by omega
  have hy := yrs_int z
  go_enter Tryd.func66, Tryd.ntmps66
  go_wp2
  go_ret
  exact ⟨ret_int (by first | exact hy | omega), rfl⟩
end Go.Proofs.YtjkciheoknjfhaaDoor

/- Contracts of twoDigits, date.two, date.four, date.text. -/
namespace Go.Proofs.YtjkciheoknjfhaaDoor
open Go.RowKit
set_option linter.unusedVariables false

/-- two digits, as numbers -/
def dn (n : Nat) : List Nat := [48 + n / 10, 48 + n % 10]
theorem dn_under {n : Nat} (h : n < 100) : Under 256 (dn n) := by
  intro x hx
  simp [dn] at hx
  omega
theorem app_cells2 (w : World) (k : IntKind) (x x' : Nat) (y y' : Int) (e : TypeId) (hy : y = (x : Int)) (hy' : y' = (x' : Int)) : ∀ j u, (vals k [x, x'])[j]? = some u → (w.alloc (.cells #[.int k y, .int k y'] e)).cell? ((⟨w.heap.size, 0, none⟩ : Addr).add j) = some u := by
  subst hy
  subst hy'
  intro j u hj
  match j, hj with
  | 0, hj => simp [vals] at hj; subst hj; simp [Addr.add]
  | 1, hj => simp [vals] at hj; subst hj; simp [Addr.add]

/-- a date -/
abbrev dt (y m d h i c : Nat) : Value := .agg #[.int .i64 y, .int .i64 m, .int .i64 d, .int .i64 h, .int .i64 i, .int .i64 c]
/-- a date, boxed -/
abbrev bx (y m d h i c : Nat) : Obj := .cells #[.int .i64 y, .int .i64 m, .int .i64 d, .int .i64 h, .int .i64 i, .int .i64 c] 102

theorem Own.alloc {e : TypeId} {k : IntKind} {m : Nat} {w : World} {B : Nat} {v : Value} {l : List Nat} (h : Own e k m w B v l) (o : Obj) : Own e k m (w.alloc o) B v l := ⟨h.1.alloc o, h.2⟩

/-- block k is that date, boxed -/
def Bxd (y m d h i c k : Nat) (w : World) : Prop := w.heap[k]? = some (bx y m d h i c)
theorem Bxd.cell {y m d h i c k : Nat} {w : World} (hb : Bxd y m d h i c k w) (j n : Nat) (hp : (#[.int .i64 y, .int .i64 m, .int .i64 d, .int .i64 h, .int .i64 i, .int .i64 c] : Array Value)[j]? = some (.int .i64 n)) : w.cell? ⟨k, j, none⟩ = some (.int .i64 n) := by
  unfold Bxd at hb
  simp only [World.cell?, hb]
  exact hp
theorem Bxd.new (y m d h i c : Nat) (w : World) : Bxd y m d h i c w.heap.size (w.alloc (bx y m d h i c)) := by
  show (w.heap.push _)[w.heap.size]? = _
  simp
theorem Bxd.keep {y m d h i c k : Nat} {w w' : World} {row : Option Nat} (hb : Bxd y m d h i c k w) (hg : w.grownBy w' row) (hne : row ≠ some k) : Bxd y m d h i c k w' := by
  unfold Bxd at hb ⊢
  have hlt : k < w.heap.size := by
    rcases Nat.lt_or_ge k w.heap.size with hlt | hge
    · exact hlt
    · rw [Array.getElem?_eq_none hge] at hb; cases hb
  rw [hg.block k hlt (fun e => hne e.symm)]
  exact hb
theorem Bxd.ne {y m d h i c k : Nat} {w : World} {B : Nat} {v : Value} {l : List Nat} (hb : Bxd y m d h i c k w) (ho : Own 5 .u8 256 w B v l) : v.ownBlock ≠ some k := by
  obtain ⟨⟨_, ⟨rfl, _⟩ | ⟨g, cap, cur, rfl, _, h4, _⟩⟩, _⟩ := ho
  · intro h; cases h
  · intro h
    have hk : g = k := by simpa [Value.ownBlock] using h
    subst hk
    unfold Bxd at hb
    rw [hb] at h4
    have := Option.some.inj h4
    simp at this
theorem Bxd.drew {y m d h i c k : Nat} {w : World} (hb : Bxd y m d h i c k w) : Bxd y m d h i c k w.drew := hb
/-- what a region that reads a date's first part keeps -/
def First (y m d h i c k : Nat) (w : World) : Prop := w.cell? ⟨k, 0, none⟩ = some (.int .i64 y) ∧ Bxd y m d h i c k w
theorem First.mk' {y m d h i c k : Nat} {w : World} (hb : Bxd y m d h i c k w) : w.cell? ⟨k, 0, none⟩ = some (.int .i64 y) ∧ Bxd y m d h i c k w := ⟨hb.cell 0 y rfl, hb⟩
theorem Own.drew {e : TypeId} {k : IntKind} {m : Nat} {w : World} {B : Nat} {v : Value} {l : List Nat} (h : Own e k m w B v l) : Own e k m w.drew B v l := h

end Go.Proofs.YtjkciheoknjfhaaDoor

/- Contract of date.text. -/
namespace Go.Proofs.YtjkciheoknjfhaaDoor
open Go.RowKit
set_option linter.unusedVariables false

/-- the parts behind the year -/
def partN (m d h i c : Nat) : Nat → Nat
  | 1 => m
  | 2 => d
  | 3 => h
  | 4 => i
  | _ => c
/-- what is put out by the first k parts -/
def outN (y m d h i c : Nat) : Nat → List Nat
  | 0 => []
  | 1 => [] ++ dn (y / 100) ++ dn (y % 100)
  | k + 2 => outN y m d h i c (k + 1) ++ dn (partN m d h i c (k + 1))
theorem outN_len (y m d h i c : Nat) : ∀ k, (outN y m d h i c k).length ≤ 4 + 2 * k
  | 0 => by simp [outN]
  | 1 => by simp [outN, dn]
  | k + 2 => by
    have := outN_len y m d h i c (k + 1)
    simp only [outN, List.length_append]
    simp only [dn, List.length_cons, List.length_nil]
    omega
/-- bytes of numbers -/
def byt (l : List Nat) : List UInt8 := l.map ch
theorem byt_len (l : List Nat) : (byt l).length = l.length := by simp [byt]
/-- a date's text, of its parts -/
def txt6 (y m d h i c : Nat) : List UInt8 := dd (y / 100) ++ (dd (y % 100) ++ (dd m ++ (dd d ++ (dd h ++ (dd i ++ (dd c ++ [ch 90]))))))
theorem byt_out (y m d h i c : Nat) : byt (outN y m d h i c 6 ++ [90]) = txt6 y m d h i c := rfl
theorem sconv_row (w : World) (a : Option Addr) (cap : Nat) (l : List Nat) (hr : Row .u8 256 w (.slice a l.length cap) l) (hl : 0 < l.length) :
    (convert 22 9 (.slice a l.length cap)).run Tryd.prog w = .ok (str (byt l)) w := by
  obtain ⟨a', cap', he, h1, h2, h3, h4⟩ := hr
  simp only [Value.slice.injEq, true_and] at he
  obtain ⟨rfl, rfl⟩ := he
  obtain ⟨b, off, rfl, hc⟩ := h3 hl
  have := run_convert_bytes_back (P := Tryd.prog) w 22 9 5 ⟨b, off, none⟩ cap (byt l) Tryd.underlying22 Tryd.underlying5 Tryd.underlying9 (by
    intro j hj
    rw [byt_len] at hj
    have e : ((byt l)[j]'(by rw [byt_len]; exact hj)).toNat = el l j := by
      simp only [byt, List.getElem_map]
      rw [← el_at hj, ch_nat (el_lt h4 (by decide) j)]
    rw [e]
    have h := hc j hj
    by_cases h0 : j = 0
    · subst h0; simpa [Addr.add] using h
    · simpa [Addr.add, h0] using h)
  rw [byt_len] at this
  exact this

theorem conv_own {w : World} {B : Nat} {v : Value} {n : Nat} {l : List Nat} (h : w.ownsRow B 5 1 v n (vals .u8 l)) (hn : l.length = n) (hu : Under 256 l) (hl : 0 < n) :
    (convert 22 9 v).run Tryd.prog w = .ok (str (byt l)) w := by
  subst hn
  have ho : Own 5 .u8 256 w B v l := ⟨h, hu⟩
  obtain ⟨a, cap, rfl, h1⟩ := ho.row
  exact sconv_row w a cap l ho.row hl
theorem heap_cell {w w1 : World} {k : Nat} {cs : Array Value} {t : TypeId} (h : w.heap[k]? = some (.cells cs t)) (hg : w.grownBy w1 none) (j : Nat) (v : Value) (hj : cs[j]? = some v) : w1.cell? ⟨k, j, none⟩ = some v := by
  refine hg.cell ?_ (by simp)
  simp only [World.cell?, h]
  exact hj
theorem heap_two (w : World) (o p : Obj) : ((w.alloc o).alloc p).heap[w.heap.size + 1]? = some p := by
  have h := heap_alloc_new (w.alloc o) p
  rw [show (w.alloc o).heap.size = w.heap.size + 1 by simp] at h
  exact h
theorem Bxd.bel {y m d h i c k B : Nat} {w w' : World} (hb : Bxd y m d h i c k w) (hg : Below B w w') (hk : k < B) : Bxd y m d h i c k w' := by
  unfold Bxd at hb ⊢
  rw [hg.block k hk]
  exact hb

end Go.Proofs.YtjkciheoknjfhaaDoor

/- Plain facts on the digits of a time's text. -/
namespace Go.Proofs.YtjkciheoknjfhaaDoor
open Go.RowKit
set_option linter.unusedVariables false

/-- the byte at a place of a text -/
def bat (l : List UInt8) (i : Nat) : Nat := (l[i]?.getD 0).toNat
theorem bat_lt (l : List UInt8) (i : Nat) : bat l i < 256 := UInt8.toNat_lt _
theorem bat_at {l : List UInt8} {i : Nat} (h : i < l.length) : bat l i = l[i].toNat := by unfold bat; rw [List.getElem?_eq_getElem h]; rfl
/-- the parts, behind so many digits -/
def psOf (l : List UInt8) : Nat → List Nat
  | 0 => [0, 0, 0, 0, 0, 0]
  | i + 1 => (psOf l i).set (i / 2 - 1) (el (psOf l i) (i / 2 - 1) * 10 + (bat l i - 48))
theorem psOf_len (l : List UInt8) (i : Nat) : (psOf l i).length = 6 := by
  induction i with
  | zero => rfl
  | succ i ih => simp only [psOf, List.length_set, ih]
theorem el_set {l : List Nat} {k i x : Nat} : el (l.set k x) i = if k = i ∧ i < l.length then x else el l i := by
  unfold el
  rw [List.getElem?_set]
  by_cases h : k = i
  · subst h
    by_cases h2 : k < l.length
    · simp [h2]
    · simp [h2]
  · simp [h]
theorem psOf_lt (l : List UInt8) (i : Nat) (hd : ∀ j, j < i → bat l j ≤ 57) : ∀ j, el (psOf l i) j < 10 ^ i := by
  induction i with
  | zero =>
    intro j
    unfold psOf el
    rcases (by omega : j = 0 ∨ j = 1 ∨ j = 2 ∨ j = 3 ∨ j = 4 ∨ j = 5 ∨ 6 ≤ j) with rfl | rfl | rfl | rfl | rfl | rfl | h
    any_goals decide
    rw [List.getElem?_eq_none (by simpa using h)]
    decide
  | succ i ih =>
    intro j
    have h1 := ih (fun j hj => hd j (by omega)) j
    have h2 := hd i (by omega)
    rw [psOf, el_set, Nat.pow_succ]
    have h3 := ih (fun j hj => hd j (by omega)) (i / 2 - 1)
    split <;> omega
/-- six parts, and what they may be at most -/
def Bnd (y m d h i c : Nat) : Prop := y < 10000 ∧ m < 100 ∧ d < 100 ∧ h < 100 ∧ i < 100 ∧ c < 100
theorem list15 {α : Type} (l : List α) (h : l.length = 15) : ∃ a0 a1 a2 a3 a4 a5 a6 a7 a8 a9 a10 a11 a12 a13 a14, l = [a0, a1, a2, a3, a4, a5, a6, a7, a8, a9, a10, a11, a12, a13, a14] := by
  match l, h with
  | [a0, a1, a2, a3, a4, a5, a6, a7, a8, a9, a10, a11, a12, a13, a14], _ => exact ⟨a0, a1, a2, a3, a4, a5, a6, a7, a8, a9, a10, a11, a12, a13, a14, rfl⟩
theorem ch_back (b : UInt8) : ch b.toNat = b := by unfold ch; simp
theorem ch_of {x : UInt8} {n : Nat} (h : x.toNat = n) : ch n = x := by rw [← h, ch_back]
/-- digits where they must stand are a date's text -/
theorem digits_text (l : List UInt8) (hl : l.length = 15) (hz : bat l 14 = 90) (hd : ∀ j, j < 14 → 48 ≤ bat l j ∧ bat l j ≤ 57) :
    Bnd (el (psOf l 14) 0) (el (psOf l 14) 1) (el (psOf l 14) 2) (el (psOf l 14) 3) (el (psOf l 14) 4) (el (psOf l 14) 5) ∧
    l = txt6 (el (psOf l 14) 0) (el (psOf l 14) 1) (el (psOf l 14) 2) (el (psOf l 14) 3) (el (psOf l 14) 4) (el (psOf l 14) 5) := by
  have hps : psOf l 14 = [(((0 * 10 + (bat l 0 - 48)) * 10 + (bat l 1 - 48)) * 10 + (bat l 2 - 48)) * 10 + (bat l 3 - 48), (0 * 10 + (bat l 4 - 48)) * 10 + (bat l 5 - 48), (0 * 10 + (bat l 6 - 48)) * 10 + (bat l 7 - 48), (0 * 10 + (bat l 8 - 48)) * 10 + (bat l 9 - 48), (0 * 10 + (bat l 10 - 48)) * 10 + (bat l 11 - 48), (0 * 10 + (bat l 12 - 48)) * 10 + (bat l 13 - 48)] := rfl
  rw [hps]
  obtain ⟨b0, b1, b2, b3, b4, b5, b6, b7, b8, b9, b10, b11, b12, b13, b14, rfl⟩ := list15 l hl
  have d0 := hd 0 (by omega)
  have d1 := hd 1 (by omega)
  have d2 := hd 2 (by omega)
  have d3 := hd 3 (by omega)
  have d4 := hd 4 (by omega)
  have d5 := hd 5 (by omega)
  have d6 := hd 6 (by omega)
  have d7 := hd 7 (by omega)
  have d8 := hd 8 (by omega)
  have d9 := hd 9 (by omega)
  have d10 := hd 10 (by omega)
  have d11 := hd 11 (by omega)
  have d12 := hd 12 (by omega)
  have d13 := hd 13 (by omega)
  clear hd hps hl
  simp only [bat, List.getElem?_cons_zero, List.getElem?_cons_succ, Option.getD_some, el] at *
  refine ⟨by unfold Bnd; omega, ?_⟩
  unfold txt6 dd
  simp only [List.cons_append, List.nil_append, List.cons.injEq, and_true]
  refine ⟨?_, ?_, ?_, ?_, ?_, ?_, ?_, ?_, ?_, ?_, ?_, ?_, ?_, ?_, ?_⟩
  all_goals (symm; apply ch_of; omega)
theorem txt6_at (y m d h i c : Nat) (hb : Bnd y m d h i c) : bat (txt6 y m d h i c) 14 = 90 ∧ ∀ j, j < 14 → 48 ≤ bat (txt6 y m d h i c) j ∧ bat (txt6 y m d h i c) j ≤ 57 := by
  obtain ⟨h0, h1, h2, h3, h4, h5⟩ := hb
  refine ⟨rfl, fun j hj => ?_⟩
  have key : ∀ x : Nat, x < 10 → 48 ≤ (ch (48 + x)).toNat ∧ (ch (48 + x)).toNat ≤ 57 := by
    intro x hx
    rw [ch_nat (by omega)]
    omega
  rcases (by omega : j = 0 ∨ j = 1 ∨ j = 2 ∨ j = 3 ∨ j = 4 ∨ j = 5 ∨ j = 6 ∨ j = 7 ∨ j = 8 ∨ j = 9 ∨ j = 10 ∨ j = 11 ∨ j = 12 ∨ j = 13) with rfl | rfl | rfl | rfl | rfl | rfl | rfl | rfl | rfl | rfl | rfl | rfl | rfl | rfl
  · exact key (y / 100 / 10) (by omega)
  · exact key (y / 100 % 10) (by omega)
  · exact key (y % 100 / 10) (by omega)
  · exact key (y % 100 % 10) (by omega)
  · exact key (m / 10) (by omega)
  · exact key (m % 10) (by omega)
  · exact key (d / 10) (by omega)
  · exact key (d % 10) (by omega)
  · exact key (h / 10) (by omega)
  · exact key (h % 10) (by omega)
  · exact key (i / 10) (by omega)
  · exact key (i % 10) (by omega)
  · exact key (c / 10) (by omega)
  · exact key (c % 10) (by omega)
/-- what loose tells -/
def LooT (l : List UInt8) (ok : Bool) (y m d h i c : Nat) : Prop := (ok = true ∧ Bnd y m d h i c ∧ l = txt6 y m d h i c) ∨ (ok = false ∧ ∀ y m d h i c, Bnd y m d h i c → l ≠ txt6 y m d h i c)
theorem loo_len {l : List UInt8} (h : l.length ≠ 15) : ∀ y m d h i c, Bnd y m d h i c → l ≠ txt6 y m d h i c := by
  intro y m d h' i c _ he
  exact h (by rw [he]; rfl)
theorem loo_z {l : List UInt8} (h : bat l 14 ≠ 90) : ∀ y m d h i c, Bnd y m d h i c → l ≠ txt6 y m d h i c := by
  intro y m d h' i c hb he
  exact h (by rw [he]; exact (txt6_at y m d h' i c hb).1)
theorem loo_d {l : List UInt8} {j : Nat} (hj : j < 14) (h : bat l j < 48 ∨ 57 < bat l j) : ∀ y m d h i c, Bnd y m d h i c → l ≠ txt6 y m d h i c := by
  intro y m d h' i c hb he
  have := (txt6_at y m d h' i c hb).2 j hj
  rw [← he] at this
  omega
end Go.Proofs.YtjkciheoknjfhaaDoor
