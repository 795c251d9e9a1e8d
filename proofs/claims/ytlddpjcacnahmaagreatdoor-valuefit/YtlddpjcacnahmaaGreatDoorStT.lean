/- Plain facts on the texts of times. -/
import Derived.Test.YtlddpjcacnahmaaGreatDoorOPar
import Derived.Test.YtlddpjcacnahmaaGreatDoorKit
namespace Go.Proofs.YtlddpjcacnahmaaGreatDoor
open Go.RowKit
set_option linter.unusedVariables false

/-- two digits -/
def dd (n : Nat) : List UInt8 := [ch (48 + n / 10), ch (48 + n % 10)]
/-- a date and a second of it, as a text -/
def txt (y m d s : Nat) : List UInt8 := dd (y / 100) ++ (dd (y % 100) ++ (dd m ++ (dd d ++ (dd (s / 3600) ++ (dd (s / 60 % 60) ++ (dd (s % 60) ++ [ch 90]))))))
/-- a date's and a second's time -/
def tim (y m d s : Nat) : Int := -62135596800 + ((dayNo y m d * 86400 + s : Nat) : Int)
/-- a date, and a second of its day -/
def Mom (y m d s : Nat) : Prop := DateOk y m d ∧ s < 86400
/-- the text of a time -/
def TextT (t : Int) (l : List UInt8) : Prop := ((t < -62135596800 ∨ 253402300799 < t) ∧ l = []) ∨ ∃ y m d s, Mom y m d s ∧ t = tim y m d s ∧ l = txt y m d s
/-- what Read tells of a text -/
def ReadT (l : List UInt8) (v e : Int) : Prop := (e = 0 ∧ ∃ y m d s, Mom y m d s ∧ v = tim y m d s ∧ l = txt y m d s) ∨ (e = 1 ∧ v = 0 ∧ ∀ y m d s, Mom y m d s → l ≠ txt y m d s)

theorem ch_inj {a b : Nat} (ha : a < 256) (hb : b < 256) (h : ch a = ch b) : a = b := by
  have := congrArg UInt8.toNat h
  rw [ch_nat ha, ch_nat hb] at this
  exact this
theorem dd_inj {a b : Nat} (ha : a < 100) (hb : b < 100) (h : dd a = dd b) : a = b := by
  unfold dd at h
  have h1 := ch_inj (by omega) (by omega) (List.cons.inj h).1
  have h2 := ch_inj (by omega) (by omega) (List.cons.inj (List.cons.inj h).2).1
  omega
theorem dd_app {a b : Nat} (ha : a < 100) (hb : b < 100) {x y : List UInt8} (h : dd a ++ x = dd b ++ y) : a = b ∧ x = y := by
  have hh := List.append_inj h rfl
  exact ⟨dd_inj ha hb hh.1, hh.2⟩
theorem txt_len (y m d s : Nat) : (txt y m d s).length = 15 := rfl
theorem mom_le {y m d s : Nat} (h : Mom y m d s) : y / 100 < 100 ∧ y % 100 < 100 ∧ m < 100 ∧ d < 100 ∧ s / 3600 < 100 ∧ s / 60 % 60 < 100 ∧ s % 60 < 100 := by
  obtain ⟨⟨a1, a2, a3, a4, a5, a6⟩, a7⟩ := h
  have := dim_le y m
  omega
theorem txt_inj {y m d s y' m' d' s' : Nat} (h : Mom y m d s) (h' : Mom y' m' d' s') (he : txt y m d s = txt y' m' d' s') : y = y' ∧ m = m' ∧ d = d' ∧ s = s' := by
  obtain ⟨a1, a2, a3, a4, a5, a6, a7⟩ := mom_le h
  obtain ⟨b1, b2, b3, b4, b5, b6, b7⟩ := mom_le h'
  unfold txt at he
  obtain ⟨e1, he⟩ := dd_app a1 b1 he
  obtain ⟨e2, he⟩ := dd_app a2 b2 he
  obtain ⟨e3, he⟩ := dd_app a3 b3 he
  obtain ⟨e4, he⟩ := dd_app a4 b4 he
  obtain ⟨e5, he⟩ := dd_app a5 b5 he
  obtain ⟨e6, he⟩ := dd_app a6 b6 he
  obtain ⟨e7, he⟩ := dd_app a7 b7 he
  refine ⟨by omega, e3, e4, ?_⟩
  have f1 : s / 60 / 60 = s / 3600 := by omega
  have f2 : s' / 60 / 60 = s' / 3600 := by omega
  omega
theorem tim_range {y m d s : Nat} (h : Mom y m d s) : -62135596800 ≤ tim y m d s ∧ tim y m d s ≤ 253402300799 := by
  have h1 := day_max h.1
  have h2 := h.2
  unfold tim
  omega
theorem tim_inj {y m d s y' m' d' s' : Nat} (h : Mom y m d s) (h' : Mom y' m' d' s') (he : tim y m d s = tim y' m' d' s') : y = y' ∧ m = m' ∧ d = d' ∧ s = s' := by
  have h1 := h.2
  have h2 := h'.2
  unfold tim at he
  have e : dayNo y m d = dayNo y' m' d' := by omega
  obtain ⟨r1, r2, r3⟩ := day_inj h.1 h'.1 e
  exact ⟨r1, r2, r3, by omega⟩
/-- each time is a date's and a second's -/
theorem tim_ex {t : Int} (h1 : -62135596800 ≤ t) (h2 : t ≤ 253402300799) : ∃ y m d s, Mom y m d s ∧ t = tim y m d s := by
  obtain ⟨n, hn⟩ : ∃ n : Nat, t - -62135596800 = (n : Int) := ⟨(t - -62135596800).toNat, by omega⟩
  obtain ⟨y, m, d, hd, he⟩ := date_ex (n / 86400) (by omega)
  refine ⟨y, m, d, n % 86400, ⟨hd, by omega⟩, ?_⟩
  unfold tim
  rw [he]
  omega
theorem TextT.same {t : Int} {l l' : List UInt8} (h : TextT t l) (h' : TextT t l') : l = l' := by
  rcases h with ⟨h, rfl⟩ | ⟨y, m, d, s, hm, ht, rfl⟩
  · rcases h' with ⟨h', rfl⟩ | ⟨y', m', d', s', hm', ht', rfl⟩
    · rfl
    · have := tim_range hm'; omega
  · rcases h' with ⟨h', rfl⟩ | ⟨y', m', d', s', hm', ht', rfl⟩
    · have := tim_range hm; omega
    · obtain ⟨rfl, rfl, rfl, rfl⟩ := tim_inj hm hm' (ht.symm.trans ht')
      rfl
theorem ReadT.same {l : List UInt8} {v e v' e' : Int} (h : ReadT l v e) (h' : ReadT l v' e') : v = v' ∧ e = e' := by
  rcases h with ⟨rfl, y, m, d, s, hm, rfl, rfl⟩ | ⟨rfl, rfl, hn⟩
  · rcases h' with ⟨rfl, y', m', d', s', hm', rfl, ht⟩ | ⟨rfl, rfl, hn'⟩
    · obtain ⟨rfl, rfl, rfl, rfl⟩ := txt_inj hm hm' ht
      exact ⟨rfl, rfl⟩
    · exact absurd rfl (hn' _ _ _ _ hm)
  · rcases h' with ⟨rfl, y', m', d', s', hm', rfl, ht⟩ | ⟨rfl, rfl, hn'⟩
    · exact absurd ht (hn _ _ _ _ hm')
    · exact ⟨rfl, rfl⟩
/-- there and back -/
theorem back_in {t v e : Int} {l : List UInt8} (h : TextT t l) (hr : ReadT l v e) (h1 : -62135596800 ≤ t) (h2 : t ≤ 253402300799) : e = 0 ∧ v = t := by
  rcases h with ⟨h, _⟩ | ⟨y, m, d, s, hm, rfl, rfl⟩
  · omega
  · rcases hr with ⟨rfl, y', m', d', s', hm', rfl, ht⟩ | ⟨rfl, rfl, hn⟩
    · obtain ⟨rfl, rfl, rfl, rfl⟩ := txt_inj hm hm' ht
      exact ⟨rfl, rfl⟩
    · exact absurd rfl (hn _ _ _ _ hm)
theorem back_out {t v e : Int} {l : List UInt8} (h : TextT t l) (hr : ReadT l v e) (h1 : t < -62135596800 ∨ 253402300799 < t) : e = 1 ∧ l = [] := by
  rcases h with ⟨_, rfl⟩ | ⟨y, m, d, s, hm, rfl, rfl⟩
  · rcases hr with ⟨rfl, y', m', d', s', hm', rfl, ht⟩ | ⟨rfl, rfl, hn⟩
    · exact absurd (congrArg List.length ht) (by rw [txt_len]; simp)
    · exact ⟨rfl, rfl⟩
  · have := tim_range hm; omega
theorem back_read {v : Int} {l l' : List UInt8} (hr : ReadT l v 0) (h : TextT v l') : l' = l := by
  rcases hr with ⟨_, y, m, d, s, hm, rfl, rfl⟩ | ⟨h0, _⟩
  · exact h.same (.inr ⟨y, m, d, s, hm, rfl, rfl⟩)
  · exact absurd h0 (by decide)

/-- the order of texts, digit by digit -/
theorem dd_less {a b : Nat} (ha : a < 100) (hb : b < 100) (x y : List UInt8) : Op.bytesLess (dd a ++ x) (dd b ++ y) = decide (a < b ∨ (a = b ∧ Op.bytesLess x y = true)) := by
  have l1 : (ch (48 + a / 10) < ch (48 + b / 10)) = (a / 10 < b / 10) := by
    rw [UInt8.lt_iff_toNat_lt, ch_nat (by omega), ch_nat (by omega)]; exact propext (by omega)
  have l2 : (ch (48 + a % 10) < ch (48 + b % 10)) = (a % 10 < b % 10) := by
    rw [UInt8.lt_iff_toNat_lt, ch_nat (by omega), ch_nat (by omega)]; exact propext (by omega)
  have q1 : (ch (48 + a / 10) = ch (48 + b / 10)) = (a / 10 = b / 10) := propext ⟨fun h => by have := ch_inj (by omega) (by omega) h; omega, fun h => by rw [h]⟩
  have q2 : (ch (48 + a % 10) = ch (48 + b % 10)) = (a % 10 = b % 10) := propext ⟨fun h => by have := ch_inj (by omega) (by omega) h; omega, fun h => by rw [h]⟩
  show Op.bytesLess (ch (48 + a / 10) :: ch (48 + a % 10) :: x) (ch (48 + b / 10) :: ch (48 + b % 10) :: y) = _
  rw [Op.bytesLess, Op.bytesLess]
  rw [Bool.eq_iff_iff]
  simp only [Bool.or_eq_true, Bool.and_eq_true, decide_eq_true_eq, beq_iff_eq, l1, l2, q1, q2]
  generalize Op.bytesLess x y = b0
  cases b0
  · simp only [Bool.false_eq_true, and_false, or_false]; omega
  · simp only [and_true]; omega
theorem tim_lt {y m d s y' m' d' s' : Nat} (h : Mom y m d s) (h' : Mom y' m' d' s') :
    (y < y' ∨ (y = y' ∧ (m < m' ∨ (m = m' ∧ (d < d' ∨ (d = d' ∧ s < s')))))) ↔ tim y m d s < tim y' m' d' s' := by
  have hs := h.2
  have hs' := h'.2
  have up : ∀ {y m d s y' m' d' s' : Nat}, Mom y m d s → Mom y' m' d' s' → (y < y' ∨ (y = y' ∧ (m < m' ∨ (m = m' ∧ (d < d' ∨ (d = d' ∧ s < s')))))) → tim y m d s < tim y' m' d' s' := by
    intro y m d s y' m' d' s' h h' hl
    have hs := h.2
    have hs' := h'.2
    unfold tim
    by_cases hd : y < y' ∨ (y = y' ∧ (m < m' ∨ (m = m' ∧ d < d')))
    · have := day_lt h.1 h'.1 hd; omega
    · obtain ⟨rfl, rfl, rfl, hlt⟩ : y = y' ∧ m = m' ∧ d = d' ∧ s < s' := by omega
      omega
  refine ⟨up h h', fun hlt => ?_⟩
  apply Classical.byContradiction
  intro hn
  by_cases he : y = y' ∧ m = m' ∧ d = d' ∧ s = s'
  · obtain ⟨rfl, rfl, rfl, rfl⟩ := he
    omega
  · have := up h' h (by omega)
    omega
theorem txt_less {y m d s y' m' d' s' : Nat} (h : Mom y m d s) (h' : Mom y' m' d' s') : Op.bytesLess (txt y m d s) (txt y' m' d' s') = decide (tim y m d s < tim y' m' d' s') := by
  obtain ⟨a1, a2, a3, a4, a5, a6, a7⟩ := mom_le h
  obtain ⟨b1, b2, b3, b4, b5, b6, b7⟩ := mom_le h'
  rw [Bool.eq_iff_iff, decide_eq_true_eq, ← tim_lt h h']
  unfold txt
  have e0 : Op.bytesLess [ch 90] [ch 90] = false := by decide
  simp only [dd_less a1 b1, dd_less a2 b2, dd_less a3 b3, dd_less a4 b4, dd_less a5 b5, dd_less a6 b6, dd_less a7 b7, decide_eq_true_eq, e0, Bool.false_eq_true, and_false, or_false]
  have hs := h.2
  have hs' := h'.2
  have f1 : s / 60 / 60 = s / 3600 := by omega
  have f2 : s' / 60 / 60 = s' / 3600 := by omega
  have k1 : (s < s') ↔ (s / 3600 < s' / 3600 ∨ s / 3600 = s' / 3600 ∧ (s / 60 % 60 < s' / 60 % 60 ∨ s / 60 % 60 = s' / 60 % 60 ∧ s % 60 < s' % 60)) := by omega
  have k2 : (y < y') ↔ (y / 100 < y' / 100 ∨ y / 100 = y' / 100 ∧ y % 100 < y' % 100) := by omega
  have k3 : (y = y') ↔ (y / 100 = y' / 100 ∧ y % 100 = y' % 100) := by omega
  rw [k1, k2, k3]
  generalize y / 100 = p1
  generalize y % 100 = p2
  generalize y' / 100 = q1
  generalize y' % 100 = q2
  generalize (s / 3600 < s' / 3600 ∨ s / 3600 = s' / 3600 ∧ (s / 60 % 60 < s' / 60 % 60 ∨ s / 60 % 60 = s' / 60 % 60 ∧ s % 60 < s' % 60)) = S
  by_cases hS : S <;> simp only [hS, and_true, and_false, or_false] <;> omega
theorem TextT.less {t u : Int} {a b : List UInt8} (ha : TextT t a) (hb : TextT u b) (h1 : -62135596800 ≤ t) (h2 : t ≤ 253402300799) (k1 : -62135596800 ≤ u) (k2 : u ≤ 253402300799) : Op.bytesLess a b = decide (t < u) := by
  rcases ha with ⟨h, _⟩ | ⟨y, m, d, s, hm, rfl, rfl⟩
  · omega
  rcases hb with ⟨h, _⟩ | ⟨y', m', d', s', hm', rfl, rfl⟩
  · omega
  exact txt_less hm hm'
theorem TextT.len {t : Int} {a : List UInt8} (ha : TextT t a) (h1 : -62135596800 ≤ t) (h2 : t ≤ 253402300799) : a.length = 15 := by
  rcases ha with ⟨h, _⟩ | ⟨y, m, d, s, hm, rfl, rfl⟩
  · omega
  · rfl

theorem TextT.len_le {t : Int} {a : List UInt8} (ha : TextT t a) : a.length ≤ 15 := by
  rcases ha with ⟨_, rfl⟩ | ⟨y, m, d, s, hm, rfl, rfl⟩
  · simp
  · rw [txt_len]; omega

/-- the next day has another number in its month -/
theorem next_day {y m d y' m' d' : Nat} (h : DateOk y m d) (h' : DateOk y' m' d') (he : dayNo y' m' d' = dayNo y m d + 1) : d ≠ d' := by
  obtain ⟨a1, a2, a3, a4, a5, a6⟩ := h
  have h'' := h'
  obtain ⟨b1, b2, b3, b4, b5, b6⟩ := h''
  have dp := dim_pos (y := y) a3 a4
  by_cases c1 : d < dimY y m
  · have hk : DateOk y m (d + 1) := ⟨a1, a2, a3, a4, by omega, c1⟩
    have e : dayNo y' m' d' = dayNo y m (d + 1) := by rw [he]; unfold dayNo; omega
    have := day_inj h' hk e
    omega
  by_cases c2 : m < 12
  · have dp' := dim_pos (y := y) (m := m + 1) (by omega) (by omega)
    have hk : DateOk y (m + 1) 1 := ⟨a1, a2, by omega, by omega, by omega, by omega⟩
    have e : dayNo y' m' d' = dayNo y (m + 1) 1 := by rw [he]; unfold dayNo; rw [show mon y (m + 1) = mon y m + dimY y m from rfl]; omega
    have := day_inj h' hk e
    omega
  obtain rfl : m = 12 := by omega
  have em : mon y 13 = mon y 12 + dimY y 12 := rfl
  have ey := yrs_next a1
  by_cases c3 : y < 9999
  · have dp' := dim_pos (y := y + 1) (m := 1) (by omega) (by omega)
    have hk : DateOk (y + 1) 1 1 := ⟨by omega, by omega, by omega, by omega, by omega, by omega⟩
    have e0 : mon (y + 1) 1 = 0 := by simp [mon, dimY]
    have e : dayNo y' m' d' = dayNo (y + 1) 1 1 := by rw [he]; unfold dayNo; omega
    have := day_inj h' hk e
    omega
  · have := day_max h'
    obtain rfl : y = 9999 := by omega
    have ey' : yrs (9999 + 1) = 3652059 := by decide
    rw [he] at this
    unfold dayNo at this
    omega
theorem TextT.next {t : Int} {a c : List UInt8} (ha : TextT t a) (hc : TextT (t + 86400) c) (h1 : -62135596800 ≤ t) (h2 : t ≤ 253402300799 - 86400) : a.drop 8 = c.drop 8 ∧ (a.take 8).drop 6 ≠ (c.take 8).drop 6 := by
  rcases ha with ⟨h, _⟩ | ⟨y, m, d, s, hm, rfl, rfl⟩
  · omega
  rcases hc with ⟨h, _⟩ | ⟨y', m', d', s', hm', ht, rfl⟩
  · omega
  have hs := hm.2
  have hs' := hm'.2
  have hd : dayNo y' m' d' = dayNo y m d + 1 ∧ s' = s := by unfold tim at ht; omega
  obtain ⟨hd, rfl⟩ := hd
  refine ⟨rfl, fun h => next_day hm.1 hm'.1 hd ?_⟩
  exact dd_inj (mom_le hm).2.2.2.1 (mom_le hm').2.2.2.1 h
/-- the days of a year's months, 0 to 13 -/
theorem mon_14 (y : Nat) : mon y 14 = if leapY y = true then 366 else 365 := by
  rw [show mon y 14 = mon y 13 + dimY y 13 from rfl, mon_year, show dimY y 13 = 0 by simp [dimY]]
  rfl
end Go.Proofs.YtlddpjcacnahmaaGreatDoor

/- Contracts of Days, leap, daysAhead, years. -/
namespace Go.Proofs.YtlddpjcacnahmaaGreatDoor
open Go.RowKit
set_option linter.unusedVariables false

theorem days_none {y m : Int} (h : y < 1 ∨ 9999 < y ∨ m < 1 ∨ 12 < m) : daysS y m = 0 := by unfold daysS; rw [if_pos h]
theorem days_at {y m : Nat} (h1 : 1 ≤ y) (h2 : y ≤ 9999) (h3 : 1 ≤ m) (h4 : m ≤ 12) : daysS (y : Int) (m : Int) = dimY y m := by
  unfold daysS
  rw [if_neg (by omega)]
  rfl
theorem yrs_int (z : Nat) : 365 * (z : Int) + (z : Int) / 4 - (z : Int) / 100 + (z : Int) / 400 = ((yrs (z + 1) : Nat) : Int) := by
  unfold yrs
  rw [show z + 1 - 1 = z by omega]
  omega

set_option maxHeartbeats 1000000 in
theorem leap_any (y : Nat) (w : World) (h : y ≤ 9999) :
    Calls Tryz.prog 143 #[.int .i64 y] w fun e w' => e = .returned (.bool (leapY y)) ∧ w' = w := by
  by_cases h1 : y % 4 = 0 <;> by_cases h2 : y % 100 = 0 <;> by_cases h3 : y % 400 = 0
  all_goals
    have hl : leapY y = decide ((y % 4 = 0 ∧ y % 100 ≠ 0) ∨ y % 400 = 0) := rfl
    simp only [h1, h2, h3, ne_eq, not_true_eq_false, not_false_eq_true, and_true, and_false, or_false, or_true, decide_true, decide_false, and_self, or_self] at hl
    rw [hl]
    go_enter Tryz.func143, Tryz.ntmps143
    go_wp2
    try (go_ret; exact ⟨ret_bool (by first | rfl | (simp; omega)), rfl⟩)

set_option maxHeartbeats 1000000 in
theorem rleap_any (y : Nat) (w : World) (h : y ≤ 9999) :
    Calls Tryz.prog 121 #[.int .i64 y] w fun e w' => e = .returned (.bool (leapY y)) ∧ w' = w := by
  by_cases h1 : y % 4 = 0 <;> by_cases h2 : y % 100 = 0 <;> by_cases h3 : y % 400 = 0
  all_goals
    have hl : leapY y = decide ((y % 4 = 0 ∧ y % 100 ≠ 0) ∨ y % 400 = 0) := rfl
    simp only [h1, h2, h3, ne_eq, not_true_eq_false, not_false_eq_true, and_true, and_false, or_false, or_true, decide_true, decide_false, and_self, or_self] at hl
    rw [hl]
    go_enter Tryz.func121, Tryz.ntmps121
    go_wp2
    try (go_ret; exact ⟨ret_bool (by first | rfl | (simp; omega)), rfl⟩)

set_option maxHeartbeats 1000000 in
theorem days_any (y m : Int) (w : World) :
    Calls Tryz.prog 118 #[.int .i64 y, .int .i64 m] w fun e w' => e = .returned (.int .i64 (daysS y m : Nat)) ∧ w' = w := by
  by_cases c1 : y < 1
  · rw [days_none (.inl c1)]
    go_enter Tryz.func118, Tryz.ntmps118
    go_wp2
    go_ret
    exact ⟨rfl, rfl⟩
  by_cases c2 : 9999 < y
  · rw [days_none (.inr (.inl c2))]
    go_enter Tryz.func118, Tryz.ntmps118
    go_wp2
    go_ret
    exact ⟨rfl, rfl⟩
  by_cases c3 : m < 1
  · rw [days_none (.inr (.inr (.inl c3)))]
    go_enter Tryz.func118, Tryz.ntmps118
    go_wp2
    go_ret
    exact ⟨rfl, rfl⟩
  by_cases c4 : 12 < m
  · rw [days_none (.inr (.inr (.inr c4)))]
    go_enter Tryz.func118, Tryz.ntmps118
    go_wp2
    go_ret
    exact ⟨rfl, rfl⟩
  obtain ⟨y, rfl⟩ : ∃ k : Nat, y = (k : Int) := ⟨y.toNat, by omega⟩
  obtain ⟨m, rfl⟩ : ∃ k : Nat, m = (k : Int) := ⟨m.toNat, by omega⟩
  rw [days_at (by omega) (by omega) (by omega) (by omega)]
  have hy : y ≤ 9999 := by omega
  have hl := leap_any y w hy
  by_cases k2 : m = 2
  · subst k2
    rw [dim_two]
    cases hb : leapY y with
    | true =>
      rw [hb] at hl
      go_enter Tryz.func118, Tryz.ntmps118
      go_wp2_with (go_at_call 143; refine hl.mono ?_; rintro e w' ⟨rfl, rfl⟩)
      go_ret
      exact ⟨rfl, rfl⟩
    | false =>
      rw [hb] at hl
      go_enter Tryz.func118, Tryz.ntmps118
      go_wp2_with (go_at_call 143; refine hl.mono ?_; rintro e w' ⟨rfl, rfl⟩)
      go_ret
      exact ⟨rfl, rfl⟩
  have g2 : ((m : Int) == 2) = false := by simp; omega
  by_cases k4 : m = 4
  · subst k4
    rw [show dimY y 4 = 30 by simp [dimY]]
    go_enter Tryz.func118, Tryz.ntmps118
    go_wp2
    go_ret
    exact ⟨rfl, rfl⟩
  have g4 : ((m : Int) == 4) = false := by simp; omega
  by_cases k6 : m = 6
  · subst k6
    rw [show dimY y 6 = 30 by simp [dimY]]
    go_enter Tryz.func118, Tryz.ntmps118
    go_wp2
    go_ret
    exact ⟨rfl, rfl⟩
  have g6 : ((m : Int) == 6) = false := by simp; omega
  by_cases k9 : m = 9
  · subst k9
    rw [show dimY y 9 = 30 by simp [dimY]]
    go_enter Tryz.func118, Tryz.ntmps118
    go_wp2
    go_ret
    exact ⟨rfl, rfl⟩
  have g9 : ((m : Int) == 9) = false := by simp; omega
  by_cases k11 : m = 11
  · subst k11
    rw [show dimY y 11 = 30 by simp [dimY]]
    go_enter Tryz.func118, Tryz.ntmps118
    go_wp2
    go_ret
    exact ⟨rfl, rfl⟩
  have g11 : ((m : Int) == 11) = false := by simp; omega
  rw [show dimY y m = 31 by unfold dimY; rw [if_neg k2, if_neg (by omega), if_pos (by omega)]]
  go_enter Tryz.func118, Tryz.ntmps118
  go_wp2
  go_ret
  exact ⟨rfl, rfl⟩

set_option maxHeartbeats 1000000 in
theorem rdays_any (y m : Int) (w : World) :
    Calls Tryz.prog 93 #[.int .i64 y, .int .i64 m] w fun e w' => e = .returned (.int .i64 (daysS y m : Nat)) ∧ w' = w := by
  by_cases c1 : y < 1
  · rw [days_none (.inl c1)]
    go_enter Tryz.func93, Tryz.ntmps93
    go_wp2
    go_ret
    exact ⟨rfl, rfl⟩
  by_cases c2 : 9999 < y
  · rw [days_none (.inr (.inl c2))]
    go_enter Tryz.func93, Tryz.ntmps93
    go_wp2
    go_ret
    exact ⟨rfl, rfl⟩
  by_cases c3 : m < 1
  · rw [days_none (.inr (.inr (.inl c3)))]
    go_enter Tryz.func93, Tryz.ntmps93
    go_wp2
    go_ret
    exact ⟨rfl, rfl⟩
  by_cases c4 : 12 < m
  · rw [days_none (.inr (.inr (.inr c4)))]
    go_enter Tryz.func93, Tryz.ntmps93
    go_wp2
    go_ret
    exact ⟨rfl, rfl⟩
  obtain ⟨y, rfl⟩ : ∃ k : Nat, y = (k : Int) := ⟨y.toNat, by omega⟩
  obtain ⟨m, rfl⟩ : ∃ k : Nat, m = (k : Int) := ⟨m.toNat, by omega⟩
  rw [days_at (by omega) (by omega) (by omega) (by omega)]
  have hy : y ≤ 9999 := by omega
  have hl := rleap_any y w hy
  by_cases k2 : m = 2
  · subst k2
    rw [dim_two]
    cases hb : leapY y with
    | true =>
      rw [hb] at hl
      go_enter Tryz.func93, Tryz.ntmps93
      go_wp2_with (go_at_call 121; refine hl.mono ?_; rintro e w' ⟨rfl, rfl⟩)
      go_ret
      exact ⟨rfl, rfl⟩
    | false =>
      rw [hb] at hl
      go_enter Tryz.func93, Tryz.ntmps93
      go_wp2_with (go_at_call 121; refine hl.mono ?_; rintro e w' ⟨rfl, rfl⟩)
      go_ret
      exact ⟨rfl, rfl⟩
  have g2 : ((m : Int) == 2) = false := by simp; omega
  by_cases k4 : m = 4
  · subst k4
    rw [show dimY y 4 = 30 by simp [dimY]]
    go_enter Tryz.func93, Tryz.ntmps93
    go_wp2
    go_ret
    exact ⟨rfl, rfl⟩
  have g4 : ((m : Int) == 4) = false := by simp; omega
  by_cases k6 : m = 6
  · subst k6
    rw [show dimY y 6 = 30 by simp [dimY]]
    go_enter Tryz.func93, Tryz.ntmps93
    go_wp2
    go_ret
    exact ⟨rfl, rfl⟩
  have g6 : ((m : Int) == 6) = false := by simp; omega
  by_cases k9 : m = 9
  · subst k9
    rw [show dimY y 9 = 30 by simp [dimY]]
    go_enter Tryz.func93, Tryz.ntmps93
    go_wp2
    go_ret
    exact ⟨rfl, rfl⟩
  have g9 : ((m : Int) == 9) = false := by simp; omega
  by_cases k11 : m = 11
  · subst k11
    rw [show dimY y 11 = 30 by simp [dimY]]
    go_enter Tryz.func93, Tryz.ntmps93
    go_wp2
    go_ret
    exact ⟨rfl, rfl⟩
  have g11 : ((m : Int) == 11) = false := by simp; omega
  rw [show dimY y m = 31 by unfold dimY; rw [if_neg k2, if_neg (by omega), if_pos (by omega)]]
  go_enter Tryz.func93, Tryz.ntmps93
  go_wp2
  go_ret
  exact ⟨rfl, rfl⟩

set_option maxHeartbeats 1000000 in
theorem ahead_any (y : Nat) (w : World) (h1 : 1 ≤ y) (h : y ≤ 10000) :
    Calls Tryz.prog 117 #[.int .i64 y] w fun e w' => e = .returned (.int .i64 (yrs y : Nat)) ∧ w' = w := by
  obtain ⟨z, rfl⟩ : ∃ z, y = z + 1 := ⟨y - 1, by omega⟩
  have g1 : ((z + 1 : Nat) : Int) - 1 = (z : Int) := by omega
  have hy := yrs_int z
  go_enter Tryz.func117, Tryz.ntmps117
  go_wp2
  go_ret
  exact ⟨ret_int (by first | exact hy | omega), rfl⟩

set_option maxHeartbeats 1000000 in
theorem ryears_any (y : Nat) (w : World) (h1 : 1 ≤ y) (h : y ≤ 10000) :
    Calls Tryz.prog 92 #[.int .i64 y] w fun e w' => e = .returned (.int .i64 (yrs y : Nat)) ∧ w' = w := by
  obtain ⟨z, rfl⟩ : ∃ z, y = z + 1 := ⟨y - 1, by omega⟩
  have g1 : ((z + 1 : Nat) : Int) - 1 = (z : Int) := by omega
  have hy := yrs_int z
  go_enter Tryz.func92, Tryz.ntmps92
  go_wp2
  go_ret
  exact ⟨ret_int (by first | exact hy | omega), rfl⟩
end Go.Proofs.YtlddpjcacnahmaaGreatDoor
