/- Contract of stamp.Read. -/
import Derived.Test.YtlddpjcacnahmaaGreatDoorSFit
namespace Go.Proofs.YtlddpjcacnahmaaGreatDoor
open Go.RowKit
set_option linter.unusedVariables false

theorem txt6_inj {y m d h i c y' m' d' h' i' c' : Nat} (hb : Bnd y m d h i c) (hb' : Bnd y' m' d' h' i' c') (he : txt6 y m d h i c = txt6 y' m' d' h' i' c') : y = y' ∧ m = m' ∧ d = d' ∧ h = h' ∧ i = i' ∧ c = c' := by
  obtain ⟨a1, a2, a3, a4, a5, a6⟩ := hb
  obtain ⟨b1, b2, b3, b4, b5, b6⟩ := hb'
  unfold txt6 at he
  obtain ⟨e1, he⟩ := dd_app (by omega) (by omega) he
  obtain ⟨e2, he⟩ := dd_app (by omega) (by omega) he
  obtain ⟨e3, he⟩ := dd_app (by omega) (by omega) he
  obtain ⟨e4, he⟩ := dd_app (by omega) (by omega) he
  obtain ⟨e5, he⟩ := dd_app (by omega) (by omega) he
  obtain ⟨e6, he⟩ := dd_app (by omega) (by omega) he
  obtain ⟨e7, he⟩ := dd_app (by omega) (by omega) he
  exact ⟨by omega, e3, e4, e5, e6, e7⟩
theorem mom_bnd {y m d s : Nat} (h : Mom y m d s) : Bnd y m d (s / 3600) (s / 60 % 60) (s % 60) := by
  obtain ⟨b1, b2, b3, b4, b5, b6, b7⟩ := mom_le h
  exact ⟨by omega, b3, b4, b5, b6, b7⟩
theorem mom_fit {y m d s : Nat} (h : Mom y m d s) : sfitB y m d (s / 3600) (s / 60 % 60) (s % 60) = true := by
  obtain ⟨⟨a1, a2, a3, a4, a5, a6⟩, a7⟩ := h
  unfold sfitB
  rw [decide_eq_true_iff, days_at a1 a2 a3 a4]
  omega
theorem fit_date {y m d h i c : Nat} (hf : sfitB y m d h i c = true) : DateOk y m d ∧ h < 24 ∧ i < 60 ∧ c < 60 := by
  unfold sfitB at hf
  rw [decide_eq_true_iff] at hf
  obtain ⟨h1, h2, h3, h4, h5⟩ := hf
  by_cases hn : (y : Int) < 1 ∨ 9999 < (y : Int) ∨ (m : Int) < 1 ∨ 12 < (m : Int)
  · rw [days_none hn] at h2; omega
  · rw [days_at (by omega) (by omega) (by omega) (by omega)] at h2
    exact ⟨⟨by omega, by omega, by omega, by omega, h1, h2⟩, h3, h4, h5⟩
/-- no text of digits is no text of a time -/
theorem read_no {l : List UInt8} (h : ∀ y m d h i c, Bnd y m d h i c → l ≠ txt6 y m d h i c) : ReadT l 0 1 :=
  .inr ⟨rfl, rfl, fun y m d s hM he => h _ _ _ _ _ _ (mom_bnd hM) he⟩
/-- a date that the calendar lacks is no text of a time -/
theorem read_unfit {y m d h i c : Nat} (hb : Bnd y m d h i c) (hf : sfitB y m d h i c = false) : ReadT (txt6 y m d h i c) 0 1 :=
  .inr ⟨rfl, rfl, fun y' m' d' s' hM he => by
    obtain ⟨rfl, rfl, rfl, rfl, rfl, rfl⟩ := txt6_inj hb (mom_bnd hM) he
    rw [mom_fit hM] at hf
    cases hf⟩
theorem read_fit {y m d h i c : Nat} (hf : sfitB y m d h i c = true) : ReadT (txt6 y m d h i c) (tim y m d (h * 3600 + i * 60 + c)) 0 := by
  obtain ⟨hD, h1, h2, h3⟩ := fit_date hf
  refine .inl ⟨rfl, y, m, d, h * 3600 + i * 60 + c, ⟨hD, by omega⟩, rfl, ?_⟩
  have e1 : (h * 3600 + i * 60 + c) / 3600 = h := by omega
  have e2 : (h * 3600 + i * 60 + c) / 60 % 60 = i := by omega
  have e3 : (h * 3600 + i * 60 + c) % 60 = c := by omega
  unfold txt
  rw [e1, e2, e3]
  rfl
/-- Read's ending -/
def ReadO (l : List UInt8) (e : Ending) : Prop := ∃ v c : Int, e = .returned (.tuple #[.int .i64 v, .int .i64 c]) ∧ ReadT l v c
theorem ReadO.mk' {l : List UInt8} {v c : Int} (h : ReadT l v c) : ReadO l (.returned (.tuple #[.int .i64 v, .int .i64 c])) := ⟨v, c, rfl, h⟩

set_option maxRecDepth 100000 in
set_option maxHeartbeats 2000000 in
theorem sread_any (l : List UInt8) (w : World) (hl : l.length ≤ 1000000) :
    Calls Tryz.prog 72 #[str l] w fun e w' => ReadO l e ∧ Below w.heap.size w w' := by
  go_enter Tryz.func72, Tryz.ntmps72
  go_wp2_with fail
  refine (sloose_any l w hl).mono ?_
  rintro e w1 ⟨⟨ok, y, m, d, h, i, c, rfl, hT⟩, b1⟩
  rcases hT with ⟨rfl, hB, rfl⟩ | ⟨rfl, hN⟩
  · have hfit := fun w' => dfit_any y m d h i c w'
    cases hf : sfitB y m d h i c with
    | true =>
      obtain ⟨hD, k1, k2, k3⟩ := fit_date hf
      have htim := fun w' => dtime_any y m d h i c w' hD k1 k2 k3
      have HR := hide (read_fit hf)
      rw [hf] at hfit
      clear hD hf hB
      generalize tim y m d (h * 3600 + i * 60 + c) = T at *
      go_wp2_with fail
      refine (hfit _).mono ?_
      rintro e w2 ⟨rfl, b2⟩
      have hb := (Bxd.new y m d h i c w1).bel b2 (by simp)
      have c0 := hb.cell 0 y rfl
      have c1 := hb.cell 1 m rfl
      have c2 := hb.cell 2 d rfl
      have c3 := hb.cell 3 h rfl
      have c4 := hb.cell 4 i rfl
      have c5 := hb.cell 5 c rfl
      have k2 : Below w.heap.size w w2 := (b1.alloc b1.size _).trans (b2.mono (by have := b1.size; simp; omega))
      go_wp2_with fail
      refine (htim _).mono ?_
      rintro e w3 ⟨rfl, b3⟩
      go_wp2
      go_ret2
      exact ⟨ReadO.mk' HR.out, keep_trans k2 b3⟩
    | false =>
      have HR := hide (read_unfit hB hf)
      rw [hf] at hfit
      clear hf hB
      go_wp2_with fail
      refine (hfit _).mono ?_
      rintro e w2 ⟨rfl, b2⟩
      have k2 : Below w.heap.size w w2 := (b1.alloc b1.size _).trans (b2.mono (by have := b1.size; simp; omega))
      go_wp2
      go_ret2
      exact ⟨ReadO.mk' HR.out, k2⟩
  · have HR := hide (read_no hN)
    clear hN
    go_wp2
    go_ret2
    exact ⟨ReadO.mk' HR.out, b1.alloc b1.size _⟩
end Go.Proofs.YtlddpjcacnahmaaGreatDoor

/- Contract of apostilleref03.number, and plain facts on its numbers. -/
namespace Go.Proofs.YtlddpjcacnahmaaGreatDoor
open Go.RowKit
set_option linter.unusedVariables false

/-- digits alone -/
def Dgs (l : List UInt8) : Prop := ∀ c ∈ l, 48 ≤ c.toNat ∧ c.toNat ≤ 57
/-- the number that digits spell -/
def vd (l : List UInt8) : Nat := l.foldl (fun n c => n * 10 + (c.toNat - 48)) 0
/-- what number tells -/
def NumT (l : List UInt8) (v : Int) : Prop := (Dgs l ∧ v = (vd l : Int)) ∨ (¬ Dgs l ∧ v = -1)
theorem vd_snoc (l : List UInt8) (c : UInt8) : vd (l ++ [c]) = vd l * 10 + (c.toNat - 48) := by simp [vd]
theorem vd_take {l : List UInt8} {k : Nat} (h : k < l.length) : vd (l.take (k + 1)) = vd (l.take k) * 10 + (l[k].toNat - 48) := by
  rw [List.take_succ_eq_append_getElem h, vd_snoc]
theorem vd_lt (l : List UInt8) (h : Dgs l) : ∀ k, k ≤ l.length → vd (l.take k) < 10 ^ k := by
  intro k
  induction k with
  | zero => intro _; simp [vd]
  | succ k ih =>
    intro hk
    rw [vd_take hk, Nat.pow_succ]
    have := ih (by omega)
    have := h l[k] (List.getElem_mem _)
    omega

set_option maxRecDepth 100000 in
set_option maxHeartbeats 2000000 in
theorem srnumber_any (l : List UInt8) (w : World) (hl : l.length ≤ 14) :
    Calls Tryz.prog 108 #[str l] w fun e w' => (∃ v : Int, e = .returned (.int .i64 v) ∧ NumT l v) ∧ w' = w := by
  go_enter Tryz.func108, Tryz.ntmps108
  go_wp2
  go_loop [3, 4] (fun vn vi => ∃ (k n : Nat), k ≤ l.length ∧ vi = .int .i64 k ∧ vn = .int .i64 n ∧ n < 100000000000000 ∧ Hid (vd (l.take k) = n) ∧ Hid (Dgs (l.take k))) (fun _ i => l.length - (intOf i).toNat)
  case atStart => exact ⟨0, 0, Nat.zero_le _, rfl, rfl, by omega, hide rfl, hide (fun c hc => by simp at hc)⟩
  case round =>
    obtain ⟨k, n, hk, rfl, rfl, hn, HN, HA⟩ := hrel
    by_cases hlt : k < l.length
    · obtain ⟨c, hc⟩ : ∃ c, (⟨l.toArray⟩ : ByteArray)[k]'(by simpa [ByteArray.size] using hlt) = c := ⟨_, rfl⟩
      have HC : Hid (l[k] = c) := hide hc
      have hmem : Hid (c ∈ l) := hide (by rw [← HC.out]; exact List.getElem_mem _)
      have hc256 : c.toNat < 256 := c.toNat_lt
      by_cases hlo : c.toNat < 48
      · have HNo : Hid (NumT l (-1)) := hide (.inr ⟨fun h => by have := h c hmem.out; omega, rfl⟩)
        have g1 : (c.toNat : Int) < 48 := by omega
        go_wp2
        go_ret
        exact ⟨⟨_, rfl, HNo.out⟩, rfl⟩
      by_cases hhi : 57 < c.toNat
      · have HNo : Hid (NumT l (-1)) := hide (.inr ⟨fun h => by have := h c hmem.out; omega, rfl⟩)
        have g1 : ¬ (c.toNat : Int) < 48 := by omega
        have g2 : (57 : Int) < (c.toNat : Int) := by omega
        go_wp2
        go_ret
        exact ⟨⟨_, rfl, HNo.out⟩, rfl⟩
      have g1 : ¬ (c.toNat : Int) < 48 := by omega
      have g2 : ¬ (57 : Int) < (c.toNat : Int) := by omega
      have HN2 : Hid (vd (l.take (k + 1)) = n * 10 + (c.toNat - 48)) := hide (by rw [vd_take hlt, HN.out, HC.out])
      have HA2 : Hid (Dgs (l.take (k + 1))) := hide (by
        rw [List.take_succ_eq_append_getElem hlt]
        intro d hd
        rcases List.mem_append.1 hd with h | h
        · exact HA.out d h
        · simp at h; subst h; rw [HC.out]; omega)
      have hlt2 : n * 10 + (c.toNat - 48) < 100000000000000 := by
        have h1 := vd_lt (l.take (k + 1)) HA2.out (k + 1) (by rw [List.length_take_of_le hlt]; exact Nat.le_refl _)
        rw [List.take_take, Nat.min_self, HN2.out] at h1
        have h2 : 10 ^ (k + 1) ≤ 10 ^ 14 := Nat.pow_le_pow_right (by decide) (by omega)
        omega
      have g4 : (0 : Int) ≤ (c.toNat : Int) - 48 := by omega
      have HV : Hid ((n : Int) * 10 + ((c.toNat : Int) - 48) = ((n * 10 + (c.toNat - 48) : Nat) : Int)) := hide (by omega)
      go_wp2
      exact ⟨⟨k + 1, n * 10 + (c.toNat - 48), by omega, by simp, by rw [HV.out], hlt2, HN2, HA2⟩, by simp [intOf]; omega⟩
    · have hkk : l.take k = l := List.take_of_length_le (by omega)
      have hN := HN.out
      have hA := HA.out
      rw [hkk] at hN hA
      have HY : Hid (NumT l (n : Int)) := hide (.inl ⟨hA, by rw [hN]⟩)
      clear HN HA hA hkk hN
      go_wp2
      go_ret
      exact ⟨⟨_, rfl, HY.out⟩, rfl⟩

/-- the six numbers are those of a date that is -/
def Good (n0 n1 n2 n3 n4 n5 : Int) : Prop := 1 ≤ n2 ∧ n2 ≤ (daysS n0 n1 : Nat) ∧ 0 ≤ n3 ∧ n3 ≤ 23 ∧ 0 ≤ n4 ∧ n4 ≤ 59 ∧ 0 ≤ n5 ∧ n5 ≤ 59
theorem NumT.yes {l : List UInt8} {v : Int} (h : NumT l v) (hv : 0 ≤ v) : Dgs l ∧ v = (vd l : Int) := by
  rcases h with h | ⟨_, rfl⟩
  · exact h
  · omega
theorem NumT.is {l : List UInt8} {v : Int} (h : NumT l v) (hd : Dgs l) : v = (vd l : Int) := by
  rcases h with h | ⟨h, _⟩
  · exact h.2
  · exact absurd hd h
theorem days_pos {n0 n1 : Int} (h : 1 ≤ daysS n0 n1) : 1 ≤ n0 ∧ 1 ≤ n1 := by
  apply Classical.byContradiction
  intro hn
  rw [days_none (by omega)] at h
  omega
theorem dd_dgs {n : Nat} (h : n < 100) : Dgs (dd n) := by
  intro c hc
  simp only [dd, List.mem_cons, List.not_mem_nil, or_false] at hc
  rcases hc with rfl | rfl
  · rw [ch_nat (by omega)]; omega
  · rw [ch_nat (by omega)]; omega
theorem dd_vd {n : Nat} (h : n < 100) : vd (dd n) = n := by
  show (0 * 10 + ((ch (48 + n / 10)).toNat - 48)) * 10 + ((ch (48 + n % 10)).toNat - 48) = n
  rw [ch_nat (by omega), ch_nat (by omega)]
  omega
theorem dd2_vd {n : Nat} (h : n < 10000) : vd (dd (n / 100) ++ dd (n % 100)) = n := by
  show (((0 * 10 + ((ch (48 + n / 100 / 10)).toNat - 48)) * 10 + ((ch (48 + n / 100 % 10)).toNat - 48)) * 10 + ((ch (48 + n % 100 / 10)).toNat - 48)) * 10 + ((ch (48 + n % 100 % 10)).toNat - 48) = n
  rw [ch_nat (by omega), ch_nat (by omega), ch_nat (by omega), ch_nat (by omega)]
  omega
/-- the numbers of a date's text -/
theorem nums_text {y m d h i c : Nat} (hb : Bnd y m d h i c) {n0 n1 n2 n3 n4 n5 : Int}
    (h0 : NumT (((txt6 y m d h i c).take 4).drop 0) n0) (h1 : NumT (((txt6 y m d h i c).take 6).drop 4) n1) (h2 : NumT (((txt6 y m d h i c).take 8).drop 6) n2)
    (h3 : NumT (((txt6 y m d h i c).take 10).drop 8) n3) (h4 : NumT (((txt6 y m d h i c).take 12).drop 10) n4) (h5 : NumT (((txt6 y m d h i c).take 14).drop 12) n5) :
    n0 = (y : Int) ∧ n1 = (m : Int) ∧ n2 = (d : Int) ∧ n3 = (h : Int) ∧ n4 = (i : Int) ∧ n5 = (c : Int) := by
  obtain ⟨b0, b1, b2, b3, b4, b5⟩ := hb
  have e0 : ((txt6 y m d h i c).take 4).drop 0 = dd (y / 100) ++ dd (y % 100) := rfl
  have e1 : ((txt6 y m d h i c).take 6).drop 4 = dd m := rfl
  have e2 : ((txt6 y m d h i c).take 8).drop 6 = dd d := rfl
  have e3 : ((txt6 y m d h i c).take 10).drop 8 = dd h := rfl
  have e4 : ((txt6 y m d h i c).take 12).drop 10 = dd i := rfl
  have e5 : ((txt6 y m d h i c).take 14).drop 12 = dd c := rfl
  rw [e0] at h0
  rw [e1] at h1
  rw [e2] at h2
  rw [e3] at h3
  rw [e4] at h4
  rw [e5] at h5
  have k0 : Dgs (dd (y / 100) ++ dd (y % 100)) := by
    intro x hx
    rcases List.mem_append.1 hx with hx | hx
    · exact dd_dgs (n := y / 100) (by omega) x hx
    · exact dd_dgs (n := y % 100) (by omega) x hx
  rw [h0.is k0, h1.is (dd_dgs b1), h2.is (dd_dgs b2), h3.is (dd_dgs b3), h4.is (dd_dgs b4), h5.is (dd_dgs b5), dd2_vd b0, dd_vd b1, dd_vd b2, dd_vd b3, dd_vd b4, dd_vd b5]
  exact ⟨rfl, rfl, rfl, rfl, rfl, rfl⟩
theorem good_fit {y m d h i c : Nat} : Good y m d h i c ↔ sfitB y m d h i c = true := by
  unfold Good sfitB
  rw [decide_eq_true_iff]
  omega
/-- the six numbers of a text of fifteen bytes whose last is Z: they are good just when the text is a time's -/
theorem nums_read {l : List UInt8} (hl : l.length = 15) (hz : bat l 14 = 90) {n0 n1 n2 n3 n4 n5 : Int}
    (h0 : NumT ((l.take 4).drop 0) n0) (h1 : NumT ((l.take 6).drop 4) n1) (h2 : NumT ((l.take 8).drop 6) n2)
    (h3 : NumT ((l.take 10).drop 8) n3) (h4 : NumT ((l.take 12).drop 10) n4) (h5 : NumT ((l.take 14).drop 12) n5) :
    (Good n0 n1 n2 n3 n4 n5 ∧ ∃ y m d h i c : Nat, n0 = (y : Int) ∧ n1 = (m : Int) ∧ n2 = (d : Int) ∧ n3 = (h : Int) ∧ n4 = (i : Int) ∧ n5 = (c : Int) ∧ sfitB y m d h i c = true ∧ l = txt6 y m d h i c) ∨ (¬ Good n0 n1 n2 n3 n4 n5 ∧ ReadT l 0 1) := by
  by_cases hd : ∀ j, j < 14 → 48 ≤ bat l j ∧ bat l j ≤ 57
  · obtain ⟨hb, he⟩ := digits_text l hl hz hd
    generalize el (psOf l 14) 0 = y at *
    generalize el (psOf l 14) 1 = m at *
    generalize el (psOf l 14) 2 = d at *
    generalize el (psOf l 14) 3 = h at *
    generalize el (psOf l 14) 4 = i at *
    generalize el (psOf l 14) 5 = c at *
    subst he
    obtain ⟨rfl, rfl, rfl, rfl, rfl, rfl⟩ := nums_text hb h0 h1 h2 h3 h4 h5
    cases hf : sfitB y m d h i c with
    | true => exact .inl ⟨good_fit.2 hf, y, m, d, h, i, c, rfl, rfl, rfl, rfl, rfl, rfl, hf, rfl⟩
    | false => exact .inr ⟨(fun hg => by rw [good_fit.1 hg] at hf; cases hf), read_unfit hb hf⟩
  · refine .inr ⟨fun hg => hd ?_, ?_⟩
    · obtain ⟨g1, g2, g3, g4, g5, g6, g7, g8⟩ := hg
      have hp := days_pos (n0 := n0) (n1 := n1) (by omega)
      have k0 := (h0.yes (by omega)).1
      have k1 := (h1.yes (by omega)).1
      have k2 := (h2.yes (by omega)).1
      have k3 := (h3.yes (by omega)).1
      have k4 := (h4.yes (by omega)).1
      have k5 := (h5.yes (by omega)).1
      obtain ⟨b0, b1, b2, b3, b4, b5, b6, b7, b8, b9, b10, b11, b12, b13, b14, rfl⟩ := list15 l hl
      simp only [Dgs, List.take_succ_cons, List.take_zero, List.drop_succ_cons, List.drop_zero, List.forall_mem_cons, List.not_mem_nil, false_implies, implies_true, and_true] at k0 k1 k2 k3 k4 k5
      intro j hj
      simp only [bat]
      rcases (by omega : j = 0 ∨ j = 1 ∨ j = 2 ∨ j = 3 ∨ j = 4 ∨ j = 5 ∨ j = 6 ∨ j = 7 ∨ j = 8 ∨ j = 9 ∨ j = 10 ∨ j = 11 ∨ j = 12 ∨ j = 13) with rfl | rfl | rfl | rfl | rfl | rfl | rfl | rfl | rfl | rfl | rfl | rfl | rfl | rfl
      · exact k0.1
      · exact k0.2.1
      · exact k0.2.2.1
      · exact k0.2.2.2
      · exact k1.1
      · exact k1.2
      · exact k2.1
      · exact k2.2
      · exact k3.1
      · exact k3.2
      · exact k4.1
      · exact k4.2
      · exact k5.1
      · exact k5.2
    · refine read_no (fun y m d h i c hb he => hd ?_)
      rw [he]
      exact (txt6_at y m d h i c hb).2
end Go.Proofs.YtlddpjcacnahmaaGreatDoor

/- Contract of apostilleref03.Read. -/
namespace Go.Proofs.YtlddpjcacnahmaaGreatDoor
open Go.RowKit
set_option linter.unusedVariables false

set_option maxRecDepth 100000 in
set_option maxHeartbeats 4000000 in
theorem srread_any (l : List UInt8) (w : World) (hl : l.length ≤ 1000000) :
    Calls Tryz.prog 73 #[str l] w fun e w' => ReadO l e ∧ w' = w := by
  by_cases h15 : l.length = 15
  · obtain ⟨b, hb⟩ : ∃ b, (⟨l.toArray⟩ : ByteArray)[14]'(by simp [ByteArray.size, h15]) = b := ⟨_, rfl⟩
    have hbn : bat l 14 = b.toNat := by rw [bat_at (by omega)]; exact congrArg UInt8.toNat hb
    have g15 : ((l.length : Int) != 15) = false := by simp; omega
    by_cases hz : b.toNat = 90
    · have gz : ((b.toNat : Int) != 90) = false := by simp; omega
      have hall := @nums_read l h15 (by omega)
      have s0 := sub_eq l 0 4
      have s1 := sub_eq l 4 6
      have s2 := sub_eq l 6 8
      have s3 := sub_eq l 8 10
      have s4 := sub_eq l 10 12
      have s5 := sub_eq l 12 14
      have l0 : ((l.take 4).drop 0).length ≤ 14 := by simp; omega
      have l1 : ((l.take 6).drop 4).length ≤ 14 := by simp; omega
      have l2 : ((l.take 8).drop 6).length ≤ 14 := by simp; omega
      have l3 : ((l.take 10).drop 8).length ≤ 14 := by simp; omega
      have l4 : ((l.take 12).drop 10).length ≤ 14 := by simp; omega
      have l5 : ((l.take 14).drop 12).length ≤ 14 := by simp; omega
      generalize (l.take 4).drop 0 = x0 at *
      generalize (l.take 6).drop 4 = x1 at *
      generalize (l.take 8).drop 6 = x2 at *
      generalize (l.take 10).drop 8 = x3 at *
      generalize (l.take 12).drop 10 = x4 at *
      generalize (l.take 14).drop 12 = x5 at *
      clear hbn
      go_enter Tryz.func73, Tryz.ntmps73
      go_wp2_with fail
      refine (srnumber_any x0 _ l0).mono ?_
      rintro e w' ⟨⟨n0, rfl, h0⟩, rfl⟩
      go_wp2_with fail
      refine (srnumber_any x1 _ l1).mono ?_
      rintro e w' ⟨⟨n1, rfl, h1⟩, rfl⟩
      go_wp2_with fail
      refine (srnumber_any x2 _ l2).mono ?_
      rintro e w' ⟨⟨n2, rfl, h2⟩, rfl⟩
      go_wp2_with fail
      refine (srnumber_any x3 _ l3).mono ?_
      rintro e w' ⟨⟨n3, rfl, h3⟩, rfl⟩
      go_wp2_with fail
      refine (srnumber_any x4 _ l4).mono ?_
      rintro e w' ⟨⟨n4, rfl, h4⟩, rfl⟩
      go_wp2_with fail
      refine (srnumber_any x5 _ l5).mono ?_
      rintro e w' ⟨⟨n5, rfl, h5⟩, rfl⟩
      rcases hall h0 h1 h2 h3 h4 h5 with ⟨hG, y, m, d, h, i, c, rfl, rfl, rfl, rfl, rfl, rfl, hf, rfl⟩ | ⟨hG, hR⟩
      · clear h0 h1 h2 h3 h4 h5 hall s0 s1 s2 s3 s4 s5 hG
        obtain ⟨hD, k3, k4, k5⟩ := fit_date hf
        have HR := hide (read_fit hf)
        have hmax := day_max hD
        have hno : dayNo y m d = yrs y + mon y m + (d - 1) := rfl
        obtain ⟨a1, a2, a3, a4, a5, a6⟩ := hD
        have hdm := dim_le y m
        have HT : Hid (-62135596800 + ((yrs y + (d - 1) + mon y m : Nat) : Int) * 86400 + ((h : Int) * 3600 + (i : Int) * 60 + (c : Int)) = tim y m d (h * 3600 + i * 60 + c)) := hide (by unfold tim; rw [hno]; omega)
        have hcall := fun w' => rdays_any (y : Int) (m : Int) w'
        rw [days_at a1 a2 a3 a4] at hcall
        have hyr := fun w' => ryears_any y w' a1 (by omega)
        obtain ⟨n0, HN0⟩ : ∃ n0 : Nat, Hid (n0 = yrs y + (d - 1)) := ⟨_, hide rfl⟩
        have HS0 : Hid (((yrs y : Nat) : Int) + ((d : Int) - 1) = (n0 : Int)) := hide (by rw [HN0.out]; omega)
        have hsum : yrs y + (d - 1) + mon y m ≤ 3652058 := by omega
        have hy0 : yrs y ≤ 3652058 := by omega
        have hd100 : d < 100 := by omega
        generalize tim y m d (h * 3600 + i * 60 + c) = T at *
        have j1 : ¬ (d : Int) < 1 := by omega
        have j2 : ¬ (dimY y m : Int) < (d : Int) := by omega
        have j2n : ¬ dimY y m < d := by omega
        have j3 : ¬ (23 : Int) < (h : Int) := by omega
        have j4 : ¬ (59 : Int) < (i : Int) := by omega
        have j5 : ¬ (59 : Int) < (c : Int) := by omega
        clear hno hmax hf
        go_wp2_with fail
        refine (hcall _).mono ?_
        rintro e w' ⟨rfl, rfl⟩
        go_wp2_with fail
        refine (hyr _).mono ?_
        rintro e w' ⟨rfl, rfl⟩
        go_wp2_with fail
        rw [HS0.out]
        clear hcall hyr HS0
        go_loop [10, 11] (fun u v => ∃ k n : Nat, 1 ≤ k ∧ k ≤ m ∧ v = .int .i64 k ∧ u = .int .i64 n ∧ Hid (n = yrs y + (d - 1) + mon y k)) (fun _ v => m - (intOf v).toNat)
        case atStart => exact ⟨1, _, Nat.le_refl _, a3, rfl, rfl, hide (by rw [HN0.out, show mon y 1 = 0 by simp [mon, dimY]]; omega)⟩
        case round =>
          obtain ⟨k, n, hk1, hkm, rfl, rfl, HN⟩ := hrel
          have hmm := mon_mono y hkm
          have hn : n ≤ 3652058 := by have := HN.out; omega
          clear hmm
          by_cases hlt : k < m
          · have hcall := fun w' => rdays_any (y : Int) (k : Int) w'
            rw [days_at a1 a2 hk1 (by omega)] at hcall
            have hDk := dim_le y k
            have HN2 : Hid (n + dimY y k = yrs y + (d - 1) + mon y (k + 1)) := hide (by rw [HN.out, show mon y (k + 1) = mon y k + dimY y k from rfl]; omega)
            generalize dimY y k = D at *
            have HV : Hid ((n : Int) + (D : Int) = ((n + D : Nat) : Int)) := hide (by omega)
            go_wp2_with (first | (go_at_call 93; refine (hcall _).mono ?_; rintro e w' ⟨rfl, rfl⟩) | go_in)
            go_round
            case rel => exact ⟨k + 1, n + D, by omega, hlt, by go_num, by rw [HV.out], HN2⟩
            case measure => simp [intOf]; omega
          · obtain rfl : k = m := by omega
            have HT2 : Hid (-62135596800 + (n : Int) * 86400 + ((h : Int) * 3600 + (i : Int) * 60 + (c : Int)) = T) := hide (by rw [← HT.out, ← HN.out])
            clear HT HN
            go_wp2
            go_ret2
            exact ⟨⟨_, _, rfl, by rw [← HT2.out] at HR; exact HR.out⟩, rfl⟩
      · clear h0 h1 h2 h3 h4 h5 hall s0 s1 s2 s3 s4 s5
        have HR := hide hR
        clear hR
        by_cases t1 : n2 < 1
        · go_wp2
          go_ret2
          exact ⟨ReadO.mk' HR.out, rfl⟩
        have hcall := fun w => rdays_any n0 n1 w
        unfold Good at hG
        generalize daysS n0 n1 = D at *
        by_cases t2 : (D : Int) < n2
        · clear hG
          go_wp2_with (first | (go_at_call 93; refine (hcall _).mono ?_; rintro e w' ⟨rfl, rfl⟩) | go_in)
          go_ret2
          exact ⟨ReadO.mk' HR.out, rfl⟩
        by_cases t3 : n3 < 0
        · clear hG
          go_wp2_with (first | (go_at_call 93; refine (hcall _).mono ?_; rintro e w' ⟨rfl, rfl⟩) | go_in)
          go_ret2
          exact ⟨ReadO.mk' HR.out, rfl⟩
        by_cases t4 : 23 < n3
        · clear hG
          go_wp2_with (first | (go_at_call 93; refine (hcall _).mono ?_; rintro e w' ⟨rfl, rfl⟩) | go_in)
          go_ret2
          exact ⟨ReadO.mk' HR.out, rfl⟩
        by_cases t5 : n4 < 0
        · clear hG
          go_wp2_with (first | (go_at_call 93; refine (hcall _).mono ?_; rintro e w' ⟨rfl, rfl⟩) | go_in)
          go_ret2
          exact ⟨ReadO.mk' HR.out, rfl⟩
        by_cases t6 : 59 < n4
        · clear hG
          go_wp2_with (first | (go_at_call 93; refine (hcall _).mono ?_; rintro e w' ⟨rfl, rfl⟩) | go_in)
          go_ret2
          exact ⟨ReadO.mk' HR.out, rfl⟩
        by_cases t7 : n5 < 0
        · clear hG
          go_wp2_with (first | (go_at_call 93; refine (hcall _).mono ?_; rintro e w' ⟨rfl, rfl⟩) | go_in)
          go_ret2
          exact ⟨ReadO.mk' HR.out, rfl⟩
        by_cases t8 : 59 < n5
        · clear hG
          go_wp2_with (first | (go_at_call 93; refine (hcall _).mono ?_; rintro e w' ⟨rfl, rfl⟩) | go_in)
          go_ret2
          exact ⟨ReadO.mk' HR.out, rfl⟩
        omega
    · have HR := hide (read_no (loo_z (l := l) (by omega)))
      have gz : ((b.toNat : Int) != 90) = true := by simp; omega
      go_enter Tryz.func73, Tryz.ntmps73
      go_wp2
      go_ret2
      exact ⟨ReadO.mk' HR.out, rfl⟩
  · have HR := hide (read_no (loo_len h15))
    have g15 : ((l.length : Int) != 15) = true := by simp; omega
    go_enter Tryz.func73, Tryz.ntmps73
    go_wp2
    go_ret2
    exact ⟨ReadO.mk' HR.out, rfl⟩
end Go.Proofs.YtlddpjcacnahmaaGreatDoor
