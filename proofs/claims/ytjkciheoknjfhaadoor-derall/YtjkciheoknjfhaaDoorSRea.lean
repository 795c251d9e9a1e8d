/- Contract of stamp.Read. -/
import Derived.Test.YtjkciheoknjfhaaDoorSTim
import Derived.Test.YtjkciheoknjfhaaDoorSLoo
namespace Go.Proofs.YtjkciheoknjfhaaDoor
open Go.RowKit
set_option linter.unusedVariables false

theorem txt6_inj {y m d h i c y' m' d' h' i' c' : Nat} (hb : Bnd y m d h i c) (hb' : Bnd y' m' d' h' i' c') (he : txt6 y m d h i c = txt6 y' m' d' h' i' c') : y = y' ∧ m = m' ∧ d = d' ∧ h = h' ∧ i = i' ∧ c = c' := by
  obtain ⟨a1, a2, a3, a4, a5, a6⟩ := hb
  obtain ⟨b1, b2, b3, b4, b5, b6⟩ := hb'
  unfold txt6 at he
  obtain ⟨e1, he⟩ := dd_app (by omega) (by omega) he
  obtain ⟨e2, he⟩ := dd_app (by omega) (by omega) he
  obtain ⟨e3, he⟩ := dd_app (by omega) (by omega) he
  obtain ⟨e4, he⟩ := dd_app (by omega) (by omega) he
  obtain ⟨e5, he⟩ := dd_app (by omega) (by omega) he
  obtain ⟨e6, he⟩ := dd_app (by omega) (by omega) he
  obtain ⟨e7, he⟩ := dd_app (by omega) (by omega) he
  exact ⟨by omega, e3, e4, e5, e6, e7⟩
theorem mom_bnd {y m d s : Nat} (h : Mom y m d s) : Bnd y m d (s / 3600) (s / 60 % 60) (s % 60) := by
  obtain ⟨b1, b2, b3, b4, b5, b6, b7⟩ := mom_le h
  exact ⟨by omega, b3, b4, b5, b6, b7⟩
theorem mom_fit {y m d s : Nat} (h : Mom y m d s) : sfitB y m d (s / 3600) (s / 60 % 60) (s % 60) = true := by
  obtain ⟨⟨a1, a2, a3, a4, a5, a6⟩, a7⟩ := h
  unfold sfitB
  rw [decide_eq_true_iff, days_at a1 a2 a3 a4]
  omega
theorem fit_date {y m d h i c : Nat} (hf : sfitB y m d h i c = true) : DateOk y m d ∧ h < 24 ∧ i < 60 ∧ c < 60 := by
  unfold sfitB at hf
  rw [decide_eq_true_iff] at hf
  obtain ⟨h1, h2, h3, h4, h5⟩ := hf
  by_cases hn : (y : Int) < 1 ∨ 9999 < (y : Int) ∨ (m : Int) < 1 ∨ 12 < (m : Int)
  · rw [days_none hn] at h2; omega
  · rw [days_at (by omega) (by omega) (by omega) (by omega)] at h2
    exact ⟨⟨by omega, by omega, by omega, by omega, h1, h2⟩, h3, h4, h5⟩
/-- no text of digits is no text of a time -/
theorem read_no {l : List UInt8} (h : ∀ y m d h i c, Bnd y m d h i c → l ≠ txt6 y m d h i c) : ReadT l 0 1 :=
  .inr ⟨rfl, rfl, fun y m d s hM he => h _ _ _ _ _ _ (mom_bnd hM) he⟩
/-- a date that the calendar lacks is no text of a time -/
theorem read_unfit {y m d h i c : Nat} (hb : Bnd y m d h i c) (hf : sfitB y m d h i c = false) : ReadT (txt6 y m d h i c) 0 1 :=
  .inr ⟨rfl, rfl, fun y' m' d' s' hM he => by
    obtain ⟨rfl, rfl, rfl, rfl, rfl, rfl⟩ := txt6_inj hb (mom_bnd hM) he
    rw [mom_fit hM] at hf
    cases hf⟩
theorem read_fit {y m d h i c : Nat} (hf : sfitB y m d h i c = true) : ReadT (txt6 y m d h i c) (tim y m d (h * 3600 + i * 60 + c)) 0 := by
  obtain ⟨hD, h1, h2, h3⟩ := fit_date hf
  refine .inl ⟨rfl, y, m, d, h * 3600 + i * 60 + c, ⟨hD, by omega⟩, rfl, ?_⟩
  have e1 : (h * 3600 + i * 60 + c) / 3600 = h := by omega
  have e2 : (h * 3600 + i * 60 + c) / 60 % 60 = i := by omega
  have e3 : (h * 3600 + i * 60 + c) % 60 = c := by omega
  unfold txt
  rw [e1, e2, e3]
  rfl
/-- Read's ending -/
def ReadO (l : List UInt8) (e : Ending) : Prop := ∃ v c : Int, e = .returned (.tuple #[.int .i64 v, .int .i64 c]) ∧ ReadT l v c
theorem ReadO.mk' {l : List UInt8} {v c : Int} (h : ReadT l v c) : ReadO l (.returned (.tuple #[.int .i64 v, .int .i64 c])) := ⟨v, c, rfl, h⟩

set_option maxRecDepth 100000 in
set_option maxHeartbeats 2000000 in
theorem sread_any (l : List UInt8) (w : World) (hl : l.length ≤ 1000000) :
    Calls Tryd.prog 71 #[str l] w fun e w' => ReadO l e ∧ Below w.heap.size w w' := by
  go_enter Tryd.func71, Tryd.ntmps71
  go_wp2_with fail
  refine (sloose_any l w hl).mono ?_
  rintro e w1 ⟨⟨ok, y, m, d, h, i, c, rfl, hT⟩, b1⟩
  rcases hT with ⟨rfl, hB, rfl⟩ | ⟨rfl, hN⟩
  · have hfit := fun w' => dfit_any y m d h i c w'
    cases hf : sfitB y m d h i c with
    | true =>
      obtain ⟨hD, k1, k2, k3⟩ := fit_date hf
      have htim := fun w' => dtime_any y m d h i c w' hD k1 k2 k3
      have HR := hide (read_fit hf)
      rw [hf] at hfit
      clear hD hf hB
      generalize tim y m d (h * 3600 + i * 60 + c) = T at *
      go_wp2_with fail
      refine (hfit _).mono ?_
      rintro e w2 ⟨rfl, b2⟩
      have hb := (Bxd.new y m d h i c w1).bel b2 (by simp)
      have c0 := hb.cell 0 y rfl
      have c1 := hb.cell 1 m rfl
      have c2 := hb.cell 2 d rfl
      have c3 := hb.cell 3 h rfl
      have c4 := hb.cell 4 i rfl
      have c5 := hb.cell 5 c rfl
      have k2 : Below w.heap.size w w2 := (b1.alloc b1.size _).trans (b2.mono (by have := b1.size; simp; omega))
      go_wp2_with fail
      refine (htim _).mono ?_
      rintro e w3 ⟨rfl, b3⟩
      go_wp2
      go_ret2
      exact ⟨ReadO.mk' HR.out, keep_trans k2 b3⟩
    | false =>
      have HR := hide (read_unfit hB hf)
      rw [hf] at hfit
      clear hf hB
      go_wp2_with fail
      refine (hfit _).mono ?_
      rintro e w2 ⟨rfl, b2⟩
      have k2 : Below w.heap.size w w2 := (b1.alloc b1.size _).trans (b2.mono (by have := b1.size; simp; omega))
      go_wp2
      go_ret2
      exact ⟨ReadO.mk' HR.out, k2⟩
  · have HR := hide (read_no hN)
    clear hN
    go_wp2
    go_ret2
    exact ⟨ReadO.mk' HR.out, b1.alloc b1.size _⟩
end Go.Proofs.YtjkciheoknjfhaaDoor
