/- Contract of stamp.Text. -/
import Derived.Test.YtmhabfokffecmaaSDof
import Derived.Test.YtmhabfokffecmaaSTxt
namespace Go.Proofs.Ytmhabfokffecmaa
open Go.RowKit
set_option linter.unusedVariables false

set_option maxRecDepth 100000 in
set_option maxHeartbeats 1000000 in
theorem text_any (t : Int) (w : World) :
    Calls Try.prog 9 #[.int .i64 t] w fun e w' => ∃ l, e = .returned (str l) ∧ TextT t l ∧ Below w.heap.size w w' := by
  by_cases h1 : t < -62135596800
  · go_enter Try.func9, Try.ntmps9
    go_wp2
    go_ret
    exact ⟨[], rfl, .inl ⟨.inl h1, rfl⟩, Below.refl _ _⟩
  by_cases h2 : 253402300799 < t
  · go_enter Try.func9, Try.ntmps9
    go_wp2
    go_ret
    exact ⟨[], rfl, .inl ⟨.inr h2, rfl⟩, Below.refl _ _⟩
  obtain ⟨y, m, d, s, hM, rfl⟩ := tim_ex (t := t) (by omega) (by omega)
  have hd := dateOf_any y m d s w hM
  obtain ⟨b1, b2, b3, b4, b5, b6, b7⟩ := mom_le hM
  have hx := fun w' => dtext_any y m d (s / 3600) (s / 60 % 60) (s % 60) w' (by omega) b3 b4 b5 b6 b7
  have HT : Hid (TextT (tim y m d s) (txt6 y m d (s / 3600) (s / 60 % 60) (s % 60))) := hide (.inr ⟨y, m, d, s, hM, rfl, rfl⟩)
  clear b1 b2 b3 b4 b5 b6 b7 hM
  generalize tim y m d s = t at *
  generalize s / 3600 = h at *
  generalize s / 60 % 60 = i at *
  generalize s % 60 = c at *
  go_enter Try.func9, Try.ntmps9
  go_wp2_with fail
  refine hd.mono ?_
  rintro e w1 ⟨rfl, k1⟩
  go_wp2_with fail
  refine (hx w1).mono ?_
  rintro e w2 ⟨rfl, k2⟩
  go_wp2
  go_ret
  exact ⟨_, rfl, HT.out, keep_trans k1 k2⟩
end Go.Proofs.Ytmhabfokffecmaa
