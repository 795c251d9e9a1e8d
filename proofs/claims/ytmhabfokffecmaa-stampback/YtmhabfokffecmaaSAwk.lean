/- Contract of awake: the chapter's examples. -/
import Derived.Test.YtmhabfokffecmaaSTex
import Derived.Test.YtmhabfokffecmaaSRea
namespace Go.Proofs.Ytmhabfokffecmaa
open Go.RowKit
set_option linter.unusedVariables false

theorem awake_text {l : List UInt8} (h : TextT 0 l) : l = [49, 57, 55, 48, 48, 49, 48, 49, 48, 48, 48, 48, 48, 48, 90] := by
  have hM : Mom 1970 1 1 0 := ⟨⟨by decide, by decide, by decide, by decide, by decide, by decide⟩, by decide⟩
  have ht : (0 : Int) = tim 1970 1 1 0 := by decide
  rw [h.same (.inr ⟨1970, 1, 1, 0, hM, ht, rfl⟩)]
  decide
theorem awake_read {v e : Int} (h : ReadT [50, 48, 50, 51, 48, 50, 50, 57, 48, 48, 48, 48, 48, 48, 90] v e) : e = 1 := by
  have hb : Bnd 2023 2 29 0 0 0 := by unfold Bnd; decide
  have hf : fitB 2023 2 29 0 0 0 = false := by decide
  have hl : txt6 2023 2 29 0 0 0 = [50, 48, 50, 51, 48, 50, 50, 57, 48, 48, 48, 48, 48, 48, 90] := by decide
  have h2 := read_unfit hb hf
  rw [hl] at h2
  exact (h.same h2).2

theorem days_dim {y : Nat} (h1 : 1 ≤ y) (h2 : y ≤ 9999) (k : Nat) (hk : k ≤ 13) : daysS (y : Int) (k : Int) = dimY y k := by
  by_cases h0 : k = 0
  · subst h0; rw [days_none (by omega)]; simp [dimY]
  by_cases h13 : k = 13
  · subst h13; rw [days_none (by omega)]; simp [dimY]
  exact days_at h1 h2 (by omega) (by omega)

set_option maxRecDepth 100000 in
set_option maxHeartbeats 1000000 in
theorem awake_any (w : World) : Calls Try.prog 6 #[] w fun e w' => e = .returned (.bool true) ∧ Below w.heap.size w w' := by
  have hr := read_any [50, 48, 50, 51, 48, 50, 50, 57, 48, 48, 48, 48, 48, 48, 90] w (by decide)
  have hd := fun w' => days_any 2024 2 w'
  have e29 : daysS 2024 2 = 29 := by decide
  rw [e29] at hd
  go_enter Try.func6, Try.ntmps6
  go_wp2_with fail
  refine hr.mono ?_
  rintro e w1 ⟨⟨v, c, rfl, hT⟩, b1⟩
  obtain rfl := awake_read hT
  clear hT hr
  go_wp2_with fail
  refine (text_any 0 w1).mono ?_
  rintro e w2 ⟨l, rfl, hT, b2⟩
  obtain rfl := awake_text hT
  clear hT
  go_wp2_with fail
  refine (hd w2).mono ?_
  rintro e w3 ⟨rfl, rfl⟩
  go_wp2
  go_ret
  exact ⟨rfl, keep_trans b1 b2⟩
end Go.Proofs.Ytmhabfokffecmaa
