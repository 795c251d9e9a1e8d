/- A loop over an iterator of the program's own that keeps a box: it hands out what no list names ahead; a relation tells it. -/
import Derived.Test.YtogiballdmgcpaaGreatDoorLtV
import Derived.Test.YtogiballdmgcpaaGreatDoorHaM
namespace Go.Proofs.YtogiballdmgcpaaGreatDoor
open Go.RowKit Go.Shelf
set_option linter.unusedVariables false
set_option linter.unusedSimpArgs false

/-- an iterator that hands out N times, to rounds that go on; its box is the first block that it makes; between two rounds it turns that block alone; a round turns neither that block nor what was made since the round before -/
def OwnRel (m : Nat) (P : Program) (gf : Nat) (lb : Array Value) (N : Nat) (R : Nat → Nat → Array Value → World → Prop) (V : World → Prop) (w0 : World) : Prop :=
  ∀ (l : Nat) (J : Nat → World → Prop) (W : World), Below w0.heap.size w0 W → l < W.heap.size → (∀ i W1, J i W1 → V W1) →
    (∀ i vs W0 W1, J i W0 → But W.heap.size W0 W1 → i < N → R i W0.heap.size vs W1 → W.heap.size ≤ W0.heap.size → W.heap.size < W1.heap.size →
      YieldAt Fence.wide (m - 1) P l vs W1 fun e W' => e = .returned (.bool true) ∧ J (i + 1) W' ∧ Kept W0.heap.size W1 W' ∧ W'.heap[W.heap.size]? = W1.heap[W.heap.size]?) →
    J 0 W → CallsIn Fence.wide m P gf (#[.func (.yield l) #[] #[]] ++ lb) W fun e W' => (∃ v, e = .returned v) ∧ J N W'

/-- what a round's body must leave -/
def goesRel (D D0 : Nat) (W : World) (R : World → Prop) : Exit → Act → World → Prop
  | .normal, _, W' => Kept D0 W W' ∧ (∀ k, D ≤ k → k < D + 3 → W'.heap[k]? = W.heap[k]?) ∧ R W'
  | _, _, _ => False
theorem range_rel {n : Nat} {P : Program} {g : Operand} {ps : Array Tmp} {assign body : Code} {Q : Exit → Act → World → Prop} {a : Act} {w : World}
    {gf : Nat} {lb : Array Value} (hg : a.eval g = .func (.func gf) #[] lb) (eg : ∀ args w, (callFunc gf args).run P w = .ok (.enter gf args) w)
    {N : Nat} {R : Nat → Nat → Array Value → World → Prop} {V : World → Prop} (hseq : OwnRel (n - 1) P gf lb N R V w) (hps : ∀ i D vs W, R i D vs W → vs.size = ps.size)
    (I : Nat → World → Prop) (hI : OwnFrom w.heap.size I) (hV : ∀ i W, I i W → V W) (h0 : I 0 w)
    (Ax : Nat → Nat → Array Value → Act → World → Prop) (hAx : ∀ i D0 vs a', OwnFrom w.heap.size (fun (_ : Unit) W => Ax i D0 vs a' W))
    (hassign : ∀ (l : Nat) (i : Nat) (vs : Array Value) (W0 W : World) (K : Act → World → Prop), I i W0 → But (w.heap.size + 2) W0 W → w.heap.size + 2 ≤ W0.heap.size → w.heap.size + 3 ≤ W.heap.size → i < N → R i W0.heap.size vs W → (∀ a' W', Below W.heap.size W W' → Ax i W0.heap.size vs a' W' → K a' W') →
      assign.wpIn (Fence.wide.inRound l) (n - 1 - 1) P (Exit.then K (fun _ _ _ => False)) { tmps := (ps.zip vs).foldl (fun t (p, v) => t.setIfInBounds p v) a.tmps, defers := [] } W)
    (hbody : ∀ (l : Nat) (i D0 : Nat) (vs : Array Value) (a' : Act) (W : World), Ax i D0 vs a' W → i < N → body.wpIn (Fence.wide.inRound l) (n - 1 - 1) P (goesRel w.heap.size D0 W (I (i + 1))) a' W)
    (hdone : ∀ (W : World), I N W → W.heap[w.heap.size]? = some (.deferred (some [])) → Q .normal { a with defers := { target := .collected w.heap.size, args := #[] } :: a.defers } W) :
    (Code.rangeFunc g ps assign body).wpIn Fence.wide n P Q a w := by
  refine wpIn_rangeFunc fun fn hfn => ?_
  generalize hD : w.heap.size = D at *
  obtain ⟨R0, hR0⟩ : ∃ R0 : Loop, R0 = { state := .ready, pending := none, fn, tmps := a.tmps, params := ps, assign, body, defers := D } := ⟨_, rfl⟩
  obtain ⟨W1, hW1⟩ : ∃ W1, W1 = (w.alloc (.deferred (some []))).alloc (.loop R0) := ⟨_, rfl⟩
  have sz1 : W1.heap.size = D + 2 := by rw [hW1]; simp [hD]
  have kD : W1.heap[D]? = some (.deferred (some [])) := by
    rw [hW1, ← hD]; exact (Below.heap_alloc _ _ _ (by simp)).trans (World.alloc_heap_new w _)
  have kL : W1.heap[D + 1]? = some (.loop R0) := by
    have := World.alloc_heap_new (w.alloc (.deferred (some []))) (.loop R0)
    rw [World.size_alloc, hD] at this
    rw [hW1]; exact this
  have I1 : I 0 W1 := by rw [hW1]; exact hI.alloc _ (hI.alloc _ h0)
  have b1 : Below w.heap.size w W1 := by rw [hW1]; exact ((Below.refl _ w).alloc (Nat.le_refl _) _).alloc (by simp) _
  refine ⟨D + 1, [{ target := .collected D, args := #[] }], W1, { target := .fn (.func gf) lb, args := #[.func (.yield (D + 1)) #[] #[]] }, W1, gf, #[.func (.yield (D + 1)) #[] #[]] ++ lb, W1, ?_, ?_, ?_, ?_, ?_, ?_⟩
  · have := run_enterLoop_outer (P := P) (w := w) fn a.tmps ps assign body
    rw [hW1, hR0, ← hD]
    exact this
  · simp only [resolve, hg]
    simp [go_sem]
  · intro f' hf'; trivial
  · simp [invoke, go_sem, eg]
  · intro h; cases h
  refine (hseq (D + 1) (fun i W => I i W ∧ W.heap[D + 1]? = some (.loop R0) ∧ W.heap[D]? = some (.deferred (some []))) W1 b1 (by omega) (fun i W h => hV i W h.1) ?_ ⟨I1, kL, kD⟩).mono ?_
  · rintro i vs W0 W ⟨i1, kl0, kd0⟩ hbt hpre hrv hsz0 hsz1
    rw [sz1] at hbt hsz0 hsz1 ⊢
    have kl : W.heap[D + 1]? = some (.loop R0) := (hbt.block _ (Array.getElem?_eq_some_iff.1 kl0).1 (by omega)).trans kl0
    have kd : W.heap[D]? = some (.deferred (some [])) := (hbt.block _ (Array.getElem?_eq_some_iff.1 kd0).1 (by omega)).trans kd0
    have hy := run_yield (P := P) (args := vs) kl (by rw [hR0]; exact hps i _ vs W hrv)
    rw [hR0] at hy
    refine ⟨fn, _, assign, body, hy, roundIn_of_wpIn hfn (hassign (D + 1) i vs W0 W _ i1 hbt (by omega) (by omega) hpre hrv ?_)⟩
    intro a' W2 kf2 ax2
    have kl2 := (kf2.block _ (Array.getElem?_eq_some_iff.1 kl).1).trans kl
    have kd2 := (kf2.block _ (Array.getElem?_eq_some_iff.1 kd).1).trans kd
    refine ⟨_, run_beginRound kl2 (by rw [hR0]), ?_⟩
    obtain ⟨RB, hRB⟩ : ∃ RB : Loop, RB = { R0 with state := .busy } := ⟨_, rfl⟩
    rw [← hRB]
    have lt2 := (Array.getElem?_eq_some_iff.1 kl2).1
    have kl3 : (W2.putObj (D + 1) (.loop RB)).heap[D + 1]? = some (.loop RB) := World.putObj_heap_same lt2
    have kd3 : (W2.putObj (D + 1) (.loop RB)).heap[D]? = some (.deferred (some [])) := (World.putObj_heap_other (by omega)).trans kd2
    have ax3 : Ax i W0.heap.size vs a' (W2.putObj (D + 1) (.loop RB)) := (hAx i W0.heap.size vs a').putObj (s := ()) _ ax2 (by omega) kl2 rfl
    refine wpIn_mono (hbody (D + 1) i W0.heap.size vs a' _ ax3 hpre) ?_
    rintro e a4 W4 hp
    cases e with
    | normal =>
      obtain ⟨kf4, kb4, i4⟩ := hp
      have kl4 : W4.heap[D + 1]? = some (.loop RB) := (kb4 (D + 1) (by omega) (by omega)).trans kl3
      have kd4 : W4.heap[D]? = some (.deferred (some [])) := (kb4 D (by omega) (by omega)).trans kd3
      have hend := run_endRound (P := P) none kl4
      have kW : Kept W0.heap.size W W2 := ⟨kf2.size, fun k _ h2 => kf2.block k h2⟩
      refine ⟨_, _, hend, rfl, ⟨hI.putObj _ i4 (by omega) kl4 rfl, ?_, (World.putObj_heap_other (by omega)).trans kd4⟩, ?_, ?_⟩
      · rw [World.putObj_heap_same (Array.getElem?_eq_some_iff.1 kl4).1, hRB, hR0]
        rfl
      · exact ((kW.trans (kept_put _ (by omega))).trans kf4).trans (kept_put _ (by omega))
      · exact (World.putObj_heap_other (by omega)).trans ((kb4 (D + 2) (by omega) (by omega)).trans ((World.putObj_heap_other (by omega)).trans (kf2.block _ (by omega))))
    | ret => exact hp.elim
    | exit id => exact hp.elim
    | goto t => exact hp.elim
    | panic ch => exact hp.elim
    | outgrown => exact hp.elim
  · rintro e W2 ⟨⟨v, rfl⟩, i2, kl, kd⟩
    exact ⟨none, _, by have := run_endLoop (P := P) kl (by rw [hR0]; simp); rw [hR0] at this; exact this, hdone _ (hI.putObj _ i2 (by omega) kl rfl) ((World.putObj_heap_other (by omega)).trans kd)⟩
end Go.Proofs.YtogiballdmgcpaaGreatDoor
