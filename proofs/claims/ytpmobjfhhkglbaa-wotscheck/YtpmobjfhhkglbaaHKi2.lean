/- More words for blocks: rows beside a block, results that are arrays. -/
import Derived.Test.YtpmobjfhhkglbaaHKit
namespace Go.Proofs.Ytpmobjfhhkglbaa
open Go.RowKit
set_option linter.unusedVariables false
set_option linter.unusedSimpArgs false

/-- a row that does not lie in block g -/
def Away (g : Nat) (v : Value) (l : List Nat) : Prop := 0 < l.length → ∀ q, v.ownBlock = some q → q ≠ g
theorem Row.old {k : IntKind} {m : Nat} {w : World} {v : Value} {l : List Nat} (h : Row k m w v l) (hl : 0 < l.length) {q : Nat} (hq : v.ownBlock = some q) : q < w.heap.size := by
  obtain ⟨a, cap, rfl, h1, h2, h3, h4⟩ := h
  obtain ⟨b, off, rfl, hc⟩ := h3 hl
  have e : b = q := by simpa [Value.ownBlock] using hq
  subst e
  exact World.block_lt_of_cell? w _ (hc 0 hl)
theorem Row.but {k : IntKind} {m : Nat} {w w' : World} {v : Value} {l : List Nat} {g : Nat} (h : Row k m w v l) (ha : Away g v l) (hb : But g w w') : Row k m w' v l := by
  obtain ⟨a, cap, rfl, h1, h2, h3, h4⟩ := h
  refine ⟨a, cap, rfl, h1, h2, fun hl => ?_, h4⟩
  obtain ⟨b, off, rfl, hc⟩ := h3 hl
  refine ⟨b, off, rfl, fun i hi => ?_⟩
  exact But.cell (hc i hi) hb (ha hl b (by simp [Value.ownBlock]))
/-- a text without its first bytes -/
theorem Row.rest {k : IntKind} {m : Nat} {w : World} {b off n cap : Nat} {l : List Nat} (h : Row k m w (.slice (some ⟨b, off, none⟩) n cap) l) {i : Nat} (hi : i ≤ n) (A : Option Addr) (hA : A = some ⟨b, off, none⟩ ∧ cap = i ∨ A = some ⟨b, off + i, none⟩) :
    Row k m w (.slice A (n - i) (cap - i)) (l.drop i) := by
  obtain ⟨a', cap', he, h1, h2, h3, h4⟩ := h
  simp at he
  obtain ⟨rfl, rfl, rfl⟩ := he
  refine ⟨A, _, by rw [List.length_drop], by rw [List.length_drop]; omega, by omega, fun hp => ?_, fun x hx => h4 x (List.mem_of_mem_drop hx)⟩
  rw [List.length_drop] at hp
  rcases hA with ⟨_, hc⟩ | rfl
  · omega
  · obtain ⟨b', o', e, hc⟩ := h3 (by omega)
    simp at e
    obtain ⟨rfl, rfl⟩ := e
    refine ⟨b, off + i, rfl, fun x hx => ?_⟩
    rw [List.length_drop] at hx
    rw [el_drop, Nat.add_assoc]
    exact hc (i + x) (by omega)
end Go.Proofs.Ytpmobjfhhkglbaa
