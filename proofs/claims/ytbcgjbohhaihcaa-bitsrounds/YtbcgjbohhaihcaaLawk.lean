/- Small words for the laws' walks. -/
import Derived.Test.YtbcgjbohhaihcaaAwake
import Derived.Test.YtbcgjbohhaihcaaJoin
import Derived.Test.YtbcgjbohhaihcaaBitr
import Derived.Test.YtbcgjbohhaihcaaRLe
namespace Go.Proofs.Ytbcgjbohhaihcaa
open Go.RowKit
set_option linter.unusedVariables false

/-- a row, its value written out at a length that is known -/
theorem Row.opens {k : IntKind} {m : Nat} {w : World} {v : Value} {l : List Nat} (h : Row k m w v l) {N : Nat} (hN : l.length = N) :
    ∃ a cap, v = .slice a N cap ∧ N ≤ cap ∧ cap ≤ 9223372036854775807 ∧ (0 < N → ∃ b off, a = some ⟨b, off, none⟩ ∧ ∀ i, i < N → w.cell? ⟨b, off + i, none⟩ = some (.int k (el l i))) := by
  obtain ⟨a, cap, rfl, h1, h2, h3, h4⟩ := h
  subst hN
  unfold maxLen at h2
  exact ⟨a, cap, rfl, h1, by omega, h3⟩

theorem Own.tidy {e : TypeId} {k : IntKind} {m : Nat} {w : World} {B : Nat} {v : Value} {l : List Nat} (h : Own e k m w B v l) : Tidy v := by
  obtain ⟨⟨_, ⟨rfl, _⟩ | ⟨g, cap, cur, rfl, _⟩⟩, _⟩ := h
  · intro n c he; simp at he; omega
  · intro n c he; simp at he

theorem rows2_two (w : World) (u v : Value) (a b : List Nat) (hu : Row .u8 256 w u a) (hv : Row .u8 256 w v b) (tu : Tidy u) (tv : Tidy v) :
    Rows2 (w.alloc (.cells #[u, v] 23)) (.slice (some ⟨w.heap.size, 0, none⟩) 2 2) [a, b] := by
  have hb := keep_alloc w (.cells #[u, v] 23)
  refine ⟨_, 2, rfl, Nat.le_refl _, by decide, fun _ => ⟨_, _, rfl, fun i hi => ?_⟩⟩
  match i, hi with
  | 0, _ => exact ⟨u, by rw [World.cell?_alloc_at _ _ _ _ rfl]; rfl, hu.below hb, tu⟩
  | 1, _ => exact ⟨v, by rw [World.cell?_alloc_at _ _ _ _ rfl]; rfl, hv.below hb, tv⟩

/-- a text cut off behind so many bytes -/
theorem Row.cut {k : IntKind} {m : Nat} {w : World} {a : Option Addr} {n cap : Nat} {l : List Nat} (h : Row k m w (.slice a n cap) l) {M : Nat} (hM : M ≤ l.length) : Row k m w (.slice a M cap) (l.take M) := by
  obtain ⟨a', cap', he, h1, h2, h3, h4⟩ := h
  simp at he
  obtain ⟨rfl, rfl, rfl⟩ := he
  refine ⟨_, cap, by rw [List.length_take_of_le hM], by rw [List.length_take_of_le hM]; omega, h2, ?_, fun x hx => h4 x (List.mem_of_mem_take hx)⟩
  intro hp
  rw [List.length_take_of_le hM] at hp
  obtain ⟨b, off, rfl, hc⟩ := h3 (by omega)
  refine ⟨b, off, rfl, fun i hi => ?_⟩
  rw [List.length_take_of_le hM] at hi
  have e1 : i < (l.take M).length := by rw [List.length_take_of_le hM]; exact hi
  have e2 : i < l.length := by omega
  rw [el_at e1, List.getElem_take, ← el_at e2]
  exact hc i e2

/-- what a region's walk holds on to: two texts as they were, and that nothing old has turned -/
def Held (w0 : World) (va vb : Value) (l b : List Nat) (w : World) : Prop := Row .u8 256 w va l ∧ Row .u8 256 w vb b ∧ Below w0.heap.size w0 w
theorem Held.keep {w0 : World} {va vb : Value} {l b : List Nat} {w w' : World} (h : Held w0 va vb l b w) (hb : Below w.heap.size w w') : Held w0 va vb l b w' :=
  ⟨h.1.below hb, h.2.1.below hb, keep_trans h.2.2 hb⟩
theorem Held.drew {w0 : World} {va vb : Value} {l b : List Nat} {w : World} (h : Held w0 va vb l b w) : Held w0 va vb l b w.drew :=
  h.keep (Below.refl _ _).drew

/-- two digits of 4 bits are one of 8 -/
theorem or_digits (x y : Nat) (hx : x < 16) (hy : y < 16) : bits .or .u32 ((x : Int) * 16) (y : Int) = ((x * 16 + y : Nat) : Int) := by
  rw [show ((x : Int) * 16) = ((x * 16 : Nat) : Int) from by simp, u32_or_nat _ _ (by omega) (by omega), nat_join 4 _ _ (by omega) (by omega)]
end Go.Proofs.Ytbcgjbohhaihcaa
