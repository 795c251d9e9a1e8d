/- A heap of texts in memory (a pile): its parts, what turns it, and its methods. -/
import Derived.Test.YtcddoognlhpaaaaPSrt
import Derived.RegionTactic
import Derived.BigRegion
namespace Go.Proofs.Ytcddoognlhpaaaa
open Go.RowKit
set_option linter.unusedVariables false

/-- but for the blocks g and P, the blocks of w are as they were -/
structure Alt (g P : Nat) (w w' : World) : Prop where
  os : w'.os = w.os
  tape : w'.tape = w.tape
  output : w'.output = w.output
  size : w.heap.size ≤ w'.heap.size
  block : ∀ k, k < w.heap.size → k ≠ g → k ≠ P → w'.heap[k]? = w.heap[k]?
theorem Alt.refl (g P : Nat) (w : World) : Alt g P w w := ⟨rfl, rfl, rfl, Nat.le_refl _, fun _ _ _ _ => rfl⟩
theorem Alt.trans {g P : Nat} {a b c : World} (h : Alt g P a b) (k : Alt g P b c) : Alt g P a c :=
  ⟨k.os.trans h.os, k.tape.trans h.tape, k.output.trans h.output, Nat.le_trans h.size k.size, fun i hi h1 h2 => (k.block i (Nat.lt_of_lt_of_le hi h.size) h1 h2).trans (h.block i hi h1 h2)⟩
theorem Alt.below {g P B : Nat} {w w' : World} (h : Alt g P w w') (hg : B ≤ g) (hP : B ≤ P) (hB : B ≤ w.heap.size) : Below B w w' :=
  ⟨h.os, h.tape, h.output, h.size, fun k hk => h.block k (by omega) (by omega) (by omega)⟩
theorem Alt.of_below {g P : Nat} {w w' : World} (h : Below w.heap.size w w') : Alt g P w w' := ⟨h.os, h.tape, h.output, h.size, fun k hk _ _ => h.block k hk⟩
theorem Alt.setCell {g P : Nat} {a w : World} (h : Alt g P a w) {p : Addr} (hp : p.block = g ∨ p.block = P) (u : Value) : Alt g P a (w.setCell p u) :=
  h.trans ⟨rfl, rfl, rfl, by simp [World.setCell], fun k hk h1 h2 => Below.heap_setCell _ _ _ _ (by rcases hp with e | e <;> omega)⟩
theorem Alt.drew {g P : Nat} {a w : World} (h : Alt g P a w) : Alt g P a w.drew := ⟨h.os, h.tape, h.output, h.size, h.block⟩

theorem Row.other {k : IntKind} {m : Nat} {w w' : World} {u : Value} {l : List Nat} (h : Row k m w u l) (hb : ∀ b, u.ownBlock = some b → b < w.heap.size → w'.heap[b]? = w.heap[b]?) : Row k m w' u l := by
  obtain ⟨a, cap, rfl, h1, h2, h3, h4⟩ := h
  refine ⟨a, cap, rfl, h1, h2, fun hl => ?_, h4⟩
  obtain ⟨b, off, rfl, hc⟩ := h3 hl
  refine ⟨b, off, rfl, fun i hi => ?_⟩
  have c := hc i hi
  have hlt := World.block_lt_of_cell? w _ c
  rw [World.cell?_of_block (w := w) (hb b rfl hlt)]
  exact c

/-- the cells of a block are texts of the world w0 -/
def Held (w0 : World) (cur : Array Value) (l : List (List Nat)) : Prop := ∀ i, i < l.length → ∃ u, cur[i]? = some u ∧ Row .u8 256 w0 u (tx l i) ∧ Tidy u
/-- the block P holds a slice of texts of the world w0, which lies in the block g -/
def Pile (w0 : World) (P g : Nat) (w : World) (l : List (List Nat)) : Prop :=
  Below w0.heap.size w0 w ∧ w0.heap.size ≤ P ∧ w0.heap.size ≤ g ∧ g ≠ P ∧
  ∃ a cap, w.heap[P]? = some (.cells #[.slice a l.length cap] 41) ∧ l.length ≤ cap ∧ cap ≤ maxLen ∧
    (0 < l.length → a = some ⟨g, 0, none⟩ ∧ ∃ cur, w.heap[g]? = some (.cells cur 25) ∧ Held w0 cur l)

theorem Held.size {w0 : World} {cur : Array Value} {l : List (List Nat)} (h : Held w0 cur l) (i : Nat) (hi : i < l.length) : i < cur.size := by
  obtain ⟨u, hu, _⟩ := h i hi
  rcases Nat.lt_or_ge i cur.size with hlt | hge
  · exact hlt
  · rw [Array.getElem?_eq_none hge] at hu; cases hu
theorem Held.swp {w0 : World} {cur : Array Value} {l : List (List Nat)} (h : Held w0 cur l) {i j : Nat} (hi : i < l.length) (hj : j < l.length) {ui uj : Value} (ei : cur[i]? = some ui) (ej : cur[j]? = some uj) :
    Held w0 ((cur.setIfInBounds i uj).setIfInBounds j ui) (swp l i j) := by
  intro k hk
  rw [swp_len] at hk
  have si := h.size i hi
  have sj := h.size j hj
  have sk := h.size k hk
  obtain ⟨x, hx, rx, tx1⟩ := h i hi
  obtain ⟨y, hy, ry, ty⟩ := h j hj
  obtain ⟨z, hz, rz, tz⟩ := h k hk
  rw [ei] at hx; cases hx
  rw [ej] at hy; cases hy
  rw [swp_tx hi hj]
  by_cases hkj : k = j
  · subst hkj
    rw [if_pos rfl]
    exact ⟨ui, by simp [sk], rx, tx1⟩
  · rw [if_neg hkj]
    by_cases hki : k = i
    · subst hki
      rw [if_pos rfl]
      exact ⟨uj, by simp [sk, Ne.symm hkj], ry, ty⟩
    · rw [if_neg hki]
      exact ⟨z, by simp [Ne.symm hkj, Ne.symm hki, hz], rz, tz⟩
theorem Held.take {w0 : World} {cur : Array Value} {l : List (List Nat)} (h : Held w0 cur l) (n : Nat) : Held w0 cur (l.take n) := by
  intro i hi
  have hi2 : i < n ∧ i < l.length := by rw [List.length_take] at hi; omega
  obtain ⟨u, hu, r, t⟩ := h i hi2.2
  refine ⟨u, hu, ?_, t⟩
  have e : tx (l.take n) i = tx l i := by unfold tx; rw [List.getElem?_take, if_pos hi2.1]
  rw [e]; exact r

theorem cell_at {w : World} {g i : Nat} {cur : Array Value} {t : TypeId} (h : w.heap[g]? = some (.cells cur t)) : w.cell? ⟨g, i, none⟩ = cur[i]? := by simp [World.cell?, h]
theorem Pile.below {w0 w w' : World} {P g : Nat} {l : List (List Nat)} (h : Pile w0 P g w l) (hb : Below w.heap.size w w') : Pile w0 P g w' l := by
  obtain ⟨h0, h1, h2, h3, a, cap, h4, h5, h6, h7⟩ := h
  have lt : ∀ {k : Nat} {o : Obj}, w.heap[k]? = some o → k < w.heap.size := fun {k o} e => by
    rcases Nat.lt_or_ge k w.heap.size with hlt | hge
    · exact hlt
    · rw [Array.getElem?_eq_none hge] at e; cases e
  refine ⟨h0.trans (hb.mono h0.size), h1, h2, h3, a, cap, (hb.block P (lt h4)).trans h4, h5, h6, fun hl => ?_⟩
  obtain ⟨e, cur, hg, hh⟩ := h7 hl
  exact ⟨e, cur, (hb.block g (lt hg)).trans hg, hh⟩
theorem Pile.drew {w0 w w' : World} {P g : Nat} {l : List (List Nat)} (h : Pile w0 P g w l) (hb : Drew w w') : Pile w0 P g w' l := h.below hb.below

/-- what the pile's slice is -/
theorem Pile.form {w0 w : World} {P g : Nat} {l : List (List Nat)} (h : Pile w0 P g w l) (hl : 0 < l.length) :
    ∃ cap cur, w.cell? ⟨P, 0, none⟩ = some (.slice (some ⟨g, 0, none⟩) l.length cap) ∧ l.length ≤ cap ∧ cap ≤ 9223372036854775807 ∧ w.heap[g]? = some (.cells cur 25) ∧ Held w0 cur l ∧ Below w0.heap.size w0 w := by
  obtain ⟨h0, h1, h2, h3, a, cap, h4, h5, h6, h7⟩ := h
  obtain ⟨rfl, cur, hg, hh⟩ := h7 hl
  unfold maxLen at h6
  exact ⟨cap, cur, by rw [cell_at h4]; rfl, h5, by omega, hg, hh, h0⟩

theorem pless_any (w0 w : World) (P g : Nat) (l : List (List Nat)) (cap i j : Nat) (h : Pile w0 P g w l) (hi : i < l.length) (hj : j < l.length) :
    Calls Try.prog 46 #[.slice (some ⟨g, 0, none⟩) l.length cap, .int .i64 i, .int .i64 j] w fun e w' => e = .returned (.bool (lessL (tx l i) (tx l j))) ∧ Drew w w' := by
  obtain ⟨cap', cur, _, _, _, hg, hh, hb⟩ := h.form (by omega)
  clear h
  obtain ⟨u1, e1, r1, _⟩ := hh i hi
  obtain ⟨u2, e2, r2, _⟩ := hh j hj
  have c1 : w.cell? ⟨g, i, none⟩ = some u1 := by rw [cell_at hg]; exact e1
  have c2 : w.cell? ⟨g, j, none⟩ = some u2 := by rw [cell_at hg]; exact e2
  clear hg hh e1 e2
  have hcall := fun n => less_any u1 u2 _ _ (w.drewN n) ((r1.below hb).drewN n) ((r2.below hb).drewN n)
  clear r1 r2
  go_enter Try.func46, Try.ntmps46
  go_wp2
  go_quiet (first | (go_at_call 8; exact Calls.quiet_of_same (hcall _)) | fail)
  go_wp2
  go_ret
  exact ⟨rfl, _, rfl⟩

theorem Pile.swp {w0 w : World} {P g : Nat} {l : List (List Nat)} (h : Pile w0 P g w l) {i j : Nat} (hi : i < l.length) (hj : j < l.length) {ui uj : Value} (ei : w.cell? ⟨g, i, none⟩ = some ui) (ej : w.cell? ⟨g, j, none⟩ = some uj) :
    Pile w0 P g ((w.setCell ⟨g, i, none⟩ uj).setCell ⟨g, j, none⟩ ui) (swp l i j) := by
  obtain ⟨h0, h1, h2, h3, a, cap, h4, h5, h6, h7⟩ := h
  obtain ⟨rfl, cur, hg, hh⟩ := h7 (by omega)
  rw [cell_at hg] at ei ej
  refine ⟨(h0.setCell (by exact h2) _).setCell (by exact h2) _, h1, h2, h3, _, cap, ?_, by rw [swp_len]; exact h5, h6, fun _ => ⟨rfl, _, heap_setCell_same _ _ _ _ _ _ (heap_setCell_same _ _ _ _ _ _ hg), hh.swp hi hj ei ej⟩⟩
  rw [heap_setCell_other _ _ _ _ (fun e => h3 e.symm), heap_setCell_other _ _ _ _ (fun e => h3 e.symm), swp_len]
  exact h4

set_option maxHeartbeats 1000000 in
theorem pswap_any (w0 w : World) (P g : Nat) (l : List (List Nat)) (cap i j : Nat) (h : Pile w0 P g w l) (hi : i < l.length) (hj : j < l.length) :
    Calls Try.prog 48 #[.slice (some ⟨g, 0, none⟩) l.length cap, .int .i64 i, .int .i64 j] w fun e w' => e = .returned (.tuple #[]) ∧ Pile w0 P g w' (swp l i j) ∧ Alt g P w w' := by
  obtain ⟨cap', cur, _, _, _, hg, hh, hb⟩ := h.form (by omega)
  obtain ⟨_, e1, ⟨a1, k1, rfl, _⟩, _⟩ := hh i hi
  obtain ⟨_, e2, ⟨a2, k2, rfl, _⟩, _⟩ := hh j hj
  generalize hn1 : (tx l i).length = n1 at *
  generalize hn2 : (tx l j).length = n2 at *
  clear hn1 hn2
  have c1 : w.cell? ⟨g, i, none⟩ = some (.slice a1 n1 k1) := by rw [cell_at hg]; exact e1
  have c2 : w.cell? ⟨g, j, none⟩ = some (.slice a2 n2 k2) := by rw [cell_at hg]; exact e2
  have f1 : w.frozen? ⟨g, i, none⟩ = false := frozen_of_row w g i cur _ hg
  have f2 : w.frozen? ⟨g, j, none⟩ = false := frozen_of_row w g j cur _ hg
  have c3 : (w.setCell ⟨g, i, none⟩ (.slice a2 n2 k2)).cell? ⟨g, j, none⟩ = some (.slice a2 n2 k2) := by
    rw [cell_at (heap_setCell_same w g i cur _ _ hg), Array.getElem?_setIfInBounds]
    split
    · rw [if_pos (hh.size i hi)]
    · exact e2
  have hS := h.swp hi hj c1 c2
  have hA : Alt g P w ((w.setCell ⟨g, i, none⟩ (.slice a2 n2 k2)).setCell ⟨g, j, none⟩ (.slice a1 n1 k1)) := ((Alt.refl g P w).setCell (.inl rfl) _).setCell (.inl rfl) _
  clear hg hh e1 e2 hb h
  go_enter Try.func48, Try.ntmps48
  go_wp2
  go_region
  go_wp2
  go_end0
  exact ⟨rfl, hS.below (Below.refl _ _).drew, hA.drew⟩
end Go.Proofs.Ytcddoognlhpaaaa
