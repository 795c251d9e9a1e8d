/- Rows that a call itself has made. -/
import Derived.Test.YtiedkpfpaeecfaaBase
import Derived.Deep.Slices
namespace Go.Proofs.Ytiedkpfpaeecfaa
open Go.RowKit
set_option linter.unusedVariables false

/-- the cells of a list of numbers -/
def vals (k : IntKind) (l : List Nat) : List Value := l.map (fun (x : Nat) => Value.int k (x : Int))

theorem vals_length (k : IntKind) (l : List Nat) : (vals k l).length = l.length := by simp [vals]
theorem vals_append (k : IntKind) (l m : List Nat) : vals k (l ++ m) = vals k l ++ vals k m := by simp [vals]
theorem vals_set (k : IntKind) (l : List Nat) (i x : Nat) : (vals k l).set i (.int k (x : Int)) = vals k (l.set i x) := by simp [vals, List.map_set]
theorem vals_get (k : IntKind) (l : List Nat) (i : Nat) (h : i < l.length) : (vals k l)[i]? = some (.int k (el l i)) := by
  rw [el_at h]; simp [vals, h]
theorem vals_one (k : IntKind) (l : List Nat) : ∀ u ∈ vals k l, u.oneCell' = true := by
  intro u hu
  obtain ⟨_, _, rfl⟩ := List.mem_map.1 hu
  rfl

/-- v is a slice of the call's own (a row from block B on), whose elements are l, each below m -/
def Own (e : TypeId) (k : IntKind) (m : Nat) (w : World) (B : Nat) (v : Value) (l : List Nat) : Prop :=
  w.ownsRow B e 1 v l.length (vals k l) ∧ Under m l

theorem Own.row {e : TypeId} {k : IntKind} {m : Nat} {w : World} {B : Nat} {v : Value} {l : List Nat} (h : Own e k m w B v l) : Row k m w v l := by
  obtain ⟨h, hu⟩ := h
  have h' := h
  obtain ⟨h1, ⟨rfl, h2⟩ | ⟨g, cap, cur, rfl, h3, h4, h5, h6, h7, h8⟩⟩ := h
  · exact ⟨none, 0, by rw [h2], by omega, Nat.zero_le _, fun h => by omega, hu⟩
  · refine ⟨_, cap, rfl, h5, h6, fun hl => ⟨g, 0, rfl, fun i hi => ?_⟩, hu⟩
    rw [Nat.zero_add]
    rw [h'.cellAt i (by omega), vals_get k l i hi]

theorem Own.mono {e : TypeId} {k : IntKind} {m : Nat} {w : World} {B B' : Nat} {v : Value} {l : List Nat} (h : Own e k m w B v l) (hB : B' ≤ B) : Own e k m w B' v l := by
  obtain ⟨⟨h1, h2⟩, hu⟩ := h
  refine ⟨⟨h1, ?_⟩, hu⟩
  rcases h2 with h2 | ⟨g, cap, cur, rfl, h3, h4⟩
  · exact .inl h2
  · exact .inr ⟨g, cap, cur, rfl, by omega, h4⟩

theorem Try.info5 : (Try.prog.info? 5).map (fun i => (i.zero, i.size, i.bytes)) = some (some (.int .u8 0), 1, 1) := by kernel_rfl
theorem Try.info61 : (Try.prog.info? 61).map (fun i => (i.zero, i.size, i.bytes)) = some (some (.int .u32 0), 1, 4) := by kernel_rfl

theorem made_u8 (n : Nat) : (madeCells (Value.int .u8 0).cells (n * 1)).toList = vals .u8 (List.replicate n 0) := by
  rw [Nat.mul_one]
  show (madeCells #[Value.int .u8 0] n).toList = _
  rw [toList_madeCells_one]
  simp [vals]

theorem cells_new (w : World) (x : Value) (t : TypeId) : ∀ j u, [x][j]? = some u → (w.alloc (.cells #[x] t)).cell? ((⟨w.heap.size, 0, none⟩ : Addr).add j) = some u := by
  intro j u hj
  match j, hj with
  | 0, hj => simp at hj; subst hj; simp [Addr.add]
theorem one_new (k : IntKind) (x : Int) : ∀ u ∈ [Value.int k x], u.oneCell' = true := by
  intro u hu; simp at hu; subst hu; rfl

/-- an append of one element: below the base nothing has turned -/
theorem below_append {B : Nat} {w wr w' : World} {e : TypeId} {v : Value} {k : Nat} {xs : List Value} (hb : Below B w wr) (hs : B ≤ wr.heap.size) (how : wr.ownsRow B e 1 v k xs) (o : Obj)
    (hg : (wr.alloc o).grownBy w' v.ownBlock) : Below B w w' :=
  (hb.alloc hs o).grown hg (by simp; omega) (fun k h => (how.lt k h).1)
theorem below_append' {B : Nat} {w wr w' : World} {e : TypeId} {v : Value} {k : Nat} {xs : List Value} (hb : Below B w wr) (hs : B ≤ wr.heap.size) (how : wr.ownsRow B e 1 v k xs)
    (hg : wr.grownBy w' v.ownBlock) : Below B w w' :=
  hb.grown hg hs (fun k h => (how.lt k h).1)

theorem Under.replicate (m n : Nat) (h : 0 < m) : Under m (List.replicate n 0) := by
  intro x hx
  have := List.eq_of_mem_replicate hx
  omega

theorem Under.set {m : Nat} {l : List Nat} (h : Under m l) (i x : Nat) (hx : x < m) : Under m (l.set i x) := by
  intro y hy
  rcases List.mem_or_eq_of_mem_set hy with h1 | h1
  · exact h y h1
  · omega
end Go.Proofs.Ytiedkpfpaeecfaa

/- A slice of texts, and what it reads as. -/
namespace Go.Proofs.Ytiedkpfpaeecfaa
open Go.RowKit
set_option linter.unusedVariables false

/-- the text at a place of a list of texts -/
def tx (ls : List (List Nat)) (i : Nat) : List Nat := ls[i]?.getD []

/-- a slice without an address is nil -/
def Tidy (v : Value) : Prop := ∀ n c, v = .slice none n c → n = 0 ∧ c = 0

/-- v is a slice of texts, which are ls -/
def Rows2 (w : World) (v : Value) (ls : List (List Nat)) : Prop :=
  ∃ a cap, v = .slice a ls.length cap ∧ ls.length ≤ cap ∧ cap ≤ maxLen ∧
    (0 < ls.length → ∃ b off, a = some ⟨b, off, none⟩ ∧ ∀ i, i < ls.length → ∃ u, w.cell? ⟨b, off + i, none⟩ = some u ∧ Row .u8 256 w u (tx ls i) ∧ Tidy u)

theorem Rows2.below {w w' : World} {v : Value} {ls : List (List Nat)} (h : Rows2 w v ls) (hb : Below w.heap.size w w') : Rows2 w' v ls := by
  obtain ⟨a, cap, rfl, h1, h2, h3⟩ := h
  refine ⟨a, cap, rfl, h1, h2, fun hl => ?_⟩
  obtain ⟨b, off, rfl, hc⟩ := h3 hl
  refine ⟨b, off, rfl, fun i hi => ?_⟩
  obtain ⟨u, hu, hr, ht⟩ := hc i hi
  have h5 := World.block_lt_of_cell? w _ hu
  exact ⟨u, by rw [hb.cell (p := ⟨b, off + i, none⟩) h5]; exact hu, hr.below hb, ht⟩

/-- how many bytes the first texts have -/
def sumL (ls : List (List Nat)) : Nat := ls.flatten.length

theorem take_tx {ls : List (List Nat)} {k : Nat} (h : k < ls.length) : ls.take (k + 1) = ls.take k ++ [tx ls k] := by
  rw [List.take_succ_eq_append_getElem h]; unfold tx; rw [List.getElem?_eq_getElem h]; rfl
theorem flat_succ {ls : List (List Nat)} {k : Nat} (h : k < ls.length) : (ls.take (k + 1)).flatten = (ls.take k).flatten ++ tx ls k := by
  rw [take_tx h]; simp
theorem flat_le (ls : List (List Nat)) (k : Nat) : (ls.take k).flatten.length ≤ ls.flatten.length := by
  have : ls.flatten = (ls.take k).flatten ++ (ls.drop k).flatten := by rw [← List.flatten_append, List.take_append_drop]
  rw [this]; simp

theorem cells_news {w : World} {k : IntKind} {x : Addr} {l : List Nat} (h : Cells k w (some x) l) : ∀ j u, (vals k l)[j]? = some u → w.cell? (x.add j) = some u := by
  intro j u hj
  have hl : j < l.length := by
    have := (List.getElem?_eq_some_iff.1 hj).1
    rwa [vals_length] at this
  obtain ⟨b, off, he, hc⟩ := h (by omega)
  obtain rfl := Option.some.inj he
  rw [Addr.add_lit, hc j hl, ← vals_get k l j hl]
  exact hj

theorem under_flat (ls : List (List Nat)) (h : ∀ i, i < ls.length → Under 256 (tx ls i)) : Under 256 ls.flatten := by
  intro x hx
  obtain ⟨l, hl, hxl⟩ := List.mem_flatten.1 hx
  obtain ⟨i, hi, rfl⟩ := List.getElem_of_mem hl
  have := h i hi
  unfold tx at this
  rw [List.getElem?_eq_getElem hi] at this
  exact this x hxl

theorem Rows2.under {w : World} {v : Value} {ls : List (List Nat)} (h : Rows2 w v ls) : Under 256 ls.flatten := by
  obtain ⟨a, cap, rfl, h1, h2, h3⟩ := h
  apply under_flat
  intro i hi
  obtain ⟨b, off, rfl, hc⟩ := h3 (by omega)
  obtain ⟨u, _, ⟨_, _, _, _, _, _, h6⟩, _⟩ := hc i hi
  exact h6
end Go.Proofs.Ytiedkpfpaeecfaa

/- How a slice of texts that came in is read. -/
namespace Go.Proofs.Ytiedkpfpaeecfaa
open Go.ChangeShapes Go.WideShapes Go.ChangeAt Go.RowKit Go.Deep
set_option linter.unusedVariables false

theorem Try.cells22 : Try.prog.cellsOf 22 = 1 := by kernel_rfl

/-- a text that is read -/
theorem read_text {H : Type} {enc : TypeId × Value → H} {W : World} {fuel : Nat} {v : Value} {x : DataW H × List MemPlace}
    (h : DataW.trod enc Try.prog W 0 (fun _ => true) true fuel 22 [v] = some x) : ∃ l, Row .u8 256 W v l ∧ Tidy v := by
  rcases open_ints Try.underlying22 Try.underlying5 (by kernel_rfl) h with ⟨hcs, _⟩ | ⟨a, len, cap, zs, hcs, _, hl, hm, hz, _, hcell, hwz⟩
  · simp at hcs
    subst hcs
    exact ⟨[], Row.nil _ _ _, fun n c he => by simp at he; omega⟩
  · simp at hcs
    subst hcs
    have hr : IsRow .u8 W (some a) len cap zs := .inr ⟨a, rfl, hl, hm, by simpa using hz, hcell, hwz⟩
    obtain ⟨l, _, hrow⟩ := hr.row wf_u8
    exact ⟨l, hrow, fun n c he => by simp at he⟩

/-- a slice of texts that is read -/
theorem read_texts {H : Type} {enc : TypeId × Value → H} {W : World} {fuel : Nat} {v : Value} {x : DataW H × List MemPlace}
    (h : DataW.trod enc Try.prog W 0 (fun _ => true) true fuel 32 [v] = some x) : ∃ ls, Rows2 W v ls := by
  rcases open_slice1 Try.underlying32 Try.cells22 h with ⟨hcs, _⟩ | ⟨a, len, cap, m, n, V, D, Pl, hcs, _, hl, hm, hmm, _, hx⟩
  · simp at hcs
    subst hcs
    exact ⟨[], none, 0, rfl, Nat.le_refl _, Nat.zero_le _, fun h => by simp at h⟩
  · simp at hcs
    subst hcs
    have hm' : m = cap := by simpa using hmm
    subst hm'
    obtain ⟨L, hL⟩ := choose_lt (α := List Nat) (p := fun i l => Row .u8 256 W (V i) l ∧ Tidy (V i)) (fun i (hi : i < m) => read_text (hx i hi).2)
    refine ⟨(List.range len).map L, some a, m, by simp, by simpa using hl, hm, fun hp => ?_⟩
    have hp' : 0 < len := by simpa using hp
    obtain ⟨b, off, spot⟩ := a
    have h0 := (hx 0 (by omega)).1
    have hspot : spot = none := by simpa [Addr.add] using World.cell?_spot h0
    subst hspot
    refine ⟨b, off, rfl, fun i hi => ?_⟩
    have hi' : i < len := by simpa using hi
    refine ⟨V i, ?_, ?_, (hL i (by omega)).2⟩
    · have := (hx i (by omega)).1
      rw [Addr.add_lit] at this
      exact this
    · have e : tx ((List.range len).map L) i = L i := by unfold tx; simp [hi']
      rw [e]
      exact (hL i (by omega)).1
end Go.Proofs.Ytiedkpfpaeecfaa
