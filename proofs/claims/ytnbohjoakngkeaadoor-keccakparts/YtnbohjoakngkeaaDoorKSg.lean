/- A sponge that lies in memory: its cells. -/
import Derived.Test.YtnbohjoakngkeaaDoorKPm
import Derived.Test.YtnbohjoakngkeaaDoorKPt
import Derived.StillTailTactics
namespace Go.Proofs.YtnbohjoakngkeaaDoor
open Go.RowKit
set_option linter.unusedVariables false
set_option linter.unusedSimpArgs false

/-- its cells, as one list -/
def sl (kind : Int) (ws : List Nat) (p : Int) (o : Bool) : List Value := .int .i64 kind :: (vals .u64 ws ++ [.int .i64 p, .bool o])
theorem sl_len {kind : Int} {ws : List Nat} {p : Int} {o : Bool} (h : ws.length = 25) : (sl kind ws p o).length = 28 := by simp [sl, vals_length, h]
theorem sl_one (kind : Int) (ws : List Nat) (p : Int) (o : Bool) : ∀ v ∈ sl kind ws p o, v.oneCell' = true := by
  intro v hv
  simp only [sl, List.mem_cons, List.mem_append, List.not_mem_nil, or_false] at hv
  rcases hv with rfl | hv | rfl | rfl
  · rfl
  · exact vals_one _ _ _ hv
  · rfl
  · rfl
/-- it lies in block q -/
structure Sg (w : World) (q : Nat) (kind : Int) (ws : List Nat) (p : Int) (o : Bool) : Prop where
  all : w.rangeAt q 0 (sl kind ws p o)
  th : w.there q 0 28
  len : ws.length = 25
theorem Sg.kind {w : World} {q : Nat} {kind : Int} {ws : List Nat} {p : Int} {o : Bool} (h : Sg w q kind ws p o) : w.cell? ⟨q, 0, none⟩ = some (.int .i64 kind) := h.all 0 _ rfl
theorem Sg.words {w : World} {q : Nat} {kind : Int} {ws : List Nat} {p : Int} {o : Bool} (h : Sg w q kind ws p o) : w.rangeAt q 1 (vals .u64 ws) := fun j v hv => by
  have hj : j < (vals .u64 ws).length := (List.getElem?_eq_some_iff.1 hv).1
  have := h.all (1 + j) v (by
    show (sl kind ws p o)[1 + j]? = some v
    rw [Nat.add_comm, sl, List.getElem?_cons_succ, List.getElem?_append_left hj]; exact hv)
  rw [Nat.zero_add] at this
  exact this
theorem Sg.at {w : World} {q : Nat} {kind : Int} {ws : List Nat} {p : Int} {o : Bool} (h : Sg w q kind ws p o) : w.cell? ⟨q, 26, none⟩ = some (.int .i64 p) := by
  have hl := h.len
  exact h.all 26 _ (by
    show (sl kind ws p o)[26]? = _
    rw [sl, show 26 = 25 + 1 from rfl, List.getElem?_cons_succ, List.getElem?_append_right (by rw [vals_length]; omega), vals_length, hl]; rfl)
theorem Sg.out {w : World} {q : Nat} {kind : Int} {ws : List Nat} {p : Int} {o : Bool} (h : Sg w q kind ws p o) : w.cell? ⟨q, 27, none⟩ = some (.bool o) := by
  have hl := h.len
  exact h.all 27 _ (by
    show (sl kind ws p o)[27]? = _
    rw [sl, show 27 = 26 + 1 from rfl, List.getElem?_cons_succ, List.getElem?_append_right (by rw [vals_length]; omega), vals_length, hl]; rfl)
theorem Sg.frozen {w : World} {q : Nat} {kind : Int} {ws : List Nat} {p : Int} {o : Bool} (h : Sg w q kind ws p o) (i : Nat) (hi : i < 28) : w.frozen? ⟨q, i, none⟩ = false := by
  have := (h.th i hi).2
  rw [Nat.zero_add] at this
  exact this
/-- out of its three parts -/
theorem Sg.mk' {w : World} {q : Nat} {kind : Int} {ws : List Nat} {p : Int} {o : Bool} (h0 : w.cell? ⟨q, 0, none⟩ = some (.int .i64 kind)) (h1 : w.rangeAt q 1 (vals .u64 ws)) (h2 : w.cell? ⟨q, 26, none⟩ = some (.int .i64 p)) (h3 : w.cell? ⟨q, 27, none⟩ = some (.bool o)) (th : w.there q 0 28) (hl : ws.length = 25) : Sg w q kind ws p o := by
  refine ⟨fun j v hv => ?_, th, hl⟩
  rw [Nat.zero_add]
  match j, hv with
  | 0, hv => have e : some (.int .i64 kind) = some v := hv; rw [h0, e]
  | j + 1, hv =>
    rw [sl, List.getElem?_cons_succ] at hv
    by_cases hj : j < (vals .u64 ws).length
    · rw [List.getElem?_append_left hj] at hv
      have := h1 j v hv
      rw [Nat.add_comm] at this
      exact this
    · rw [List.getElem?_append_right (by omega), vals_length, hl] at hv
      rw [vals_length, hl] at hj
      have hk : j - 25 < 2 := by
        have := (List.getElem?_eq_some_iff.1 hv).1
        simpa using this
      have : j = 25 ∨ j = 26 := by omega
      rcases this with rfl | rfl
      · have e : some (.int .i64 p) = some v := hv; rw [h2, e]
      · have e : some (.bool o) = some v := hv; rw [h3, e]
theorem Sg.lt {w : World} {q : Nat} {kind : Int} {ws : List Nat} {p : Int} {o : Bool} (h : Sg w q kind ws p o) : q < w.heap.size := World.block_lt_of_cell? w _ h.kind
theorem there_below {w w' : World} {q o n : Nat} (h : w.there q o n) (hq : q < w.heap.size) (hb : Below w.heap.size w w') : w'.there q o n := fun j hj => by
  have hbk := hb.block q hq
  exact ⟨by rw [World.cell?_of_block (a := ⟨q, o + j, none⟩) hbk]; exact (h j hj).1, by rw [World.frozen?_of_block (a := ⟨q, o + j, none⟩) hbk]; exact (h j hj).2⟩
theorem range_bel {w w' : World} {b o : Nat} {cs : List Value} (h : w.rangeAt b o cs) (hb : Below w.heap.size w w') : w'.rangeAt b o cs := fun j v hv => keep_cell (h j v hv) hb
theorem Sg.below {w w' : World} {q : Nat} {kind : Int} {ws : List Nat} {p : Int} {o : Bool} (h : Sg w q kind ws p o) (hb : Below w.heap.size w w') : Sg w' q kind ws p o := ⟨range_bel h.all hb, there_below h.th h.lt hb, h.len⟩
theorem frozen_row {w : World} {b i : Nat} {cs : Array Value} {t : TypeId} (h : w.heap[b]? = some (.cells cs t (0, 0))) : w.frozen? ⟨b, i, none⟩ = false := by simp [World.frozen?, h]
theorem Sg.new (w : World) (t : TypeId) (kind : Int) (ws : List Nat) (p : Int) (o : Bool) (hl : ws.length = 25) : Sg (w.alloc (.cells (sl kind ws p o).toArray t)) w.heap.size kind ws p o := by
  have hb : (w.alloc (.cells (sl kind ws p o).toArray t)).heap[w.heap.size]? = some (.cells (sl kind ws p o).toArray t (0, 0)) := heap_alloc_last w _
  refine ⟨fun j v hv => ?_, fun j hj => ?_, hl⟩
  · rw [Nat.zero_add, cell_of_row _ _ j _ _ _ hb]; simpa using hv
  · rw [Nat.zero_add]
    refine ⟨?_, frozen_row hb⟩
    rw [cell_of_row _ _ j _ _ _ hb]
    simp [sl_len hl, hj]
theorem Sg.setWords {w : World} {q : Nat} {kind : Int} {ws : List Nat} {p : Int} {o : Bool} (h : Sg w q kind ws p o) (l : List Nat) (hl : l.length = 25) : Sg (w.setCells q 1 (vals .u64 l)) q kind l p o := by
  have ht : w.there q 1 (vals .u64 l).length := fun j hj => by
    rw [vals_length, hl] at hj
    have := h.th (1 + j) (by omega)
    rw [Nat.zero_add] at this
    exact this
  have away : ∀ i, i < 1 ∨ 26 ≤ i → (w.setCells q 1 (vals .u64 l)).cell? ⟨q, i, none⟩ = w.cell? ⟨q, i, none⟩ := fun i hi =>
    World.cell?_setCells_out q _ _ w ⟨q, i, none⟩ (fun _ _ => by show i < 1 ∨ 1 + (vals .u64 l).length ≤ i; rw [vals_length, hl]; omega)
  exact Sg.mk' ((away 0 (by omega)).trans h.kind) (World.rangeAt_setCells_same w q 1 _ ht) ((away 26 (by omega)).trans h.at) ((away 27 (by omega)).trans h.out) (World.there_setCells h.th _ _ _) hl
theorem Sg.setAt {w : World} {q : Nat} {kind : Int} {ws : List Nat} {p : Int} {o : Bool} (h : Sg w q kind ws p o) (x : Int) : Sg (w.setCell ⟨q, 26, none⟩ (.int .i64 x)) q kind ws x o := by
  have hl := h.len
  have e : w.setCell ⟨q, 26, none⟩ (.int .i64 x) = w.setCells q 26 [.int .i64 x] := rfl
  rw [e]
  have ht : w.there q 26 [Value.int .i64 x].length := fun j hj => by
    have hj' : j = 0 := by simpa using hj
    subst hj'
    have := h.th 26 (by decide)
    rw [Nat.zero_add] at this
    exact this
  have away : ∀ i, i < 26 ∨ 27 ≤ i → (w.setCells q 26 [.int .i64 x]).cell? ⟨q, i, none⟩ = w.cell? ⟨q, i, none⟩ := fun i hi =>
    World.cell?_setCells_out q _ _ w ⟨q, i, none⟩ (fun _ _ => by show i < 26 ∨ 26 + 1 ≤ i; omega)
  refine Sg.mk' ((away 0 (by omega)).trans h.kind) (World.rangeAt_setCells_apart h.words q 26 _ (.inr (.inl (by rw [vals_length, hl]; decide)))) ?_ ((away 27 (by omega)).trans h.out) (World.there_setCells h.th _ _ _) hl
  have := World.rangeAt_setCells_same w q 26 _ ht 0 _ rfl
  exact this
theorem Sg.setOut {w : World} {q : Nat} {kind : Int} {ws : List Nat} {p : Int} {o : Bool} (h : Sg w q kind ws p o) (x : Bool) : Sg (w.setCell ⟨q, 27, none⟩ (.bool x)) q kind ws p x := by
  have hl := h.len
  have e : w.setCell ⟨q, 27, none⟩ (.bool x) = w.setCells q 27 [.bool x] := rfl
  rw [e]
  have ht : w.there q 27 [Value.bool x].length := fun j hj => by
    have hj' : j = 0 := by simpa using hj
    subst hj'
    have := h.th 27 (by decide)
    rw [Nat.zero_add] at this
    exact this
  have away : ∀ i, i < 27 ∨ 28 ≤ i → (w.setCells q 27 [.bool x]).cell? ⟨q, i, none⟩ = w.cell? ⟨q, i, none⟩ := fun i hi =>
    World.cell?_setCells_out q _ _ w ⟨q, i, none⟩ (fun _ _ => by show i < 27 ∨ 27 + 1 ≤ i; omega)
  refine Sg.mk' ((away 0 (by omega)).trans h.kind) (World.rangeAt_setCells_apart h.words q 27 _ (.inr (.inl (by rw [vals_length, hl]; decide)))) ((away 26 (by omega)).trans h.at) ?_ (World.there_setCells h.th _ _ _) hl
  have := World.rangeAt_setCells_same w q 27 _ ht 0 _ rfl
  exact this
theorem But.setCells {g : Nat} {a w : World} (h : But g a w) : ∀ (vs : List Value) (o : Nat), But g a (w.setCells g o vs) := by
  intro vs
  induction vs generalizing w with
  | nil => intro o; exact h
  | cons v vs ih => intro o; exact ih (h.setCell o v) (o + 1)
theorem infoS : (Tryd.prog.info? 26).map (fun i => (i.zero, i.size)) = some (some (.agg (sl 0 (zs 25) 0 false).toArray), 28) := by kernel_rfl
theorem zero28 : ∀ w, (zeroValue 26).run Tryd.prog w = .ok (.agg (sl 0 (zs 25) 0 false).toArray) w := (zero_of_info infoS).1
theorem sizeS : (Tryd.prog.info? 26).map (·.size) = some 28 := by kernel_rfl
theorem sizeW : (Tryd.prog.info? 23).map (·.size) = some 25 := by kernel_rfl
/-- a load of many cells, at a step of a region's head -/
theorem still_load_mid {P : Program} {ops : Array Oper} {op : Oper} {a : Act} {w : World} {K : Act → Prop} (hgd : op.guard = none) (ty : TypeId) (x : Operand) (ho : op.op = .load ty x)
    (b o : Nat) (hx : a.eval x = .pointer (some ⟨b, o, none⟩)) (cs : List Value) (d : TypeDesc) (hc : w.rangeAt b o cs)
    (hu : P.underlying ty = some d) (hd : d.isRow = true) (hi : (P.info? ty).map (·.size) = some cs.length)
    (h : K (a.put op.dst (.agg cs.toArray))) : if Region.wanted op (yielded ops a.tmps) = true then op.still P a w K else K (a.put op.dst undef) := by
  have hw : Region.wanted op (yielded ops a.tmps) = true := by simp [Region.wanted, hgd]
  rw [if_pos hw]
  unfold Oper.still execOp
  simp only [ho, hx, Instr.loadAt, Instr.sureAddr, Sem.run_bind, Sem.run_pure, Result.andThen_ok, run_loadVar_mid w b o ty cs d hc hu hd hi]
  exact ⟨rfl, h⟩
end Go.Proofs.YtnbohjoakngkeaaDoor
