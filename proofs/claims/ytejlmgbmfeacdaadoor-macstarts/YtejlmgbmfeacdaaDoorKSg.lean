/- A sponge that lies in memory: its cells. -/
import Derived.Test.YtejlmgbmfeacdaaDoorGEn32
import Derived.StillTailTactics
import Derived.Deep.AppendLies
import Derived.Deep.Onto
import Derived.Deep.RegionHeld3
import Derived.Test.YtejlmgbmfeacdaaDoorHN2
import Derived.Test.YtejlmgbmfeacdaaDoorRev
namespace Go.Proofs.YtejlmgbmfeacdaaDoor
open Go.RowKit
set_option linter.unusedVariables false
set_option linter.unusedSimpArgs false

/-- its cells, as one list -/
def sl (kind : Int) (ws : List Nat) (p : Int) (o : Bool) : List Value := .int .i64 kind :: (vals .u64 ws ++ [.int .i64 p, .bool o])
theorem sl_len {kind : Int} {ws : List Nat} {p : Int} {o : Bool} (h : ws.length = 25) : (sl kind ws p o).length = 28 := by simp [sl, vals_length, h]
theorem sl_one (kind : Int) (ws : List Nat) (p : Int) (o : Bool) : ∀ v ∈ sl kind ws p o, v.oneCell' = true := by
  intro v hv
  simp only [sl, List.mem_cons, List.mem_append, List.not_mem_nil, or_false] at hv
  rcases hv with rfl | hv | rfl | rfl
  · rfl
  · exact vals_one _ _ _ hv
  · rfl
  · rfl
/-- it lies in block q -/
structure Sg (w : World) (q : Nat) (kind : Int) (ws : List Nat) (p : Int) (o : Bool) : Prop where
  all : w.rangeAt q 0 (sl kind ws p o)
  th : w.there q 0 28
  len : ws.length = 25
theorem Sg.kind {w : World} {q : Nat} {kind : Int} {ws : List Nat} {p : Int} {o : Bool} (h : Sg w q kind ws p o) : w.cell? ⟨q, 0, none⟩ = some (.int .i64 kind) := h.all 0 _ rfl
theorem Sg.words {w : World} {q : Nat} {kind : Int} {ws : List Nat} {p : Int} {o : Bool} (h : Sg w q kind ws p o) : w.rangeAt q 1 (vals .u64 ws) := fun j v hv => by
  have hj : j < (vals .u64 ws).length := (List.getElem?_eq_some_iff.1 hv).1
  have := h.all (1 + j) v (by
    show (sl kind ws p o)[1 + j]? = some v
    rw [Nat.add_comm, sl, List.getElem?_cons_succ, List.getElem?_append_left hj]; exact hv)
  rw [Nat.zero_add] at this
  exact this
theorem Sg.at {w : World} {q : Nat} {kind : Int} {ws : List Nat} {p : Int} {o : Bool} (h : Sg w q kind ws p o) : w.cell? ⟨q, 26, none⟩ = some (.int .i64 p) := by
  have hl := h.len
  exact h.all 26 _ (by
    show (sl kind ws p o)[26]? = _
    rw [sl, show 26 = 25 + 1 from rfl, List.getElem?_cons_succ, List.getElem?_append_right (by rw [vals_length]; omega), vals_length, hl]; rfl)
theorem Sg.out {w : World} {q : Nat} {kind : Int} {ws : List Nat} {p : Int} {o : Bool} (h : Sg w q kind ws p o) : w.cell? ⟨q, 27, none⟩ = some (.bool o) := by
  have hl := h.len
  exact h.all 27 _ (by
    show (sl kind ws p o)[27]? = _
    rw [sl, show 27 = 26 + 1 from rfl, List.getElem?_cons_succ, List.getElem?_append_right (by rw [vals_length]; omega), vals_length, hl]; rfl)
theorem Sg.frozen {w : World} {q : Nat} {kind : Int} {ws : List Nat} {p : Int} {o : Bool} (h : Sg w q kind ws p o) (i : Nat) (hi : i < 28) : w.frozen? ⟨q, i, none⟩ = false := by
  have := (h.th i hi).2
  rw [Nat.zero_add] at this
  exact this
/-- out of its three parts -/
theorem Sg.mk' {w : World} {q : Nat} {kind : Int} {ws : List Nat} {p : Int} {o : Bool} (h0 : w.cell? ⟨q, 0, none⟩ = some (.int .i64 kind)) (h1 : w.rangeAt q 1 (vals .u64 ws)) (h2 : w.cell? ⟨q, 26, none⟩ = some (.int .i64 p)) (h3 : w.cell? ⟨q, 27, none⟩ = some (.bool o)) (th : w.there q 0 28) (hl : ws.length = 25) : Sg w q kind ws p o := by
  refine ⟨fun j v hv => ?_, th, hl⟩
  rw [Nat.zero_add]
  match j, hv with
  | 0, hv => have e : some (.int .i64 kind) = some v := hv; rw [h0, e]
  | j + 1, hv =>
    rw [sl, List.getElem?_cons_succ] at hv
    by_cases hj : j < (vals .u64 ws).length
    · rw [List.getElem?_append_left hj] at hv
      have := h1 j v hv
      rw [Nat.add_comm] at this
      exact this
    · rw [List.getElem?_append_right (by omega), vals_length, hl] at hv
      rw [vals_length, hl] at hj
      have hk : j - 25 < 2 := by
        have := (List.getElem?_eq_some_iff.1 hv).1
        simpa using this
      have : j = 25 ∨ j = 26 := by omega
      rcases this with rfl | rfl
      · have e : some (.int .i64 p) = some v := hv; rw [h2, e]
      · have e : some (.bool o) = some v := hv; rw [h3, e]
theorem Sg.lt {w : World} {q : Nat} {kind : Int} {ws : List Nat} {p : Int} {o : Bool} (h : Sg w q kind ws p o) : q < w.heap.size := World.block_lt_of_cell? w _ h.kind
theorem there_below {w w' : World} {q o n : Nat} (h : w.there q o n) (hq : q < w.heap.size) (hb : Below w.heap.size w w') : w'.there q o n := fun j hj => by
  have hbk := hb.block q hq
  exact ⟨by rw [World.cell?_of_block (a := ⟨q, o + j, none⟩) hbk]; exact (h j hj).1, by rw [World.frozen?_of_block (a := ⟨q, o + j, none⟩) hbk]; exact (h j hj).2⟩
theorem range_bel {w w' : World} {b o : Nat} {cs : List Value} (h : w.rangeAt b o cs) (hb : Below w.heap.size w w') : w'.rangeAt b o cs := fun j v hv => keep_cell (h j v hv) hb
theorem Sg.below {w w' : World} {q : Nat} {kind : Int} {ws : List Nat} {p : Int} {o : Bool} (h : Sg w q kind ws p o) (hb : Below w.heap.size w w') : Sg w' q kind ws p o := ⟨range_bel h.all hb, there_below h.th h.lt hb, h.len⟩
theorem frozen_row {w : World} {b i : Nat} {cs : Array Value} {t : TypeId} (h : w.heap[b]? = some (.cells cs t (0, 0))) : w.frozen? ⟨b, i, none⟩ = false := by simp [World.frozen?, h]
theorem Sg.new (w : World) (t : TypeId) (kind : Int) (ws : List Nat) (p : Int) (o : Bool) (hl : ws.length = 25) : Sg (w.alloc (.cells (sl kind ws p o).toArray t)) w.heap.size kind ws p o := by
  have hb : (w.alloc (.cells (sl kind ws p o).toArray t)).heap[w.heap.size]? = some (.cells (sl kind ws p o).toArray t (0, 0)) := heap_alloc_last w _
  refine ⟨fun j v hv => ?_, fun j hj => ?_, hl⟩
  · rw [Nat.zero_add, cell_of_row _ _ j _ _ _ hb]; simpa using hv
  · rw [Nat.zero_add]
    refine ⟨?_, frozen_row hb⟩
    rw [cell_of_row _ _ j _ _ _ hb]
    simp [sl_len hl, hj]
theorem Sg.setWords {w : World} {q : Nat} {kind : Int} {ws : List Nat} {p : Int} {o : Bool} (h : Sg w q kind ws p o) (l : List Nat) (hl : l.length = 25) : Sg (w.setCells q 1 (vals .u64 l)) q kind l p o := by
  have ht : w.there q 1 (vals .u64 l).length := fun j hj => by
    rw [vals_length, hl] at hj
    have := h.th (1 + j) (by omega)
    rw [Nat.zero_add] at this
    exact this
  have away : ∀ i, i < 1 ∨ 26 ≤ i → (w.setCells q 1 (vals .u64 l)).cell? ⟨q, i, none⟩ = w.cell? ⟨q, i, none⟩ := fun i hi =>
    World.cell?_setCells_out q _ _ w ⟨q, i, none⟩ (fun _ _ => by show i < 1 ∨ 1 + (vals .u64 l).length ≤ i; rw [vals_length, hl]; omega)
  exact Sg.mk' ((away 0 (by omega)).trans h.kind) (World.rangeAt_setCells_same w q 1 _ ht) ((away 26 (by omega)).trans h.at) ((away 27 (by omega)).trans h.out) (World.there_setCells h.th _ _ _) hl
theorem Sg.setAt {w : World} {q : Nat} {kind : Int} {ws : List Nat} {p : Int} {o : Bool} (h : Sg w q kind ws p o) (x : Int) : Sg (w.setCell ⟨q, 26, none⟩ (.int .i64 x)) q kind ws x o := by
  have hl := h.len
  have e : w.setCell ⟨q, 26, none⟩ (.int .i64 x) = w.setCells q 26 [.int .i64 x] := rfl
  rw [e]
  have ht : w.there q 26 [Value.int .i64 x].length := fun j hj => by
    have hj' : j = 0 := by simpa using hj
    subst hj'
    have := h.th 26 (by decide)
    rw [Nat.zero_add] at this
    exact this
  have away : ∀ i, i < 26 ∨ 27 ≤ i → (w.setCells q 26 [.int .i64 x]).cell? ⟨q, i, none⟩ = w.cell? ⟨q, i, none⟩ := fun i hi =>
    World.cell?_setCells_out q _ _ w ⟨q, i, none⟩ (fun _ _ => by show i < 26 ∨ 26 + 1 ≤ i; omega)
  refine Sg.mk' ((away 0 (by omega)).trans h.kind) (World.rangeAt_setCells_apart h.words q 26 _ (.inr (.inl (by rw [vals_length, hl]; decide)))) ?_ ((away 27 (by omega)).trans h.out) (World.there_setCells h.th _ _ _) hl
  have := World.rangeAt_setCells_same w q 26 _ ht 0 _ rfl
  exact this
theorem Sg.setOut {w : World} {q : Nat} {kind : Int} {ws : List Nat} {p : Int} {o : Bool} (h : Sg w q kind ws p o) (x : Bool) : Sg (w.setCell ⟨q, 27, none⟩ (.bool x)) q kind ws p x := by
  have hl := h.len
  have e : w.setCell ⟨q, 27, none⟩ (.bool x) = w.setCells q 27 [.bool x] := rfl
  rw [e]
  have ht : w.there q 27 [Value.bool x].length := fun j hj => by
    have hj' : j = 0 := by simpa using hj
    subst hj'
    have := h.th 27 (by decide)
    rw [Nat.zero_add] at this
    exact this
  have away : ∀ i, i < 27 ∨ 28 ≤ i → (w.setCells q 27 [.bool x]).cell? ⟨q, i, none⟩ = w.cell? ⟨q, i, none⟩ := fun i hi =>
    World.cell?_setCells_out q _ _ w ⟨q, i, none⟩ (fun _ _ => by show i < 27 ∨ 27 + 1 ≤ i; omega)
  refine Sg.mk' ((away 0 (by omega)).trans h.kind) (World.rangeAt_setCells_apart h.words q 27 _ (.inr (.inl (by rw [vals_length, hl]; decide)))) ((away 26 (by omega)).trans h.at) ?_ (World.there_setCells h.th _ _ _) hl
  have := World.rangeAt_setCells_same w q 27 _ ht 0 _ rfl
  exact this
theorem But.setCells {g : Nat} {a w : World} (h : But g a w) : ∀ (vs : List Value) (o : Nat), But g a (w.setCells g o vs) := by
  intro vs
  induction vs generalizing w with
  | nil => intro o; exact h
  | cons v vs ih => intro o; exact ih (h.setCell o v) (o + 1)
theorem infoS : (Tryd.prog.info? 55).map (fun i => (i.zero, i.size)) = some (some (.agg (sl 0 (zs 25) 0 false).toArray), 28) := by kernel_rfl
theorem zero28 : ∀ w, (zeroValue 55).run Tryd.prog w = .ok (.agg (sl 0 (zs 25) 0 false).toArray) w := (zero_of_info infoS).1
theorem sizeS : (Tryd.prog.info? 55).map (·.size) = some 28 := by kernel_rfl
theorem sizeW : (Tryd.prog.info? 53).map (·.size) = some 25 := by kernel_rfl
/-- a load of many cells, at a step of a region's head -/
theorem still_load_mid {P : Program} {ops : Array Oper} {op : Oper} {a : Act} {w : World} {K : Act → Prop} (hgd : op.guard = none) (ty : TypeId) (x : Operand) (ho : op.op = .load ty x)
    (b o : Nat) (hx : a.eval x = .pointer (some ⟨b, o, none⟩)) (cs : List Value) (d : TypeDesc) (hc : w.rangeAt b o cs)
    (hu : P.underlying ty = some d) (hd : d.isRow = true) (hi : (P.info? ty).map (·.size) = some cs.length)
    (h : K (a.put op.dst (.agg cs.toArray))) : if Region.wanted op (yielded ops a.tmps) = true then op.still P a w K else K (a.put op.dst undef) := by
  have hw : Region.wanted op (yielded ops a.tmps) = true := by simp [Region.wanted, hgd]
  rw [if_pos hw]
  unfold Oper.still execOp
  simp only [ho, hx, Instr.loadAt, Instr.sureAddr, Sem.run_bind, Sem.run_pure, Result.andThen_ok, run_loadVar_mid w b o ty cs d hc hu hd hi]
  exact ⟨rfl, h⟩
end Go.Proofs.YtejlmgbmfeacdaaDoor

/- Contract of the document's Absorb. -/
namespace Go.Proofs.YtejlmgbmfeacdaaDoor
open Go.RowKit
set_option linter.unusedVariables false
set_option linter.unusedSimpArgs false

/-- where the loop of bytes stands -/
def KAbs (w : World) (kind : Int) (s0 : List Nat × Nat) (b : List Nat) (i : Value) (wr : World) : Prop := ∃ n : Nat, n ≤ b.length ∧ i = .int .i64 n ∧ Sg wr w.heap.size kind (absK (rateK kind) s0 (b.take n)).1 ((absK (rateK kind) s0 (b.take n)).2 : Nat) false ∧ wr.heap[w.heap.size + 1]? = some (.cells (sl 0 (zs 25) 0 false).toArray 55 (0, 0)) ∧ Below w.heap.size w wr
theorem take_elb (b : List Nat) (n : Nat) (h : n < b.length) : b.take (n + 1) = b.take n ++ [el b n] := by
  rw [List.take_add_one, List.getElem?_eq_getElem h, el_at h]; rfl
theorem rateK_le (kind : Int) : rateK kind ≤ 168 := by
  unfold rateK
  split
  · decide
  · split
    · decide
    · split <;> decide

end Go.Proofs.YtejlmgbmfeacdaaDoor

/- Contract of the document's Squeeze. -/
namespace Go.Proofs.YtejlmgbmfeacdaaDoor
open Go.RowKit
set_option linter.unusedVariables false
set_option linter.unusedSimpArgs false

/-- where squeezing begins -/
def begK (kind : Int) (ws : List Nat) (p : Nat) (o : Bool) : List Nat × Nat := bif o then (ws, p) else (endK (rateK kind) (markK kind) (ws, p), 0)
/-- where the loop of bytes stands -/
def KSqz (w : World) (kind : Int) (s0 : List Nat × Nat) (n : Nat) (u : Value) (wr : World) : Prop := ∃ k : Nat, k ≤ n ∧ slen u = k ∧ wr.ownsRow (w.heap.size + 2) 5 1 u k (vals .u8 (sqzB (rateK kind) s0 k)) ∧ Sg wr w.heap.size kind (sqzS (rateK kind) s0 k).1 ((sqzS (rateK kind) s0 k).2 : Nat) true ∧ wr.heap[w.heap.size + 1]? = some (.cells (sl 0 (zs 25) 0 false).toArray 55 (0, 0)) ∧ Below w.heap.size w wr
theorem heap_lt {w : World} {b : Nat} {o : Obj} (h : w.heap[b]? = some o) : b < w.heap.size := by
  rcases Nat.lt_or_ge b w.heap.size with h' | h'
  · exact h'
  · rw [Array.getElem?_eq_none h'] at h; cases h
theorem own_but {w w' : World} {base g : Nat} {e : TypeId} {size : Nat} {v : Value} {n : Nat} {xs : List Value} (h : w.ownsRow base e size v n xs) (hb : But g w w') (hg : g < base) : w'.ownsRow base e size v n xs := by
  obtain ⟨h1, h2⟩ := h
  refine ⟨h1, ?_⟩
  rcases h2 with h2 | ⟨q, cap, cur, rfl, h3, h4, h5⟩
  · exact .inl h2
  · exact .inr ⟨q, cap, cur, rfl, h3, by rw [hb.block q (heap_lt h4) (by omega)]; exact h4, h5⟩
theorem own_bel {w w' : World} {base : Nat} {e : TypeId} {size : Nat} {v : Value} {n : Nat} {xs : List Value} (h : w.ownsRow base e size v n xs) (hb : Below w.heap.size w w') : w'.ownsRow base e size v n xs := by
  obtain ⟨h1, h2⟩ := h
  refine ⟨h1, ?_⟩
  rcases h2 with h2 | ⟨q, cap, cur, rfl, h3, h4, h5⟩
  · exact .inl h2
  · exact .inr ⟨q, cap, cur, rfl, h3, by rw [hb.block q (heap_lt h4)]; exact h4, h5⟩
theorem Sg.belowB {B : Nat} {w w' : World} {q : Nat} {kind : Int} {ws : List Nat} {p : Int} {o : Bool} (h : Sg w q kind ws p o) (hb : Below B w w') (hq : q < B) : Sg w' q kind ws p o :=
  ⟨fun j v hv => by rw [hb.cell (p := ⟨q, 0 + j, none⟩) hq]; exact h.all j v hv, fun j hj => by rw [hb.cell (p := ⟨q, 0 + j, none⟩) hq, hb.frozen (p := ⟨q, 0 + j, none⟩) hq]; exact h.th j hj, h.len⟩
theorem own_slice {w : World} {base : Nat} {e : TypeId} {v : Value} {n : Nat} {xs : List Value} (h : w.ownsRow base e 1 v n xs) : ∃ a c, v = .slice a n c := by
  obtain ⟨_, ⟨rfl, h0⟩ | ⟨g, cap, cur, rfl, _⟩⟩ := h
  · exact ⟨none, 0, by rw [h0]⟩
  · exact ⟨_, _, rfl⟩

end Go.Proofs.YtejlmgbmfeacdaaDoor

/- Contracts of the document's New and Fit of sponges; Squeeze of less than no bytes. -/
namespace Go.Proofs.YtejlmgbmfeacdaaDoor
open Go.RowKit
set_option linter.unusedVariables false
set_option linter.unusedSimpArgs false

/-- what is fit -/
def fitK (kind p : Int) (o : Bool) : Bool := decide (0 < rateK kind) && (decide (0 ≤ p) && (decide (p < (rateK kind : Nat)) || (o && decide (p = (rateK kind : Nat)))))
end Go.Proofs.YtejlmgbmfeacdaaDoor

/- Contract of the document's Sum of sponges. -/
namespace Go.Proofs.YtejlmgbmfeacdaaDoor
open Go.RowKit
set_option linter.unusedVariables false
set_option linter.unusedSimpArgs false

theorem zs_w : W25 (zs 25) := W25.zero
theorem begK_w {kind : Int} {ws : List Nat} {p : Nat} {o : Bool} (h : W25 ws) : W25 (begK kind ws p o).1 := by
  cases o with
  | false => unfold begK; dsimp only [cond_false]; exact endK_w (s := (ws, p)) h
  | true => unfold begK; dsimp only [cond_true]; exact h
/-- the bytes of a sum -/
def sumK (kind : Int) (b : List Nat) (n : Nat) : List Nat := sqzB (rateK kind) (begK kind (absK (rateK kind) (zs 25, 0) b).1 (absK (rateK kind) (zs 25, 0) b).2 false) n

end Go.Proofs.YtejlmgbmfeacdaaDoor

/- Digests with keys, plain: over any digest D of lists, with blocks of B. -/
namespace Go.Proofs.YtejlmgbmfeacdaaDoor
set_option linter.unusedVariables false
set_option linter.unusedSimpArgs false
section
variable (D : List Nat → List Nat) (B : Nat)
/-- the key, or its digest -/
def keyB (k : List Nat) : List Nat := if B < k.length then D k else k
/-- the key, filled up with 0 to a block, xored -/
def padK (k : List Nat) (c : Nat) : List Nat := (List.range B).map fun i => el k i ^^^ c
def hmacD (key b : List Nat) : List Nat := D (padK B (keyB D B key) 92 ++ D (padK B (keyB D B key) 54 ++ b))
/-- T1, T2, .. -/
def tN (key info : List Nat) : Nat → List Nat
  | 0 => []
  | i + 1 => hmacD D B key (tN key info i ++ info ++ [(i + 1) % 256])
def outN (f : Nat → List Nat) : Nat → List Nat
  | 0 => []
  | i + 1 => outN f i ++ f i
def expD (key info : List Nat) (n : Nat) : List Nat := (outN (fun i => tN D B key info (i + 1)) n).take n
def maskD (seed : List Nat) (n : Nat) : List Nat := (outN (fun i => D (seed ++ (leL i 4).reverse)) n).take n
end
theorem padK_length (B : Nat) (k : List Nat) (c : Nat) : (padK B k c).length = B := by simp [padK]
theorem padK_el (B : Nat) (k : List Nat) (c i : Nat) (h : i < B) : el (padK B k c) i = el k i ^^^ c := by
  unfold padK
  rw [el_at (by simp; exact h)]
  simp
theorem padK_under {B : Nat} {k : List Nat} {c : Nat} (hk : Under 256 k) (hc : c < 256) : Under 256 (padK B k c) := by
  intro x hx
  simp only [padK, List.mem_map, List.mem_range] at hx
  obtain ⟨i, hi, rfl⟩ := hx
  exact Nat.xor_lt_two_pow (n := 8) (el_lt hk (by decide) i) hc
/-- a 0 behind a key is the same key -/
theorem el_zero (k : List Nat) (i : Nat) : el (k ++ [0]) i = el k i := by
  unfold el
  by_cases h : i < k.length
  · rw [List.getElem?_append_left h]
  · rw [List.getElem?_append_right (by omega), List.getElem?_eq_none (by omega : k.length ≤ i)]
    cases h' : i - k.length with
    | zero => rfl
    | succ n => rfl
theorem padK_zero (B : Nat) (k : List Nat) (c : Nat) : padK B (k ++ [0]) c = padK B k c := by
  unfold padK
  exact List.map_congr_left fun i _ => by rw [el_zero]
theorem hmacD_zero (D : List Nat → List Nat) (B : Nat) (k b : List Nat) (h : k.length < B) : hmacD D B (k ++ [0]) b = hmacD D B k b := by
  have e1 : keyB D B (k ++ [0]) = k ++ [0] := by unfold keyB; rw [if_neg (by rw [List.length_append, List.length_singleton]; omega)]
  have e2 : keyB D B k = k := by unfold keyB; rw [if_neg (by omega)]
  unfold hmacD
  rw [e1, e2, padK_zero, padK_zero]
/-- a long key is as its digest -/
theorem hmacD_long (D : List Nat → List Nat) (B : Nat) (k b : List Nat) (h : B < k.length) (hd : (D k).length ≤ B) : hmacD D B (D k) b = hmacD D B k b := by
  have e1 : keyB D B (D k) = D k := by unfold keyB; rw [if_neg (by omega)]
  have e2 : keyB D B k = D k := by unfold keyB; rw [if_pos h]
  unfold hmacD
  rw [e1, e2]
theorem outN_length (f : Nat → List Nat) (z : Nat) (hf : ∀ i, (f i).length = z) : ∀ n, (outN f n).length = n * z
  | 0 => by simp [outN]
  | n + 1 => by unfold outN; rw [List.length_append, outN_length f z hf n, hf]; rw [Nat.succ_mul]
theorem outN_pre (f : Nat → List Nat) (i : Nat) : ∀ k, ∃ r, outN f (i + k) = outN f i ++ r
  | 0 => ⟨[], by simp⟩
  | k + 1 => by
    obtain ⟨r, hr⟩ := outN_pre f i k
    exact ⟨r ++ f (i + k), by show outN f (i + k) ++ f (i + k) = _; rw [hr, List.append_assoc]⟩
theorem outN_take (f : Nat → List Nat) (z : Nat) (hf : ∀ i, (f i).length = z) {i j n : Nat} (hi : n ≤ i * z) (hj : n ≤ j * z) : (outN f i).take n = (outN f j).take n := by
  have key : ∀ {i j : Nat}, i ≤ j → n ≤ i * z → (outN f i).take n = (outN f j).take n := fun {i j} hij hi => by
    obtain ⟨k, rfl⟩ := Nat.exists_eq_add_of_le hij
    obtain ⟨r, hr⟩ := outN_pre f i k
    rw [hr, List.take_append_of_le_length (by rw [outN_length f z hf]; exact hi)]
  rcases Nat.le_total i j with h | h
  · exact key h hi
  · exact (key h hj).symm
theorem outN_under (f : Nat → List Nat) (hf : ∀ i, Under 256 (f i)) : ∀ n, Under 256 (outN f n)
  | 0 => fun x hx => by simp [outN] at hx
  | n + 1 => by unfold outN; exact (outN_under f hf n).append (hf n)
theorem le_times {n z : Nat} (hz : 0 < z) : n ≤ n * z := Nat.le_mul_of_pos_right n hz
theorem hmacD_length (D : List Nat → List Nat) (B z : Nat) (hD : ∀ l, (D l).length = z) (key b : List Nat) : (hmacD D B key b).length = z := hD _
theorem tN_length (D : List Nat → List Nat) (B z : Nat) (hD : ∀ l, (D l).length = z) (key info : List Nat) (i : Nat) : (tN D B key info (i + 1)).length = z := hD _
theorem expD_length (D : List Nat → List Nat) (B z : Nat) (hD : ∀ l, (D l).length = z) (hz : 0 < z) (key info : List Nat) (n : Nat) : (expD D B key info n).length = n := by
  unfold expD
  rw [List.length_take, outN_length _ z (fun i => tN_length D B z hD key info i)]
  have := le_times (n := n) hz
  omega
theorem maskD_length (D : List Nat → List Nat) (z : Nat) (hD : ∀ l, (D l).length = z) (hz : 0 < z) (seed : List Nat) (n : Nat) : (maskD D seed n).length = n := by
  unfold maskD
  rw [List.length_take, outN_length _ z (fun i => hD _)]
  have := le_times (n := n) hz
  omega
/-- what was told when so many had come up -/
theorem expD_at (D : List Nat → List Nat) (B z : Nat) (hD : ∀ l, (D l).length = z) (hz : 0 < z) (key info : List Nat) {n i : Nat} (h : n ≤ (outN (fun i => tN D B key info (i + 1)) i).length) : (outN (fun i => tN D B key info (i + 1)) i).take n = expD D B key info n := by
  have hf : ∀ i, (tN D B key info (i + 1)).length = z := fun i => tN_length D B z hD key info i
  rw [outN_length _ z hf] at h
  exact outN_take _ z hf h (le_times hz)
theorem maskD_at (D : List Nat → List Nat) (z : Nat) (hD : ∀ l, (D l).length = z) (hz : 0 < z) (seed : List Nat) {n i : Nat} (h : n ≤ (outN (fun i => D (seed ++ (leL i 4).reverse)) i).length) : (outN (fun i => D (seed ++ (leL i 4).reverse)) i).take n = maskD D seed n := by
  have hf : ∀ i, (D (seed ++ (leL i 4).reverse)).length = z := fun i => hD _
  rw [outN_length _ z hf] at h
  exact outN_take _ z hf h (le_times hz)
/-- fewer bytes are the beginning of more -/
theorem expD_take (D : List Nat → List Nat) (B z : Nat) (hD : ∀ l, (D l).length = z) (hz : 0 < z) (key info : List Nat) (n m : Nat) : (expD D B key info (n + m)).take n = expD D B key info n := by
  have hf : ∀ i, (tN D B key info (i + 1)).length = z := fun i => tN_length D B z hD key info i
  unfold expD
  rw [List.take_take, Nat.min_eq_left (by omega)]
  exact outN_take _ z hf (Nat.le_trans (by omega) (le_times (n := n + m) hz)) (le_times hz)
theorem maskD_take (D : List Nat → List Nat) (z : Nat) (hD : ∀ l, (D l).length = z) (hz : 0 < z) (seed : List Nat) (n m : Nat) : (maskD D seed (n + m)).take n = maskD D seed n := by
  have hf : ∀ i, (D (seed ++ (leL i 4).reverse)).length = z := fun i => hD _
  unfold maskD
  rw [List.take_take, Nat.min_eq_left (by omega)]
  exact outN_take _ z hf (Nat.le_trans (by omega) (le_times (n := n + m) hz)) (le_times hz)
end Go.Proofs.YtejlmgbmfeacdaaDoor

/- The document's Size, Digest, block. -/
namespace Go.Proofs.YtejlmgbmfeacdaaDoor
open Go.RowKit
set_option linter.unusedVariables false
set_option linter.unusedSimpArgs false

/-- how many bytes a digest has -/
def sizeD (kind : Int) : Nat := if kind = 1 then 32 else if kind = 2 then 48 else if kind = 3 then 64 else if kind = 4 then 32 else if kind = 5 then 64 else if kind = 6 then 32 else if kind = 7 then 64 else 0
/-- a digest -/
def digD (kind : Int) (b : List Nat) : List Nat := if kind ≤ 3 then endS (wide kind) (ini kind.toNat) b b.length (outn kind) else sumK kind b (sizeD kind)
/-- a block -/
def blkD (kind : Int) : Nat := if kind ≤ 3 then bz (wide kind) else rateK kind
theorem kinds {kind : Int} (h : 0 < sizeD kind) : kind = 1 ∨ kind = 2 ∨ kind = 3 ∨ kind = 4 ∨ kind = 5 ∨ kind = 6 ∨ kind = 7 := by
  unfold sizeD at h
  repeat' split at h
  all_goals omega
theorem no_kind {kind : Int} (h : sizeD kind = 0) : ¬ kind = 1 ∧ ¬ kind = 2 ∧ ¬ kind = 3 ∧ ¬ kind = 4 ∧ ¬ kind = 5 ∧ ¬ kind = 6 ∧ ¬ kind = 7 := by
  refine ⟨?_, ?_, ?_, ?_, ?_, ?_, ?_⟩ <;> (intro e; subst e; exact absurd h (by decide))
theorem sizeD_le (kind : Int) : sizeD kind ≤ 64 := by
  unfold sizeD
  repeat' split
  all_goals omega
theorem digD_length {kind : Int} (h : 0 < sizeD kind) (b : List Nat) : (digD kind b).length = sizeD kind := by
  have e8 : ∀ (c : Bool) (k : Nat) (l : List Nat), (eat c (ini k) l).length = 8 := fun c k l => eat_len _ (by
    unfold ini
    repeat' split
    all_goals decide)
  rcases kinds h with h | h | h | h | h | h | h <;> subst h
  · simp [digD, endS, bytesW_length, e8, sizeD, outn, wide, ez]
  · simp [digD, endS, bytesW_length, e8, sizeD, outn, wide, ez]
  · simp [digD, endS, bytesW_length, e8, sizeD, outn, wide, ez]
  all_goals (unfold digD; rw [if_neg (by decide)]; exact sqzB_length _ _ _)

set_option maxHeartbeats 2000000 in
set_option maxRecDepth 100000 in
theorem size_any (kind : Int) (w : World) : Calls Tryd.prog 9 #[.int .i64 kind] w fun e w' => e = .returned (.int .i64 (sizeD kind : Nat)) ∧ Below w.heap.size w w' := by
  by_cases h0 : kind < 0
  · have e0 : sizeD kind = 0 := by unfold sizeD; (repeat' split) <;> omega
    rw [e0]
    go_enter Tryd.func9, Tryd.ntmps9
    go_wp2_with fail
    go_ret
    exact ⟨rfl, keep_alloc _ _⟩
  by_cases h7 : 7 < kind
  · have e0 : sizeD kind = 0 := by unfold sizeD; (repeat' split) <;> omega
    rw [e0]
    go_enter Tryd.func9, Tryd.ntmps9
    go_wp2_with fail
    go_ret
    exact ⟨rfl, keep_alloc _ _⟩
  have hk : kind = 0 ∨ kind = 1 ∨ kind = 2 ∨ kind = 3 ∨ kind = 4 ∨ kind = 5 ∨ kind = 6 ∨ kind = 7 := by omega
  clear h0 h7
  rcases hk with h | h | h | h | h | h | h | h <;> subst h <;>
  · go_enter Tryd.func9, Tryd.ntmps9
    go_wp2_with fail
    go_ret
    exact ⟨rfl, keep_alloc _ _⟩
end Go.Proofs.YtejlmgbmfeacdaaDoor
