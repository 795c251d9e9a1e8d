/- A slice of texts, and what it reads as. -/
import Derived.Test.YtgdcpdbmacmheaaDoorOwn
import Derived.Test.YtgdcpdbmacmheaaDoorHKi2
namespace Go.Proofs.YtgdcpdbmacmheaaDoor
open Go.RowKit
set_option linter.unusedVariables false

/-- the text at a place of a list of texts -/
def tx (ls : List (List Nat)) (i : Nat) : List Nat := ls[i]?.getD []

/-- a slice without an address is nil -/
def Tidy (v : Value) : Prop := ∀ n c, v = .slice none n c → n = 0 ∧ c = 0

/-- v is a slice of texts, which are ls -/
def Rows2 (w : World) (v : Value) (ls : List (List Nat)) : Prop :=
  ∃ a cap, v = .slice a ls.length cap ∧ ls.length ≤ cap ∧ cap ≤ maxLen ∧
    (0 < ls.length → ∃ b off, a = some ⟨b, off, none⟩ ∧ ∀ i, i < ls.length → ∃ u, w.cell? ⟨b, off + i, none⟩ = some u ∧ Row .u8 256 w u (tx ls i) ∧ Tidy u)

theorem Rows2.below {w w' : World} {v : Value} {ls : List (List Nat)} (h : Rows2 w v ls) (hb : Below w.heap.size w w') : Rows2 w' v ls := by
  obtain ⟨a, cap, rfl, h1, h2, h3⟩ := h
  refine ⟨a, cap, rfl, h1, h2, fun hl => ?_⟩
  obtain ⟨b, off, rfl, hc⟩ := h3 hl
  refine ⟨b, off, rfl, fun i hi => ?_⟩
  obtain ⟨u, hu, hr, ht⟩ := hc i hi
  have h5 := World.block_lt_of_cell? w _ hu
  exact ⟨u, by rw [hb.cell (p := ⟨b, off + i, none⟩) h5]; exact hu, hr.below hb, ht⟩

/-- how many bytes the first texts have -/
def sumL (ls : List (List Nat)) : Nat := ls.flatten.length

theorem take_tx {ls : List (List Nat)} {k : Nat} (h : k < ls.length) : ls.take (k + 1) = ls.take k ++ [tx ls k] := by
  rw [List.take_succ_eq_append_getElem h]; unfold tx; rw [List.getElem?_eq_getElem h]; rfl
theorem flat_succ {ls : List (List Nat)} {k : Nat} (h : k < ls.length) : (ls.take (k + 1)).flatten = (ls.take k).flatten ++ tx ls k := by
  rw [take_tx h]; simp
theorem flat_le (ls : List (List Nat)) (k : Nat) : (ls.take k).flatten.length ≤ ls.flatten.length := by
  have : ls.flatten = (ls.take k).flatten ++ (ls.drop k).flatten := by rw [← List.flatten_append, List.take_append_drop]
  rw [this]; simp

theorem cells_news {w : World} {k : IntKind} {x : Addr} {l : List Nat} (h : Cells k w (some x) l) : ∀ j u, (vals k l)[j]? = some u → w.cell? (x.add j) = some u := by
  intro j u hj
  have hl : j < l.length := by
    have := (List.getElem?_eq_some_iff.1 hj).1
    rwa [vals_length] at this
  obtain ⟨b, off, he, hc⟩ := h (by omega)
  obtain rfl := Option.some.inj he
  rw [Addr.add_lit, hc j hl, ← vals_get k l j hl]
  exact hj

theorem under_flat (ls : List (List Nat)) (h : ∀ i, i < ls.length → Under 256 (tx ls i)) : Under 256 ls.flatten := by
  intro x hx
  obtain ⟨l, hl, hxl⟩ := List.mem_flatten.1 hx
  obtain ⟨i, hi, rfl⟩ := List.getElem_of_mem hl
  have := h i hi
  unfold tx at this
  rw [List.getElem?_eq_getElem hi] at this
  exact this x hxl

theorem Rows2.under {w : World} {v : Value} {ls : List (List Nat)} (h : Rows2 w v ls) : Under 256 ls.flatten := by
  obtain ⟨a, cap, rfl, h1, h2, h3⟩ := h
  apply under_flat
  intro i hi
  obtain ⟨b, off, rfl, hc⟩ := h3 (by omega)
  obtain ⟨u, _, ⟨_, _, _, _, _, _, h6⟩, _⟩ := hc i hi
  exact h6
end Go.Proofs.YtgdcpdbmacmheaaDoor

/- Sums that go on, as values; the constants; few texts in a new slice. -/
namespace Go.Proofs.YtgdcpdbmacmheaaDoor
open Go.RowKit
set_option linter.unusedVariables false
set_option linter.unusedSimpArgs false

/-- a sum that goes on: its cells -/
def hv (kind : Int) (ws : List Nat) (tv : Value) (size : Nat) : Array Value :=
  #[.int .i64 kind, .int .u64 (el ws 0), .int .u64 (el ws 1), .int .u64 (el ws 2), .int .u64 (el ws 3), .int .u64 (el ws 4), .int .u64 (el ws 5), .int .u64 (el ws 6), .int .u64 (el ws 7), tv, .int .u64 size]
/-- it lies in block q -/
def Hb (w : World) (q : Nat) (kind : Int) (ws : List Nat) (tv : Value) (size : Nat) : Prop := w.heap[q]? = some (.cells (hv kind ws tv size) 26 (0, 0))
theorem Hb.new (w : World) (kind : Int) (ws : List Nat) (tv : Value) (size : Nat) : Hb (w.alloc (.cells (hv kind ws tv size) 26)) w.heap.size kind ws tv size := heap_alloc_last w _
theorem Hb.lt {w : World} {q : Nat} {kind : Int} {ws : List Nat} {tv : Value} {size : Nat} (h : Hb w q kind ws tv size) : q < w.heap.size := by
  unfold Hb at h
  rcases Nat.lt_or_ge q w.heap.size with hlt | hge
  · exact hlt
  · rw [Array.getElem?_eq_none hge] at h; cases h
theorem Hb.below {w w' : World} {q : Nat} {kind : Int} {ws : List Nat} {tv : Value} {size : Nat} (h : Hb w q kind ws tv size) (hb : Below w.heap.size w w') : Hb w' q kind ws tv size := (hb.block q h.lt).trans h
theorem Hb.but {w w' : World} {q g : Nat} {kind : Int} {ws : List Nat} {tv : Value} {size : Nat} (h : Hb w q kind ws tv size) (hb : But g w w') (hn : q ≠ g) : Hb w' q kind ws tv size := (hb.block q h.lt hn).trans h
theorem Hb.kind {w : World} {q : Nat} {kind : Int} {ws : List Nat} {tv : Value} {size : Nat} (h : Hb w q kind ws tv size) : w.cell? ⟨q, 0, none⟩ = some (.int .i64 kind) := by rw [cell_of_row w q 0 _ _ (0, 0) h]; rfl
theorem Hb.tail {w : World} {q : Nat} {kind : Int} {ws : List Nat} {tv : Value} {size : Nat} (h : Hb w q kind ws tv size) : w.cell? ⟨q, 9, none⟩ = some tv := by rw [cell_of_row w q 9 _ _ (0, 0) h]; rfl
theorem Hb.size {w : World} {q : Nat} {kind : Int} {ws : List Nat} {tv : Value} {size : Nat} (h : Hb w q kind ws tv size) : w.cell? ⟨q, 10, none⟩ = some (.int .u64 size) := by rw [cell_of_row w q 10 _ _ (0, 0) h]; rfl
theorem Hb.word {w : World} {q : Nat} {kind : Int} {ws : List Nat} {tv : Value} {size : Nat} (h : Hb w q kind ws tv size) {i : Nat} (hi : i < 8) : w.cell? ⟨q, 1 + i, none⟩ = some (.int .u64 (el ws i)) := by
  rw [cell_of_row w q _ _ _ (0, 0) h]
  match i, hi with
  | 0, _ => rfl
  | 1, _ => rfl
  | 2, _ => rfl
  | 3, _ => rfl
  | 4, _ => rfl
  | 5, _ => rfl
  | 6, _ => rfl
  | 7, _ => rfl
theorem Hb.words {w : World} {q : Nat} {kind : Int} {ws : List Nat} {tv : Value} {size : Nat} (h : Hb w q kind ws tv size) (h8 : ws.length = 8) : w.rangeAt q 1 (vals .u64 ws) := fun j v hv => by
  have hj : j < ws.length := by have := (List.getElem?_eq_some_iff.1 hv).1; rwa [vals_length] at this
  rw [h.word (by omega), ← hv, vals_get .u64 ws j hj]
/-- a text's value is one cell -/
theorem Row.cell1 {k : IntKind} {m : Nat} {w : World} {u : Value} {l : List Nat} (h : Row k m w u l) : u.oneCell' = true := by
  obtain ⟨a, cap, rfl, _⟩ := h; rfl
theorem Row.form {k : IntKind} {m : Nat} {w : World} {v : Value} {l : List Nat} (h : Row k m w v l) : ∃ a c, v = .slice a l.length c := by
  obtain ⟨a, c, rfl, _⟩ := h; exact ⟨a, c, rfl⟩

/-- the program's two tables hold what its text lays in them -/
def Roots (w : World) : Prop := w.rangeAt 1 0 (vals .u64 cubes) ∧ w.rangeAt 0 0 (vals .u64 squares)
theorem range_below {w w' : World} {b o : Nat} {cs : List Value} (h : w.rangeAt b o cs) (hb : Below w.heap.size w w') : w'.rangeAt b o cs := fun j v hv => keep_cell (h j v hv) hb
theorem Roots.below {w w' : World} (h : Roots w) (hb : Below w.heap.size w w') : Roots w' := ⟨range_below h.1 hb, range_below h.2 hb⟩

theorem tidy_at (x : Addr) (n c : Nat) : Tidy (.slice (some x) n c) := fun n c he => by simp at he
theorem tidy_nil : Tidy (.slice none 0 0) := fun a c he => by simp at he; omega
theorem Own.tidy {e : TypeId} {k : IntKind} {m : Nat} {w : World} {B : Nat} {v : Value} {l : List Nat} (h : Own e k m w B v l) : Tidy v := by
  obtain ⟨⟨_, ⟨rfl, _⟩ | ⟨g, cap, cur, rfl, _⟩⟩, _⟩ := h
  · exact tidy_nil
  · exact tidy_at _ _ _
theorem rows_lit2 {w : World} {u v : Value} {a b : List Nat} (hu : Row .u8 256 w u a) (hv : Row .u8 256 w v b) (tu : Tidy u) (tv : Tidy v) :
    Rows2 (w.alloc (.cells #[u, v] 22)) (.slice (some ⟨w.heap.size, 0, none⟩) 2 2) [a, b] := by
  refine ⟨_, 2, rfl, Nat.le_refl _, by unfold maxLen; decide, fun _ => ⟨_, _, rfl, fun i hi => ?_⟩⟩
  have hb := keep_alloc w (.cells #[u, v] 22)
  match i, hi with
  | 0, _ => exact ⟨u, by rw [World.cell?_alloc_at _ _ _ _ rfl]; rfl, hu.below hb, tu⟩
  | 1, _ => exact ⟨v, by rw [World.cell?_alloc_at _ _ _ _ rfl]; rfl, hv.below hb, tv⟩
theorem rows_lit3 {w : World} {u v x : Value} {a b c : List Nat} (hu : Row .u8 256 w u a) (hv : Row .u8 256 w v b) (hx : Row .u8 256 w x c) (tu : Tidy u) (tv : Tidy v) (tx : Tidy x) :
    Rows2 (w.alloc (.cells #[u, v, x] 22)) (.slice (some ⟨w.heap.size, 0, none⟩) 3 3) [a, b, c] := by
  refine ⟨_, 3, rfl, Nat.le_refl _, by unfold maxLen; decide, fun _ => ⟨_, _, rfl, fun i hi => ?_⟩⟩
  have hb := keep_alloc w (.cells #[u, v, x] 22)
  match i, hi with
  | 0, _ => exact ⟨u, by rw [World.cell?_alloc_at _ _ _ _ rfl]; rfl, hu.below hb, tu⟩
  | 1, _ => exact ⟨v, by rw [World.cell?_alloc_at _ _ _ _ rfl]; rfl, hv.below hb, tv⟩
  | 2, _ => exact ⟨x, by rw [World.cell?_alloc_at _ _ _ _ rfl]; rfl, hx.below hb, tx⟩

/-- bytes of words, at a place -/
theorem el_flat (f : Nat → List Nat) (k : Nat) (hk : 0 < k) (hf : ∀ x, (f x).length = k) : ∀ (l : List Nat) (i : Nat), i < l.length * k → el (l.map f).flatten i = el (f (el l (i / k))) (i % k)
  | [], i, h => by simp at h
  | x :: l, i, h => by
    rw [List.map_cons, List.flatten_cons]
    by_cases hi : i < k
    · rw [el_app_left (by rw [hf]; exact hi), Nat.div_eq_of_lt hi, Nat.mod_eq_of_lt hi]; rfl
    · have e : el (x :: l) (i / k) = el l ((i - k) / k) := by
        rw [Nat.div_eq_sub_div hk (by omega)]; rfl
      rw [el_app_right (by rw [hf]; omega), hf, el_flat f k hk hf l (i - k) (by rw [List.length_cons, Nat.add_mul, Nat.one_mul] at h; omega), e, Nat.mod_eq_sub_mod (by omega : i ≥ k)]
theorem el_be (x k j : Nat) (hj : j < k) : el (leL x k).reverse j = x / 256 ^ (k - 1 - j) % 256 := by
  have hl : (leL x k).length = k := leL_length x k
  rw [el_at (by rw [List.length_reverse, hl]; exact hj), List.getElem_reverse]
  simp only [leL, List.getElem_map, List.getElem_range, List.length_map, List.length_range]
theorem bytesW_length (b : Bool) (h : List Nat) : (bytesW b h).length = h.length * ez b := by
  unfold bytesW
  induction h with
  | nil => simp
  | cons x l ih => rw [List.map_cons, List.flatten_cons, List.length_append, ih, List.length_reverse, leL_length, List.length_cons, Nat.add_mul]; omega
theorem bytesW_el (b : Bool) (h : List Nat) (i : Nat) (hi : i < h.length * ez b) : el (bytesW b h) i = el h (i / ez b) / 256 ^ (ez b - 1 - i % ez b) % 256 := by
  have hp : 0 < ez b := by cases b <;> decide
  unfold bytesW
  rw [el_flat (fun x => (leL x (ez b)).reverse) (ez b) hp (fun x => by rw [List.length_reverse, leL_length]) h i hi, el_be _ _ _ (Nat.mod_lt _ hp)]
theorem bytesW_under (b : Bool) (h : List Nat) : Under 256 (bytesW b h) := by
  intro x hx
  unfold bytesW at hx
  obtain ⟨l, hl, hxl⟩ := List.mem_flatten.1 hx
  obtain ⟨y, _, rfl⟩ := List.mem_map.1 hl
  have := List.mem_reverse.1 hxl
  unfold leL at this
  obtain ⟨i, _, rfl⟩ := List.mem_map.1 this
  omega
theorem el_take {l : List Nat} {n i : Nat} (h : i < n) : el (l.take n) i = el l i := by unfold el; rw [List.getElem?_take_of_lt h]
end Go.Proofs.YtgdcpdbmacmheaaDoor
