/- Small words for walks over blocks of many cells. -/
import Derived.Test.YtogiballdmgcpaaGreatDoorBe
import Derived.Deep.WholeRow
import Derived.Deep.MidRow
import Derived.Deep.RegionHeld3
import Derived.Laws.ShiftsVarLaws
import Derived.BigRegion
namespace Go.Proofs.YtogiballdmgcpaaGreatDoor
open Go.RowKit
set_option linter.unusedVariables false
set_option linter.unusedSimpArgs false

theorem bel_drewN {B : Nat} {a w : World} (h : Below B a w) (n : Nat) : Below B a (w.drewN n) := h.trans ⟨rfl, rfl, rfl, Nat.le_refl _, fun _ _ => rfl⟩

theorem un_drew {w w' : World} (h : Below w.drew.heap.size w.drew w') : Below w.heap.size w w' := ⟨h.os, h.tape, h.output, h.size, h.block⟩
theorem un_drewN {n : Nat} {w w' : World} (h : Below (w.drewN n).heap.size (w.drewN n) w') : Below w.heap.size w w' := ⟨h.os, h.tape, h.output, h.size, h.block⟩
/-- an array's cells -/
def arr (k : IntKind) (l : List Nat) : Array Value := (vals k l).toArray
theorem arr_size (k : IntKind) (l : List Nat) : (arr k l).size = l.length := by simp [arr, vals]
theorem arr_get (k : IntKind) (l : List Nat) (i : Nat) (h : i < l.length) : (arr k l)[i]? = some (.int k (el l i)) := by
  unfold arr; rw [List.getElem?_toArray]; exact vals_get k l i h
theorem arr_one (k : IntKind) (l : List Nat) : (arr k l).all (·.oneCell') = true := all_oneCell_toArray (vals_one k l)

/-- all blocks but one are as they were -/
structure But (g : Nat) (w w' : World) : Prop where
  os : w'.os = w.os
  tape : w'.tape = w.tape
  output : w'.output = w.output
  size : w.heap.size ≤ w'.heap.size
  block : ∀ k, k < w.heap.size → k ≠ g → w'.heap[k]? = w.heap[k]?
theorem But.refl (g : Nat) (w : World) : But g w w := ⟨rfl, rfl, rfl, Nat.le_refl _, fun _ _ _ => rfl⟩
theorem But.trans {g : Nat} {a b c : World} (h : But g a b) (k : But g b c) : But g a c :=
  ⟨k.os.trans h.os, k.tape.trans h.tape, k.output.trans h.output, Nat.le_trans h.size k.size, fun i hi hn => (k.block i (Nat.lt_of_lt_of_le hi h.size) hn).trans (h.block i hi hn)⟩
theorem But.of_below {g : Nat} {w w' : World} (h : Below w.heap.size w w') : But g w w' := ⟨h.os, h.tape, h.output, h.size, fun k hk _ => h.block k hk⟩
theorem But.below {g B : Nat} {w w' : World} (h : But g w w') (hg : B ≤ g) (hB : B ≤ w.heap.size) : Below B w w' := ⟨h.os, h.tape, h.output, h.size, fun k hk => h.block k (by omega) (by omega)⟩
theorem But.setCell {g : Nat} {a w : World} (h : But g a w) (i : Nat) (u : Value) : But g a (w.setCell ⟨g, i, none⟩ u) :=
  h.trans ⟨rfl, rfl, rfl, by simp [World.setCell], fun k hk hn => heap_setCell_other _ _ _ _ (by show k ≠ g; exact hn)⟩
theorem But.alloc {g : Nat} {a w : World} (h : But g a w) (o : Obj) : But g a (w.alloc o) := h.trans (But.of_below (keep_alloc w o))
theorem But.drew {g : Nat} {a w : World} (h : But g a w) : But g a w.drew := h.trans ⟨rfl, rfl, rfl, Nat.le_refl _, fun _ _ _ => rfl⟩
theorem But.drewN {g : Nat} {a w : World} (h : But g a w) (n : Nat) : But g a (w.drewN n) := h.trans ⟨rfl, rfl, rfl, Nat.le_refl _, fun _ _ _ => rfl⟩

/-- the numbers l lie in block g, which has no other cell -/
def Lies (k : IntKind) (t : TypeId) (w : World) (g : Nat) (l : List Nat) : Prop := w.heap[g]? = some (.cells (arr k l) t (0, 0))
theorem Lies.lt {k : IntKind} {t : TypeId} {w : World} {g : Nat} {l : List Nat} (h : Lies k t w g l) : g < w.heap.size := by
  unfold Lies at h
  rcases Nat.lt_or_ge g w.heap.size with hlt | hge
  · exact hlt
  · rw [Array.getElem?_eq_none hge] at h; cases h
theorem Lies.cell {k : IntKind} {t : TypeId} {w : World} {g : Nat} {l : List Nat} (h : Lies k t w g l) {i : Nat} (hi : i < l.length) : w.cell? ⟨g, i, none⟩ = some (.int k (el l i)) := by
  rw [cell_of_row w g i _ t (0, 0) h, arr_get k l i hi]
theorem Lies.frozen {k : IntKind} {t : TypeId} {w : World} {g : Nat} {l : List Nat} (h : Lies k t w g l) (i : Nat) : w.frozen? ⟨g, i, none⟩ = false := by
  have h' : w.heap[g]? = some (.cells (arr k l) t (0, 0)) := h
  simp [World.frozen?, h']
theorem Lies.new (k : IntKind) (t : TypeId) (w : World) (l : List Nat) : Lies k t (w.alloc (.cells (arr k l) t)) w.heap.size l := heap_alloc_last w _
theorem Lies.below {k : IntKind} {t : TypeId} {w w' : World} {g : Nat} {l : List Nat} (h : Lies k t w g l) (hb : Below w.heap.size w w') : Lies k t w' g l := (hb.block g h.lt).trans h
theorem Lies.but {k : IntKind} {t : TypeId} {w w' : World} {g q : Nat} {l : List Nat} (h : Lies k t w g l) (hb : But q w w') (hn : g ≠ q) : Lies k t w' g l := (hb.block g h.lt hn).trans h
theorem Lies.drewN {k : IntKind} {t : TypeId} {w : World} {g : Nat} {l : List Nat} (h : Lies k t w g l) (n : Nat) : Lies k t (w.drewN n) g l := h
theorem Lies.alloc {k : IntKind} {t : TypeId} {w : World} {g : Nat} {l : List Nat} (h : Lies k t w g l) (o : Obj) : Lies k t (w.alloc o) g l := h.below (keep_alloc w o)
theorem arr_set (k : IntKind) (l : List Nat) (i x : Nat) : (arr k l).setIfInBounds i (.int k (x : Int)) = arr k (l.set i x) := by
  unfold arr; rw [← vals_set]; simp
theorem Lies.set {k : IntKind} {t : TypeId} {w : World} {g : Nat} {l : List Nat} (h : Lies k t w g l) (i x : Nat) : Lies k t (w.setCell ⟨g, i, none⟩ (.int k (x : Int))) g (l.set i x) := by
  unfold Lies
  rw [setCell_eq_setRow w g i _ t (0, 0) _ h, arr_set]
  exact setRow_heap w g _ _ t _ h
theorem Lies.load {k : IntKind} {t : TypeId} {w : World} {g : Nat} {l : List Nat} (h : Lies k t w g l) {P : Program} (ty : TypeId) (d : TypeDesc) (hu : P.underlying ty = some d) (hd : d.isRow = true) (hi : (P.info? ty).map (·.size) = some l.length) :
    (Instr.loadAt ty (.pointer (some ⟨g, 0, none⟩))).run P w = .ok (.agg (arr k l)) w :=
  run_loadAt_mid w g 0 ty (vals k l) d (fun j v hv => by
    have hj : j < l.length := by have := (List.getElem?_eq_some_iff.1 hv).1; rwa [vals_length] at this
    rw [Nat.zero_add, h.cell hj, ← vals_get k l j hj]; exact hv) hu hd (by rw [vals_length]; exact hi)
/-- an array's element -/
theorem index_arr {P : Program} (t e : TypeId) (n : Nat) (k : IntKind) (l : List Nat) (hu : P.underlying t = some (.array n e)) (he : P.underlying e = some (.int k)) (hs : (P.info? e).map (·.size) = some 1) (hn : l.length = n) (i : Nat) (hi : i < n) (w : World) :
    (Instr.index t (.agg (arr k l)) (.int .i64 (i : Int))).run P w = .ok (.int k (el l i)) w := by
  cases hq : P.info? e with
  | none => simp [hq] at hs
  | some x =>
    have hx : x.size = 1 := by simpa [hq] using hs
    have ha := arr_get k l i (by omega)
    have hagg : (isAgg e).run P w = .ok false w := by
      unfold isAgg
      rw [Sem.run_bind, run_underlying he w]; rfl
    simp [Instr.index, asIntOf, Sem.run_bind, run_underlying hu w, sizeOf, typeInfo, hq, hx, part, hagg, ha, show (i : Int) < (n : Int) by omega]
    intro hh; omega
theorem arr8 (k : IntKind) (l : List Nat) (h : l.length = 8) : arr k l = #[.int k (el l 0), .int k (el l 1), .int k (el l 2), .int k (el l 3), .int k (el l 4), .int k (el l 5), .int k (el l 6), .int k (el l 7)] := by
  match l, h with
  | [a, b, c, d, e, f, g, i], _ => rfl
/-- a part of a text -/
theorem Row.mid {k : IntKind} {m : Nat} {w : World} {bl off n cap : Nat} {l : List Nat} (h : Row k m w (.slice (some ⟨bl, off, none⟩) n cap) l) {i j : Nat} (hij : i ≤ j) (hj : j ≤ l.length) :
    Row k m w (.slice (some ⟨bl, off + i, none⟩) (j - i) (cap - i)) ((l.drop i).take (j - i)) := by
  obtain ⟨a', cap', he, h1, h2, h3, h4⟩ := h
  simp at he
  obtain ⟨rfl, rfl, rfl⟩ := he
  have hlen : ((l.drop i).take (j - i)).length = j - i := by simp; omega
  refine ⟨_, _, by rw [hlen], by omega, by omega, fun hp => ?_, fun x hx => h4 x (List.mem_of_mem_drop (List.mem_of_mem_take hx))⟩
  rw [hlen] at hp
  obtain ⟨b', o', e, hc⟩ := h3 (by omega)
  simp at e
  obtain ⟨rfl, rfl⟩ := e
  refine ⟨bl, off + i, rfl, fun x hx => ?_⟩
  rw [hlen] at hx
  have c := hc (i + x) (by omega)
  rw [Nat.add_assoc, c]
  congr 2
  rw [el_at (by omega), el_at (by rw [hlen]; omega), List.getElem_take, List.getElem_drop]
theorem zero_arr {P : Program} {t : TypeId} {k : IntKind} {n : Nat} (h : (P.info? t).map (fun i => (i.zero, i.size)) = some (some (.agg (arr k (List.replicate n 0))), n)) : ∀ w, (zeroValue t).run P w = .ok (.agg (arr k (List.replicate n 0))) w := (zero_of_info h).1
theorem wpList_store_row {P : Program} {ops : Array Oper} {rest : List Oper} {o : Oper} {a : Act} {w : World} {Q : Exit → Act → World → Prop} (hgd : o.guard = none) (ty : TypeId) (x y : Operand) (ho : o.op = .store ty x y)
    (g : Nat) (cells : Array Value) (hx : a.eval x = .pointer (some ⟨g, 0, none⟩)) (hy : a.eval y = .agg cells)
    (t : TypeId) (old : Array Value) (hg : w.heap[g]? = some (.cells old t (0, 0))) (hi : (P.info? ty).map (·.size) = some cells.size)
    (hold : old.size = cells.size) (h1 : cells.all (·.oneCell') = true)
    (h : wpList P ops Q rest (a.put o.dst undef) (w.setRow g cells)) : wpList P ops Q (o :: rest) a w :=
  wpList_plain hgd fun _ hK => wp_store_row ty x y ho g cells hx hy t old hg hi hold h1 (hK _ _ h)
theorem Lies.row {k : IntKind} {t : TypeId} {w : World} {g : Nat} {l l' : List Nat} (h : Lies k t w g l) : Lies k t (w.setRow g (arr k l')) g l' := setRow_heap w g _ _ t _ h
theorem But.setRow {g : Nat} {a w : World} (h : But g a w) (c : Array Value) : But g a (w.setRow g c) :=
  h.trans ⟨rfl, rfl, rfl, by simp [World.setRow], fun k hk hn => setRow_other w g k c hn⟩
/-- the numbers l lie in block g, but for what stands at one place -/
def LiesX (k : IntKind) (t : TypeId) (w : World) (g : Nat) (l : List Nat) (T : Nat) : Prop := ∃ v, w.heap[g]? = some (.cells ((arr k l).setIfInBounds T v) t (0, 0))
theorem Lies.toX {k : IntKind} {t : TypeId} {w : World} {g : Nat} {l : List Nat} (h : Lies k t w g l) {T : Nat} (hT : T < l.length) : LiesX k t w g l T := by
  refine ⟨.int k (el l T), ?_⟩
  unfold Lies at h
  rw [h, arr_set]
  congr 3
  apply List.ext_getElem?
  intro i
  rw [List.getElem?_set]
  by_cases hi : T = i
  · subst hi; rw [if_pos rfl, if_pos hT, el_at hT, List.getElem?_eq_getElem hT]
  · rw [if_neg hi]
theorem LiesX.lt {k : IntKind} {t : TypeId} {w : World} {g : Nat} {l : List Nat} {T : Nat} (h : LiesX k t w g l T) : g < w.heap.size := by
  obtain ⟨v, h⟩ := h
  rcases Nat.lt_or_ge g w.heap.size with hlt | hge
  · exact hlt
  · rw [Array.getElem?_eq_none hge] at h; cases h
theorem LiesX.cell {k : IntKind} {t : TypeId} {w : World} {g : Nat} {l : List Nat} {T : Nat} (h : LiesX k t w g l T) {i : Nat} (hi : i < l.length) (hn : i ≠ T) : w.cell? ⟨g, i, none⟩ = some (.int k (el l i)) := by
  obtain ⟨v, h⟩ := h
  rw [cell_of_row w g i _ t (0, 0) h, Array.getElem?_setIfInBounds, if_neg (fun e => hn e.symm), arr_get k l i hi]
/-- what a cell holds -/
def rdc (w : World) (p : Addr) : Value := (w.cell? p).getD undef
theorem LiesX.here {k : IntKind} {t : TypeId} {w : World} {g : Nat} {l : List Nat} {T : Nat} (h : LiesX k t w g l T) (hT : T < l.length) : w.cell? ⟨g, T, none⟩ = some (rdc w ⟨g, T, none⟩) := by
  unfold rdc
  obtain ⟨v, h⟩ := h
  have e : w.cell? ⟨g, T, none⟩ = some v := by
    rw [cell_of_row w g T _ t (0, 0) h, Array.getElem?_setIfInBounds, if_pos rfl, if_pos (by rw [arr_size]; exact hT)]
  rw [e]; rfl
theorem LiesX.frozen {k : IntKind} {t : TypeId} {w : World} {g : Nat} {l : List Nat} {T : Nat} (h : LiesX k t w g l T) (i : Nat) : w.frozen? ⟨g, i, none⟩ = false := by
  obtain ⟨v, h⟩ := h
  simp [World.frozen?, h]
theorem LiesX.below {k : IntKind} {t : TypeId} {w w' : World} {g : Nat} {l : List Nat} {T : Nat} (h : LiesX k t w g l T) (hb : Below w.heap.size w w') : LiesX k t w' g l T := by
  have hl := h.lt
  obtain ⟨v, h⟩ := h
  exact ⟨v, (hb.block g hl).trans h⟩
theorem LiesX.set {k : IntKind} {t : TypeId} {w : World} {g : Nat} {l : List Nat} {T : Nat} (h : LiesX k t w g l T) (v : Value) : LiesX k t (w.setCell ⟨g, T, none⟩ v) g l T := by
  obtain ⟨u, h⟩ := h
  refine ⟨v, ?_⟩
  rw [setCell_eq_setRow w g T _ t (0, 0) _ h]
  have := setRow_heap w g _ (((arr k l).setIfInBounds T u).setIfInBounds T v) t _ h
  rw [this]
  simp
theorem But.cell {g : Nat} {w w' : World} {p : Addr} {v : Value} (h : w.cell? p = some v) (hb : But g w w') (hn : p.block ≠ g) : w'.cell? p = some v := by
  have hl := World.block_lt_of_cell? w _ h
  rw [World.cell?_of_block (hb.block _ hl hn)]; exact h
theorem keep_cell {w w' : World} {p : Addr} {v : Value} (h : w.cell? p = some v) (hb : Below w.heap.size w w') : w'.cell? p = some v := by
  rw [hb.cell (p := p) (World.block_lt_of_cell? w _ h)]; exact h
end Go.Proofs.YtogiballdmgcpaaGreatDoor

/- Contracts of sha.either, turned, shifted, firstBits at words of 32 bits. -/
namespace Go.Proofs.YtogiballdmgcpaaGreatDoor
open Go.RowKit
set_option linter.unusedVariables false
set_option linter.unusedSimpArgs false

theorem ones32 : bits BinOp.xor .u32 IntKind.u32.max 0 = 4294967296 - 1 := by decide
theorem sgn32 : IntKind.u32.signed = false := rfl

/-- a word turned, in the walk's spelling -/
theorem rot_is32 (x r : Nat) (hx : x < 4294967296) (hr : r < 32) : bits .or .u32 ((x : Int) / 2 ^ r) ((x : Int) * 2 ^ (32 - r) % 4294967296) = ((rot false r x : Nat) : Int) := by
  have e1 : (x : Int) / 2 ^ r = ((x / 2 ^ r : Nat) : Int) := by simp
  have e2 : ((x : Int) * 2 ^ (32 - r) % 4294967296) = ((x * 2 ^ (32 - r) % 4294967296 : Nat) : Int) := by
    simp
  rw [e1, e2, u32_or_nat _ _ (Nat.lt_of_le_of_lt (Nat.div_le_self _ _) hx) (Nat.mod_lt _ (by decide))]
  rfl
theorem xor_is32 (x y : Nat) (hx : x < 4294967296) (hy : y < 4294967296) : bits .xor .u32 (x : Int) (y : Int) = ((x ^^^ y : Nat) : Int) := u32_xor_nat x y hx hy
theorem turn_is32 (x a b c : Nat) (hx : x < 4294967296) (ha : a < 32) (hb : b < 32) (hc : c < 32) :
    bits .xor .u32 (bits .xor .u32 (bits .or .u32 ((x : Int) / 2 ^ a) ((x : Int) * 2 ^ (32 - a) % 4294967296)) (bits .or .u32 ((x : Int) / 2 ^ b) ((x : Int) * 2 ^ (32 - b) % 4294967296))) (bits .or .u32 ((x : Int) / 2 ^ c) ((x : Int) * 2 ^ (32 - c) % 4294967296)) = ((turn3 false a b c x : Nat) : Int) := by
  have r := fun r => rot_lt (b := false) hx r
  rw [rot_is32 x a hx ha, rot_is32 x b hx hb, rot_is32 x c hx hc, xor_is32 _ _ (r a) (r b), xor_is32 _ _ (xor_lt (b := false) (r a) (r b)) (r c)]
  rfl
theorem shft_is32 (x a b c : Nat) (hx : x < 4294967296) (ha : a < 32) (hb : b < 32) (hc : c < 32) :
    bits .xor .u32 (bits .xor .u32 (bits .or .u32 ((x : Int) / 2 ^ a) ((x : Int) * 2 ^ (32 - a) % 4294967296)) (bits .or .u32 ((x : Int) / 2 ^ b) ((x : Int) * 2 ^ (32 - b) % 4294967296))) ((x : Int) / 2 ^ c) = ((shft3 false a b c x : Nat) : Int) := by
  have r := fun r => rot_lt (b := false) hx r
  have e1 : (x : Int) / 2 ^ c = ((x / 2 ^ c : Nat) : Int) := by simp
  rw [rot_is32 x a hx ha, rot_is32 x b hx hb, e1, xor_is32 _ _ (r a) (r b), xor_is32 _ _ (xor_lt (b := false) (r a) (r b)) (shr_lt (b := false) hx c)]
  rfl

theorem and_is32 (x y : Nat) (hx : x < 4294967296) (hy : y < 4294967296) : bits .and .u32 (x : Int) (y : Int) = ((x &&& y : Nat) : Int) := u32_and_nat x y hx hy
theorem add_is32 (x y : Nat) : (((x : Int) + (y : Int)) % 4294967296) = (((x + y) % 4294967296 : Nat) : Int) := by
  skip
  omega
theorem not_is32 (e : Nat) (he : e < 4294967296) : bits .xor .u32 IntKind.u32.max (e : Int) = ((4294967296 - 1 - e : Nat) : Int) := by
  rw [show IntKind.u32.max = ((4294967296 - 1 : Nat) : Int) from rfl, xor_is32 _ _ (by decide) he, ← ones_xor 32 e he]
theorem chs_is32 (e f g : Nat) (he : e < 4294967296) (hf : f < 4294967296) (hg : g < 4294967296) : bits .xor .u32 (bits .and .u32 (e : Int) (f : Int)) (bits .and .u32 (bits .xor .u32 IntKind.u32.max (e : Int)) (g : Int)) = ((chs false e f g : Nat) : Int) := by
  rw [not_is32 e he, and_is32 e f he hf, and_is32 _ g (by omega) hg, xor_is32 _ _ (and_lt (b := false) he) (and_lt (b := false) (by show 4294967296 - 1 - e < 4294967296; omega))]
  rfl
theorem maj_is32 (x y z : Nat) (hx : x < 4294967296) (hy : y < 4294967296) (hz : z < 4294967296) : bits .xor .u32 (bits .xor .u32 (bits .and .u32 (x : Int) (y : Int)) (bits .and .u32 (x : Int) (z : Int))) (bits .and .u32 (y : Int) (z : Int)) = ((maj x y z : Nat) : Int) := by
  rw [and_is32 x y hx hy, and_is32 x z hx hz, and_is32 y z hy hz, xor_is32 _ _ (and_lt (b := false) hx) (and_lt (b := false) hx), xor_is32 _ _ (xor_lt (b := false) (and_lt (b := false) hx) (and_lt (b := false) hx)) (and_lt (b := false) hy)]
  rfl
theorem rnd032 (s : List Nat) (k w : Nat) : (((((el s 7 + turn3 false 6 11 25 (el s 4)) % 4294967296 + chs false (el s 4) (el s 5) (el s 6)) % 4294967296 + k) % 4294967296 + w) % 4294967296 + (turn3 false 2 13 22 (el s 0) + maj (el s 0) (el s 1) (el s 2)) % 4294967296) % 4294967296 = el (rnd false k w s) 0 := by
  show _ = (tOne false s k w + tTwo false s) % wm false
  unfold tOne tTwo
  simp only [gS0, gS1, wm, cond_true, cond_false]
  omega
theorem rnd432 (s : List Nat) (k w : Nat) : (el s 3 + ((((el s 7 + turn3 false 6 11 25 (el s 4)) % 4294967296 + chs false (el s 4) (el s 5) (el s 6)) % 4294967296 + k) % 4294967296 + w) % 4294967296) % 4294967296 = el (rnd false k w s) 4 := by
  show _ = (el s 3 + tOne false s k w) % wm false
  unfold tOne
  simp only [gS0, gS1, wm, cond_true, cond_false]
  omega

theorem either_int32 (x y : Value) (w : World) :
    Calls Tryz.prog 150 #[x, y] w fun e w' => e = .returned x ∧ w' = w := by
  have h1 := ones32
  have h2 := sgn32
  go_enter Tryz.func150, Tryz.ntmps150
  go_wp2
  go_ret
  exact ⟨rfl, rfl⟩

/-- three turns, as a value -/
def tur32 (a b c : Nat) : Value := .agg #[.int .i64 (a : Int), .int .i64 (b : Int), .int .i64 (c : Int)]

/-- three turns, boxed -/
def Tu32 (w : World) (q a b c : Nat) : Prop := w.heap[q]? = some (.cells #[.int .i64 (a : Int), .int .i64 (b : Int), .int .i64 (c : Int)] 197)
theorem Tu32.new (w : World) (a b c : Nat) : Tu32 (w.alloc (.cells #[.int .i64 (a : Int), .int .i64 (b : Int), .int .i64 (c : Int)] 197)) w.heap.size a b c := heap_alloc_last w _
theorem Tu32.below {w w' : World} {q a b c : Nat} (h : Tu32 w q a b c) (hb : Below w.heap.size w w') : Tu32 w' q a b c := by
  unfold Tu32 at *
  rcases Nat.lt_or_ge q w.heap.size with hlt | hge
  · rw [hb.block q hlt]; exact h
  · rw [Array.getElem?_eq_none hge] at h; cases h
theorem Tu32.but {w w' : World} {q g a b c : Nat} (h : Tu32 w q a b c) (hb : But g w w') (hn : q ≠ g) : Tu32 w' q a b c := by
  unfold Tu32 at *
  rcases Nat.lt_or_ge q w.heap.size with hlt | hge
  · rw [hb.block q hlt hn]; exact h
  · rw [Array.getElem?_eq_none hge] at h; cases h
theorem Tu32.cells {w : World} {q a b c : Nat} (h : Tu32 w q a b c) : w.cell? ⟨q, 0, none⟩ = some (.int .i64 (a : Int)) ∧ w.cell? ⟨q, 1, none⟩ = some (.int .i64 (b : Int)) ∧ w.cell? ⟨q, 2, none⟩ = some (.int .i64 (c : Int)) := by
  unfold Tu32 at h
  refine ⟨?_, ?_, ?_⟩ <;> rw [cell_of_row w q _ _ _ (0, 0) h] <;> rfl

theorem either_tur32 (a b c a' b' c' : Nat) (w : World) :
    Calls Tryz.prog 156 #[tur32 a b c, tur32 a' b' c'] w fun e w' => e = .returned (tur32 a b c) ∧ Below w.heap.size w w' := by
  unfold tur32
  have h1 := ones32
  have h2 := sgn32
  go_enter Tryz.func156, Tryz.ntmps156
  go_wp2
  refine bodyPost_ret (v := .agg #[.int .i64 (a : Int), .int .i64 (b : Int), .int .i64 (c : Int)]) (by simp [results, Tryz.results156, go_sem]) rfl ⟨rfl, ?_⟩
  exact (((Below.refl _ _).alloc (Nat.le_refl _) _).alloc (by simp) _).alloc (by simp; omega) _

theorem first32 (n : Nat) (w : World) (hn : n < 18446744073709551616) :
    Calls Tryz.prog 139 #[.int .u64 n] w fun e w' => e = .returned (.int .u32 (hi false n : Nat)) ∧ w' = w := by
  go_enter Tryz.func139, Tryz.ntmps139
  go_wp2_with fail
  refine (either_int32 _ _ _).mono ?_
  rintro e w1 ⟨rfl, rfl⟩
  go_wp2
  go_ret
  exact ⟨ret_int (by simp only [hi, cond_true, cond_false]; omega), rfl⟩

set_option maxHeartbeats 1000000 in
theorem turned32 (x a b c : Nat) (w : World) (hx : x < 4294967296) (ha : a < 32) (hb : b < 32) (hc : c < 32) :
    Calls Tryz.prog 157 #[.int .u32 x, tur32 a b c] w fun e w' => e = .returned (.int .u32 (turn3 false a b c x : Nat)) ∧ Below w.heap.size w w' := by
  unfold tur32
  have m1 : min a 32 = a := by omega
  have m2 : min b 32 = b := by omega
  have m3 : min c 32 = c := by omega
  go_enter Tryz.func157, Tryz.ntmps157
  go_wp2_with fail
  refine (either_int32 _ _ _).mono ?_
  rintro e w1 ⟨rfl, rfl⟩
  go_wp2
  go_quiet (fail)
  go_wp2
  go_ret
  exact ⟨ret_int (turn_is32 x a b c hx ha hb hc), bel_drewN (keep_alloc _ _) _⟩

set_option maxHeartbeats 1000000 in
theorem shifted32 (x a b c : Nat) (w : World) (hx : x < 4294967296) (ha : a < 32) (hb : b < 32) (hc : c < 32) :
    Calls Tryz.prog 158 #[.int .u32 x, tur32 a b c] w fun e w' => e = .returned (.int .u32 (shft3 false a b c x : Nat)) ∧ Below w.heap.size w w' := by
  unfold tur32
  have m1 : min a 32 = a := by omega
  have m2 : min b 32 = b := by omega
  have m3 : min c 32 = c := by omega
  go_enter Tryz.func158, Tryz.ntmps158
  go_wp2_with fail
  refine (either_int32 _ _ _).mono ?_
  rintro e w1 ⟨rfl, rfl⟩
  go_wp2
  go_quiet (fail)
  go_wp2
  go_ret
  exact ⟨ret_int (shft_is32 x a b c hx ha hb hc), bel_drewN (keep_alloc _ _) _⟩
end Go.Proofs.YtogiballdmgcpaaGreatDoor

/- Contract of sha.sum.mix at words of 32 bits. -/
namespace Go.Proofs.YtogiballdmgcpaaGreatDoor
open Go.RowKit
set_option linter.unusedVariables false
set_option linter.unusedSimpArgs false

/-- a sum's block -/
abbrev Sm32 (w : World) (g : Nat) (hs cs : List Nat) : Prop := Lies .u32 185 w g (hs ++ cs)

set_option maxHeartbeats 4000000 in
set_option maxRecDepth 100000 in
theorem mix_any32 (g : Nat) (hs cs ls : List Nat) (w : World) (hS : Sm32 w g hs cs) (h8 : hs.length = 8) (c80 : cs.length = 80) (l80 : ls.length = 80) (hhu : Under 4294967296 hs) (hcu : Under 4294967296 cs) (hlu : Under 4294967296 ls) :
    Calls Tryz.prog 152 #[.pointer (some ⟨g, 0, none⟩), .agg (arr .u32 ls)] w fun e w' => e = .returned (.tuple #[]) ∧ Sm32 w' g (addW false hs (rndN false cs ls (rn false) hs) 8) cs ∧ But g w w' := by
  go_enter Tryz.func152, Tryz.ntmps152
  go_wp2_with fail
  refine (either_tur32 2 13 22 28 34 39 _).mono ?_
  rintro e w1 ⟨rfl, hb1⟩
  unfold tur32
  go_wp2_with fail
  refine (either_tur32 6 11 25 14 18 41 _).mono ?_
  rintro e w2 ⟨rfl, hb2⟩
  unfold tur32
  have hS2 : Sm32 w2 g hs cs := (((hS.alloc _).below hb1).alloc _).below hb2
  have hL2 : Lies .u32 183 w2 w.heap.size ls := (((Lies.new .u32 183 w ls).below hb1).alloc _).below hb2
  have hA2 : Tu32 w2 w1.heap.size 2 13 22 := (Tu32.new w1 2 13 22).below hb2
  go_wp2
  have hB3 : Tu32 (w2.alloc (.cells #[.int .i64 6, .int .i64 11, .int .i64 25] 197)) w2.heap.size 6 11 25 := Tu32.new w2 6 11 25
  have hw3 := keep_trans (keep_trans (keep_trans (keep_trans (keep_alloc _ _) hb1) (keep_alloc _ _)) hb2) (keep_alloc w2 (.cells #[.int .i64 6, .int .i64 11, .int .i64 25] 197))
  have hS3 := hS2.alloc (.cells #[.int .i64 6, .int .i64 11, .int .i64 25] 197)
  have hL3 := hL2.alloc (.cells #[.int .i64 6, .int .i64 11, .int .i64 25] 197)
  have hA3 := hA2.below (keep_alloc w2 (.cells #[.int .i64 6, .int .i64 11, .int .i64 25] 197))
  clear hS2 hL2 hA2 hb1 hb2
  generalize w2.alloc (.cells #[.int .i64 6, .int .i64 11, .int .i64 25] 197) = w3 at *
  have hc := fun (i : Nat) (hi : i < 8) => hS3.cell (i := i) (by rw [List.length_append]; omega)
  have hel : ∀ i, i < 8 → el (hs ++ cs) i = el hs i := fun i hi => by unfold el; rw [List.getElem?_append_left (by omega)]
  have c0 := hc 0 (by decide)
  have c1 := hc 1 (by decide)
  have c2 := hc 2 (by decide)
  have c3 := hc 3 (by decide)
  have c4 := hc 4 (by decide)
  have c5 := hc 5 (by decide)
  have c6 := hc 6 (by decide)
  have c7 := hc 7 (by decide)
  rw [hel _ (by decide)] at c0 c1 c2 c3 c4 c5 c6 c7
  clear hc hel
  go_quiet (fail)
  go_wp2
  go_quiet (fail)
  go_wp2_with fail
  refine (either_int32 _ _ _).mono ?_
  rintro e w4 ⟨rfl, rfl⟩
  go_wp2
  go_loopw [6, 7, 8, 9, 10, 11, 12, 13, 66] (fun v0 v1 v2 v3 v4 v5 v6 v7 i wr => ∃ k : Nat, k ≤ 64 ∧ i = .int .i64 k ∧ v0 = .int .u32 (el (rndN false cs ls k hs) 0) ∧ v1 = .int .u32 (el (rndN false cs ls k hs) 1) ∧ v2 = .int .u32 (el (rndN false cs ls k hs) 2) ∧ v3 = .int .u32 (el (rndN false cs ls k hs) 3) ∧ v4 = .int .u32 (el (rndN false cs ls k hs) 4) ∧ v5 = .int .u32 (el (rndN false cs ls k hs) 5) ∧ v6 = .int .u32 (el (rndN false cs ls k hs) 6) ∧ v7 = .int .u32 (el (rndN false cs ls k hs) 7) ∧ Below w3.heap.size w3 wr) (fun _ _ _ _ _ _ _ _ i _ => 64 - (intOf i).toNat)
  case atStart => exact ⟨0, Nat.zero_le _, rfl, rfl, rfl, rfl, rfl, rfl, rfl, rfl, rfl, bel_drewN (Below.refl _ _) _⟩
  case round =>
    obtain ⟨k, hk, rfl, rfl, rfl, rfl, rfl, rfl, rfl, rfl, rfl, hbr⟩ := hrel
    clear c0 c1 c2 c3 c4 c5 c6 c7
    have hsu := rndN_under (b := false) (ks := cs) (ws := ls) hhu k
    by_cases hlt : k < 64
    · have hnx : rndN false cs ls (k + 1) hs = rnd false (el cs k) (el ls k) (rndN false cs ls k hs) := rfl
      have HNX := hide hnx
      clear hnx
      generalize rndN false cs ls k hs = s at *
      have hSr := hS3.below hbr
      have hLr := hL3.below hbr
      have hAr := hA3.below hbr
      have hBr := hB3.below hbr
      have d1 := hSr.cell (i := 8 + k) (by rw [List.length_append]; omega)
      have del : el (hs ++ cs) (8 + k) = el cs k := by unfold el; rw [List.getElem?_append_right (by omega), h8, Nat.add_sub_cancel_left]
      rw [del] at d1
      have d2 := hLr.cell (i := k) (by omega)
      obtain ⟨e0, e1, e2⟩ := hBr.cells
      obtain ⟨f0, f1, f2⟩ := hAr.cells
      have HA := hide f0
      have HA1 := hide f1
      have HA2 := hide f2
      clear f0 f1 f2 del hSr hLr hAr hBr
      have u := fun i => el_lt hsu (wm_pos false) i
      have u4 : el s 4 < 4294967296 := u 4
      have hcall := turned32 (el s 4) 6 11 25 wr.drew u4 (by decide) (by decide) (by decide)
      have ik0 : (0 : Int) ≤ (k : Int) := Int.natCast_nonneg _
      have ik1 : (k : Int) < 80 := by omega
      have ik2 : k < 80 := by omega
      go_wp2
      go_region_held3 (fun w' => w'.cell? ⟨g, 8 + k, none⟩ = some (.int .u32 (el cs k)) ∧ w'.cell? ⟨w.heap.size, k, none⟩ = some (.int .u32 (el ls k)) ∧ w'.cell? ⟨w2.heap.size, 0, none⟩ = some (.int .i64 6) ∧ w'.cell? ⟨w2.heap.size, 1, none⟩ = some (.int .i64 11) ∧ w'.cell? ⟨w2.heap.size, 2, none⟩ = some (.int .i64 25))
        (first
          | exact ⟨keep_cell (w := wr.drew) d1 hb5, keep_cell (w := wr.drew) d2 hb5, keep_cell (w := wr.drew) e0 hb5, keep_cell (w := wr.drew) e1 hb5, keep_cell (w := wr.drew) e2 hb5⟩
          | exact ⟨d1, d2, e0, e1, e2⟩)
        (first
          | (go_at_call 157; refine hcall.mono ?_; rintro e w5 ⟨rfl, hb5⟩))
      have g0 := keep_cell (w := wr.drew) HA.out hb5
      have g1 := keep_cell (w := wr.drew) HA1.out hb5
      have g2 := keep_cell (w := wr.drew) HA2.out hb5
      clear d1 d2 e0 e1 e2 hcall
      go_wp2_with fail
      refine (turned32 (el s 0) 2 13 22 w5 (u 0) (by decide) (by decide) (by decide)).mono ?_
      rintro e w6 ⟨rfl, hb6⟩
      go_wp2
      go_roundw
      case rel =>
        have u1 : el s 1 < 4294967296 := u 1
        have u2 : el s 2 < 4294967296 := u 2
        have u0 : el s 0 < 4294967296 := u 0
        have u5 : el s 5 < 4294967296 := u 5
        have u6 : el s 6 < 4294967296 := u 6
        rw [chs_is32 _ _ _ u4 u5 u6, maj_is32 _ _ _ u0 u1 u2]
        repeat rw [add_is32]
        rw [rnd032, rnd432]
        refine ⟨k + 1, by omega, by go_num, ?_, ?_, ?_, ?_, ?_, ?_, ?_, ?_, keep_trans hbr (keep_trans (un_drew hb5) hb6)⟩ <;> rw [HNX.out] <;> rfl
      case measure => simp [intOf]; omega
    · obtain rfl : k = 64 := by omega
      have h8s : (rndN false cs ls 64 hs).length = 8 := rndN_length h8 _
      have hSr := hS3.below hbr
      generalize hR : rndN false cs ls 64 hs = s at *
      have HR : Hid (rndN false cs ls (rn false) hs = s) := hR
      clear hR
      have hlen : (hs ++ cs).length = 88 := by rw [List.length_append]; omega
      go_wp2
      go_loopw [131] (fun i wr' => ∃ j : Nat, j ≤ 8 ∧ i = .int .i64 j ∧ Lies .u32 185 wr' g (addW false hs s j ++ hs.drop j ++ cs) ∧ But g w wr') (fun i _ => 8 - (intOf i).toNat)
      case atStart => exact ⟨0, Nat.zero_le _, rfl, hSr, But.of_below (keep_trans hw3 hbr)⟩
      case round =>
        obtain ⟨j, hj, rfl, hSj, hbj⟩ := hrel
        by_cases hlt : j < 8
        · have hix : ∀ w : World, (Instr.index 164 (.agg #[.int .u32 (el s 0), .int .u32 (el s 1), .int .u32 (el s 2), .int .u32 (el s 3), .int .u32 (el s 4), .int .u32 (el s 5), .int .u32 (el s 6), .int .u32 (el s 7)]) (.int .i64 (j : Int))).run Tryz.prog w = .ok (.int .u32 (el s j)) w := fun w => by
            rw [← arr8 .u32 s h8s]; exact index_arr _ 52 8 .u32 s (by kernel_rfl) (by kernel_rfl) (by kernel_rfl) h8s j hlt w
          have c1 := hSj.cell (i := j) (by rw [List.length_append, List.length_append, addW_length, List.length_drop]; omega)
          rw [addTo_get false hs s cs j (by omega)] at c1
          have f1 := hSj.frozen j
          have hst := hSj.set j ((el hs j + el s j) % 4294967296)
          have hse := addTo_set false hs s cs j (by omega)
          have hst' : Lies .u32 185 (wr.setCell ⟨g, j, none⟩ (.int .u32 (((el hs j + el s j) % 4294967296 : Nat) : Int))) g (addW false hs s (j + 1) ++ hs.drop (j + 1) ++ cs) := by rw [← hse]; exact hst
          have HST := hide hst'
          clear hst hse hst'
          have ij0 : (0 : Int) ≤ (j : Int) := Int.natCast_nonneg _
          have ij1 : (j : Int) < 8 := by omega
          go_wp2
          go_region
          go_wp2
          rw [add_is32]
          exact ⟨⟨j + 1, by omega, by go_num, HST.out, (hbj.setCell j _).drew⟩, by simp [intOf]; omega⟩
        · obtain rfl : j = 8 := by omega
          rw [List.drop_of_length_le (by omega), List.append_nil] at hSj
          go_wp2
          go_end0
          exact ⟨rfl, by rw [HR.out]; exact hSj, hbj⟩
end Go.Proofs.YtogiballdmgcpaaGreatDoor
