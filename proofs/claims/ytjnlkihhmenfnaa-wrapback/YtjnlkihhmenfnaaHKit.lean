/- Small words for walks over blocks of many cells. -/
import Derived.Test.YtjnlkihhmenfnaaTex
import Derived.Deep.WholeRow
import Derived.Deep.MidRow
import Derived.Deep.RegionHeld3
import Derived.Lib.SlBuf
import Derived.Lib.MakeNoZero
import Derived.Deep.RegionLaw
namespace Go.Proofs.Ytjnlkihhmenfnaa
open Go.RowKit
set_option linter.unusedVariables false
set_option linter.unusedSimpArgs false

theorem bel_drewN {B : Nat} {a w : World} (h : Below B a w) (n : Nat) : Below B a (w.drewN n) := h.trans ⟨rfl, rfl, rfl, Nat.le_refl _, fun _ _ => rfl⟩

theorem un_drew {w w' : World} (h : Below w.drew.heap.size w.drew w') : Below w.heap.size w w' := ⟨h.os, h.tape, h.output, h.size, h.block⟩
theorem un_drewN {n : Nat} {w w' : World} (h : Below (w.drewN n).heap.size (w.drewN n) w') : Below w.heap.size w w' := ⟨h.os, h.tape, h.output, h.size, h.block⟩
/-- an array's cells -/
def arr (k : IntKind) (l : List Nat) : Array Value := (vals k l).toArray
theorem arr_size (k : IntKind) (l : List Nat) : (arr k l).size = l.length := by simp [arr, vals]
theorem arr_get (k : IntKind) (l : List Nat) (i : Nat) (h : i < l.length) : (arr k l)[i]? = some (.int k (el l i)) := by
  unfold arr; rw [List.getElem?_toArray]; exact vals_get k l i h
theorem arr_one (k : IntKind) (l : List Nat) : (arr k l).all (·.oneCell') = true := all_oneCell_toArray (vals_one k l)

/-- all blocks but one are as they were -/
structure But (g : Nat) (w w' : World) : Prop where
  os : w'.os = w.os
  tape : w'.tape = w.tape
  output : w'.output = w.output
  size : w.heap.size ≤ w'.heap.size
  block : ∀ k, k < w.heap.size → k ≠ g → w'.heap[k]? = w.heap[k]?
theorem But.refl (g : Nat) (w : World) : But g w w := ⟨rfl, rfl, rfl, Nat.le_refl _, fun _ _ _ => rfl⟩
theorem But.trans {g : Nat} {a b c : World} (h : But g a b) (k : But g b c) : But g a c :=
  ⟨k.os.trans h.os, k.tape.trans h.tape, k.output.trans h.output, Nat.le_trans h.size k.size, fun i hi hn => (k.block i (Nat.lt_of_lt_of_le hi h.size) hn).trans (h.block i hi hn)⟩
theorem But.of_below {g : Nat} {w w' : World} (h : Below w.heap.size w w') : But g w w' := ⟨h.os, h.tape, h.output, h.size, fun k hk _ => h.block k hk⟩
theorem But.below {g B : Nat} {w w' : World} (h : But g w w') (hg : B ≤ g) (hB : B ≤ w.heap.size) : Below B w w' := ⟨h.os, h.tape, h.output, h.size, fun k hk => h.block k (by omega) (by omega)⟩
theorem But.setCell {g : Nat} {a w : World} (h : But g a w) (i : Nat) (u : Value) : But g a (w.setCell ⟨g, i, none⟩ u) :=
  h.trans ⟨rfl, rfl, rfl, by simp [World.setCell], fun k hk hn => heap_setCell_other _ _ _ _ (by show k ≠ g; exact hn)⟩
theorem But.alloc {g : Nat} {a w : World} (h : But g a w) (o : Obj) : But g a (w.alloc o) := h.trans (But.of_below (keep_alloc w o))
theorem But.drew {g : Nat} {a w : World} (h : But g a w) : But g a w.drew := h.trans ⟨rfl, rfl, rfl, Nat.le_refl _, fun _ _ _ => rfl⟩
theorem But.drewN {g : Nat} {a w : World} (h : But g a w) (n : Nat) : But g a (w.drewN n) := h.trans ⟨rfl, rfl, rfl, Nat.le_refl _, fun _ _ _ => rfl⟩

/-- the numbers l lie in block g, which has no other cell -/
def Lies (k : IntKind) (t : TypeId) (w : World) (g : Nat) (l : List Nat) : Prop := w.heap[g]? = some (.cells (arr k l) t (0, 0))
theorem Lies.lt {k : IntKind} {t : TypeId} {w : World} {g : Nat} {l : List Nat} (h : Lies k t w g l) : g < w.heap.size := by
  unfold Lies at h
  rcases Nat.lt_or_ge g w.heap.size with hlt | hge
  · exact hlt
  · rw [Array.getElem?_eq_none hge] at h; cases h
theorem Lies.cell {k : IntKind} {t : TypeId} {w : World} {g : Nat} {l : List Nat} (h : Lies k t w g l) {i : Nat} (hi : i < l.length) : w.cell? ⟨g, i, none⟩ = some (.int k (el l i)) := by
  rw [cell_of_row w g i _ t (0, 0) h, arr_get k l i hi]
theorem Lies.frozen {k : IntKind} {t : TypeId} {w : World} {g : Nat} {l : List Nat} (h : Lies k t w g l) (i : Nat) : w.frozen? ⟨g, i, none⟩ = false := by
  have h' : w.heap[g]? = some (.cells (arr k l) t (0, 0)) := h
  simp [World.frozen?, h']
theorem Lies.new (k : IntKind) (t : TypeId) (w : World) (l : List Nat) : Lies k t (w.alloc (.cells (arr k l) t)) w.heap.size l := heap_alloc_last w _
theorem Lies.below {k : IntKind} {t : TypeId} {w w' : World} {g : Nat} {l : List Nat} (h : Lies k t w g l) (hb : Below w.heap.size w w') : Lies k t w' g l := (hb.block g h.lt).trans h
theorem Lies.but {k : IntKind} {t : TypeId} {w w' : World} {g q : Nat} {l : List Nat} (h : Lies k t w g l) (hb : But q w w') (hn : g ≠ q) : Lies k t w' g l := (hb.block g h.lt hn).trans h
theorem Lies.drewN {k : IntKind} {t : TypeId} {w : World} {g : Nat} {l : List Nat} (h : Lies k t w g l) (n : Nat) : Lies k t (w.drewN n) g l := h
theorem Lies.alloc {k : IntKind} {t : TypeId} {w : World} {g : Nat} {l : List Nat} (h : Lies k t w g l) (o : Obj) : Lies k t (w.alloc o) g l := h.below (keep_alloc w o)
theorem arr_set (k : IntKind) (l : List Nat) (i x : Nat) : (arr k l).setIfInBounds i (.int k (x : Int)) = arr k (l.set i x) := by
  unfold arr; rw [← vals_set]; simp
theorem Lies.set {k : IntKind} {t : TypeId} {w : World} {g : Nat} {l : List Nat} (h : Lies k t w g l) (i x : Nat) : Lies k t (w.setCell ⟨g, i, none⟩ (.int k (x : Int))) g (l.set i x) := by
  unfold Lies
  rw [setCell_eq_setRow w g i _ t (0, 0) _ h, arr_set]
  exact setRow_heap w g _ _ t _ h
theorem Lies.load {k : IntKind} {t : TypeId} {w : World} {g : Nat} {l : List Nat} (h : Lies k t w g l) {P : Program} (ty : TypeId) (d : TypeDesc) (hu : P.underlying ty = some d) (hd : d.isRow = true) (hi : (P.info? ty).map (·.size) = some l.length) :
    (Instr.loadAt ty (.pointer (some ⟨g, 0, none⟩))).run P w = .ok (.agg (arr k l)) w :=
  run_loadAt_mid w g 0 ty (vals k l) d (fun j v hv => by
    have hj : j < l.length := by have := (List.getElem?_eq_some_iff.1 hv).1; rwa [vals_length] at this
    rw [Nat.zero_add, h.cell hj, ← vals_get k l j hj]; exact hv) hu hd (by rw [vals_length]; exact hi)
/-- an array's element -/
theorem index_arr {P : Program} (t e : TypeId) (n : Nat) (k : IntKind) (l : List Nat) (hu : P.underlying t = some (.array n e)) (he : P.underlying e = some (.int k)) (hs : (P.info? e).map (·.size) = some 1) (hn : l.length = n) (i : Nat) (hi : i < n) (w : World) :
    (Instr.index t (.agg (arr k l)) (.int .i64 (i : Int))).run P w = .ok (.int k (el l i)) w := by
  cases hq : P.info? e with
  | none => simp [hq] at hs
  | some x =>
    have hx : x.size = 1 := by simpa [hq] using hs
    have ha := arr_get k l i (by omega)
    have hagg : (isAgg e).run P w = .ok false w := by
      unfold isAgg
      rw [Sem.run_bind, run_underlying he w]; rfl
    simp [Instr.index, asIntOf, Sem.run_bind, run_underlying hu w, sizeOf, typeInfo, hq, hx, part, hagg, ha, show (i : Int) < (n : Int) by omega]
    intro hh; omega
theorem arr8 (k : IntKind) (l : List Nat) (h : l.length = 8) : arr k l = #[.int k (el l 0), .int k (el l 1), .int k (el l 2), .int k (el l 3), .int k (el l 4), .int k (el l 5), .int k (el l 6), .int k (el l 7)] := by
  match l, h with
  | [a, b, c, d, e, f, g, i], _ => rfl
/-- a part of a text -/
theorem Row.mid {k : IntKind} {m : Nat} {w : World} {bl off n cap : Nat} {l : List Nat} (h : Row k m w (.slice (some ⟨bl, off, none⟩) n cap) l) {i j : Nat} (hij : i ≤ j) (hj : j ≤ l.length) :
    Row k m w (.slice (some ⟨bl, off + i, none⟩) (j - i) (cap - i)) ((l.drop i).take (j - i)) := by
  obtain ⟨a', cap', he, h1, h2, h3, h4⟩ := h
  simp at he
  obtain ⟨rfl, rfl, rfl⟩ := he
  have hlen : ((l.drop i).take (j - i)).length = j - i := by simp; omega
  refine ⟨_, _, by rw [hlen], by omega, by omega, fun hp => ?_, fun x hx => h4 x (List.mem_of_mem_drop (List.mem_of_mem_take hx))⟩
  rw [hlen] at hp
  obtain ⟨b', o', e, hc⟩ := h3 (by omega)
  simp at e
  obtain ⟨rfl, rfl⟩ := e
  refine ⟨bl, off + i, rfl, fun x hx => ?_⟩
  rw [hlen] at hx
  have c := hc (i + x) (by omega)
  rw [Nat.add_assoc, c]
  congr 2
  rw [el_at (by omega), el_at (by rw [hlen]; omega), List.getElem_take, List.getElem_drop]
theorem zero_arr {P : Program} {t : TypeId} {k : IntKind} {n : Nat} (h : (P.info? t).map (fun i => (i.zero, i.size)) = some (some (.agg (arr k (List.replicate n 0))), n)) : ∀ w, (zeroValue t).run P w = .ok (.agg (arr k (List.replicate n 0))) w := (zero_of_info h).1
theorem wpList_store_row {P : Program} {ops : Array Oper} {rest : List Oper} {o : Oper} {a : Act} {w : World} {Q : Exit → Act → World → Prop} (hgd : o.guard = none) (ty : TypeId) (x y : Operand) (ho : o.op = .store ty x y)
    (g : Nat) (cells : Array Value) (hx : a.eval x = .pointer (some ⟨g, 0, none⟩)) (hy : a.eval y = .agg cells)
    (t : TypeId) (old : Array Value) (hg : w.heap[g]? = some (.cells old t (0, 0))) (hi : (P.info? ty).map (·.size) = some cells.size)
    (hold : old.size = cells.size) (h1 : cells.all (·.oneCell') = true)
    (h : wpList P ops Q rest (a.put o.dst undef) (w.setRow g cells)) : wpList P ops Q (o :: rest) a w :=
  wpList_plain hgd fun _ hK => wp_store_row ty x y ho g cells hx hy t old hg hi hold h1 (hK _ _ h)
theorem Lies.row {k : IntKind} {t : TypeId} {w : World} {g : Nat} {l l' : List Nat} (h : Lies k t w g l) : Lies k t (w.setRow g (arr k l')) g l' := setRow_heap w g _ _ t _ h
theorem But.setRow {g : Nat} {a w : World} (h : But g a w) (c : Array Value) : But g a (w.setRow g c) :=
  h.trans ⟨rfl, rfl, rfl, by simp [World.setRow], fun k hk hn => setRow_other w g k c hn⟩
/-- the numbers l lie in block g, but for what stands at one place -/
def LiesX (k : IntKind) (t : TypeId) (w : World) (g : Nat) (l : List Nat) (T : Nat) : Prop := ∃ v, w.heap[g]? = some (.cells ((arr k l).setIfInBounds T v) t (0, 0))
theorem Lies.toX {k : IntKind} {t : TypeId} {w : World} {g : Nat} {l : List Nat} (h : Lies k t w g l) {T : Nat} (hT : T < l.length) : LiesX k t w g l T := by
  refine ⟨.int k (el l T), ?_⟩
  unfold Lies at h
  rw [h, arr_set]
  congr 3
  apply List.ext_getElem?
  intro i
  rw [List.getElem?_set]
  by_cases hi : T = i
  · subst hi; rw [if_pos rfl, if_pos hT, el_at hT, List.getElem?_eq_getElem hT]
  · rw [if_neg hi]
theorem LiesX.lt {k : IntKind} {t : TypeId} {w : World} {g : Nat} {l : List Nat} {T : Nat} (h : LiesX k t w g l T) : g < w.heap.size := by
  obtain ⟨v, h⟩ := h
  rcases Nat.lt_or_ge g w.heap.size with hlt | hge
  · exact hlt
  · rw [Array.getElem?_eq_none hge] at h; cases h
theorem LiesX.cell {k : IntKind} {t : TypeId} {w : World} {g : Nat} {l : List Nat} {T : Nat} (h : LiesX k t w g l T) {i : Nat} (hi : i < l.length) (hn : i ≠ T) : w.cell? ⟨g, i, none⟩ = some (.int k (el l i)) := by
  obtain ⟨v, h⟩ := h
  rw [cell_of_row w g i _ t (0, 0) h, Array.getElem?_setIfInBounds, if_neg (fun e => hn e.symm), arr_get k l i hi]
/-- what a cell holds -/
def rdc (w : World) (p : Addr) : Value := (w.cell? p).getD undef
theorem LiesX.here {k : IntKind} {t : TypeId} {w : World} {g : Nat} {l : List Nat} {T : Nat} (h : LiesX k t w g l T) (hT : T < l.length) : w.cell? ⟨g, T, none⟩ = some (rdc w ⟨g, T, none⟩) := by
  unfold rdc
  obtain ⟨v, h⟩ := h
  have e : w.cell? ⟨g, T, none⟩ = some v := by
    rw [cell_of_row w g T _ t (0, 0) h, Array.getElem?_setIfInBounds, if_pos rfl, if_pos (by rw [arr_size]; exact hT)]
  rw [e]; rfl
theorem LiesX.frozen {k : IntKind} {t : TypeId} {w : World} {g : Nat} {l : List Nat} {T : Nat} (h : LiesX k t w g l T) (i : Nat) : w.frozen? ⟨g, i, none⟩ = false := by
  obtain ⟨v, h⟩ := h
  simp [World.frozen?, h]
theorem LiesX.below {k : IntKind} {t : TypeId} {w w' : World} {g : Nat} {l : List Nat} {T : Nat} (h : LiesX k t w g l T) (hb : Below w.heap.size w w') : LiesX k t w' g l T := by
  have hl := h.lt
  obtain ⟨v, h⟩ := h
  exact ⟨v, (hb.block g hl).trans h⟩
theorem LiesX.set {k : IntKind} {t : TypeId} {w : World} {g : Nat} {l : List Nat} {T : Nat} (h : LiesX k t w g l T) (v : Value) : LiesX k t (w.setCell ⟨g, T, none⟩ v) g l T := by
  obtain ⟨u, h⟩ := h
  refine ⟨v, ?_⟩
  rw [setCell_eq_setRow w g T _ t (0, 0) _ h]
  have := setRow_heap w g _ (((arr k l).setIfInBounds T u).setIfInBounds T v) t _ h
  rw [this]
  simp
theorem But.cell {g : Nat} {w w' : World} {p : Addr} {v : Value} (h : w.cell? p = some v) (hb : But g w w') (hn : p.block ≠ g) : w'.cell? p = some v := by
  have hl := World.block_lt_of_cell? w _ h
  rw [World.cell?_of_block (hb.block _ hl hn)]; exact h
theorem keep_cell {w w' : World} {p : Addr} {v : Value} (h : w.cell? p = some v) (hb : Below w.heap.size w w') : w'.cell? p = some v := by
  rw [hb.cell (p := p) (World.block_lt_of_cell? w _ h)]; exact h
end Go.Proofs.Ytjnlkihhmenfnaa

/- More words for blocks: rows beside a block, results that are arrays. -/
namespace Go.Proofs.Ytjnlkihhmenfnaa
open Go.RowKit
set_option linter.unusedVariables false
set_option linter.unusedSimpArgs false

/-- a row that does not lie in block g -/
def Away (g : Nat) (v : Value) (l : List Nat) : Prop := 0 < l.length → ∀ q, v.ownBlock = some q → q ≠ g
theorem Row.old {k : IntKind} {m : Nat} {w : World} {v : Value} {l : List Nat} (h : Row k m w v l) (hl : 0 < l.length) {q : Nat} (hq : v.ownBlock = some q) : q < w.heap.size := by
  obtain ⟨a, cap, rfl, h1, h2, h3, h4⟩ := h
  obtain ⟨b, off, rfl, hc⟩ := h3 hl
  have e : b = q := by simpa [Value.ownBlock] using hq
  subst e
  exact World.block_lt_of_cell? w _ (hc 0 hl)
theorem Row.away {k : IntKind} {m : Nat} {w : World} {v : Value} {l : List Nat} (h : Row k m w v l) {g : Nat} (hg : w.heap.size ≤ g) : Away g v l := fun hl q hq => by
  have := h.old hl hq
  omega
theorem Row.but {k : IntKind} {m : Nat} {w w' : World} {v : Value} {l : List Nat} {g : Nat} (h : Row k m w v l) (ha : Away g v l) (hb : But g w w') : Row k m w' v l := by
  obtain ⟨a, cap, rfl, h1, h2, h3, h4⟩ := h
  refine ⟨a, cap, rfl, h1, h2, fun hl => ?_, h4⟩
  obtain ⟨b, off, rfl, hc⟩ := h3 hl
  refine ⟨b, off, rfl, fun i hi => ?_⟩
  exact But.cell (hc i hi) hb (ha hl b (by simp [Value.ownBlock]))
theorem Own.away {e : TypeId} {k : IntKind} {m : Nat} {w : World} {B g : Nat} {v : Value} {l : List Nat} (h : Own e k m w B v l) (hg : g < B) : Away g v l := fun _ q hq => by
  have := (h.1.lt q hq).1
  omega
/-- a text without its first bytes -/
theorem Row.rest {k : IntKind} {m : Nat} {w : World} {b off n cap : Nat} {l : List Nat} (h : Row k m w (.slice (some ⟨b, off, none⟩) n cap) l) {i : Nat} (hi : i ≤ n) (A : Option Addr) (hA : A = some ⟨b, off, none⟩ ∧ cap = i ∨ A = some ⟨b, off + i, none⟩) :
    Row k m w (.slice A (n - i) (cap - i)) (l.drop i) := by
  obtain ⟨a', cap', he, h1, h2, h3, h4⟩ := h
  simp at he
  obtain ⟨rfl, rfl, rfl⟩ := he
  refine ⟨A, _, by rw [List.length_drop], by rw [List.length_drop]; omega, by omega, fun hp => ?_, fun x hx => h4 x (List.mem_of_mem_drop hx)⟩
  rw [List.length_drop] at hp
  rcases hA with ⟨_, hc⟩ | rfl
  · omega
  · obtain ⟨b', o', e, hc⟩ := h3 (by omega)
    simp at e
    obtain ⟨rfl, rfl⟩ := e
    refine ⟨b, off + i, rfl, fun x hx => ?_⟩
    rw [List.length_drop] at hx
    rw [el_drop, Nat.add_assoc]
    exact hc (i + x) (by omega)
/-- how long a slice is -/
def slen : Value → Nat
  | .slice _ n _ => n
  | _ => 0
theorem rndN_congr {b : Bool} {ks ws ws' s : List Nat} : ∀ n, (∀ i, i < n → el ws i = el ws' i) → rndN b ks ws n s = rndN b ks ws' n s
  | 0, _ => rfl
  | n + 1, h => by simp only [rndN]; rw [rndN_congr n (fun i hi => h i (by omega)), h n (by omega)]
theorem comp_pad {b : Bool} (h l : List Nat) : addW b h (rndN b (ks b) (pad 80 (sched b l (rn b - 16))) (rn b) h) 8 = comp b h l := by
  unfold comp
  rw [rndN_congr (ws' := sched b l (rn b - 16)) (rn b) (fun i hi => pad_el (by rw [sched_length]; cases b <;> simp [rn] at hi ⊢ <;> omega))]
end Go.Proofs.Ytjnlkihhmenfnaa

/- A value whose block is not older than a bound. -/
namespace Go.Proofs.Ytjnlkihhmenfnaa
open Go.RowKit
set_option linter.unusedVariables false
def New (B : Nat) (v : Value) : Prop := ∀ q, v.ownBlock = some q → B ≤ q
theorem New.at {B g n c o : Nat} (h : B ≤ g) : New B (.slice (some ⟨g, o, none⟩) n c) := fun q hq => by
  have : g = q := by simpa [Value.ownBlock] using hq
  omega
theorem New.nil (B n c : Nat) : New B (.slice none n c) := fun q hq => by simp [Value.ownBlock] at hq
theorem New.mono {B B' : Nat} {v : Value} (h : New B v) (hB : B' ≤ B) : New B' v := fun q hq => Nat.le_trans hB (h q hq)
theorem Own.new {e : TypeId} {k : IntKind} {m : Nat} {w : World} {B : Nat} {v : Value} {l : List Nat} (h : Own e k m w B v l) : New B v := fun q hq => (h.1.lt q hq).1
end Go.Proofs.Ytjnlkihhmenfnaa

/- bytes.Repeat of one byte. -/
namespace Go.Proofs.Ytjnlkihhmenfnaa
open Go.RowKit
set_option linter.unusedVariables false
set_option linter.unusedSimpArgs false

/-- copy, as one step of a region that draws -/
theorem step_copy_run {P : Program} {ops : Array Oper} {o : Oper} {a : Act} {w : World} {K : Act → World → Prop} {Q : Exit → Act → World → Prop} {E : Prop} (hg : o.guard = none) (d s : Operand) (t t' : TypeId)
    (ho : o.op = .call { callee := .builtin .copy, args := #[d, s], argTypes := #[t, t'] }) (v u : Value) (hd : a.eval d = v) (hs : a.eval s = u) {v' : Value} {w' : World}
    (hr : (Builtin.copy_ #[t, t'] o.type #[v, u]).run P w = .ok v' w') (hK : K (a.put o.dst v') w') : if Region.wanted o (yielded ops a.tmps) = true then Oper.wp P o a w K Q else E := by
  have hw : Region.wanted o (yielded ops a.tmps) = true := by simp [Region.wanted, hg]
  rw [if_pos hw]
  exact Lib.wp_copy_run w d s t t' ho v u hd hs hr hK
/-- a buffer of N bytes in block h, of which the first k are x -/
structure Rep (w0 wr : World) (h N x k : Nat) : Prop where
  below : Below h w0 wr
  there : ∀ j, j < N → (wr.cell? ⟨h, j, none⟩).isSome = true
  free : ∀ j, j < N → wr.frozen? ⟨h, j, none⟩ = false
  holds : ∀ j, j < k → wr.cell? ⟨h, j, none⟩ = some (.int .u8 (x : Int))
  fits : k ≤ N
def xs8 (m x : Nat) : List Value := List.replicate m (Value.int .u8 (x : Int))
theorem xs8_length (m x : Nat) : (xs8 m x).length = m := by simp [xs8]
theorem xs8_one (m x : Nat) : ∀ u ∈ xs8 m x, u.oneCell' = true := fun u hu => by rw [List.eq_of_mem_replicate hu]; rfl
theorem xs8_get {m x j : Nat} {u : Value} (h : (xs8 m x)[j]? = some u) : j < m ∧ u = .int .u8 (x : Int) := by
  unfold xs8 at h
  rw [List.getElem?_replicate] at h
  split at h
  · exact ⟨by assumption, (Option.some.inj h).symm⟩
  · cases h
theorem Rep.drewN {w0 wr : World} {h N x k : Nat} (hr : Rep w0 wr h N x k) (q : Nat) : Rep w0 (wr.drewN q) h N x k :=
  ⟨below_drewN hr.below q, fun j hj => by rw [World.cell?_drewN]; exact hr.there j hj, fun j hj => by rw [World.frozen?_drewN]; exact hr.free j hj, fun j hj => by rw [World.cell?_drewN]; exact hr.holds j hj, hr.fits⟩
theorem Rep.more {w0 wr : World} {h N x k : Nat} (hr : Rep w0 wr h N x k) {m : Nat} (hm : k + m ≤ N) : Rep w0 (wr.setCells h k (xs8 m x)) h N x (k + m) := by
  have hin := World.cell?_setCells_in h (xs8 m x) k wr (fun j hj => by rw [xs8_length] at hj; exact hr.there _ (by omega))
  have hout := World.cell?_setCells_out h (xs8 m x) k wr
  refine ⟨Lib.below_setCells h (Nat.le_refl _) _ _ hr.below, ?_, fun j hj => by rw [World.frozen?_setCells]; exact hr.free j hj, ?_, hm⟩
  · intro j hj
    by_cases h1 : k ≤ j ∧ j < k + m
    · obtain ⟨d, rfl⟩ : ∃ d, j = k + d := ⟨j - k, by omega⟩
      rw [hin d (by rw [xs8_length]; omega)]
      rfl
    · rw [hout ⟨h, j, none⟩ (fun _ _ => by rw [xs8_length]; show j < _ ∨ _ ≤ j; omega)]
      exact hr.there j hj
  · intro j hj
    by_cases h1 : k ≤ j
    · obtain ⟨d, rfl⟩ : ∃ d, j = k + d := ⟨j - k, by omega⟩
      rw [hin d (by rw [xs8_length]; omega)]
      simp [xs8]
    · rw [hout ⟨h, j, none⟩ (fun _ _ => Or.inl (by show j < k; omega))]
      exact hr.holds j (by omega)
/-- the buffer's beginning, laid behind what is filled -/
theorem Rep.copy {P : Program} {w0 wr : World} {h N x k : Nat} (hr : Rep w0 wr h N x k) (hk : 0 < k) (hlt : k < N) (t ty e : TypeId) (hu : P.underlying t = some (.slice e)) (hs : (P.info? e).map (·.size) = some 1) :
    (Builtin.copy_ #[t, t] ty #[Lib.tailV h N k, .slice (some ⟨h, 0, none⟩) k N]).run P wr = .ok (.int .i64 ((min k (N - k) : Nat) : Int)) (wr.setCells h k (xs8 (min k (N - k)) x)) := by
  have := run_copy_cells (P := P) wr t t ty e h k (N - k) (N - k) ⟨h, 0, none⟩ k N (xs8 (min k (N - k)) x) hu hs (by rw [xs8_length])
    (fun j u hj => by
      obtain ⟨h1, rfl⟩ := xs8_get hj
      rw [Addr.add_lit, Nat.zero_add]
      exact hr.holds j (by omega))
    (fun j hj => by rw [xs8_length] at hj; exact hr.there _ (by omega)) (fun j hj => by rw [xs8_length] at hj; exact hr.free _ (by omega)) (xs8_one _ _)
  rw [xs8_length] at this
  unfold Lib.tailV
  rw [if_neg (by omega)]
  exact this
theorem Rep.row {w0 wr : World} {N x : Nat} (hr : Rep w0 wr w0.heap.size N x N) (hx : x < 256) (hN : N ≤ maxLen) : Row .u8 256 wr (.slice (some ⟨w0.heap.size, 0, none⟩) N N) (List.replicate N x) := by
  have hl : (List.replicate N x).length = N := List.length_replicate
  refine ⟨_, N, by rw [hl], by rw [hl]; exact Nat.le_refl _, hN, fun _ => ⟨_, 0, rfl, fun i hi => ?_⟩, fun y hy => by rw [List.eq_of_mem_replicate hy]; exact hx⟩
  rw [hl] at hi
  rw [Nat.zero_add, hr.holds i hi, el_at (by rw [hl]; exact hi), List.getElem_replicate]

set_option maxHeartbeats 4000000 in
set_option maxRecDepth 100000 in
theorem rep_of (va : Value) (N x : Nat) (w : World) (ha : Row .u8 256 w va [x]) (hN0 : 0 < N) (hN : N ≤ 1000)
    (hmul : ∀ y, Calls Try.prog 48 #[.int .u64 1, .int .u64 (N : Int)] y fun e y' => e = .returned (.tuple #[.int .u64 0, .int .u64 (N : Int)]) ∧ y' = y) :
    Calls Try.prog 27 #[va, .int .i64 (N : Int)] w fun e w' => ∃ v, e = .returned v ∧ Row .u8 256 w' v (List.replicate N x) ∧ New w.heap.size v ∧ Below w.heap.size w w' := by
  have hx := ha.under x (by simp)
  obtain ⟨a, ca, rfl, ha1, ha2, ha3, _⟩ := ha
  obtain ⟨b, off, rfl, hc⟩ := ha3 (by simp)
  have c0 := hc 0 (by simp)
  have el0 : el [x] 0 = x := rfl
  rw [el0] at c0
  rw [List.length_singleton]
  rw [List.length_singleton] at ha1
  have hs5 : (Try.prog.info? 5).map (·.size) = some 1 := by
    obtain ⟨i0, hi, hz0, hz1, hz2⟩ := info_parts Try.info5
    rw [hi]; simp [hz1]
  have n0 : ((N : Int) == 0) = false := by rw [beq_eq_false_iff_ne]; omega
  have n1 : ¬ (N : Int) < 0 := by omega
  have n2 : ¬ (9223372036854775807 : Int) < (N : Int) := by omega
  have n3 : ¬ (8192 : Int) < (N : Int) := by omega
  have s_N : IntKind.i64.wrap (N : Int) = (N : Int) := by rw [IntKind.wrap_i64]; omega
  have u_N : IntKind.u64.wrap (N : Int) = (N : Int) := by rw [IntKind.wrap_u64]; omega
  obtain ⟨cs, hrunM, hle, _⟩ := Lib.run_makeNoZero (P := Try.prog) w #[3] 22 5 Try.underlying22 N (by omega)
  have hcall : (callFunc 49 #[.int .i64 (N : Int)]).run Try.prog w = .ok (.value (.slice (some ⟨w.heap.size, 0, none⟩) N cs.size)) ((w.alloc (.cells cs 5)).drewN 2) := by
    rw [run_callFunc_extern Try.func49 (by kernel_rfl) (by kernel_rfl) (by kernel_rfl) (e := Extern.BytealgMakeNoZero.makeNoZero #[3] #[22]) (by kernel_rfl), hrunM]
    rfl
  clear hrunM
  have i0 : (0 : Int) ≤ (N : Int) := by omega
  have i1 : (N : Int) ≤ (cs.size : Int) := by omega
  have B0 := Lib.Buf.start w cs 5 N 2 hle
  have R0 : Rep w ((w.alloc (.cells cs 5)).drewN 2) w.heap.size N x 0 := ⟨B0.below, B0.there, B0.free, fun j hj => by omega, Nat.zero_le _⟩
  have R1 := R0.more (m := 1) (by omega)
  have hr1 := run_copy_cells (P := Try.prog) ((w.alloc (.cells cs 5)).drewN 2) 22 22 3 5 w.heap.size 0 N N ⟨b, off, none⟩ 1 ca (xs8 1 x) Try.underlying22 hs5 (by rw [xs8_length]; exact (Nat.min_eq_left (by omega)).symm)
    (fun j u hj => by
      obtain ⟨h1, rfl⟩ := xs8_get hj
      obtain rfl : j = 0 := by omega
      exact Lib.Below.cellOf R0.below c0 (Nat.le_refl _))
    (fun j hj => by rw [xs8_length] at hj; exact R0.there _ (by omega)) (fun j hj => by rw [xs8_length] at hj; exact R0.free _ (by omega)) (xs8_one _ _)
  rw [xs8_length] at hr1
  have HR1 := hide R1
  clear R1 R0 B0 hc ha3 c0
  generalize ((w.alloc (.cells cs 5)).drewN 2).setCells w.heap.size 0 (xs8 1 x) = w1 at *
  go_enter Try.func27, Try.ntmps27
  go_wp2_with (first
    | (go_at_call 48; refine (hmul _).mono ?_; rintro e y ⟨rfl, hy⟩; obtain rfl := hy.symm)
    | (at_builtin; refine Lib.wpList_copy_run _ rfl _ _ 22 22 rfl _ _ rfl rfl hr1 ?_)
    | fail)
  clear hr1 hcall
  go_loopw [10] (fun p wr => ∃ k : Nat, 0 < k ∧ p = .int .i64 (k : Int) ∧ Hid (Rep w wr w.heap.size N x k)) (fun p _ => N - (intOf p).toNat)
  case atStart => exact ⟨1, by decide, rfl, HR1⟩
  case round =>
    obtain ⟨k, hk, rfl, HR⟩ := hrel
    have hkN := HR.out.fits
    clear HR1
    by_cases hlt : k < N
    · have k1 : (k : Int) < (N : Int) := by omega
      have k2 : ¬ (N : Int) < (k : Int) := by omega
      have k3 : ¬ N < k := by omega
      have k0 : (0 : Int) ≤ (k : Int) := by omega
      have mn : min (k : Int) (N : Int) = (k : Int) := by omega
      have hsl1 : ∀ W, (Instr.slice 22 (.slice (some ⟨w.heap.size, 0, none⟩) N N) (some (.int .i64 (k : Int))) none none).run Try.prog W = .ok (Lib.tailV w.heap.size N k) W := fun W => Lib.run_slice_tailV W 22 5 Try.underlying22 Try.sizeOf5 _ N k (by omega)
      have hcp := fun y (hy : Rep w y w.heap.size N x k) => Rep.copy (P := Try.prog) hy hk hlt 22 3 5 Try.underlying22 hs5
      have hmo := fun y (hy : Rep w y w.heap.size N x k) => Rep.more hy (m := min k (N - k)) (by omega)
      have HM1 : Hid (k < k + min k (N - k) ∧ k + min k (N - k) ≤ N) := hide ⟨by omega, by omega⟩
      generalize min k (N - k) = m at *
      obtain ⟨k', hk'⟩ : ∃ z : Nat, z = k + m := ⟨_, rfl⟩
      rw [← hk'] at hmo HM1
      have e_k : (k : Int) + (m : Int) = (k' : Int) := by omega
      have hkl := HM1.out
      have s_k : IntKind.i64.wrap (k' : Int) = (k' : Int) := by rw [IntKind.wrap_i64]; omega
      clear hk' hkl
      go_wp2_with fail
      go_region_law (refine step_copy_run rfl (.tmp 70) (.tmp 73) 22 22 rfl (Lib.tailV w.heap.size N k) (.slice (some ⟨w.heap.size, 0, none⟩) k N) (by simp [Act.eval, Act.put]) (by simp [Act.eval, Act.put]) (hcp _ (by first | exact HR.out | exact HR.out.drewN 1)) ?_)
      all_goals
        have HR2 := hide (hmo wr.drew (HR.out.drewN 1))
        simp (config := { zetaDelta := true }) only [Exit.inBlock, Exit.then]
        refine ⟨?_, ?measure⟩
        case measure => simp [intOf, Act.put, e_k, s_k]; have := HM1.out; omega
        exact ⟨_, _, _, _, _, _, _, _, _, _, _, _, _, _, _, _, _, ⟨k', by have := HM1.out; omega, rfl, HR2⟩, by simp [Act.put, e_k, s_k]; (repeat' (first | rfl | apply And.intro))⟩
    · obtain rfl : k = N := by omega
      go_wp2
      go_ret
      exact ⟨_, rfl, HR.out.row hx (by unfold maxLen; omega), New.at (Nat.le_refl _), HR.out.below⟩
end Go.Proofs.Ytjnlkihhmenfnaa
