/- Small words for walks over blocks of many cells. -/
import Derived.Test.YtpmobjfhhkglbaaDoorWtM
import Derived.Deep.WholeRow
import Derived.Deep.MidRow
import Derived.Deep.RegionHeld3
import Derived.Test.YtpmobjfhhkglbaaDoorBase
import Derived.Deep.Slices
import Derived.Deep.AppendLies
import Derived.Laws.AppendOwnNone
import Derived.ArgAppend
import Derived.OrdersHeld
namespace Go.Proofs.YtpmobjfhhkglbaaDoor
open Go.RowKit
set_option linter.unusedVariables false
set_option linter.unusedSimpArgs false

theorem bel_drewN {B : Nat} {a w : World} (h : Below B a w) (n : Nat) : Below B a (w.drewN n) := h.trans ⟨rfl, rfl, rfl, Nat.le_refl _, fun _ _ => rfl⟩

theorem un_drew {w w' : World} (h : Below w.drew.heap.size w.drew w') : Below w.heap.size w w' := ⟨h.os, h.tape, h.output, h.size, h.block⟩
theorem un_drewN {n : Nat} {w w' : World} (h : Below (w.drewN n).heap.size (w.drewN n) w') : Below w.heap.size w w' := ⟨h.os, h.tape, h.output, h.size, h.block⟩
/-- an array's cells -/
def arr (k : IntKind) (l : List Nat) : Array Value := (vals k l).toArray
theorem arr_size (k : IntKind) (l : List Nat) : (arr k l).size = l.length := by simp [arr, vals]
theorem arr_get (k : IntKind) (l : List Nat) (i : Nat) (h : i < l.length) : (arr k l)[i]? = some (.int k (el l i)) := by
  unfold arr; rw [List.getElem?_toArray]; exact vals_get k l i h
theorem arr_one (k : IntKind) (l : List Nat) : (arr k l).all (·.oneCell') = true := all_oneCell_toArray (vals_one k l)

/-- all blocks but one are as they were -/
structure But (g : Nat) (w w' : World) : Prop where
  os : w'.os = w.os
  tape : w'.tape = w.tape
  output : w'.output = w.output
  size : w.heap.size ≤ w'.heap.size
  block : ∀ k, k < w.heap.size → k ≠ g → w'.heap[k]? = w.heap[k]?
theorem But.refl (g : Nat) (w : World) : But g w w := ⟨rfl, rfl, rfl, Nat.le_refl _, fun _ _ _ => rfl⟩
theorem But.trans {g : Nat} {a b c : World} (h : But g a b) (k : But g b c) : But g a c :=
  ⟨k.os.trans h.os, k.tape.trans h.tape, k.output.trans h.output, Nat.le_trans h.size k.size, fun i hi hn => (k.block i (Nat.lt_of_lt_of_le hi h.size) hn).trans (h.block i hi hn)⟩
theorem But.of_below {g : Nat} {w w' : World} (h : Below w.heap.size w w') : But g w w' := ⟨h.os, h.tape, h.output, h.size, fun k hk _ => h.block k hk⟩
theorem But.below {g B : Nat} {w w' : World} (h : But g w w') (hg : B ≤ g) (hB : B ≤ w.heap.size) : Below B w w' := ⟨h.os, h.tape, h.output, h.size, fun k hk => h.block k (by omega) (by omega)⟩
theorem But.setCell {g : Nat} {a w : World} (h : But g a w) (i : Nat) (u : Value) : But g a (w.setCell ⟨g, i, none⟩ u) :=
  h.trans ⟨rfl, rfl, rfl, by simp [World.setCell], fun k hk hn => heap_setCell_other _ _ _ _ (by show k ≠ g; exact hn)⟩
theorem But.alloc {g : Nat} {a w : World} (h : But g a w) (o : Obj) : But g a (w.alloc o) := h.trans (But.of_below (keep_alloc w o))
theorem But.drew {g : Nat} {a w : World} (h : But g a w) : But g a w.drew := h.trans ⟨rfl, rfl, rfl, Nat.le_refl _, fun _ _ _ => rfl⟩
theorem But.drewN {g : Nat} {a w : World} (h : But g a w) (n : Nat) : But g a (w.drewN n) := h.trans ⟨rfl, rfl, rfl, Nat.le_refl _, fun _ _ _ => rfl⟩

/-- the numbers l lie in block g, which has no other cell -/
def Lies (k : IntKind) (t : TypeId) (w : World) (g : Nat) (l : List Nat) : Prop := w.heap[g]? = some (.cells (arr k l) t (0, 0))
theorem Lies.lt {k : IntKind} {t : TypeId} {w : World} {g : Nat} {l : List Nat} (h : Lies k t w g l) : g < w.heap.size := by
  unfold Lies at h
  rcases Nat.lt_or_ge g w.heap.size with hlt | hge
  · exact hlt
  · rw [Array.getElem?_eq_none hge] at h; cases h
theorem Lies.cell {k : IntKind} {t : TypeId} {w : World} {g : Nat} {l : List Nat} (h : Lies k t w g l) {i : Nat} (hi : i < l.length) : w.cell? ⟨g, i, none⟩ = some (.int k (el l i)) := by
  rw [cell_of_row w g i _ t (0, 0) h, arr_get k l i hi]
theorem Lies.frozen {k : IntKind} {t : TypeId} {w : World} {g : Nat} {l : List Nat} (h : Lies k t w g l) (i : Nat) : w.frozen? ⟨g, i, none⟩ = false := by
  have h' : w.heap[g]? = some (.cells (arr k l) t (0, 0)) := h
  simp [World.frozen?, h']
theorem Lies.new (k : IntKind) (t : TypeId) (w : World) (l : List Nat) : Lies k t (w.alloc (.cells (arr k l) t)) w.heap.size l := heap_alloc_last w _
theorem Lies.below {k : IntKind} {t : TypeId} {w w' : World} {g : Nat} {l : List Nat} (h : Lies k t w g l) (hb : Below w.heap.size w w') : Lies k t w' g l := (hb.block g h.lt).trans h
theorem Lies.but {k : IntKind} {t : TypeId} {w w' : World} {g q : Nat} {l : List Nat} (h : Lies k t w g l) (hb : But q w w') (hn : g ≠ q) : Lies k t w' g l := (hb.block g h.lt hn).trans h
theorem Lies.drewN {k : IntKind} {t : TypeId} {w : World} {g : Nat} {l : List Nat} (h : Lies k t w g l) (n : Nat) : Lies k t (w.drewN n) g l := h
theorem Lies.alloc {k : IntKind} {t : TypeId} {w : World} {g : Nat} {l : List Nat} (h : Lies k t w g l) (o : Obj) : Lies k t (w.alloc o) g l := h.below (keep_alloc w o)
theorem arr_set (k : IntKind) (l : List Nat) (i x : Nat) : (arr k l).setIfInBounds i (.int k (x : Int)) = arr k (l.set i x) := by
  unfold arr; rw [← vals_set]; simp
theorem Lies.set {k : IntKind} {t : TypeId} {w : World} {g : Nat} {l : List Nat} (h : Lies k t w g l) (i x : Nat) : Lies k t (w.setCell ⟨g, i, none⟩ (.int k (x : Int))) g (l.set i x) := by
  unfold Lies
  rw [setCell_eq_setRow w g i _ t (0, 0) _ h, arr_set]
  exact setRow_heap w g _ _ t _ h
theorem Lies.load {k : IntKind} {t : TypeId} {w : World} {g : Nat} {l : List Nat} (h : Lies k t w g l) {P : Program} (ty : TypeId) (d : TypeDesc) (hu : P.underlying ty = some d) (hd : d.isRow = true) (hi : (P.info? ty).map (·.size) = some l.length) :
    (Instr.loadAt ty (.pointer (some ⟨g, 0, none⟩))).run P w = .ok (.agg (arr k l)) w :=
  run_loadAt_mid w g 0 ty (vals k l) d (fun j v hv => by
    have hj : j < l.length := by have := (List.getElem?_eq_some_iff.1 hv).1; rwa [vals_length] at this
    rw [Nat.zero_add, h.cell hj, ← vals_get k l j hj]; exact hv) hu hd (by rw [vals_length]; exact hi)
/-- an array's element -/
theorem index_arr {P : Program} (t e : TypeId) (n : Nat) (k : IntKind) (l : List Nat) (hu : P.underlying t = some (.array n e)) (he : P.underlying e = some (.int k)) (hs : (P.info? e).map (·.size) = some 1) (hn : l.length = n) (i : Nat) (hi : i < n) (w : World) :
    (Instr.index t (.agg (arr k l)) (.int .i64 (i : Int))).run P w = .ok (.int k (el l i)) w := by
  cases hq : P.info? e with
  | none => simp [hq] at hs
  | some x =>
    have hx : x.size = 1 := by simpa [hq] using hs
    have ha := arr_get k l i (by omega)
    have hagg : (isAgg e).run P w = .ok false w := by
      unfold isAgg
      rw [Sem.run_bind, run_underlying he w]; rfl
    simp [Instr.index, asIntOf, Sem.run_bind, run_underlying hu w, sizeOf, typeInfo, hq, hx, part, hagg, ha, show (i : Int) < (n : Int) by omega]
    intro hh; omega
theorem arr8 (k : IntKind) (l : List Nat) (h : l.length = 8) : arr k l = #[.int k (el l 0), .int k (el l 1), .int k (el l 2), .int k (el l 3), .int k (el l 4), .int k (el l 5), .int k (el l 6), .int k (el l 7)] := by
  match l, h with
  | [a, b, c, d, e, f, g, i], _ => rfl
/-- a part of a text -/
theorem Row.mid {k : IntKind} {m : Nat} {w : World} {bl off n cap : Nat} {l : List Nat} (h : Row k m w (.slice (some ⟨bl, off, none⟩) n cap) l) {i j : Nat} (hij : i ≤ j) (hj : j ≤ l.length) :
    Row k m w (.slice (some ⟨bl, off + i, none⟩) (j - i) (cap - i)) ((l.drop i).take (j - i)) := by
  obtain ⟨a', cap', he, h1, h2, h3, h4⟩ := h
  simp at he
  obtain ⟨rfl, rfl, rfl⟩ := he
  have hlen : ((l.drop i).take (j - i)).length = j - i := by simp; omega
  refine ⟨_, _, by rw [hlen], by omega, by omega, fun hp => ?_, fun x hx => h4 x (List.mem_of_mem_drop (List.mem_of_mem_take hx))⟩
  rw [hlen] at hp
  obtain ⟨b', o', e, hc⟩ := h3 (by omega)
  simp at e
  obtain ⟨rfl, rfl⟩ := e
  refine ⟨bl, off + i, rfl, fun x hx => ?_⟩
  rw [hlen] at hx
  have c := hc (i + x) (by omega)
  rw [Nat.add_assoc, c]
  congr 2
  rw [el_at (by omega), el_at (by rw [hlen]; omega), List.getElem_take, List.getElem_drop]
theorem zero_arr {P : Program} {t : TypeId} {k : IntKind} {n : Nat} (h : (P.info? t).map (fun i => (i.zero, i.size)) = some (some (.agg (arr k (List.replicate n 0))), n)) : ∀ w, (zeroValue t).run P w = .ok (.agg (arr k (List.replicate n 0))) w := (zero_of_info h).1
theorem wpList_store_row {P : Program} {ops : Array Oper} {rest : List Oper} {o : Oper} {a : Act} {w : World} {Q : Exit → Act → World → Prop} (hgd : o.guard = none) (ty : TypeId) (x y : Operand) (ho : o.op = .store ty x y)
    (g : Nat) (cells : Array Value) (hx : a.eval x = .pointer (some ⟨g, 0, none⟩)) (hy : a.eval y = .agg cells)
    (t : TypeId) (old : Array Value) (hg : w.heap[g]? = some (.cells old t (0, 0))) (hi : (P.info? ty).map (·.size) = some cells.size)
    (hold : old.size = cells.size) (h1 : cells.all (·.oneCell') = true)
    (h : wpList P ops Q rest (a.put o.dst undef) (w.setRow g cells)) : wpList P ops Q (o :: rest) a w :=
  wpList_plain hgd fun _ hK => wp_store_row ty x y ho g cells hx hy t old hg hi hold h1 (hK _ _ h)
theorem Lies.row {k : IntKind} {t : TypeId} {w : World} {g : Nat} {l l' : List Nat} (h : Lies k t w g l) : Lies k t (w.setRow g (arr k l')) g l' := setRow_heap w g _ _ t _ h
theorem But.setRow {g : Nat} {a w : World} (h : But g a w) (c : Array Value) : But g a (w.setRow g c) :=
  h.trans ⟨rfl, rfl, rfl, by simp [World.setRow], fun k hk hn => setRow_other w g k c hn⟩
/-- the numbers l lie in block g, but for what stands at one place -/
def LiesX (k : IntKind) (t : TypeId) (w : World) (g : Nat) (l : List Nat) (T : Nat) : Prop := ∃ v, w.heap[g]? = some (.cells ((arr k l).setIfInBounds T v) t (0, 0))
theorem Lies.toX {k : IntKind} {t : TypeId} {w : World} {g : Nat} {l : List Nat} (h : Lies k t w g l) {T : Nat} (hT : T < l.length) : LiesX k t w g l T := by
  refine ⟨.int k (el l T), ?_⟩
  unfold Lies at h
  rw [h, arr_set]
  congr 3
  apply List.ext_getElem?
  intro i
  rw [List.getElem?_set]
  by_cases hi : T = i
  · subst hi; rw [if_pos rfl, if_pos hT, el_at hT, List.getElem?_eq_getElem hT]
  · rw [if_neg hi]
theorem LiesX.lt {k : IntKind} {t : TypeId} {w : World} {g : Nat} {l : List Nat} {T : Nat} (h : LiesX k t w g l T) : g < w.heap.size := by
  obtain ⟨v, h⟩ := h
  rcases Nat.lt_or_ge g w.heap.size with hlt | hge
  · exact hlt
  · rw [Array.getElem?_eq_none hge] at h; cases h
theorem LiesX.cell {k : IntKind} {t : TypeId} {w : World} {g : Nat} {l : List Nat} {T : Nat} (h : LiesX k t w g l T) {i : Nat} (hi : i < l.length) (hn : i ≠ T) : w.cell? ⟨g, i, none⟩ = some (.int k (el l i)) := by
  obtain ⟨v, h⟩ := h
  rw [cell_of_row w g i _ t (0, 0) h, Array.getElem?_setIfInBounds, if_neg (fun e => hn e.symm), arr_get k l i hi]
/-- what a cell holds -/
def rdc (w : World) (p : Addr) : Value := (w.cell? p).getD undef
theorem LiesX.here {k : IntKind} {t : TypeId} {w : World} {g : Nat} {l : List Nat} {T : Nat} (h : LiesX k t w g l T) (hT : T < l.length) : w.cell? ⟨g, T, none⟩ = some (rdc w ⟨g, T, none⟩) := by
  unfold rdc
  obtain ⟨v, h⟩ := h
  have e : w.cell? ⟨g, T, none⟩ = some v := by
    rw [cell_of_row w g T _ t (0, 0) h, Array.getElem?_setIfInBounds, if_pos rfl, if_pos (by rw [arr_size]; exact hT)]
  rw [e]; rfl
theorem LiesX.frozen {k : IntKind} {t : TypeId} {w : World} {g : Nat} {l : List Nat} {T : Nat} (h : LiesX k t w g l T) (i : Nat) : w.frozen? ⟨g, i, none⟩ = false := by
  obtain ⟨v, h⟩ := h
  simp [World.frozen?, h]
theorem LiesX.below {k : IntKind} {t : TypeId} {w w' : World} {g : Nat} {l : List Nat} {T : Nat} (h : LiesX k t w g l T) (hb : Below w.heap.size w w') : LiesX k t w' g l T := by
  have hl := h.lt
  obtain ⟨v, h⟩ := h
  exact ⟨v, (hb.block g hl).trans h⟩
theorem LiesX.set {k : IntKind} {t : TypeId} {w : World} {g : Nat} {l : List Nat} {T : Nat} (h : LiesX k t w g l T) (v : Value) : LiesX k t (w.setCell ⟨g, T, none⟩ v) g l T := by
  obtain ⟨u, h⟩ := h
  refine ⟨v, ?_⟩
  rw [setCell_eq_setRow w g T _ t (0, 0) _ h]
  have := setRow_heap w g _ (((arr k l).setIfInBounds T u).setIfInBounds T v) t _ h
  rw [this]
  simp
theorem But.cell {g : Nat} {w w' : World} {p : Addr} {v : Value} (h : w.cell? p = some v) (hb : But g w w') (hn : p.block ≠ g) : w'.cell? p = some v := by
  have hl := World.block_lt_of_cell? w _ h
  rw [World.cell?_of_block (hb.block _ hl hn)]; exact h
theorem keep_cell {w w' : World} {p : Addr} {v : Value} (h : w.cell? p = some v) (hb : Below w.heap.size w w') : w'.cell? p = some v := by
  rw [hb.cell (p := p) (World.block_lt_of_cell? w _ h)]; exact h
end Go.Proofs.YtpmobjfhhkglbaaDoor

/- More words for blocks: rows beside a block, results that are arrays. -/
namespace Go.Proofs.YtpmobjfhhkglbaaDoor
open Go.RowKit
set_option linter.unusedVariables false
set_option linter.unusedSimpArgs false

/-- a row that does not lie in block g -/
def Away (g : Nat) (v : Value) (l : List Nat) : Prop := 0 < l.length → ∀ q, v.ownBlock = some q → q ≠ g
theorem Row.old {k : IntKind} {m : Nat} {w : World} {v : Value} {l : List Nat} (h : Row k m w v l) (hl : 0 < l.length) {q : Nat} (hq : v.ownBlock = some q) : q < w.heap.size := by
  obtain ⟨a, cap, rfl, h1, h2, h3, h4⟩ := h
  obtain ⟨b, off, rfl, hc⟩ := h3 hl
  have e : b = q := by simpa [Value.ownBlock] using hq
  subst e
  exact World.block_lt_of_cell? w _ (hc 0 hl)
theorem Row.away {k : IntKind} {m : Nat} {w : World} {v : Value} {l : List Nat} (h : Row k m w v l) {g : Nat} (hg : w.heap.size ≤ g) : Away g v l := fun hl q hq => by
  have := h.old hl hq
  omega
theorem Row.but {k : IntKind} {m : Nat} {w w' : World} {v : Value} {l : List Nat} {g : Nat} (h : Row k m w v l) (ha : Away g v l) (hb : But g w w') : Row k m w' v l := by
  obtain ⟨a, cap, rfl, h1, h2, h3, h4⟩ := h
  refine ⟨a, cap, rfl, h1, h2, fun hl => ?_, h4⟩
  obtain ⟨b, off, rfl, hc⟩ := h3 hl
  refine ⟨b, off, rfl, fun i hi => ?_⟩
  exact But.cell (hc i hi) hb (ha hl b (by simp [Value.ownBlock]))
theorem Own.away {e : TypeId} {k : IntKind} {m : Nat} {w : World} {B g : Nat} {v : Value} {l : List Nat} (h : Own e k m w B v l) (hg : g < B) : Away g v l := fun _ q hq => by
  have := (h.1.lt q hq).1
  omega
/-- a text without its first bytes -/
theorem Row.rest {k : IntKind} {m : Nat} {w : World} {b off n cap : Nat} {l : List Nat} (h : Row k m w (.slice (some ⟨b, off, none⟩) n cap) l) {i : Nat} (hi : i ≤ n) (A : Option Addr) (hA : A = some ⟨b, off, none⟩ ∧ cap = i ∨ A = some ⟨b, off + i, none⟩) :
    Row k m w (.slice A (n - i) (cap - i)) (l.drop i) := by
  obtain ⟨a', cap', he, h1, h2, h3, h4⟩ := h
  simp at he
  obtain ⟨rfl, rfl, rfl⟩ := he
  refine ⟨A, _, by rw [List.length_drop], by rw [List.length_drop]; omega, by omega, fun hp => ?_, fun x hx => h4 x (List.mem_of_mem_drop hx)⟩
  rw [List.length_drop] at hp
  rcases hA with ⟨_, hc⟩ | rfl
  · omega
  · obtain ⟨b', o', e, hc⟩ := h3 (by omega)
    simp at e
    obtain ⟨rfl, rfl⟩ := e
    refine ⟨b, off + i, rfl, fun x hx => ?_⟩
    rw [List.length_drop] at hx
    rw [el_drop, Nat.add_assoc]
    exact hc (i + x) (by omega)
/-- how long a slice is -/
def slen : Value → Nat
  | .slice _ n _ => n
  | _ => 0
theorem rndN_congr {b : Bool} {ks ws ws' s : List Nat} : ∀ n, (∀ i, i < n → el ws i = el ws' i) → rndN b ks ws n s = rndN b ks ws' n s
  | 0, _ => rfl
  | n + 1, h => by simp only [rndN]; rw [rndN_congr n (fun i hi => h i (by omega)), h n (by omega)]
theorem comp_pad {b : Bool} (h l : List Nat) : addW b h (rndN b (ks b) (pad 80 (sched b l (rn b - 16))) (rn b) h) 8 = comp b h l := by
  unfold comp
  rw [rndN_congr (ws' := sched b l (rn b - 16)) (rn b) (fun i hi => pad_el (by rw [sched_length]; cases b <;> simp [rn] at hi ⊢ <;> omega))]
end Go.Proofs.YtpmobjfhhkglbaaDoor

/- An append of a slice whatever it is (nil, empty or not); texts one behind the other. -/
namespace Go.Proofs.YtpmobjfhhkglbaaDoor
open Go.RowKit Go.Deep
set_option linter.unusedVariables false

theorem Tryd.infoT : (Tryd.prog.info? 26).map (fun i => (i.zero, i.size, i.bytes)) = some (some (.slice none 0 0), 1, 24) := by kernel_rfl
theorem info_text : ∃ i, Tryd.prog.info? 26 = some i ∧ i.zero = some (.slice none 0 0) ∧ i.size = 1 ∧ i.bytes = 24 := by
  have h := Tryd.infoT
  obtain ⟨i, hi, he⟩ := Option.map_eq_some_iff.1 h
  simp only [Prod.mk.injEq] at he
  exact ⟨i, hi, he.1, he.2.1, he.2.2⟩
theorem info_byte : ∃ i, Tryd.prog.info? 5 = some i ∧ i.zero = some (.int .u8 0) ∧ i.size = 1 ∧ i.bytes = 1 := by
  have h := Tryd.info5
  obtain ⟨i, hi, he⟩ := Option.map_eq_some_iff.1 h
  simp only [Prod.mk.injEq] at he
  exact ⟨i, hi, he.1, he.2.1, he.2.2⟩

/-- values that are texts of the world w -/
def Texts (w : World) (us : List Value) (l : List (List Nat)) : Prop := us.length = l.length ∧ ∀ i, i < l.length → ∃ u, us[i]? = some u ∧ Row .u8 256 w u (tx l i) ∧ Tidy u
theorem Texts.nil (w : World) : Texts w [] [] := ⟨rfl, fun i hi => by simp at hi⟩
theorem Texts.append {w : World} {us vs : List Value} {l m : List (List Nat)} (h : Texts w us l) (k : Texts w vs m) : Texts w (us ++ vs) (l ++ m) := by
  refine ⟨by rw [List.length_append, List.length_append, h.1, k.1], fun i hi => ?_⟩
  rw [List.length_append] at hi
  by_cases hl : i < l.length
  · obtain ⟨u, hu, hr⟩ := h.2 i hl
    refine ⟨u, by rw [List.getElem?_append_left (by rw [h.1]; exact hl)]; exact hu, ?_⟩
    have e : tx (l ++ m) i = tx l i := by unfold tx; rw [List.getElem?_append_left hl]
    rw [e]; exact hr
  · obtain ⟨u, hu, hr⟩ := k.2 (i - l.length) (by omega)
    refine ⟨u, by rw [List.getElem?_append_right (by rw [h.1]; omega), h.1]; exact hu, ?_⟩
    have e : tx (l ++ m) i = tx m (i - l.length) := by unfold tx; rw [List.getElem?_append_right (by omega)]
    rw [e]; exact hr
theorem Texts.one {w : World} {u : Value} {x : List Nat} (h : Row .u8 256 w u x) (ht : Tidy u) : Texts w [u] [x] := by
  refine ⟨rfl, fun i hi => ?_⟩
  have : i = 0 := by simp at hi; omega
  subst this
  exact ⟨u, rfl, h, ht⟩
theorem Texts.below {w w' : World} {us : List Value} {l : List (List Nat)} (h : Texts w us l) (hb : Below w.heap.size w w') : Texts w' us l :=
  ⟨h.1, fun i hi => by obtain ⟨u, hu, hr, ht⟩ := h.2 i hi; exact ⟨u, hu, hr.below hb, ht⟩⟩
theorem Row.one {k : IntKind} {m : Nat} {w : World} {u : Value} {l : List Nat} (h : Row k m w u l) : u.oneCell' = true := by
  obtain ⟨a, c, rfl, _⟩ := h
  rfl
theorem Texts.cells {w : World} {us : List Value} {l : List (List Nat)} (h : Texts w us l) : ∀ u ∈ us, u.oneCell' = true := by
  intro u hu
  obtain ⟨i, hi, rfl⟩ := List.getElem_of_mem hu
  obtain ⟨u', hu', hr, _⟩ := h.2 i (by rw [← h.1]; exact hi)
  rw [List.getElem?_eq_getElem hi] at hu'
  obtain rfl := Option.some.inj hu'
  exact hr.one
end Go.Proofs.YtpmobjfhhkglbaaDoor

/- Texts of the call's own in a slice of the call's own. -/
namespace Go.Proofs.YtpmobjfhhkglbaaDoor
open Go.RowKit
set_option linter.unusedVariables false
set_option linter.unusedSimpArgs false

theorem own_tidyG {e : TypeId} {k : IntKind} {m : Nat} {w : World} {B : Nat} {v : Value} {l : List Nat} (h : Own e k m w B v l) : Tidy v := by
  rcases h.1.2 with ⟨rfl, _⟩ | ⟨g, cap, cur, rfl, _⟩
  · intro n c e; cases e; exact ⟨rfl, rfl⟩
  · intro n c e; cases e
end Go.Proofs.YtpmobjfhhkglbaaDoor

/- Keys of chains: the document's lay, of bytes at a place. -/
namespace Go.Proofs.YtpmobjfhhkglbaaDoor
open Go.RowKit
set_option linter.unusedVariables false
set_option linter.unusedSimpArgs false

theorem el_lay {a b : List Nat} {p i : Nat} (hp : p + b.length ≤ a.length) : el (layLW a p b) i = if p ≤ i ∧ i < p + b.length then el b (i - p) else el a i := by
  unfold layLW el
  by_cases h1 : i < p
  · rw [List.getElem?_append_left (by rw [List.length_take]; omega), List.getElem?_take, if_pos h1, if_neg (by omega)]
  · rw [List.getElem?_append_right (by rw [List.length_take]; omega), List.length_take, Nat.min_eq_left (by omega)]
    by_cases h2 : i < p + b.length
    · rw [List.getElem?_append_left (by omega), if_pos ⟨by omega, h2⟩]
    · rw [List.getElem?_append_right (by omega), List.getElem?_drop, if_neg (by omega), show p + b.length + (i - p - b.length) = i by omega]
theorem ext_elW {a b : List Nat} (hl : a.length = b.length) (h : ∀ i, i < a.length → el a i = el b i) : a = b := by
  apply List.ext_getElem hl
  intro i h1 h2
  have := h i h1
  rw [el_at h1, el_at h2] at this
  exact this
theorem el_setW (l : List Nat) (k x i : Nat) : el (l.set k x) i = if k = i ∧ k < l.length then x else el l i := by
  unfold el
  rw [List.getElem?_set]
  by_cases h : k = i
  · subst h
    by_cases h2 : k < l.length
    · simp [h2]
    · simp [h2, List.getElem?_eq_none (Nat.le_of_not_lt h2)]
  · simp [h]
theorem lay_none (a : List Nat) (p : Nat) : layLW a p [] = a := by
  unfold layLW
  rw [List.nil_append, List.length_nil, Nat.add_zero, List.take_append_drop]
def zP : List Nat := List.replicate 32 0
theorem zeroAd : ∀ w, (zeroValue 23).run Tryd.prog w = .ok (.agg (arr .u8 zP)) w := zero_arr (by kernel_rfl)
end Go.Proofs.YtpmobjfhhkglbaaDoor

/- A drawn region by a plan: which operation is taken first, which runs because it alone may come up. The orders are asked by numbers (bits), the frame is known at the slots in use alone. -/
namespace Go.Proofs.YtpmobjfhhkglbaaDoor
open Go.RowKit
set_option linter.unusedVariables false
set_option linter.unusedSimpArgs false

/-- of an operation: for whom it waits (as bits), where it writes, what it looks at -/
abbrev Lt := Nat × Option Nat × List Nat
def aftM (o : Oper) : Nat := o.after.toList.foldl (fun s e => if Region.binds .any e then s ||| 2 ^ e.on else s) 0
def ltOf (ops : Array Oper) : List Lt := ops.toList.map fun o => (aftM o, o.dst, o.looksAt ops)
def apL (x y : Lt) : Bool :=
  (match x.2.1 with
   | some d => !y.2.2.contains d && y.2.1 != some d
   | none => true) &&
  (match y.2.1 with
   | some d => !x.2.2.contains d
   | none => true)
def rdL (x : Lt) (i m : Nat) : Bool := !m.testBit i && (x.1 &&& m == x.1)
/-- the plan holds, so far as the operations in m have come up -/
def goL (n : Nat) (lt : List Lt) : List (Nat × Bool) → Nat → Bool
  | [], m => m == 2 ^ n - 1
  | (i, t) :: r, m =>
    match lt[i]? with
    | none => false
    | some x => rdL x i m && lt.zipIdx.all (fun y => y.2 == i || m.testBit y.2 || bif t then y.1.1.testBit i || apL x y.1 else !(y.1.1 &&& m == y.1.1)) && goL n lt r (m ||| 2 ^ i)

theorem aft_bits (l : List Edge) (k : Nat) : ∀ s : Nat, (l.foldl (fun s e => if Region.binds .any e then s ||| 2 ^ e.on else s) s).testBit k = (s.testBit k || l.any (fun e => Region.binds .any e && e.on == k)) := by
  induction l with
  | nil => intro s; simp
  | cons e l ih =>
    intro s
    rw [List.foldl_cons, ih, List.any_cons]
    cases hb : Region.binds .any e
    · simp
    · simp only [if_true, Nat.testBit_or, Nat.testBit_two_pow, Bool.true_and, Bool.or_assoc]
      congr 2
theorem aftM_bit (o : Oper) (k : Nat) : (aftM o).testBit k = true ↔ ∃ e ∈ o.after, Region.binds .any e = true ∧ e.on = k := by
  unfold aftM
  rw [aft_bits]
  simp only [Nat.zero_testBit, Bool.false_or, List.any_eq_true, Bool.and_eq_true, beq_iff_eq, Array.mem_toList_iff]
theorem sub_bits (x m : Nat) : x &&& m = x ↔ ∀ k, x.testBit k = true → m.testBit k = true := by
  constructor
  · intro h k hk
    rw [← h, Nat.testBit_and, Bool.and_eq_true] at hk
    exact hk.2
  · intro h
    apply Nat.eq_of_testBit_eq
    intro k
    rw [Nat.testBit_and]
    cases hk : x.testBit k
    · rfl
    · rw [h k hk]; rfl
/-- what has come up, as bits -/
structure Lsd (n m : Nat) (listed : Array Bool) : Prop where
  size : listed.size = n
  bit : ∀ j (h : j < listed.size), listed[j] = m.testBit j
  lt : m < 2 ^ n
theorem Lsd.tru {n m : Nat} {listed : Array Bool} (h : Lsd n m listed) {j : Nat} (hj : j < n) : listed.getD j true = m.testBit j := by
  have hs : j < listed.size := by rw [h.size]; exact hj
  simp [Array.getD, hs, h.bit j hs]
theorem Lsd.fls {n m : Nat} {listed : Array Bool} (h : Lsd n m listed) (j : Nat) : listed.getD j false = m.testBit j := by
  by_cases hj : j < n
  · have hs : j < listed.size := by rw [h.size]; exact hj
    simp [Array.getD, hs, h.bit j hs]
  · have hs : ¬ j < listed.size := by rw [h.size]; exact hj
    rw [Nat.testBit_lt_two_pow (Nat.lt_of_lt_of_le h.lt (Nat.pow_le_pow_right (by decide) (by omega)))]
    simp [Array.getD, hs]
theorem Lsd.set {n m : Nat} {listed : Array Bool} (h : Lsd n m listed) {i : Nat} (hi : i < n) : Lsd n (m ||| 2 ^ i) (listed.setIfInBounds i true) := by
  refine ⟨by simp [h.size], fun j hj => ?_, Nat.or_lt_two_pow h.lt (Nat.pow_lt_pow_right (by decide) hi)⟩
  have hj' : j < listed.size := by simpa using hj
  rw [Nat.testBit_or, Nat.testBit_two_pow, Array.getElem_setIfInBounds]
  by_cases hij : i = j
  · simp [hij]
  · simp [hij, h.bit j hj']
  exact hj'
theorem Lsd.zero (n : Nat) : Lsd n 0 (Array.replicate n false) := ⟨by simp, fun j hj => by simp, Nat.two_pow_pos n⟩
section
variable {P : Program} {ops : Array Oper} {Q : Exit → Act → World → Prop} {S : World → Prop}
theorem lt_at {lt : List Lt} (hlt : ltOf ops = lt) {i : Nat} {x : Lt} (h : lt[i]? = some x) : ∃ o, ops[i]? = some o ∧ x = (aftM o, o.dst, o.looksAt ops) := by
  rw [← hlt] at h
  unfold ltOf at h
  rw [List.getElem?_map] at h
  cases ho : ops.toList[i]? with
  | none => rw [ho] at h; cases h
  | some o => rw [ho] at h; exact ⟨o, by simpa using ho, (Option.some.inj h).symm⟩
theorem at_lt {lt : List Lt} (hlt : ltOf ops = lt) {i : Nat} {o : Oper} (h : ops[i]? = some o) : lt[i]? = some (aftM o, o.dst, o.looksAt ops) := by
  rw [← hlt]
  unfold ltOf
  rw [List.getElem?_map, show ops.toList[i]? = some o by simpa using h]
  rfl
theorem ready_of {m : Nat} {listed : Array Bool} (h : Lsd ops.size m listed) {i : Nat} {o : Oper} (ho : ops[i]? = some o) : i ∈ Region.ready .any ops listed ↔ rdL (aftM o, o.dst, o.looksAt ops) i m = true := by
  have hi : i < ops.size := (Array.getElem?_eq_some_iff.1 ho).1
  rw [mem_ready, h.tru hi]
  unfold rdL
  simp only [Bool.and_eq_true, Bool.not_eq_true', beq_iff_eq]
  rw [sub_bits]
  constructor
  · rintro ⟨h1, o', ho', h2⟩
    obtain rfl := Option.some.inj (ho.symm.trans ho')
    refine ⟨h1, fun k hk => ?_⟩
    obtain ⟨e, he, hb, rfl⟩ := (aftM_bit o k).1 hk
    rw [← h.fls]
    exact h2 e he hb
  · rintro ⟨h1, h2⟩
    exact ⟨h1, o, ho, fun e he hb => by rw [h.fls]; exact h2 e.on ((aftM_bit o e.on).2 ⟨e, he, hb, rfl⟩)⟩
/-- the walk that a plan asks for -/
def wpPlan (P : Program) (ops : Array Oper) (Q : Exit → Act → World → Prop) (S : World → Prop) : List (Nat × Bool) → Act → World → Prop
  | [], a, w => Q .normal a w
  | (i, true) :: r, a, w => ∃ o v, ops[i]? = some o ∧ YieldsIf P ops S o v a ∧ wpPlan P ops Q S r (a.put o.dst v) w
  | (i, false) :: r, a, w => wpOp P ops Q i (fun a' w' => S w' ∧ wpPlan P ops Q S r a' w') a w
theorem plan_any {lt : List Lt} (hlt : ltOf ops = lt) (hs : Region.noSelect ops = true) (hQ : ∀ c a b w, Q (.panic c) a w → Q (.panic c) b w) :
    ∀ (plan : List (Nat × Bool)) (m : Nat) (listed : Array Bool) (a : Act) (w : World), Lsd ops.size m listed → goL ops.size lt plan m = true → S w → wpPlan P ops Q S plan a w → wpAnyH P .any ops Q S plan.length listed a w
  | [], m, listed, a, w, hL, hg, hS, h => by
    have hm : m = 2 ^ ops.size - 1 := by simpa [goL] using hg
    refine wpAnyH_done ?_ h _
    rw [List.eq_nil_iff_forall_not_mem]
    intro j hj
    obtain ⟨h1, o, ho, _⟩ := mem_ready.1 hj
    have hj' : j < ops.size := (Array.getElem?_eq_some_iff.1 ho).1
    rw [hL.tru hj', hm, Nat.testBit_two_pow_sub_one] at h1
    simp [hj'] at h1
  | (i, t) :: r, m, listed, a, w, hL, hg, hS, h => by
    unfold goL at hg
    split at hg
    · cases hg
    · rename_i x hx
      obtain ⟨o, ho, rfl⟩ := lt_at hlt hx
      simp only [Bool.and_eq_true] at hg
      obtain ⟨⟨hr, hall⟩, hgo⟩ := hg
      have hi : i < ops.size := (Array.getElem?_eq_some_iff.1 ho).1
      have hrd := (ready_of hL ho).2 hr
      have hall' : ∀ (j : Nat) (oj : Oper), ops[j]? = some oj → j ≠ i → listed.getD j true = false → (bif t then (aftM oj).testBit i || apL (aftM o, o.dst, o.looksAt ops) (aftM oj, oj.dst, oj.looksAt ops) else !(aftM oj &&& m == aftM oj)) = true := fun j oj hj hne hun => by
        have hj' : j < ops.size := (Array.getElem?_eq_some_iff.1 hj).1
        have hmem : ((aftM oj, oj.dst, oj.looksAt ops), j) ∈ lt.zipIdx := List.mem_zipIdx_iff_getElem?.2 (at_lt hlt hj)
        have := List.all_eq_true.1 hall _ hmem
        rw [hL.tru hj'] at hun
        simp only [hun, Bool.or_false] at this
        rw [show (j == i) = false from by rw [beq_eq_false_iff_ne]; exact hne, Bool.false_or] at this
        exact this
      cases t with
      | true =>
        obtain ⟨o', v, ho', hy, hrest⟩ := h
        obtain rfl := Option.some.inj (ho.symm.trans ho')
        refine wpAnyH_first ho (Region.noSelect_spec hs) (fun c a w => hQ c _ _ w) _ listed a w ?_ hrd hy hS (plan_any hlt hs hQ r _ _ _ w (hL.set hi) hgo hS hrest)
        intro j oj hj hne hun hno
        have := hall' j oj hj hne hun
        rw [cond_true, Bool.or_eq_true] at this
        rcases this with h1 | h1
        · obtain ⟨e, he, hb, hk⟩ := (aftM_bit oj i).1 h1
          exact absurd hk (hno e he hb)
        · exact h1
      | false =>
        show wpAnyH P .any ops Q S (r.length + 1) listed a w
        refine ⟨fun h0 => (by rw [h0] at hrd; cases hrd), fun j hj => ?_⟩
        obtain ⟨hun, oj, hoj, _⟩ := mem_ready.1 hj
        have hji : j = i := by
          rcases Decidable.em (j = i) with he | hne
          · exact he
          · have h1 := hall' j oj hoj hne hun
            have h2 := (ready_of hL hoj).1 hj
            unfold rdL at h2
            simp only [Bool.and_eq_true] at h2
            rw [cond_false, h2.2] at h1
            cases h1
        subst hji
        exact wpOp_mono (fun a' w' hh => ⟨hh.1, plan_any hlt hs hQ r _ _ _ w' (hL.set hi) hgo hh.1 hh.2⟩) h
/-- THE LAW -/
theorem wp_region_plan {id : Nat} {a : Act} {w : World} (S : World → Prop) (lt : List Lt) (plan : List (Nat × Bool)) (hm : P.follows .mixedOrders = true) (hlt : ltOf ops = lt) (hn : plan.length = ops.size) (hs : Region.noSelect ops = true)
    (hp : goL ops.size lt plan 0 = true) (hS : S w.drew) (h : wpPlan P ops (NoPanic Q) S plan a w.drew) : (Code.region id ops true).wp P Q a w := by
  refine wp_region_noPanic (wp_region_held (S := S) hm ?_)
  have := plan_any (Q := NoPanic Q) hlt hs (fun c a b w hh => hh) plan 0 (Array.replicate ops.size false) a w.drew (Lsd.zero _) hp hS h
  rw [hn] at this
  exact this
/-! ### the frame at the slots in use -/
theorem put_same {a : Act} {k : Nat} {v : Value} (h : k < a.tmps.size) : (a.put (some k) v).eval (.tmp k) = v := by simp [Act.put, Act.eval, h]
theorem put_else {a : Act} {k j : Nat} {v : Value} (h : k ≠ j) : (a.put (some k) v).eval (.tmp j) = a.eval (.tmp j) := by simp [Act.put, Act.eval, Array.getD_eq_getD_getElem?, Array.getElem?_setIfInBounds, h]
theorem put_size {a : Act} {d : Option Nat} {v : Value} : (a.put d v).tmps.size = a.tmps.size := by cases d <;> simp [Act.put]
theorem ev_const {a : Act} {v : Value} : a.eval (.const v) = v := rfl
/-! ### operations -/
theorem wanted_free {o : Oper} (hg : o.guard = none) {f : Nat → Option Bool} : Region.wanted o f = true := by simp [Region.wanted, hg]
theorem y_of {o : Oper} {v : Value} {a : Act} (hg : o.guard = none) (h : ∀ w, S w → (execOp a.eval o).run P w = .ok (.value v) w) : YieldsIf P ops S o v a := .inl ⟨wanted_free hg, h⟩
theorem y_move {o : Oper} {v : Value} {a : Act} {x : Operand} (hg : o.guard = none) (ho : o.op = .move x) (hx : a.eval x = v) : YieldsIf P ops S o v a :=
  y_of hg fun w _ => by unfold execOp; simp only [ho, hx]; rfl
theorem y_extract {o : Oper} {v : Value} {a : Act} {x : Operand} {k : Nat} {vs : Array Value} (hg : o.guard = none) (ho : o.op = .extract x k) (hx : a.eval x = .tuple vs) (hk : vs[k]? = some v) : YieldsIf P ops S o v a :=
  y_of hg fun w _ => by unfold execOp; simp only [ho, hx, Instr.extract, hk]; rfl
theorem y_index {o : Oper} {a : Act} {x : Operand} {t e : TypeId} {n q i : Nat} (hg : o.guard = none) (ho : o.op = .indexAddr t x (.const (.int .i64 (i : Int)))) (hx : a.eval x = .pointer (some ⟨q, 0, none⟩)) (hu : P.underlying t = some (.array n e)) (hs : (P.info? e).map (·.size) = some 1) (hi : i < n) : YieldsIf P ops S o (.pointer (some ⟨q, i, none⟩)) a := by
  cases hq : P.info? e with
  | none => simp [hq] at hs
  | some y =>
    have hy : y.size = 1 := by simpa [hq] using hs
    refine y_of hg fun w _ => ?_
    unfold execOp
    simp only [ho, hx, ev_const]
    simp [Instr.indexAt, asIntOf, Sem.run_bind, run_underlying hu w, sizeOf, typeInfo, hq, hy, hi, Addr.add, go_sem]
    omega
theorem y_load {o : Oper} {v : Value} {a : Act} {x : Operand} {t : TypeId} {p : Addr} {k : IntKind} (hg : o.guard = none) (ho : o.op = .load t x) (hx : a.eval x = .pointer (some p)) (hu : P.underlying t = some (.int k)) (hc : ∀ w, S w → w.cell? p = some v) : YieldsIf P ops S o v a := by
  refine y_of hg fun w hw => ?_
  have c := hc w hw
  have hag : (isAgg t).run P w = .ok false w := by unfold isAgg; rw [Sem.run_bind, run_underlying hu w]; rfl
  unfold execOp
  simp only [ho, hx]
  simp [Instr.loadAt, Instr.sureAddr, Sem.run_bind, run_underlying hu w, hag, c, go_sem]
end
end Go.Proofs.YtpmobjfhhkglbaaDoor
