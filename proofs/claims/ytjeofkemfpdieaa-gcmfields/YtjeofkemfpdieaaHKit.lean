/- Small words for walks over blocks of many cells. -/
import Derived.Test.YtjeofkemfpdieaaQcM
import Derived.Deep.WholeRow
import Derived.Deep.MidRow
import Derived.Deep.RegionHeld3
import Derived.Test.YtjeofkemfpdieaaBe
import Derived.Test.YtjeofkemfpdieaaBase
import Derived.Laws.AppendOwnNone
namespace Go.Proofs.Ytjeofkemfpdieaa
open Go.RowKit
set_option linter.unusedVariables false
set_option linter.unusedSimpArgs false

theorem bel_drewN {B : Nat} {a w : World} (h : Below B a w) (n : Nat) : Below B a (w.drewN n) := h.trans ⟨rfl, rfl, rfl, Nat.le_refl _, fun _ _ => rfl⟩

theorem un_drew {w w' : World} (h : Below w.drew.heap.size w.drew w') : Below w.heap.size w w' := ⟨h.os, h.tape, h.output, h.size, h.block⟩
theorem un_drewN {n : Nat} {w w' : World} (h : Below (w.drewN n).heap.size (w.drewN n) w') : Below w.heap.size w w' := ⟨h.os, h.tape, h.output, h.size, h.block⟩
/-- an array's cells -/
def arr (k : IntKind) (l : List Nat) : Array Value := (vals k l).toArray
theorem arr_size (k : IntKind) (l : List Nat) : (arr k l).size = l.length := by simp [arr, vals]
theorem arr_get (k : IntKind) (l : List Nat) (i : Nat) (h : i < l.length) : (arr k l)[i]? = some (.int k (el l i)) := by
  unfold arr; rw [List.getElem?_toArray]; exact vals_get k l i h
theorem arr_one (k : IntKind) (l : List Nat) : (arr k l).all (·.oneCell') = true := all_oneCell_toArray (vals_one k l)

/-- all blocks but one are as they were -/
structure But (g : Nat) (w w' : World) : Prop where
  os : w'.os = w.os
  tape : w'.tape = w.tape
  output : w'.output = w.output
  size : w.heap.size ≤ w'.heap.size
  block : ∀ k, k < w.heap.size → k ≠ g → w'.heap[k]? = w.heap[k]?
theorem But.refl (g : Nat) (w : World) : But g w w := ⟨rfl, rfl, rfl, Nat.le_refl _, fun _ _ _ => rfl⟩
theorem But.trans {g : Nat} {a b c : World} (h : But g a b) (k : But g b c) : But g a c :=
  ⟨k.os.trans h.os, k.tape.trans h.tape, k.output.trans h.output, Nat.le_trans h.size k.size, fun i hi hn => (k.block i (Nat.lt_of_lt_of_le hi h.size) hn).trans (h.block i hi hn)⟩
theorem But.of_below {g : Nat} {w w' : World} (h : Below w.heap.size w w') : But g w w' := ⟨h.os, h.tape, h.output, h.size, fun k hk _ => h.block k hk⟩
theorem But.below {g B : Nat} {w w' : World} (h : But g w w') (hg : B ≤ g) (hB : B ≤ w.heap.size) : Below B w w' := ⟨h.os, h.tape, h.output, h.size, fun k hk => h.block k (by omega) (by omega)⟩
theorem But.setCell {g : Nat} {a w : World} (h : But g a w) (i : Nat) (u : Value) : But g a (w.setCell ⟨g, i, none⟩ u) :=
  h.trans ⟨rfl, rfl, rfl, by simp [World.setCell], fun k hk hn => heap_setCell_other _ _ _ _ (by show k ≠ g; exact hn)⟩
theorem But.alloc {g : Nat} {a w : World} (h : But g a w) (o : Obj) : But g a (w.alloc o) := h.trans (But.of_below (keep_alloc w o))
theorem But.drew {g : Nat} {a w : World} (h : But g a w) : But g a w.drew := h.trans ⟨rfl, rfl, rfl, Nat.le_refl _, fun _ _ _ => rfl⟩
theorem But.drewN {g : Nat} {a w : World} (h : But g a w) (n : Nat) : But g a (w.drewN n) := h.trans ⟨rfl, rfl, rfl, Nat.le_refl _, fun _ _ _ => rfl⟩

/-- the numbers l lie in block g, which has no other cell -/
def Lies (k : IntKind) (t : TypeId) (w : World) (g : Nat) (l : List Nat) : Prop := w.heap[g]? = some (.cells (arr k l) t (0, 0))
theorem Lies.lt {k : IntKind} {t : TypeId} {w : World} {g : Nat} {l : List Nat} (h : Lies k t w g l) : g < w.heap.size := by
  unfold Lies at h
  rcases Nat.lt_or_ge g w.heap.size with hlt | hge
  · exact hlt
  · rw [Array.getElem?_eq_none hge] at h; cases h
theorem Lies.cell {k : IntKind} {t : TypeId} {w : World} {g : Nat} {l : List Nat} (h : Lies k t w g l) {i : Nat} (hi : i < l.length) : w.cell? ⟨g, i, none⟩ = some (.int k (el l i)) := by
  rw [cell_of_row w g i _ t (0, 0) h, arr_get k l i hi]
theorem Lies.frozen {k : IntKind} {t : TypeId} {w : World} {g : Nat} {l : List Nat} (h : Lies k t w g l) (i : Nat) : w.frozen? ⟨g, i, none⟩ = false := by
  have h' : w.heap[g]? = some (.cells (arr k l) t (0, 0)) := h
  simp [World.frozen?, h']
theorem Lies.new (k : IntKind) (t : TypeId) (w : World) (l : List Nat) : Lies k t (w.alloc (.cells (arr k l) t)) w.heap.size l := heap_alloc_last w _
theorem Lies.below {k : IntKind} {t : TypeId} {w w' : World} {g : Nat} {l : List Nat} (h : Lies k t w g l) (hb : Below w.heap.size w w') : Lies k t w' g l := (hb.block g h.lt).trans h
theorem Lies.but {k : IntKind} {t : TypeId} {w w' : World} {g q : Nat} {l : List Nat} (h : Lies k t w g l) (hb : But q w w') (hn : g ≠ q) : Lies k t w' g l := (hb.block g h.lt hn).trans h
theorem Lies.drewN {k : IntKind} {t : TypeId} {w : World} {g : Nat} {l : List Nat} (h : Lies k t w g l) (n : Nat) : Lies k t (w.drewN n) g l := h
theorem Lies.alloc {k : IntKind} {t : TypeId} {w : World} {g : Nat} {l : List Nat} (h : Lies k t w g l) (o : Obj) : Lies k t (w.alloc o) g l := h.below (keep_alloc w o)
theorem arr_set (k : IntKind) (l : List Nat) (i x : Nat) : (arr k l).setIfInBounds i (.int k (x : Int)) = arr k (l.set i x) := by
  unfold arr; rw [← vals_set]; simp
theorem Lies.set {k : IntKind} {t : TypeId} {w : World} {g : Nat} {l : List Nat} (h : Lies k t w g l) (i x : Nat) : Lies k t (w.setCell ⟨g, i, none⟩ (.int k (x : Int))) g (l.set i x) := by
  unfold Lies
  rw [setCell_eq_setRow w g i _ t (0, 0) _ h, arr_set]
  exact setRow_heap w g _ _ t _ h
theorem Lies.load {k : IntKind} {t : TypeId} {w : World} {g : Nat} {l : List Nat} (h : Lies k t w g l) {P : Program} (ty : TypeId) (d : TypeDesc) (hu : P.underlying ty = some d) (hd : d.isRow = true) (hi : (P.info? ty).map (·.size) = some l.length) :
    (Instr.loadAt ty (.pointer (some ⟨g, 0, none⟩))).run P w = .ok (.agg (arr k l)) w :=
  run_loadAt_mid w g 0 ty (vals k l) d (fun j v hv => by
    have hj : j < l.length := by have := (List.getElem?_eq_some_iff.1 hv).1; rwa [vals_length] at this
    rw [Nat.zero_add, h.cell hj, ← vals_get k l j hj]; exact hv) hu hd (by rw [vals_length]; exact hi)
/-- an array's element -/
theorem index_arr {P : Program} (t e : TypeId) (n : Nat) (k : IntKind) (l : List Nat) (hu : P.underlying t = some (.array n e)) (he : P.underlying e = some (.int k)) (hs : (P.info? e).map (·.size) = some 1) (hn : l.length = n) (i : Nat) (hi : i < n) (w : World) :
    (Instr.index t (.agg (arr k l)) (.int .i64 (i : Int))).run P w = .ok (.int k (el l i)) w := by
  cases hq : P.info? e with
  | none => simp [hq] at hs
  | some x =>
    have hx : x.size = 1 := by simpa [hq] using hs
    have ha := arr_get k l i (by omega)
    have hagg : (isAgg e).run P w = .ok false w := by
      unfold isAgg
      rw [Sem.run_bind, run_underlying he w]; rfl
    simp [Instr.index, asIntOf, Sem.run_bind, run_underlying hu w, sizeOf, typeInfo, hq, hx, part, hagg, ha, show (i : Int) < (n : Int) by omega]
    intro hh; omega
theorem arr8 (k : IntKind) (l : List Nat) (h : l.length = 8) : arr k l = #[.int k (el l 0), .int k (el l 1), .int k (el l 2), .int k (el l 3), .int k (el l 4), .int k (el l 5), .int k (el l 6), .int k (el l 7)] := by
  match l, h with
  | [a, b, c, d, e, f, g, i], _ => rfl
/-- a part of a text -/
theorem Row.mid {k : IntKind} {m : Nat} {w : World} {bl off n cap : Nat} {l : List Nat} (h : Row k m w (.slice (some ⟨bl, off, none⟩) n cap) l) {i j : Nat} (hij : i ≤ j) (hj : j ≤ l.length) :
    Row k m w (.slice (some ⟨bl, off + i, none⟩) (j - i) (cap - i)) ((l.drop i).take (j - i)) := by
  obtain ⟨a', cap', he, h1, h2, h3, h4⟩ := h
  simp at he
  obtain ⟨rfl, rfl, rfl⟩ := he
  have hlen : ((l.drop i).take (j - i)).length = j - i := by simp; omega
  refine ⟨_, _, by rw [hlen], by omega, by omega, fun hp => ?_, fun x hx => h4 x (List.mem_of_mem_drop (List.mem_of_mem_take hx))⟩
  rw [hlen] at hp
  obtain ⟨b', o', e, hc⟩ := h3 (by omega)
  simp at e
  obtain ⟨rfl, rfl⟩ := e
  refine ⟨bl, off + i, rfl, fun x hx => ?_⟩
  rw [hlen] at hx
  have c := hc (i + x) (by omega)
  rw [Nat.add_assoc, c]
  congr 2
  rw [el_at (by omega), el_at (by rw [hlen]; omega), List.getElem_take, List.getElem_drop]
theorem zero_arr {P : Program} {t : TypeId} {k : IntKind} {n : Nat} (h : (P.info? t).map (fun i => (i.zero, i.size)) = some (some (.agg (arr k (List.replicate n 0))), n)) : ∀ w, (zeroValue t).run P w = .ok (.agg (arr k (List.replicate n 0))) w := (zero_of_info h).1
theorem wpList_store_row {P : Program} {ops : Array Oper} {rest : List Oper} {o : Oper} {a : Act} {w : World} {Q : Exit → Act → World → Prop} (hgd : o.guard = none) (ty : TypeId) (x y : Operand) (ho : o.op = .store ty x y)
    (g : Nat) (cells : Array Value) (hx : a.eval x = .pointer (some ⟨g, 0, none⟩)) (hy : a.eval y = .agg cells)
    (t : TypeId) (old : Array Value) (hg : w.heap[g]? = some (.cells old t (0, 0))) (hi : (P.info? ty).map (·.size) = some cells.size)
    (hold : old.size = cells.size) (h1 : cells.all (·.oneCell') = true)
    (h : wpList P ops Q rest (a.put o.dst undef) (w.setRow g cells)) : wpList P ops Q (o :: rest) a w :=
  wpList_plain hgd fun _ hK => wp_store_row ty x y ho g cells hx hy t old hg hi hold h1 (hK _ _ h)
theorem Lies.row {k : IntKind} {t : TypeId} {w : World} {g : Nat} {l l' : List Nat} (h : Lies k t w g l) : Lies k t (w.setRow g (arr k l')) g l' := setRow_heap w g _ _ t _ h
theorem But.setRow {g : Nat} {a w : World} (h : But g a w) (c : Array Value) : But g a (w.setRow g c) :=
  h.trans ⟨rfl, rfl, rfl, by simp [World.setRow], fun k hk hn => setRow_other w g k c hn⟩
/-- the numbers l lie in block g, but for what stands at one place -/
def LiesX (k : IntKind) (t : TypeId) (w : World) (g : Nat) (l : List Nat) (T : Nat) : Prop := ∃ v, w.heap[g]? = some (.cells ((arr k l).setIfInBounds T v) t (0, 0))
theorem Lies.toX {k : IntKind} {t : TypeId} {w : World} {g : Nat} {l : List Nat} (h : Lies k t w g l) {T : Nat} (hT : T < l.length) : LiesX k t w g l T := by
  refine ⟨.int k (el l T), ?_⟩
  unfold Lies at h
  rw [h, arr_set]
  congr 3
  apply List.ext_getElem?
  intro i
  rw [List.getElem?_set]
  by_cases hi : T = i
  · subst hi; rw [if_pos rfl, if_pos hT, el_at hT, List.getElem?_eq_getElem hT]
  · rw [if_neg hi]
theorem LiesX.lt {k : IntKind} {t : TypeId} {w : World} {g : Nat} {l : List Nat} {T : Nat} (h : LiesX k t w g l T) : g < w.heap.size := by
  obtain ⟨v, h⟩ := h
  rcases Nat.lt_or_ge g w.heap.size with hlt | hge
  · exact hlt
  · rw [Array.getElem?_eq_none hge] at h; cases h
theorem LiesX.cell {k : IntKind} {t : TypeId} {w : World} {g : Nat} {l : List Nat} {T : Nat} (h : LiesX k t w g l T) {i : Nat} (hi : i < l.length) (hn : i ≠ T) : w.cell? ⟨g, i, none⟩ = some (.int k (el l i)) := by
  obtain ⟨v, h⟩ := h
  rw [cell_of_row w g i _ t (0, 0) h, Array.getElem?_setIfInBounds, if_neg (fun e => hn e.symm), arr_get k l i hi]
/-- what a cell holds -/
def rdc (w : World) (p : Addr) : Value := (w.cell? p).getD undef
theorem LiesX.here {k : IntKind} {t : TypeId} {w : World} {g : Nat} {l : List Nat} {T : Nat} (h : LiesX k t w g l T) (hT : T < l.length) : w.cell? ⟨g, T, none⟩ = some (rdc w ⟨g, T, none⟩) := by
  unfold rdc
  obtain ⟨v, h⟩ := h
  have e : w.cell? ⟨g, T, none⟩ = some v := by
    rw [cell_of_row w g T _ t (0, 0) h, Array.getElem?_setIfInBounds, if_pos rfl, if_pos (by rw [arr_size]; exact hT)]
  rw [e]; rfl
theorem LiesX.frozen {k : IntKind} {t : TypeId} {w : World} {g : Nat} {l : List Nat} {T : Nat} (h : LiesX k t w g l T) (i : Nat) : w.frozen? ⟨g, i, none⟩ = false := by
  obtain ⟨v, h⟩ := h
  simp [World.frozen?, h]
theorem LiesX.below {k : IntKind} {t : TypeId} {w w' : World} {g : Nat} {l : List Nat} {T : Nat} (h : LiesX k t w g l T) (hb : Below w.heap.size w w') : LiesX k t w' g l T := by
  have hl := h.lt
  obtain ⟨v, h⟩ := h
  exact ⟨v, (hb.block g hl).trans h⟩
theorem LiesX.set {k : IntKind} {t : TypeId} {w : World} {g : Nat} {l : List Nat} {T : Nat} (h : LiesX k t w g l T) (v : Value) : LiesX k t (w.setCell ⟨g, T, none⟩ v) g l T := by
  obtain ⟨u, h⟩ := h
  refine ⟨v, ?_⟩
  rw [setCell_eq_setRow w g T _ t (0, 0) _ h]
  have := setRow_heap w g _ (((arr k l).setIfInBounds T u).setIfInBounds T v) t _ h
  rw [this]
  simp
theorem But.cell {g : Nat} {w w' : World} {p : Addr} {v : Value} (h : w.cell? p = some v) (hb : But g w w') (hn : p.block ≠ g) : w'.cell? p = some v := by
  have hl := World.block_lt_of_cell? w _ h
  rw [World.cell?_of_block (hb.block _ hl hn)]; exact h
theorem keep_cell {w w' : World} {p : Addr} {v : Value} (h : w.cell? p = some v) (hb : Below w.heap.size w w') : w'.cell? p = some v := by
  rw [hb.cell (p := p) (World.block_lt_of_cell? w _ h)]; exact h
end Go.Proofs.Ytjeofkemfpdieaa

/- Contracts of the small helpers: room, isWidth, holds, such, lowest, packedSize. -/
namespace Go.Proofs.Ytjeofkemfpdieaa
open Go.RowKit
set_option linter.unusedVariables false

/-- may so many numbers of so many bits be in a text of so many bytes? -/
def okB (len : Nat) (w c : Int) : Bool := decide (1 ≤ w ∧ w ≤ 24 ∧ 0 ≤ c ∧ c ≤ (len : Int) * 8 / w)

theorem okB_of {len : Nat} {w c : Int} (h : okB len w c = true) : ∃ W C : Nat, w = W ∧ c = C ∧ 1 ≤ W ∧ W ≤ 24 ∧ C * W ≤ 8 * len := by
  unfold okB at h
  have h := of_decide_eq_true h
  obtain ⟨W, rfl⟩ := Int.eq_ofNat_of_zero_le (show 0 ≤ w by omega)
  obtain ⟨C, rfl⟩ := Int.eq_ofNat_of_zero_le h.2.2.1
  refine ⟨W, C, rfl, rfl, by omega, by omega, ?_⟩
  have h4 := h.2.2.2
  have h5 : C ≤ len * 8 / W := by
    have : ((len : Int) * 8 / (W : Int)) = ((len * 8 / W : Nat) : Int) := by simp
    omega
  have h6 : C * W ≤ len * 8 / W * W := Nat.mul_le_mul_right W h5
  have h7 : len * 8 / W * W ≤ len * 8 := Nat.div_mul_le_self _ _
  omega
theorem okB_mk {len W C : Nat} (h1 : 1 ≤ W) (h2 : W ≤ 24) (h : C * W ≤ 8 * len) : okB len (W : Int) (C : Int) = true := by
  unfold okB
  refine decide_eq_true ⟨by omega, by omega, by omega, ?_⟩
  have : ((len : Int) * 8 / (W : Int)) = ((len * 8 / W : Nat) : Int) := by simp
  rw [this]
  have h3 : C ≤ len * 8 / W := (Nat.le_div_iff_mul_le (by omega)).2 (by omega)
  omega

theorem mask_and (n W : Nat) (hn : n < 4294967296) (hW : W ≤ 24) : bits BinOp.and IntKind.u32 (n : Int) ((2 ^ W - 1) % 4294967296) = ((n % 2 ^ W : Nat) : Int) := by
  have h2 : 2 ^ W ≤ 2 ^ 24 := Nat.pow_le_pow_right (by decide) hW
  have h3 : (2 : Nat) ^ 24 = 16777216 := by decide
  have h4 := pp W
  have e : (((2 : Int) ^ W - 1) % 4294967296) = ((2 ^ W - 1 : Nat) : Int) := by
    have e1 : ((2 : Int) ^ W) = ((2 ^ W : Nat) : Int) := by simp
    rw [e1]
    omega
  rw [e, u32_and_nat n _ hn (by omega), Nat.and_two_pow_sub_one_eq_mod]

set_option maxHeartbeats 400000 in
theorem room8_any (c : Nat) (w : World) (hc : c ≤ 140737488355328) :
    Calls Try.prog 43 #[.int .i64 c] w fun e w' => ∃ v, e = .returned v ∧ Own 5 .u8 256 w' w.heap.size v [] ∧ Below w.heap.size w w' := by
  obtain ⟨i0, hi, hz0, hz1, hz2⟩ := info_parts Try.info5
  by_cases h0 : c = 0
  · subst h0
    go_enter Try.func43, Try.ntmps43
    go_wp2
    go_ret
    exact ⟨_, rfl, ⟨World.ownsRow_nil _ _ _ _, fun x hx => by simp at hx⟩, Below.refl _ _⟩
  · have hne : ((c : Int) == 0) = false := by simp; omega
    go_enter Try.func43, Try.ntmps43
    go_wp2_with (first | (at_make; refine wpList_make_own _ rfl _ _ 22 rfl w.heap.size 5 i0 (.int .u8 0) 1 Try.underlying22 hi hz0 hz1 _ _ _ c rfl rfl rfl (by rw [hz2]; omega) (by unfold maxLen; omega) (Nat.le_refl _) ?_; intro w1 hown hgrow) | go_in)
    go_ret
    exact ⟨_, rfl, ⟨hown, fun x hx => by simp at hx⟩, (Below.refl w.heap.size w).grown hgrow (Nat.le_refl _) (fun k h => by cases h)⟩

end Go.Proofs.Ytjeofkemfpdieaa

/- Contract of bits.Digits. -/
namespace Go.Proofs.Ytjeofkemfpdieaa
open Go.RowKit
set_option linter.unusedVariables false

/-- what Digits tells -/
def digS (l : List Nat) (x c : Int) : List Nat := if okB l.length x c = true then digL l x.toNat c.toNat else []

theorem dig_nil (e : TypeId) (k : IntKind) (m : Nat) (w : World) (B : Nat) : Own e k m w B (.slice none 0 0) [] := ⟨World.ownsRow_nil _ _ _ _, fun x hx => by simp at hx⟩

theorem step_left (V x : Nat) (hx : x < 256) : bits .or .u32 (IntKind.u32.wrap ((V % 2 ^ 32 : Nat) * 256 : Int)) (x : Int) = (((V * 256 + x) % 2 ^ 32 : Nat) : Int) := by
  have e : IntKind.u32.wrap (((V % 2 ^ 32 : Nat) : Int) * 256) = ((V % 2 ^ 32 * 256 % 4294967296 : Nat) : Int) := by
    rw [IntKind.wrap_u32']; omega
  rw [e, u32_or_nat _ _ (Nat.mod_lt _ (by decide)) (by omega), nat_join 8 _ _ (by omega) (by omega)]
  congr 1
  omega

end Go.Proofs.Ytjeofkemfpdieaa

/- A slice of texts, and what it reads as. -/
namespace Go.Proofs.Ytjeofkemfpdieaa
open Go.RowKit
set_option linter.unusedVariables false

/-- the text at a place of a list of texts -/
def tx (ls : List (List Nat)) (i : Nat) : List Nat := ls[i]?.getD []

/-- a slice without an address is nil -/
def Tidy (v : Value) : Prop := ∀ n c, v = .slice none n c → n = 0 ∧ c = 0

/-- v is a slice of texts, which are ls -/
def Rows2 (w : World) (v : Value) (ls : List (List Nat)) : Prop :=
  ∃ a cap, v = .slice a ls.length cap ∧ ls.length ≤ cap ∧ cap ≤ maxLen ∧
    (0 < ls.length → ∃ b off, a = some ⟨b, off, none⟩ ∧ ∀ i, i < ls.length → ∃ u, w.cell? ⟨b, off + i, none⟩ = some u ∧ Row .u8 256 w u (tx ls i) ∧ Tidy u)

theorem Rows2.below {w w' : World} {v : Value} {ls : List (List Nat)} (h : Rows2 w v ls) (hb : Below w.heap.size w w') : Rows2 w' v ls := by
  obtain ⟨a, cap, rfl, h1, h2, h3⟩ := h
  refine ⟨a, cap, rfl, h1, h2, fun hl => ?_⟩
  obtain ⟨b, off, rfl, hc⟩ := h3 hl
  refine ⟨b, off, rfl, fun i hi => ?_⟩
  obtain ⟨u, hu, hr, ht⟩ := hc i hi
  have h5 := World.block_lt_of_cell? w _ hu
  exact ⟨u, by rw [hb.cell (p := ⟨b, off + i, none⟩) h5]; exact hu, hr.below hb, ht⟩

/-- how many bytes the first texts have -/
def sumL (ls : List (List Nat)) : Nat := ls.flatten.length

theorem take_tx {ls : List (List Nat)} {k : Nat} (h : k < ls.length) : ls.take (k + 1) = ls.take k ++ [tx ls k] := by
  rw [List.take_succ_eq_append_getElem h]; unfold tx; rw [List.getElem?_eq_getElem h]; rfl
theorem flat_succ {ls : List (List Nat)} {k : Nat} (h : k < ls.length) : (ls.take (k + 1)).flatten = (ls.take k).flatten ++ tx ls k := by
  rw [take_tx h]; simp
theorem flat_le (ls : List (List Nat)) (k : Nat) : (ls.take k).flatten.length ≤ ls.flatten.length := by
  have : ls.flatten = (ls.take k).flatten ++ (ls.drop k).flatten := by rw [← List.flatten_append, List.take_append_drop]
  rw [this]; simp

theorem cells_news {w : World} {k : IntKind} {x : Addr} {l : List Nat} (h : Cells k w (some x) l) : ∀ j u, (vals k l)[j]? = some u → w.cell? (x.add j) = some u := by
  intro j u hj
  have hl : j < l.length := by
    have := (List.getElem?_eq_some_iff.1 hj).1
    rwa [vals_length] at this
  obtain ⟨b, off, he, hc⟩ := h (by omega)
  obtain rfl := Option.some.inj he
  rw [Addr.add_lit, hc j hl, ← vals_get k l j hl]
  exact hj

theorem under_flat (ls : List (List Nat)) (h : ∀ i, i < ls.length → Under 256 (tx ls i)) : Under 256 ls.flatten := by
  intro x hx
  obtain ⟨l, hl, hxl⟩ := List.mem_flatten.1 hx
  obtain ⟨i, hi, rfl⟩ := List.getElem_of_mem hl
  have := h i hi
  unfold tx at this
  rw [List.getElem?_eq_getElem hi] at this
  exact this x hxl

theorem Rows2.under {w : World} {v : Value} {ls : List (List Nat)} (h : Rows2 w v ls) : Under 256 ls.flatten := by
  obtain ⟨a, cap, rfl, h1, h2, h3⟩ := h
  apply under_flat
  intro i hi
  obtain ⟨b, off, rfl, hc⟩ := h3 (by omega)
  obtain ⟨u, _, ⟨_, _, _, _, _, _, h6⟩, _⟩ := hc i hi
  exact h6
end Go.Proofs.Ytjeofkemfpdieaa

/- Contract of apostilleref01.Join. -/
namespace Go.Proofs.Ytjeofkemfpdieaa
open Go.RowKit
set_option linter.unusedVariables false

set_option maxHeartbeats 2000000 in
theorem rjoin_any (va : Value) (ls : List (List Nat)) (w : World) (ha : Rows2 w va ls) (hs : ls.flatten.length ≤ 2000000) :
    Calls Try.prog 19 #[va] w fun e w' => ∃ v, e = .returned v ∧ Own 5 .u8 256 w' w.heap.size v ls.flatten ∧ Below w.heap.size w w' := by
  have hu := ha.under
  have ha' := ha
  obtain ⟨a, ca, rfl, ha1, ha2, ha3⟩ := ha
  unfold maxLen at ha2
  obtain ⟨i0, hi, hz0, hz1, hz2⟩ := info_parts Try.info5
  go_enter Try.func19, Try.ntmps19
  go_wp2
  go_loopw [3, 4] (fun v i wr => ∃ k : Nat, k ≤ ls.length ∧ i = .int .i64 k ∧ wr.ownsRow w.heap.size 5 1 v (ls.take k).flatten.length (vals .u8 (ls.take k).flatten) ∧ Below w.heap.size w wr) (fun _ i _ => ls.length - (intOf i).toNat)
  case atStart => exact ⟨0, Nat.zero_le _, rfl, World.ownsRow_nil _ _ _ _, Below.refl _ _⟩
  case round =>
    obtain ⟨k, hk, rfl, how, hbr⟩ := hrel
    by_cases hlt : k < ls.length
    · have hf := flat_succ hlt
      have hle := flat_le ls (k + 1)
      rw [hf, List.length_append] at hle
      obtain ⟨a2, ca2, he, _, _, h3⟩ := ha'.below hbr
      obtain ⟨rfl, rfl⟩ : a = a2 ∧ ca = ca2 := by simpa using he
      obtain ⟨b, off, rfl, hc⟩ := h3 (by omega)
      obtain ⟨u, c1, ⟨au, cu, rfl, hu1, hu2, hu3, hu4⟩, htidy⟩ := hc k hlt
      clear hc h3 he ha3
      have hsz := hbr.size
      have HF := hide hf
      clear hf
      generalize hM : (ls.take k).flatten = M at *
      have HM := hide hM
      clear hM
      generalize hT : tx ls k = T at *
      have HT := hide hT
      clear hT
      cases au with
      | none =>
        obtain ⟨h0, rfl⟩ := htidy _ _ rfl
        have hT0 : T = [] := List.eq_nil_of_length_eq_zero h0
        subst hT0
        go_wp2_with (first | (at_builtin; refine wpList_append_own_none rfl _ _ 22 rfl w.heap.size 5 i0 1 Try.underlying22 hi _ _ _ rfl how rfl ?_) | fail)
        go_roundw
        case rel => exact ⟨k + 1, by omega, by go_num, by rw [HF.out, List.append_nil]; exact how, hbr⟩
        case measure => simp [intOf]; omega
      | some x =>
        go_wp2_with (first | (at_builtin; refine wpList_append_own _ rfl _ _ 22 rfl w.heap.size 5 i0 (.int .u8 0) 1 1 Try.underlying22 hi hz0 hz1 hz2 rfl (by decide) _ _ _ rfl how x T.length cu (vals .u8 T) rfl (by rw [vals_length, Nat.mul_one]) (cells_news hu3) (vals_one _ _) (by unfold maxLen; omega) (by omega) hsz ?_; intro v' w3 how' hgrow _) | fail)
        have hb3 := below_append' hbr hsz how hgrow
        clear how hgrow hbr
        go_roundw
        case rel => exact ⟨k + 1, by omega, by go_num, by rw [HF.out, List.length_append, vals_append]; exact how', hb3⟩
        case measure => simp [intOf]; omega
    · go_wp2
      go_ret
      rw [List.take_of_length_le (by omega)] at how
      exact ⟨_, rfl, ⟨how, hu⟩, hbr⟩
end Go.Proofs.Ytjeofkemfpdieaa

/- Contracts of bits.Join, apostilleref01.Join. -/
namespace Go.Proofs.Ytjeofkemfpdieaa
open Go.RowKit
set_option linter.unusedVariables false

set_option maxHeartbeats 1000000 in
theorem join_any (va : Value) (ls : List (List Nat)) (w : World) (ha : Rows2 w va ls) (hs : ls.flatten.length ≤ 1000000) :
    Calls Try.prog 28 #[va] w fun e w' => ∃ v, e = .returned v ∧ Own 5 .u8 256 w' w.heap.size v ls.flatten ∧ Below w.heap.size w w' := by
  have hu := ha.under
  have ha' := ha
  obtain ⟨a, ca, rfl, ha1, ha2, ha3⟩ := ha
  unfold maxLen at ha2
  obtain ⟨i0, hi, hz0, hz1, hz2⟩ := info_parts Try.info5
  go_enter Try.func28, Try.ntmps28
  go_wp2
  go_loop [3, 11] (fun s i => ∃ k : Nat, k ≤ ls.length ∧ i = .int .i64 k ∧ s = .int .i64 ((ls.take k).flatten.length : Nat)) (fun _ i => ls.length - (intOf i).toNat)
  case atStart => exact ⟨0, Nat.zero_le _, rfl, rfl⟩
  case round =>
    obtain ⟨k, hk, rfl, rfl⟩ := hrel
    by_cases hlt : k < ls.length
    · have hf := flat_succ hlt
      have hle := flat_le ls (k + 1)
      rw [hf, List.length_append] at hle
      obtain ⟨b, off, rfl, hc⟩ := ha3 (by omega)
      obtain ⟨u, c1, ⟨au, cu, rfl, hu1, hu2, hu3, hu4⟩, htidy⟩ := hc k hlt
      clear hc ha3
      have HF := hide hf
      clear hf
      generalize hM : (ls.take k).flatten.length = M at *
      have HM := hide hM
      clear hM
      generalize hT : (tx ls k).length = T at *
      have HT := hide hT
      clear hT
      go_wp2
      go_round
      case rel => exact ⟨k + 1, by omega, by go_num, vint (by rw [HF.out, List.length_append, HM.out, HT.out]; simp)⟩
      case measure => simp [intOf]; omega
    · have hkl : k = ls.length := by omega
      subst hkl
      rw [List.take_of_length_le (Nat.le_refl _)]
      generalize hM : ls.flatten.length = M at *
      have HM := hide hM
      clear hM
      go_wp2_with fail
      refine (room8_any M _ (by omega)).mono ?_
      rintro e w1 ⟨v, rfl, ⟨ho, _⟩, hb⟩
      go_wp2
      go_loopw [6, 24] (fun v i wr => ∃ k : Nat, k ≤ ls.length ∧ i = .int .i64 k ∧ wr.ownsRow w.heap.size 5 1 v (ls.take k).flatten.length (vals .u8 (ls.take k).flatten) ∧ Below w.heap.size w wr) (fun _ i _ => ls.length - (intOf i).toNat)
      case atStart => exact ⟨0, Nat.zero_le _, rfl, ho, hb⟩
      case round =>
        obtain ⟨k, hk, rfl, how, hbr⟩ := hrel
        clear ho hb
        by_cases hlt : k < ls.length
        · have hf := flat_succ hlt
          have hle := flat_le ls (k + 1)
          rw [hf, List.length_append, HM.out] at hle
          obtain ⟨a2, ca2, he, _, _, h3⟩ := ha'.below hbr
          obtain ⟨rfl, rfl⟩ : a = a2 ∧ ca = ca2 := by simpa using he
          obtain ⟨b, off, rfl, hc⟩ := h3 (by omega)
          obtain ⟨u, c1, ⟨au, cu, rfl, hu1, hu2, hu3, hu4⟩, htidy⟩ := hc k hlt
          clear hc h3 he ha3
          have hsz := hbr.size
          have HF := hide hf
          clear hf
          generalize hM2 : (ls.take k).flatten = M2 at *
          have HM2 := hide hM2
          clear hM2
          generalize hT : tx ls k = T at *
          have HT := hide hT
          clear hT
          cases au with
          | none =>
            obtain ⟨h0, rfl⟩ := htidy _ _ rfl
            have hT0 : T = [] := List.eq_nil_of_length_eq_zero h0
            subst hT0
            go_wp2_with (first | (at_builtin; refine wpList_append_own_none rfl _ _ 22 rfl w.heap.size 5 i0 1 Try.underlying22 hi _ _ _ rfl how rfl ?_) | fail)
            go_roundw
            case rel => exact ⟨k + 1, by omega, by go_num, by rw [HF.out, List.append_nil]; exact how, hbr⟩
            case measure => simp [intOf]; omega
          | some x =>
            go_wp2_with (first | (at_builtin; refine wpList_append_own _ rfl _ _ 22 rfl w.heap.size 5 i0 (.int .u8 0) 1 1 Try.underlying22 hi hz0 hz1 hz2 rfl (by decide) _ _ _ rfl how x T.length cu (vals .u8 T) rfl (by rw [vals_length, Nat.mul_one]) (cells_news hu3) (vals_one _ _) (by unfold maxLen; omega) (by omega) hsz ?_; intro v' w3 how' hgrow _) | fail)
            have hb3 := below_append' hbr hsz how hgrow
            clear how hgrow hbr
            go_roundw
            case rel => exact ⟨k + 1, by omega, by go_num, by rw [HF.out, List.length_append, vals_append]; exact how', hb3⟩
            case measure => simp [intOf]; omega
        · go_wp2
          go_ret
          rw [List.take_of_length_le (by omega)] at how
          exact ⟨_, rfl, ⟨how, hu⟩, hbr⟩
end Go.Proofs.Ytjeofkemfpdieaa
