/- The row predicate that all contracts of this seat speak of, and small facts on it. -/
import Derived.Test.YtnjiilnkobhibaaProg
import Derived.WalkKit
import Derived.WalkLawsBesides
import Derived.WalkSpells
import Derived.Deep.QuietTactic
import Derived.BigQuiet
import Derived.OpenShut
import Derived.Test.YtnjiilnkobhibaaRows
import Derived.ProofKit
import Derived.ShutString
import Derived.ChangeOld
import Derived.Below
namespace Go.Proofs.Ytnjiilnkobhibaa
open Go.RowKit
set_option linter.unusedVariables false

/-- the element of a list at a place, under a name of its own -/
def el (l : List Nat) (i : Nat) : Nat := l[i]?.getD 0

/-- all numbers of a list are below a bound -/
def Under (m : Nat) (l : List Nat) : Prop := ∀ x ∈ l, x < m

theorem el_lt {m : Nat} {l : List Nat} (h : Under m l) (hm : 0 < m) (i : Nat) : el l i < m := by
  unfold el
  by_cases hi : i < l.length
  · rw [List.getElem?_eq_getElem hi]; exact h _ (List.getElem_mem hi)
  · rw [List.getElem?_eq_none (by omega)]; exact hm

theorem el_at {l : List Nat} {i : Nat} (h : i < l.length) : el l i = l[i] := by
  unfold el; rw [List.getElem?_eq_getElem h]; rfl

/-- the cells of a slice of numbers -/
def Cells (k : IntKind) (w : World) (a : Option Addr) (l : List Nat) : Prop :=
  0 < l.length → ∃ b off, a = some ⟨b, off, none⟩ ∧ ∀ i, i < l.length → w.cell? ⟨b, off + i, none⟩ = some (.int k (el l i))

/-- v is a slice whose elements, in w, are the numbers l, each below m -/
def Row (k : IntKind) (m : Nat) (w : World) (v : Value) (l : List Nat) : Prop :=
  ∃ a cap, v = .slice a l.length cap ∧ l.length ≤ cap ∧ cap ≤ maxLen ∧ Cells k w a l ∧ Under m l

theorem Cells.below {k : IntKind} {w w' : World} {a : Option Addr} {l : List Nat} {B : Nat} (h : Cells k w a l) (hb : Below B w w') (hB : w.heap.size ≤ B) : Cells k w' a l := by
  intro hl
  obtain ⟨b, off, rfl, hc⟩ := h hl
  refine ⟨b, off, rfl, fun i hi => ?_⟩
  have h1 := hc i hi
  have h2 := World.block_lt_of_cell? w _ h1
  rw [hb.cell (p := ⟨b, off + i, none⟩) (by simp at h2 ⊢; omega)]
  exact h1

theorem Row.below {k : IntKind} {m : Nat} {w w' : World} {v : Value} {l : List Nat} (h : Row k m w v l) (hb : Below w.heap.size w w') : Row k m w' v l := by
  obtain ⟨a, cap, rfl, h1, h2, h3, h4⟩ := h
  exact ⟨a, cap, rfl, h1, h2, h3.below hb (Nat.le_refl _), h4⟩

theorem Row.drewN {k : IntKind} {m : Nat} {w : World} {v : Value} {l : List Nat} (h : Row k m w v l) (n : Nat) : Row k m (w.drewN n) v l := by
  obtain ⟨a, cap, rfl, h1, h2, h3, h4⟩ := h
  refine ⟨a, cap, rfl, h1, h2, fun hl => ?_, h4⟩
  obtain ⟨b, off, rfl, hc⟩ := h3 hl
  exact ⟨b, off, rfl, fun i hi => by simpa using hc i hi⟩

theorem Row.nil (k : IntKind) (m : Nat) (w : World) : Row k m w (.slice none 0 0) [] :=
  ⟨none, 0, rfl, Nat.le_refl _, Nat.zero_le _, fun h => by simp at h, fun x hx => by simp at hx⟩

theorem hide {p : Prop} (h : p) : Hid p := h
theorem vint {k : IntKind} {a b : Int} (h : a = b) : Value.int k a = Value.int k b := by rw [h]
theorem ret_bool {a b : Bool} (h : a = b) : Ending.returned (.bool a) = .returned (.bool b) := by rw [h]
theorem ret_int {k : IntKind} {a b : Int} (h : a = b) : Ending.returned (.int k a) = .returned (.int k b) := by rw [h]

end Go.Proofs.Ytnjiilnkobhibaa

/- What the laws' frames are told of a slice of integers, and how it is a row. -/
namespace Go.Proofs.Ytnjiilnkobhibaa
open Go.ChangeShapes Go.WideShapes Go.ChangeAt Go.RowKit
set_option linter.unusedVariables false

theorem own : ownKnob Try.prog.godebug = none := by kernel_rfl
theorem laidOut : laidOutB Try.prog = true := by kernel_rfl

/-- a slice of integers that came in: it is nil; or it leads to a row of 'cap' cells, the numbers 'zs' (the first 'len' are its elements, the rest its spare room), each fitting its kind -/
def IsRow (k : IntKind) (w : World) (a : Option Addr) (len cap : Nat) (zs : List Int) : Prop :=
  (a = none ∧ len = 0 ∧ cap = 0 ∧ zs = []) ∨
  ∃ x, a = some x ∧ len ≤ cap ∧ cap ≤ maxLen ∧ zs.length = cap ∧ (∀ i, i < zs.length → w.cell? (x.add i) = some (.int k (zs.getD i 0))) ∧ ∀ n ∈ zs, (Lit.int k n).wf = true

theorem IsRow.row {k : IntKind} {m : Nat} {w : World} {a : Option Addr} {len cap : Nat} {zs : List Int} (h : IsRow k w a len cap zs)
    (hk : ∀ n : Int, (Lit.int k n).wf = true → 0 ≤ n ∧ n < m) : ∃ l : List Nat, l.length = len ∧ Row k m w (.slice a len cap) l := by
  rcases h with ⟨rfl, rfl, rfl, rfl⟩ | ⟨x, rfl, hl, hm, hz, hc, hw⟩
  · exact ⟨[], rfl, Row.nil _ _ _⟩
  · refine ⟨(zs.take len).map Int.toNat, by simp; omega, x, cap, by simp; omega, by simp; omega, hm, ?_, ?_⟩
    · intro hp
      obtain ⟨b, off, spot⟩ := x
      have hp' : 0 < zs.length := by simp at hp; omega
      have h0 := hc 0 hp'
      have hspot : spot = none := by simpa [Addr.add] using World.cell?_spot h0
      subst hspot
      refine ⟨b, off, rfl, fun i hi => ?_⟩
      have hi' : i < len ∧ i < zs.length := by simp at hi; omega
      have h1 := hc i hi'.2
      have e : (zs.getD i 0) = ((el ((zs.take len).map Int.toNat) i : Nat) : Int) := by
        rw [el_at hi]
        have h2 := hk zs[i] (hw _ (List.getElem_mem hi'.2))
        simp [List.getD, List.getElem?_eq_getElem hi'.2]
        omega
      rw [e, Addr.add_lit] at h1
      exact h1
    · intro n hn
      obtain ⟨z, hz1, rfl⟩ := List.mem_map.1 hn
      have := hk z (hw _ (List.mem_of_mem_take hz1))
      omega

theorem Try.bytes5 : Try.prog.bytesOf 5 = 1 := by kernel_rfl
theorem Try.bytes36 : Try.prog.bytesOf 36 = 4 := by kernel_rfl

theorem IsRow.tidy {k : IntKind} {w : World} {a : Option Addr} {len cap : Nat} {zs : List Int} (h : IsRow k w a len cap zs) : ∀ n c, Value.slice a len cap = .slice none n c → n = 0 ∧ c = 0 := by
  intro n c he
  rcases h with ⟨rfl, rfl, rfl, rfl⟩ | ⟨x, rfl, _⟩
  · simp at he; omega
  · simp at he

theorem wf_u8 (n : Int) (h : (Lit.int .u8 n).wf = true) : 0 ≤ n ∧ n < (256 : Nat) := by have := bounds_u8 h; omega
theorem wf_u32 (n : Int) (h : (Lit.int .u32 n).wf = true) : 0 ≤ n ∧ n < (4294967296 : Nat) := by have := bounds_u32 h; omega
theorem wf_u64 (n : Int) (h : (Lit.int .u64 n).wf = true) : 0 ≤ n ∧ n < (18446744073709551616 : Nat) := by have := bounds_u64 h; omega
theorem wf_i64 (n : Int) (h : (Lit.int .i64 n).wf = true) : -9223372036854775808 ≤ n ∧ n ≤ 9223372036854775807 := by have := bounds_i64 h; omega
end Go.Proofs.Ytnjiilnkobhibaa

/- Rows that a call itself has made. -/
namespace Go.Proofs.Ytnjiilnkobhibaa
open Go.RowKit
set_option linter.unusedVariables false

/-- the cells of a list of numbers -/
def vals (k : IntKind) (l : List Nat) : List Value := l.map (fun (x : Nat) => Value.int k (x : Int))

theorem vals_length (k : IntKind) (l : List Nat) : (vals k l).length = l.length := by simp [vals]
theorem vals_append (k : IntKind) (l m : List Nat) : vals k (l ++ m) = vals k l ++ vals k m := by simp [vals]
theorem vals_set (k : IntKind) (l : List Nat) (i x : Nat) : (vals k l).set i (.int k (x : Int)) = vals k (l.set i x) := by simp [vals, List.map_set]
theorem vals_get (k : IntKind) (l : List Nat) (i : Nat) (h : i < l.length) : (vals k l)[i]? = some (.int k (el l i)) := by
  rw [el_at h]; simp [vals, h]
theorem vals_one (k : IntKind) (l : List Nat) : ∀ u ∈ vals k l, u.oneCell' = true := by
  intro u hu
  obtain ⟨_, _, rfl⟩ := List.mem_map.1 hu
  rfl

/-- v is a slice of the call's own (a row from block B on), whose elements are l, each below m -/
def Own (e : TypeId) (k : IntKind) (m : Nat) (w : World) (B : Nat) (v : Value) (l : List Nat) : Prop :=
  w.ownsRow B e 1 v l.length (vals k l) ∧ Under m l

theorem Own.row {e : TypeId} {k : IntKind} {m : Nat} {w : World} {B : Nat} {v : Value} {l : List Nat} (h : Own e k m w B v l) : Row k m w v l := by
  obtain ⟨h, hu⟩ := h
  have h' := h
  obtain ⟨h1, ⟨rfl, h2⟩ | ⟨g, cap, cur, rfl, h3, h4, h5, h6, h7, h8⟩⟩ := h
  · exact ⟨none, 0, by rw [h2], by omega, Nat.zero_le _, fun h => by omega, hu⟩
  · refine ⟨_, cap, rfl, h5, h6, fun hl => ⟨g, 0, rfl, fun i hi => ?_⟩, hu⟩
    rw [Nat.zero_add]
    rw [h'.cellAt i (by omega), vals_get k l i hi]

theorem Own.mono {e : TypeId} {k : IntKind} {m : Nat} {w : World} {B B' : Nat} {v : Value} {l : List Nat} (h : Own e k m w B v l) (hB : B' ≤ B) : Own e k m w B' v l := by
  obtain ⟨⟨h1, h2⟩, hu⟩ := h
  refine ⟨⟨h1, ?_⟩, hu⟩
  rcases h2 with h2 | ⟨g, cap, cur, rfl, h3, h4⟩
  · exact .inl h2
  · exact .inr ⟨g, cap, cur, rfl, by omega, h4⟩

theorem Try.info5 : (Try.prog.info? 5).map (fun i => (i.zero, i.size, i.bytes)) = some (some (.int .u8 0), 1, 1) := by kernel_rfl
theorem Try.info36 : (Try.prog.info? 36).map (fun i => (i.zero, i.size, i.bytes)) = some (some (.int .u32 0), 1, 4) := by kernel_rfl

theorem made_u8 (n : Nat) : (madeCells (Value.int .u8 0).cells (n * 1)).toList = vals .u8 (List.replicate n 0) := by
  rw [Nat.mul_one]
  show (madeCells #[Value.int .u8 0] n).toList = _
  rw [toList_madeCells_one]
  simp [vals]

theorem cells_new (w : World) (x : Value) (t : TypeId) : ∀ j u, [x][j]? = some u → (w.alloc (.cells #[x] t)).cell? ((⟨w.heap.size, 0, none⟩ : Addr).add j) = some u := by
  intro j u hj
  match j, hj with
  | 0, hj => simp at hj; subst hj; simp [Addr.add]
theorem one_new (k : IntKind) (x : Int) : ∀ u ∈ [Value.int k x], u.oneCell' = true := by
  intro u hu; simp at hu; subst hu; rfl

/-- an append of one element: below the base nothing has turned -/
theorem below_append {B : Nat} {w wr w' : World} {e : TypeId} {v : Value} {k : Nat} {xs : List Value} (hb : Below B w wr) (hs : B ≤ wr.heap.size) (how : wr.ownsRow B e 1 v k xs) (o : Obj)
    (hg : (wr.alloc o).grownBy w' v.ownBlock) : Below B w w' :=
  (hb.alloc hs o).grown hg (by simp; omega) (fun k h => (how.lt k h).1)
theorem below_append' {B : Nat} {w wr w' : World} {e : TypeId} {v : Value} {k : Nat} {xs : List Value} (hb : Below B w wr) (hs : B ≤ wr.heap.size) (how : wr.ownsRow B e 1 v k xs)
    (hg : wr.grownBy w' v.ownBlock) : Below B w w' :=
  hb.grown hg hs (fun k h => (how.lt k h).1)

theorem Under.replicate (m n : Nat) (h : 0 < m) : Under m (List.replicate n 0) := by
  intro x hx
  have := List.eq_of_mem_replicate hx
  omega

theorem Under.set {m : Nat} {l : List Nat} (h : Under m l) (i x : Nat) (hx : x < m) : Under m (l.set i x) := by
  intro y hy
  rcases List.mem_or_eq_of_mem_set hy with h1 | h1
  · exact h y h1
  · omega
end Go.Proofs.Ytnjiilnkobhibaa

/- A slice of texts, and what it reads as. -/
namespace Go.Proofs.Ytnjiilnkobhibaa
open Go.RowKit
set_option linter.unusedVariables false

/-- the text at a place of a list of texts -/
def tx (ls : List (List Nat)) (i : Nat) : List Nat := ls[i]?.getD []

/-- a slice without an address is nil -/
def Tidy (v : Value) : Prop := ∀ n c, v = .slice none n c → n = 0 ∧ c = 0

/-- v is a slice of texts, which are ls -/
def Rows2 (w : World) (v : Value) (ls : List (List Nat)) : Prop :=
  ∃ a cap, v = .slice a ls.length cap ∧ ls.length ≤ cap ∧ cap ≤ maxLen ∧
    (0 < ls.length → ∃ b off, a = some ⟨b, off, none⟩ ∧ ∀ i, i < ls.length → ∃ u, w.cell? ⟨b, off + i, none⟩ = some u ∧ Row .u8 256 w u (tx ls i) ∧ Tidy u)

theorem Rows2.below {w w' : World} {v : Value} {ls : List (List Nat)} (h : Rows2 w v ls) (hb : Below w.heap.size w w') : Rows2 w' v ls := by
  obtain ⟨a, cap, rfl, h1, h2, h3⟩ := h
  refine ⟨a, cap, rfl, h1, h2, fun hl => ?_⟩
  obtain ⟨b, off, rfl, hc⟩ := h3 hl
  refine ⟨b, off, rfl, fun i hi => ?_⟩
  obtain ⟨u, hu, hr, ht⟩ := hc i hi
  have h5 := World.block_lt_of_cell? w _ hu
  exact ⟨u, by rw [hb.cell (p := ⟨b, off + i, none⟩) h5]; exact hu, hr.below hb, ht⟩

/-- how many bytes the first texts have -/
def sumL (ls : List (List Nat)) : Nat := ls.flatten.length

theorem take_tx {ls : List (List Nat)} {k : Nat} (h : k < ls.length) : ls.take (k + 1) = ls.take k ++ [tx ls k] := by
  rw [List.take_succ_eq_append_getElem h]; unfold tx; rw [List.getElem?_eq_getElem h]; rfl
theorem flat_succ {ls : List (List Nat)} {k : Nat} (h : k < ls.length) : (ls.take (k + 1)).flatten = (ls.take k).flatten ++ tx ls k := by
  rw [take_tx h]; simp
theorem flat_le (ls : List (List Nat)) (k : Nat) : (ls.take k).flatten.length ≤ ls.flatten.length := by
  have : ls.flatten = (ls.take k).flatten ++ (ls.drop k).flatten := by rw [← List.flatten_append, List.take_append_drop]
  rw [this]; simp

theorem cells_news {w : World} {k : IntKind} {x : Addr} {l : List Nat} (h : Cells k w (some x) l) : ∀ j u, (vals k l)[j]? = some u → w.cell? (x.add j) = some u := by
  intro j u hj
  have hl : j < l.length := by
    have := (List.getElem?_eq_some_iff.1 hj).1
    rwa [vals_length] at this
  obtain ⟨b, off, he, hc⟩ := h (by omega)
  obtain rfl := Option.some.inj he
  rw [Addr.add_lit, hc j hl, ← vals_get k l j hl]
  exact hj

theorem under_flat (ls : List (List Nat)) (h : ∀ i, i < ls.length → Under 256 (tx ls i)) : Under 256 ls.flatten := by
  intro x hx
  obtain ⟨l, hl, hxl⟩ := List.mem_flatten.1 hx
  obtain ⟨i, hi, rfl⟩ := List.getElem_of_mem hl
  have := h i hi
  unfold tx at this
  rw [List.getElem?_eq_getElem hi] at this
  exact this x hxl

theorem Rows2.under {w : World} {v : Value} {ls : List (List Nat)} (h : Rows2 w v ls) : Under 256 ls.flatten := by
  obtain ⟨a, cap, rfl, h1, h2, h3⟩ := h
  apply under_flat
  intro i hi
  obtain ⟨b, off, rfl, hc⟩ := h3 (by omega)
  obtain ⟨u, _, ⟨_, _, _, _, _, _, h6⟩, _⟩ := hc i hi
  exact h6
end Go.Proofs.Ytnjiilnkobhibaa
