/- Rows that a call itself has made. -/
import Derived.Test.YtpmobjfhhkglbaaBase
namespace Go.Proofs.Ytpmobjfhhkglbaa
open Go.RowKit
set_option linter.unusedVariables false

/-- the cells of a list of numbers -/
def vals (k : IntKind) (l : List Nat) : List Value := l.map (fun (x : Nat) => Value.int k (x : Int))

theorem vals_length (k : IntKind) (l : List Nat) : (vals k l).length = l.length := by simp [vals]
theorem vals_append (k : IntKind) (l m : List Nat) : vals k (l ++ m) = vals k l ++ vals k m := by simp [vals]
theorem vals_set (k : IntKind) (l : List Nat) (i x : Nat) : (vals k l).set i (.int k (x : Int)) = vals k (l.set i x) := by simp [vals, List.map_set]
theorem vals_get (k : IntKind) (l : List Nat) (i : Nat) (h : i < l.length) : (vals k l)[i]? = some (.int k (el l i)) := by
  rw [el_at h]; simp [vals, h]
theorem vals_one (k : IntKind) (l : List Nat) : ∀ u ∈ vals k l, u.oneCell' = true := by
  intro u hu
  obtain ⟨_, _, rfl⟩ := List.mem_map.1 hu
  rfl

/-- v is a slice of the call's own (a row from block B on), whose elements are l, each below m -/
def Own (e : TypeId) (k : IntKind) (m : Nat) (w : World) (B : Nat) (v : Value) (l : List Nat) : Prop :=
  w.ownsRow B e 1 v l.length (vals k l) ∧ Under m l

theorem Own.row {e : TypeId} {k : IntKind} {m : Nat} {w : World} {B : Nat} {v : Value} {l : List Nat} (h : Own e k m w B v l) : Row k m w v l := by
  obtain ⟨h, hu⟩ := h
  have h' := h
  obtain ⟨h1, ⟨rfl, h2⟩ | ⟨g, cap, cur, rfl, h3, h4, h5, h6, h7, h8⟩⟩ := h
  · exact ⟨none, 0, by rw [h2], by omega, Nat.zero_le _, fun h => by omega, hu⟩
  · refine ⟨_, cap, rfl, h5, h6, fun hl => ⟨g, 0, rfl, fun i hi => ?_⟩, hu⟩
    rw [Nat.zero_add]
    rw [h'.cellAt i (by omega), vals_get k l i hi]

theorem Own.mono {e : TypeId} {k : IntKind} {m : Nat} {w : World} {B B' : Nat} {v : Value} {l : List Nat} (h : Own e k m w B v l) (hB : B' ≤ B) : Own e k m w B' v l := by
  obtain ⟨⟨h1, h2⟩, hu⟩ := h
  refine ⟨⟨h1, ?_⟩, hu⟩
  rcases h2 with h2 | ⟨g, cap, cur, rfl, h3, h4⟩
  · exact .inl h2
  · exact .inr ⟨g, cap, cur, rfl, by omega, h4⟩

theorem Try.info5 : (Try.prog.info? 5).map (fun i => (i.zero, i.size, i.bytes)) = some (some (.int .u8 0), 1, 1) := by kernel_rfl
theorem Try.info26 : (Try.prog.info? 26).map (fun i => (i.zero, i.size, i.bytes)) = some (some (.int .u32 0), 1, 4) := by kernel_rfl

theorem made_u8 (n : Nat) : (madeCells (Value.int .u8 0).cells (n * 1)).toList = vals .u8 (List.replicate n 0) := by
  rw [Nat.mul_one]
  show (madeCells #[Value.int .u8 0] n).toList = _
  rw [toList_madeCells_one]
  simp [vals]

theorem cells_new (w : World) (x : Value) (t : TypeId) : ∀ j u, [x][j]? = some u → (w.alloc (.cells #[x] t)).cell? ((⟨w.heap.size, 0, none⟩ : Addr).add j) = some u := by
  intro j u hj
  match j, hj with
  | 0, hj => simp at hj; subst hj; simp [Addr.add]
theorem one_new (k : IntKind) (x : Int) : ∀ u ∈ [Value.int k x], u.oneCell' = true := by
  intro u hu; simp at hu; subst hu; rfl

/-- an append of one element: below the base nothing has turned -/
theorem below_append {B : Nat} {w wr w' : World} {e : TypeId} {v : Value} {k : Nat} {xs : List Value} (hb : Below B w wr) (hs : B ≤ wr.heap.size) (how : wr.ownsRow B e 1 v k xs) (o : Obj)
    (hg : (wr.alloc o).grownBy w' v.ownBlock) : Below B w w' :=
  (hb.alloc hs o).grown hg (by simp; omega) (fun k h => (how.lt k h).1)
theorem below_append' {B : Nat} {w wr w' : World} {e : TypeId} {v : Value} {k : Nat} {xs : List Value} (hb : Below B w wr) (hs : B ≤ wr.heap.size) (how : wr.ownsRow B e 1 v k xs)
    (hg : wr.grownBy w' v.ownBlock) : Below B w w' :=
  hb.grown hg hs (fun k h => (how.lt k h).1)

theorem Under.replicate (m n : Nat) (h : 0 < m) : Under m (List.replicate n 0) := by
  intro x hx
  have := List.eq_of_mem_replicate hx
  omega

theorem Under.set {m : Nat} {l : List Nat} (h : Under m l) (i x : Nat) (hx : x < m) : Under m (l.set i x) := by
  intro y hy
  rcases List.mem_or_eq_of_mem_set hy with h1 | h1
  · exact h y h1
  · omega
end Go.Proofs.Ytpmobjfhhkglbaa
