/- The row predicate that all contracts of this seat speak of, and small facts on it. -/
import Derived.Test.YtpmobjfhhkglbaaDoorProg
import Derived.WalkKit
import Derived.WalkLawsBesides
import Derived.WalkSpells
import Derived.Deep.QuietTactic
import Derived.BigQuiet
import Derived.OpenShut
import Derived.RegionTactic
import Derived.BigRegion
namespace Go.Proofs.YtpmobjfhhkglbaaDoor
open Go.RowKit
set_option linter.unusedVariables false

/-- the element of a list at a place, under a name of its own -/
def el (l : List Nat) (i : Nat) : Nat := l[i]?.getD 0

/-- all numbers of a list are below a bound -/
def Under (m : Nat) (l : List Nat) : Prop := ∀ x ∈ l, x < m

theorem el_lt {m : Nat} {l : List Nat} (h : Under m l) (hm : 0 < m) (i : Nat) : el l i < m := by
  unfold el
  by_cases hi : i < l.length
  · rw [List.getElem?_eq_getElem hi]; exact h _ (List.getElem_mem hi)
  · rw [List.getElem?_eq_none (by omega)]; exact hm

theorem el_at {l : List Nat} {i : Nat} (h : i < l.length) : el l i = l[i] := by
  unfold el; rw [List.getElem?_eq_getElem h]; rfl

/-- the cells of a slice of numbers -/
def Cells (k : IntKind) (w : World) (a : Option Addr) (l : List Nat) : Prop :=
  0 < l.length → ∃ b off, a = some ⟨b, off, none⟩ ∧ ∀ i, i < l.length → w.cell? ⟨b, off + i, none⟩ = some (.int k (el l i))

/-- v is a slice whose elements, in w, are the numbers l, each below m -/
def Row (k : IntKind) (m : Nat) (w : World) (v : Value) (l : List Nat) : Prop :=
  ∃ a cap, v = .slice a l.length cap ∧ l.length ≤ cap ∧ cap ≤ maxLen ∧ Cells k w a l ∧ Under m l

theorem Cells.below {k : IntKind} {w w' : World} {a : Option Addr} {l : List Nat} {B : Nat} (h : Cells k w a l) (hb : Below B w w') (hB : w.heap.size ≤ B) : Cells k w' a l := by
  intro hl
  obtain ⟨b, off, rfl, hc⟩ := h hl
  refine ⟨b, off, rfl, fun i hi => ?_⟩
  have h1 := hc i hi
  have h2 := World.block_lt_of_cell? w _ h1
  rw [hb.cell (p := ⟨b, off + i, none⟩) (by simp at h2 ⊢; omega)]
  exact h1

theorem Row.below {k : IntKind} {m : Nat} {w w' : World} {v : Value} {l : List Nat} (h : Row k m w v l) (hb : Below w.heap.size w w') : Row k m w' v l := by
  obtain ⟨a, cap, rfl, h1, h2, h3, h4⟩ := h
  exact ⟨a, cap, rfl, h1, h2, h3.below hb (Nat.le_refl _), h4⟩

theorem Row.drewN {k : IntKind} {m : Nat} {w : World} {v : Value} {l : List Nat} (h : Row k m w v l) (n : Nat) : Row k m (w.drewN n) v l := by
  obtain ⟨a, cap, rfl, h1, h2, h3, h4⟩ := h
  refine ⟨a, cap, rfl, h1, h2, fun hl => ?_, h4⟩
  obtain ⟨b, off, rfl, hc⟩ := h3 hl
  exact ⟨b, off, rfl, fun i hi => by simpa using hc i hi⟩

theorem Row.nil (k : IntKind) (m : Nat) (w : World) : Row k m w (.slice none 0 0) [] :=
  ⟨none, 0, rfl, Nat.le_refl _, Nat.zero_le _, fun h => by simp at h, fun x hx => by simp at hx⟩

theorem hide {p : Prop} (h : p) : Hid p := h
theorem vint {k : IntKind} {a b : Int} (h : a = b) : Value.int k a = Value.int k b := by rw [h]
theorem ret_bool {a b : Bool} (h : a = b) : Ending.returned (.bool a) = .returned (.bool b) := by rw [h]
theorem ret_int {k : IntKind} {a b : Int} (h : a = b) : Ending.returned (.int k a) = .returned (.int k b) := by rw [h]

end Go.Proofs.YtpmobjfhhkglbaaDoor

/- Rows that a call itself has made. -/
namespace Go.Proofs.YtpmobjfhhkglbaaDoor
open Go.RowKit
set_option linter.unusedVariables false

/-- the cells of a list of numbers -/
def vals (k : IntKind) (l : List Nat) : List Value := l.map (fun (x : Nat) => Value.int k (x : Int))

theorem vals_length (k : IntKind) (l : List Nat) : (vals k l).length = l.length := by simp [vals]
theorem vals_append (k : IntKind) (l m : List Nat) : vals k (l ++ m) = vals k l ++ vals k m := by simp [vals]
theorem vals_set (k : IntKind) (l : List Nat) (i x : Nat) : (vals k l).set i (.int k (x : Int)) = vals k (l.set i x) := by simp [vals, List.map_set]
theorem vals_get (k : IntKind) (l : List Nat) (i : Nat) (h : i < l.length) : (vals k l)[i]? = some (.int k (el l i)) := by
  rw [el_at h]; simp [vals, h]
theorem vals_one (k : IntKind) (l : List Nat) : ∀ u ∈ vals k l, u.oneCell' = true := by
  intro u hu
  obtain ⟨_, _, rfl⟩ := List.mem_map.1 hu
  rfl

/-- v is a slice of the call's own (a row from block B on), whose elements are l, each below m -/
def Own (e : TypeId) (k : IntKind) (m : Nat) (w : World) (B : Nat) (v : Value) (l : List Nat) : Prop :=
  w.ownsRow B e 1 v l.length (vals k l) ∧ Under m l

theorem Own.row {e : TypeId} {k : IntKind} {m : Nat} {w : World} {B : Nat} {v : Value} {l : List Nat} (h : Own e k m w B v l) : Row k m w v l := by
  obtain ⟨h, hu⟩ := h
  have h' := h
  obtain ⟨h1, ⟨rfl, h2⟩ | ⟨g, cap, cur, rfl, h3, h4, h5, h6, h7, h8⟩⟩ := h
  · exact ⟨none, 0, by rw [h2], by omega, Nat.zero_le _, fun h => by omega, hu⟩
  · refine ⟨_, cap, rfl, h5, h6, fun hl => ⟨g, 0, rfl, fun i hi => ?_⟩, hu⟩
    rw [Nat.zero_add]
    rw [h'.cellAt i (by omega), vals_get k l i hi]

theorem Own.mono {e : TypeId} {k : IntKind} {m : Nat} {w : World} {B B' : Nat} {v : Value} {l : List Nat} (h : Own e k m w B v l) (hB : B' ≤ B) : Own e k m w B' v l := by
  obtain ⟨⟨h1, h2⟩, hu⟩ := h
  refine ⟨⟨h1, ?_⟩, hu⟩
  rcases h2 with h2 | ⟨g, cap, cur, rfl, h3, h4⟩
  · exact .inl h2
  · exact .inr ⟨g, cap, cur, rfl, by omega, h4⟩

theorem Tryd.info5 : (Tryd.prog.info? 5).map (fun i => (i.zero, i.size, i.bytes)) = some (some (.int .u8 0), 1, 1) := by kernel_rfl
theorem Tryd.info42 : (Tryd.prog.info? 42).map (fun i => (i.zero, i.size, i.bytes)) = some (some (.int .u32 0), 1, 4) := by kernel_rfl

theorem made_u8 (n : Nat) : (madeCells (Value.int .u8 0).cells (n * 1)).toList = vals .u8 (List.replicate n 0) := by
  rw [Nat.mul_one]
  show (madeCells #[Value.int .u8 0] n).toList = _
  rw [toList_madeCells_one]
  simp [vals]

theorem cells_new (w : World) (x : Value) (t : TypeId) : ∀ j u, [x][j]? = some u → (w.alloc (.cells #[x] t)).cell? ((⟨w.heap.size, 0, none⟩ : Addr).add j) = some u := by
  intro j u hj
  match j, hj with
  | 0, hj => simp at hj; subst hj; simp [Addr.add]
theorem one_new (k : IntKind) (x : Int) : ∀ u ∈ [Value.int k x], u.oneCell' = true := by
  intro u hu; simp at hu; subst hu; rfl

/-- an append of one element: below the base nothing has turned -/
theorem below_append {B : Nat} {w wr w' : World} {e : TypeId} {v : Value} {k : Nat} {xs : List Value} (hb : Below B w wr) (hs : B ≤ wr.heap.size) (how : wr.ownsRow B e 1 v k xs) (o : Obj)
    (hg : (wr.alloc o).grownBy w' v.ownBlock) : Below B w w' :=
  (hb.alloc hs o).grown hg (by simp; omega) (fun k h => (how.lt k h).1)
theorem below_append' {B : Nat} {w wr w' : World} {e : TypeId} {v : Value} {k : Nat} {xs : List Value} (hb : Below B w wr) (hs : B ≤ wr.heap.size) (how : wr.ownsRow B e 1 v k xs)
    (hg : wr.grownBy w' v.ownBlock) : Below B w w' :=
  hb.grown hg hs (fun k h => (how.lt k h).1)

theorem Under.replicate (m n : Nat) (h : 0 < m) : Under m (List.replicate n 0) := by
  intro x hx
  have := List.eq_of_mem_replicate hx
  omega

theorem Under.set {m : Nat} {l : List Nat} (h : Under m l) (i x : Nat) (hx : x < m) : Under m (l.set i x) := by
  intro y hy
  rcases List.mem_or_eq_of_mem_set hy with h1 | h1
  · exact h y h1
  · omega
end Go.Proofs.YtpmobjfhhkglbaaDoor

/- Contract of bits.Le. -/
namespace Go.Proofs.YtpmobjfhhkglbaaDoor
open Go.RowKit
set_option linter.unusedVariables false

/-- the bytes of a number, the lowest first -/
def leL (n size : Nat) : List Nat := (List.range size).map (fun i => n / 256 ^ i % 256)
def leTo (n size k : Nat) : List Nat := (List.range size).map (fun i => if i < k then n / 256 ^ i % 256 else 0)

theorem leTo_zero (n size : Nat) : leTo n size 0 = List.replicate size 0 := by
  apply List.ext_getElem <;> simp [leTo]
theorem leTo_length (n size k : Nat) : (leTo n size k).length = size := by simp [leTo]
theorem leTo_set (n size k : Nat) : (leTo n size k).set k (n / 256 ^ k % 256) = leTo n size (k + 1) := by
  apply List.ext_getElem
  · simp [leTo]
  · intro i h1 h2
    simp only [leTo, List.getElem_set, List.getElem_map, List.getElem_range]
    by_cases h : k = i
    · subst h; simp
    · simp [h]; by_cases h3 : i < k
      · simp [h3, show i < k + 1 by omega]
      · simp [h3, show ¬ i < k + 1 by omega]
theorem leTo_full (n size k : Nat) (hn : n < 18446744073709551616) (h : k = size ∨ 8 ≤ k) : leTo n size k = leL n size := by
  unfold leTo leL
  apply List.map_congr_left
  intro i hi
  have hi' : i < size := List.mem_range.1 hi
  by_cases h1 : i < k
  · simp [h1]
  · have h8 : 8 ≤ i := by omega
    have h3 : 256 ^ 8 ≤ 256 ^ i := Nat.pow_le_pow_right (by decide) h8
    have h4 : (256 : Nat) ^ 8 = 18446744073709551616 := by decide
    rw [Nat.div_eq_of_lt (by omega)]
    simp
theorem leTo_under (n size k : Nat) : Under 256 (leTo n size k) := by
  intro x hx
  obtain ⟨i, _, rfl⟩ := List.mem_map.1 hx
  split <;> omega

theorem byte_shr (n k : Nat) : (n : Int) / 2 ^ (8 * k) % 256 = ((n / 256 ^ k % 256 : Nat) : Int) := by
  rw [show (256 : Nat) ^ k = 2 ^ (8 * k) from by rw [Nat.pow_mul]]
  simp

/-- what Le tells -/
def leS (n : Nat) (size : Int) : List Nat := if size ≤ 0 ∨ 65536 < size then [] else leL n size.toNat

set_option maxHeartbeats 400000 in
set_option maxRecDepth 100000 in
theorem le_any (n : Nat) (size : Int) (w : World) (hn : n < 18446744073709551616) (hs0 : -9223372036854775808 ≤ size) (hs1 : size ≤ 9223372036854775807) :
    Calls Tryd.prog 31 #[.int .u64 n, .int .i64 size] w fun e w' => ∃ v, e = .returned v ∧ Own 5 .u8 256 w' w.heap.size v (leS n size) ∧ Below w.heap.size w w' := by
  by_cases h0 : size ≤ 0
  · have hS : leS n size = [] := by unfold leS; rw [if_pos (by omega)]
    rw [hS]
    clear hS
    go_enter Tryd.func31, Tryd.ntmps31
    go_wp2
    go_ret
    exact ⟨_, rfl, ⟨World.ownsRow_nil _ _ _ _, fun x hx => by simp at hx⟩, Below.refl _ _⟩
  by_cases h1 : 65536 < size
  · have hS : leS n size = [] := by unfold leS; rw [if_pos (by omega)]
    rw [hS]
    clear hS
    go_enter Tryd.func31, Tryd.ntmps31
    go_wp2
    go_ret
    exact ⟨_, rfl, ⟨World.ownsRow_nil _ _ _ _, fun x hx => by simp at hx⟩, Below.refl _ _⟩
  have hS : leS n size = leL n size.toNat := by unfold leS; rw [if_neg (by omega)]
  rw [hS]
  clear hS
  obtain ⟨N, rfl⟩ := Int.eq_ofNat_of_zero_le (show 0 ≤ size by omega)
  rw [Int.toNat_natCast]
  obtain ⟨i0, hi, hz0, hz1, hz2⟩ := info_parts Tryd.info5
  have hNN : N ≤ 65536 := by omega
  by_cases h8 : (8 : Int) < (N : Int)
  all_goals
    go_enter Tryd.func31, Tryd.ntmps31
    go_wp2_with (first | (at_make; refine wpList_make_full _ rfl _ _ 26 rfl w.heap.size 5 i0 (.int .u8 0) 1 Tryd.underlying26 hi hz0 hz1 _ _ _ _ N rfl rfl rfl rfl (by rw [hz2]; omega) (by unfold maxLen; omega) (Nat.le_refl _) ?_; intro w1 hown hgrow) | go_in)
    rw [made_u8] at hown
    have hb := (Below.refl w.heap.size w).grown hgrow (Nat.le_refl _) (fun k h => by cases h)
    clear hgrow
    go_loopw [17] (fun i wr => ∃ k : Nat, k ≤ N ∧ k ≤ 8 ∧ i = .int .i64 k ∧ wr.ownsRow w.heap.size 5 1 (.slice (some ⟨w.heap.size, 0, none⟩) N N) N (vals .u8 (leTo n N k)) ∧ Below w.heap.size w wr) (fun i _ => 8 - (intOf i).toNat)
    case atStart => exact ⟨0, Nat.zero_le _, by omega, rfl, by rw [leTo_zero]; exact hown, hb⟩
    case round =>
      obtain ⟨k, hk, hk8, rfl, how, hbr⟩ := hrel
      clear hown hb
      by_cases hlt : k < N ∧ k < 8
      · obtain ⟨hlt, hlt8⟩ := hlt
        have c1 := how.cellAt k (by omega)
        rw [vals_get _ _ _ (by rw [leTo_length]; exact hlt)] at c1
        have f1 := how.frozenAt k
        have st := how.stored k (.int .u8 ((n / 256 ^ k % 256 : Nat) : Int))
        rw [vals_set, leTo_set] at st
        have HST := hide st
        clear st
        go_wp2
        rw [byte_shr]
        go_roundw
        case rel => exact ⟨k + 1, by omega, by omega, by go_num, HST.out.1, hbr.setCell (by simp) _⟩
        case measure => simp [intOf]; omega
      · go_wp2
        go_ret
        exact ⟨_, rfl, ⟨by rw [← leTo_full n N k hn (by omega), leTo_length]; exact how, by rw [← leTo_full n N k hn (by omega)]; exact leTo_under _ _ _⟩, hbr⟩
end Go.Proofs.YtpmobjfhhkglbaaDoor

/- Contract of slices.Reverse. -/
namespace Go.Proofs.YtpmobjfhhkglbaaDoor
open Go.RowKit
set_option linter.unusedVariables false

/-- a list, its first and last k elements exchanged -/
def revTo (l : List Nat) (k : Nat) : List Nat := (List.range l.length).map (fun t => if t < k ∨ l.length - k ≤ t then el l (l.length - 1 - t) else el l t)

theorem revTo_length (l : List Nat) (k : Nat) : (revTo l k).length = l.length := by simp [revTo]
theorem revTo_zero (l : List Nat) : revTo l 0 = l := by
  apply List.ext_getElem
  · simp [revTo]
  · intro i h1 h2
    simp only [revTo, List.getElem_map, List.getElem_range]
    rw [if_neg (by omega), el_at h2]
theorem revTo_full (l : List Nat) (k : Nat) (h : l.length ≤ 2 * k + 1) : revTo l k = l.reverse := by
  apply List.ext_getElem
  · simp [revTo]
  · intro i h1 h2
    have h3 : i < l.length := by simpa using h2
    simp only [revTo, List.getElem_map, List.getElem_range, List.getElem_reverse]
    by_cases hc : i < k ∨ l.length - k ≤ i
    · rw [if_pos hc, el_at]
    · rw [if_neg hc, el_at h3]
      have e : i = l.length - 1 - i := by omega
      congr 1
theorem revTo_el (l : List Nat) (k t : Nat) (ht : t < l.length) (h : k ≤ t ∧ t < l.length - k) : el (revTo l k) t = el l t := by
  rw [el_at (by rw [revTo_length]; exact ht)]
  simp only [revTo, List.getElem_map, List.getElem_range]
  rw [if_neg (by omega)]
theorem revTo_set (l : List Nat) (k j : Nat) (hj : j = l.length - 1 - k) (h : k < j) :
    ((revTo l k).set k (el l j)).set j (el l k) = revTo l (k + 1) := by
  apply List.ext_getElem
  · simp [revTo]
  · intro i h1 h2
    have h3 : i < l.length := by simpa [revTo] using h2
    simp only [revTo, List.getElem_set, List.getElem_map, List.getElem_range]
    by_cases e1 : j = i
    · subst e1; rw [if_pos rfl, if_pos (by omega)]; congr 1; omega
    · rw [if_neg e1]
      by_cases e2 : k = i
      · subst e2; rw [if_pos rfl, if_pos (by omega)]; congr 1
      · rw [if_neg e2]
        by_cases e3 : i < k ∨ l.length - k ≤ i
        · rw [if_pos e3, if_pos (by omega)]
        · rw [if_neg e3, if_neg (by omega)]
theorem revTo_under (l : List Nat) (k : Nat) (m : Nat) (hm : 0 < m) (h : Under m l) : Under m (revTo l k) := by
  intro x hx
  obtain ⟨i, _, rfl⟩ := List.mem_map.1 hx
  split <;> exact el_lt h hm _
set_option maxHeartbeats 400000 in
theorem rev_any (v : Value) (l : List Nat) (B : Nat) (w : World) (h : Own 5 .u8 256 w B v l) :
    Calls Tryd.prog 32 #[v] w fun e w' => e = .returned (.tuple #[]) ∧ Own 5 .u8 256 w' B v l.reverse ∧ Below B w w' := by
  obtain ⟨ho, hu⟩ := h
  have ho' := ho
  obtain ⟨h1, ⟨rfl, h2⟩ | ⟨g, cap, cur, rfl, h3, h4, h5, h6, h7, h8⟩⟩ := ho
  · have : l = [] := List.eq_nil_of_length_eq_zero h2
    subst this
    go_enter Tryd.func32, Tryd.ntmps32
    go_wp2
    refine wp_loop_rounds 1 ?_; rw [rounds_succ]
    go_wp2
    go_end0
    exact ⟨rfl, ⟨ho', hu⟩, Below.refl _ _⟩
  · clear h4 h7 h8 h1
    unfold maxLen at h6
    generalize hN : l.length = N at *
    have HN := hide hN
    clear hN
    go_enter Tryd.func32, Tryd.ntmps32
    go_wp2
    go_loopw [2, 3] (fun i j wr => ∃ k jn : Nat, i = .int .i64 k ∧ j = .int .i64 ((jn : Int) - 1) ∧ k + jn = N ∧ wr.ownsRow B 5 1 (.slice (some ⟨g, 0, none⟩) N cap) N (vals .u8 (revTo l k)) ∧ Below B w wr) (fun _ j _ => (intOf j).toNat)
    case atStart => exact ⟨0, N, rfl, rfl, by omega, by rw [revTo_zero]; exact ho', Below.refl _ _⟩
    case round =>
      obtain ⟨k, jn, rfl, rfl, hkj, how, hbr⟩ := hrel
      have hle1 : k ≤ N := by omega
      have hle2 : jn ≤ N := by omega
      have HKJ := hide hkj
      clear hkj
      by_cases hlt : k + 1 < jn
      · obtain ⟨j, rfl⟩ : ∃ j, jn = j + 1 := ⟨jn - 1, by omega⟩
        have hkj : k < j := by omega
        have hjN : j < N := by omega
        have c1 := how.cellAt k (by omega)
        rw [vals_get _ _ _ (by rw [revTo_length, HN.out]; omega)] at c1
        have c2 := how.cellAt j (by omega)
        rw [vals_get _ _ _ (by rw [revTo_length, HN.out]; omega)] at c2
        have f1 := how.frozenAt k
        have f2 := how.frozenAt j
        rw [show (((j + 1 : Nat) : Int) - 1) = (j : Int) from by omega]
        go_wp2
        go_region
        go_wp2
        go_roundw
        case rel =>
          have e1 : el (revTo l k) j = el l j := revTo_el l k j (by rw [HN.out]; omega) (by rw [HN.out]; have := HKJ.out; omega)
          have e2 : el (revTo l k) k = el l k := revTo_el l k k (by rw [HN.out]; omega) (by rw [HN.out]; have := HKJ.out; omega)
          have s1 := (how.stored k (.int .u8 (el (revTo l k) j : Int))).1
          have s2 := (s1.stored j (.int .u8 (el (revTo l k) k : Int))).1
          rw [vals_set, vals_set, e1, e2, revTo_set l k j (by rw [HN.out]; have := HKJ.out; omega) hkj] at s2
          rw [e1, e2]
          exact ⟨k + 1, j, by go_num, rfl, by have := HKJ.out; omega, s2, ((hbr.setCell (by simpa using h3) _).setCell (by simpa using h3) _).drew⟩
        case measure => simp [intOf]; omega
      · go_wp2
        go_end0
        have e : revTo l k = l.reverse := revTo_full l k (by rw [HN.out]; have := HKJ.out; omega)
        refine ⟨rfl, ⟨?_, ?_⟩, hbr⟩
        · rw [← e, revTo_length, HN.out]; exact how
        · rw [← e]; exact revTo_under _ _ _ (by decide) hu
end Go.Proofs.YtpmobjfhhkglbaaDoor

/- Contracts of bits.Be, apostilleref01.Be. -/
namespace Go.Proofs.YtpmobjfhhkglbaaDoor
open Go.RowKit
set_option linter.unusedVariables false

set_option maxHeartbeats 400000 in
set_option maxRecDepth 100000 in
theorem be_any (n : Nat) (size : Int) (w : World) (hn : n < 18446744073709551616) (hs0 : -9223372036854775808 ≤ size) (hs1 : size ≤ 9223372036854775807) :
    Calls Tryd.prog 22 #[.int .u64 n, .int .i64 size] w fun e w' => ∃ v, e = .returned v ∧ Own 5 .u8 256 w' w.heap.size v (leS n size).reverse ∧ Below w.heap.size w w' := by
  go_enter Tryd.func22, Tryd.ntmps22
  go_wp2_with fail
  refine (le_any n size _ hn hs0 hs1).mono ?_
  rintro e w1 ⟨v, rfl, ho, hb⟩
  go_wp2_with fail
  refine (rev_any v _ _ _ ho).mono ?_
  rintro e w2 ⟨rfl, ho2, hb2⟩
  go_wp2
  go_ret
  exact ⟨_, rfl, ho2, hb.trans hb2⟩

theorem leL_length (n size : Nat) : (leL n size).length = size := by simp [leL]
theorem rbe_nil (n : Nat) (size : Int) (h : size ≤ 0 ∨ 65536 < size) : (leS n size).reverse = [] := by
  unfold leS; rw [if_pos h]; rfl

end Go.Proofs.YtpmobjfhhkglbaaDoor

/- Contracts of bits.Num, apostilleref01.Num. -/
namespace Go.Proofs.YtpmobjfhhkglbaaDoor
open Go.RowKit
set_option linter.unusedVariables false

/-- the number of bytes, the highest first, modulo 2^64 -/
def numL (l : List Nat) : Nat := l.foldl (fun n x => (n * 256 + x) % 18446744073709551616) 0

theorem take_snoc {l : List Nat} {k : Nat} (h : k < l.length) : l.take (k + 1) = l.take k ++ [el l k] := by
  rw [List.take_succ_eq_append_getElem h, el_at h]

theorem numL_snoc (l : List Nat) (x : Nat) : numL (l ++ [x]) = (numL l * 256 + x) % 18446744073709551616 := by
  unfold numL; rw [List.foldl_append]; rfl

theorem numL_lt (l : List Nat) : numL l < 18446744073709551616 := by
  rcases List.eq_nil_or_concat l with rfl | ⟨m, x, rfl⟩
  · decide
  · rw [List.concat_eq_append, numL_snoc]; exact Nat.mod_lt _ (by decide)

theorem step_num (N x : Nat) (hN : N < 18446744073709551616) (hx : x < 256) :
    bits .or .u64 (IntKind.u64.wrap ((N : Int) * 256)) (x : Int) = (((N * 256 + x) % 18446744073709551616 : Nat) : Int) := by
  have e : IntKind.u64.wrap ((N : Int) * 256) = ((N * 256 % 18446744073709551616 : Nat) : Int) := by
    rw [IntKind.wrap_u64]; omega
  rw [e, u64_or_nat _ _ (Nat.mod_lt _ (by decide)) (by omega), nat_join 8 _ _ (by omega) (by omega)]
  congr 1
  omega

set_option maxHeartbeats 400000 in
theorem num_any (va : Value) (l : List Nat) (w : World) (ha : Row .u8 256 w va l) :
    Calls Tryd.prog 27 #[va] w fun e w' => e = .returned (.int .u64 (numL l)) ∧ w' = w := by
  obtain ⟨a, ca, rfl, ha1, ha2, ha3, ha4⟩ := ha
  unfold maxLen at ha2
  go_enter Tryd.func27, Tryd.ntmps27
  go_wp2
  go_loop [3, 8] (fun n i => ∃ k : Nat, k ≤ l.length ∧ i = .int .i64 k ∧ n = .int .u64 (numL (l.take k))) (fun _ i => l.length - (intOf i).toNat)
  case atStart => exact ⟨0, Nat.zero_le _, rfl, rfl⟩
  case round =>
    obtain ⟨k, hk, rfl, rfl⟩ := hrel
    have hn := numL_lt (l.take k)
    by_cases hlt : k < l.length
    · obtain ⟨ba, oa, rfl, hca⟩ := ha3 (by omega)
      have c1 := hca k hlt
      have hx := el_lt ha4 (by decide) k
      clear hca
      generalize hN : numL (l.take k) = N at *
      have HN : Hid (numL (l.take k) = N) := hN
      clear hN
      go_wp2
      go_round
      case rel => exact ⟨k + 1, by omega, by go_num, vint (by rw [take_snoc hlt, numL_snoc, HN.out]; exact step_num N _ hn hx)⟩
      case measure => simp [intOf]; omega
    · go_wp2
      go_ret
      exact ⟨ret_int (by rw [List.take_of_length_le (by omega)]), rfl⟩

end Go.Proofs.YtpmobjfhhkglbaaDoor

/- Contracts of bits.NumLe. -/
namespace Go.Proofs.YtpmobjfhhkglbaaDoor
open Go.RowKit
set_option linter.unusedVariables false

/-- the number of bytes, the lowest first (unbounded) -/
def valLe : List Nat → Nat
  | [] => 0
  | x :: r => x + 256 * valLe r

theorem valLe_append (a b : List Nat) : valLe (a ++ b) = valLe a + 256 ^ a.length * valLe b := by
  induction a with
  | nil => simp [valLe]
  | cons x r ih => simp only [List.cons_append, valLe, ih, List.length_cons, Nat.pow_succ]; rw [Nat.mul_add]; rw [show 256 ^ r.length * 256 * valLe b = 256 * (256 ^ r.length * valLe b) from by rw [Nat.mul_comm (256 ^ r.length) 256, Nat.mul_assoc]]; omega

theorem valLe_lt (a : List Nat) (h : Under 256 a) : valLe a < 256 ^ a.length := by
  induction a with
  | nil => simp [valLe]
  | cons x r ih =>
    have hx := h x (by simp)
    have := ih (fun y hy => h y (by simp [hy]))
    simp only [valLe, List.length_cons, Nat.pow_succ]
    omega

theorem Under.take {m : Nat} {l : List Nat} (h : Under m l) (k : Nat) : Under m (l.take k) := fun x hx => h x (List.mem_of_mem_take hx)
theorem Under.drop {m : Nat} {l : List Nat} (h : Under m l) (k : Nat) : Under m (l.drop k) := fun x hx => h x (List.mem_of_mem_drop hx)

end Go.Proofs.YtpmobjfhhkglbaaDoor

/- Plain facts on bits, bytes and groups of bits: no program in sight. -/
namespace Go.Proofs.YtpmobjfhhkglbaaDoor
open Go.RowKit
set_option linter.unusedVariables false

theorem p256 (k : Nat) : (256 : Nat) ^ k = 2 ^ (8 * k) := by rw [Nat.pow_mul]
theorem pp (k : Nat) : 0 < (2 : Nat) ^ k := Nat.pow_pos (by decide)

/-- a part of the bits of a remainder -/
theorem mod_div_mod (V a h w : Nat) (hh : h + w ≤ a) : V % 2 ^ a / 2 ^ h % 2 ^ w = V / 2 ^ h % 2 ^ w := by
  obtain ⟨d, rfl⟩ : ∃ d, a = h + (w + d) := ⟨a - h - w, by omega⟩
  rw [Nat.pow_add, Nat.mod_mul_right_div_self, Nat.pow_add]
  exact Nat.mod_mod_of_dvd _ (Nat.dvd_mul_right _ _)
theorem div_div_pow (V a b : Nat) : V / 2 ^ a / 2 ^ b = V / 2 ^ (a + b) := by
  rw [Nat.div_div_eq_div_mul, Nat.pow_add]
/-! ### bytes as one number, the highest first -/
def valBe (l : List Nat) : Nat := l.foldl (fun n x => n * 256 + x) 0
theorem valBe_snoc (l : List Nat) (x : Nat) : valBe (l ++ [x]) = valBe l * 256 + x := by
  unfold valBe; rw [List.foldl_append]; rfl
theorem valBe_le (l : List Nat) : valBe l.reverse = valLe l := by
  induction l with
  | nil => rfl
  | cons x r ih => rw [List.reverse_cons, valBe_snoc, ih]; simp only [valLe]; omega
theorem valBe_eq (l : List Nat) : valBe l = valLe l.reverse := by rw [← valBe_le, List.reverse_reverse]
theorem valBe_take (l : List Nat) (hu : Under 256 l) (a : Nat) (ha : a ≤ l.length) : valBe (l.take a) = valBe l / 2 ^ (8 * (l.length - a)) := by
  have e : l.reverse = (l.drop a).reverse ++ (l.take a).reverse := by rw [← List.reverse_append, List.take_append_drop]
  rw [valBe_eq l, e, valLe_append, valBe_eq, List.length_reverse, List.length_drop, p256]
  have hlt := valLe_lt (l.drop a).reverse (fun x hx => hu x (List.mem_of_mem_drop (List.mem_reverse.1 hx)))
  rw [List.length_reverse, List.length_drop, p256] at hlt
  rw [Nat.add_mul_div_left _ _ (pp _), Nat.div_eq_of_lt hlt, Nat.zero_add]
theorem valBe_lt (l : List Nat) (hu : Under 256 l) : valBe l < 2 ^ (8 * l.length) := by
  rw [valBe_eq]
  have := valLe_lt l.reverse (fun x hx => hu x (List.mem_reverse.1 hx))
  rw [List.length_reverse, p256] at this
  exact this
/-- the i-th group of w bits, the highest first -/
def dig (l : List Nat) (w i : Nat) : Nat := valBe l / 2 ^ (8 * l.length - (i + 1) * w) % 2 ^ w
def digL (l : List Nat) (w c : Nat) : List Nat := (List.range c).map (dig l w)

theorem digL_length (l : List Nat) (w c : Nat) : (digL l w c).length = c := by simp [digL]
theorem digL_succ (l : List Nat) (w c : Nat) : digL l w (c + 1) = digL l w c ++ [dig l w c] := by simp [digL, List.range_succ]
theorem digL_under (l : List Nat) (w c : Nat) (hw : w ≤ 24) : Under 4294967296 (digL l w c) := by
  intro x hx
  obtain ⟨i, _, rfl⟩ := List.mem_map.1 hx
  have h1 : dig l w i < 2 ^ w := Nat.mod_lt _ (pp w)
  have h2 : 2 ^ w ≤ 2 ^ 24 := Nat.pow_le_pow_right (by decide) hw
  have h3 : (2 : Nat) ^ 24 = 16777216 := by decide
  omega

/-- what the program tells: the bits of what was read so far -/
theorem dig_read (l : List Nat) (hu : Under 256 l) (w i a : Nat) (ha : a ≤ l.length) (hi : (i + 1) * w ≤ 8 * a) (h32 : 8 * a - (i + 1) * w + w ≤ 32) :
    valBe (l.take a) % 2 ^ 32 / 2 ^ (8 * a - (i + 1) * w) % 2 ^ w = dig l w i := by
  rw [mod_div_mod _ _ _ _ h32, valBe_take l hu a ha, div_div_pow]
  unfold dig
  congr 3
  omega

end Go.Proofs.YtpmobjfhhkglbaaDoor

/- Leaves that sign once: plain facts. -/
namespace Go.Proofs.YtpmobjfhhkglbaaDoor
open Go.RowKit
set_option linter.unusedVariables false
set_option linter.unusedSimpArgs false

theorem leM_under (V o : Nat) : Under 256 (leL V o) := by
  intro x hx
  obtain ⟨i, _, rfl⟩ := List.mem_map.1 hx
  exact Nat.mod_lt _ (by decide)

theorem dig_ltM (l : List Nat) (w i : Nat) : dig l w i < 2 ^ w := Nat.mod_lt _ (pp w)
/-- the number that digits of w bits are -/
def fromD (w : Nat) (l : List Nat) : Nat := l.foldl (fun n x => n * 2 ^ w + x) 0
theorem foldD (w : Nat) : ∀ (b : List Nat) (x : Nat), b.foldl (fun n x => n * 2 ^ w + x) x = x * 2 ^ (b.length * w) + b.foldl (fun n x => n * 2 ^ w + x) 0
  | [], x => by simp
  | y :: b, x => by
    show b.foldl _ (x * 2 ^ w + y) = x * 2 ^ ((b.length + 1) * w) + b.foldl _ (0 * 2 ^ w + y)
    rw [foldD w b (x * 2 ^ w + y), foldD w b (0 * 2 ^ w + y), Nat.zero_mul, Nat.zero_add, Nat.add_mul, Nat.add_mul, Nat.one_mul, Nat.mul_assoc, ← Nat.pow_add, Nat.add_comm w, Nat.add_assoc]
theorem fromD_app (w : Nat) (a b : List Nat) : fromD w (a ++ b) = fromD w a * 2 ^ (b.length * w) + fromD w b := by
  unfold fromD
  rw [List.foldl_append, foldD]
/-- the sum of what digits lack -/
def lackL (m : Nat) : List Nat → Nat
  | [] => 0
  | x :: l => (m - x) + lackL m l
theorem lack_lt (m : Nat) : ∀ a : List Nat, lackL m a ≤ a.length * m
  | [] => Nat.zero_le _
  | x :: a => by
    have := lack_lt m a
    show (m - x) + lackL m a ≤ (a.length + 1) * m
    rw [Nat.add_mul, Nat.one_mul]
    omega
theorem lack_snoc (m : Nat) (x : Nat) : ∀ a : List Nat, lackL m (a ++ [x]) = lackL m a + (m - x)
  | [] => by show (m - x) + 0 = 0 + (m - x); omega
  | y :: a => by show (m - y) + lackL m (a ++ [x]) = (m - y) + lackL m a + (m - x); rw [lack_snoc m x a]; omega
/-- a kind: how many digits a digest has, how many its check; the shift -/
structure KindL (w n m s : Nat) : Prop where
  w1 : 1 ≤ w
  w8 : w ≤ 8
  full : n * w = 256
  chk : s + m * w = 16
  room : n * (2 ^ w - 1) < 2 ^ (m * w)
theorem valBe_app (a b : List Nat) : valBe (a ++ b) = valBe a * 2 ^ (8 * b.length) + valBe b := by
  have e : ∀ l : List Nat, valBe l = fromD 8 l := fun l => rfl
  rw [e, e, e, fromD_app, Nat.mul_comm b.length]
section
variable {w n m s : Nat} (hK : KindL w n m s) {d : List Nat} (hd : d.length = 32) (hu : Under 256 d)
end
end Go.Proofs.YtpmobjfhhkglbaaDoor

/- A slice of texts, and what it reads as. -/
namespace Go.Proofs.YtpmobjfhhkglbaaDoor
open Go.RowKit
set_option linter.unusedVariables false

/-- the text at a place of a list of texts -/
def tx (ls : List (List Nat)) (i : Nat) : List Nat := ls[i]?.getD []

/-- a slice without an address is nil -/
def Tidy (v : Value) : Prop := ∀ n c, v = .slice none n c → n = 0 ∧ c = 0

/-- v is a slice of texts, which are ls -/
def Rows2 (w : World) (v : Value) (ls : List (List Nat)) : Prop :=
  ∃ a cap, v = .slice a ls.length cap ∧ ls.length ≤ cap ∧ cap ≤ maxLen ∧
    (0 < ls.length → ∃ b off, a = some ⟨b, off, none⟩ ∧ ∀ i, i < ls.length → ∃ u, w.cell? ⟨b, off + i, none⟩ = some u ∧ Row .u8 256 w u (tx ls i) ∧ Tidy u)

theorem Rows2.below {w w' : World} {v : Value} {ls : List (List Nat)} (h : Rows2 w v ls) (hb : Below w.heap.size w w') : Rows2 w' v ls := by
  obtain ⟨a, cap, rfl, h1, h2, h3⟩ := h
  refine ⟨a, cap, rfl, h1, h2, fun hl => ?_⟩
  obtain ⟨b, off, rfl, hc⟩ := h3 hl
  refine ⟨b, off, rfl, fun i hi => ?_⟩
  obtain ⟨u, hu, hr, ht⟩ := hc i hi
  have h5 := World.block_lt_of_cell? w _ hu
  exact ⟨u, by rw [hb.cell (p := ⟨b, off + i, none⟩) h5]; exact hu, hr.below hb, ht⟩

theorem take_tx {ls : List (List Nat)} {k : Nat} (h : k < ls.length) : ls.take (k + 1) = ls.take k ++ [tx ls k] := by
  rw [List.take_succ_eq_append_getElem h]; unfold tx; rw [List.getElem?_eq_getElem h]; rfl
theorem flat_succ {ls : List (List Nat)} {k : Nat} (h : k < ls.length) : (ls.take (k + 1)).flatten = (ls.take k).flatten ++ tx ls k := by
  rw [take_tx h]; simp
theorem flat_le (ls : List (List Nat)) (k : Nat) : (ls.take k).flatten.length ≤ ls.flatten.length := by
  have : ls.flatten = (ls.take k).flatten ++ (ls.drop k).flatten := by rw [← List.flatten_append, List.take_append_drop]
  rw [this]; simp

theorem cells_news {w : World} {k : IntKind} {x : Addr} {l : List Nat} (h : Cells k w (some x) l) : ∀ j u, (vals k l)[j]? = some u → w.cell? (x.add j) = some u := by
  intro j u hj
  have hl : j < l.length := by
    have := (List.getElem?_eq_some_iff.1 hj).1
    rwa [vals_length] at this
  obtain ⟨b, off, he, hc⟩ := h (by omega)
  obtain rfl := Option.some.inj he
  rw [Addr.add_lit, hc j hl, ← vals_get k l j hl]
  exact hj

theorem under_flat (ls : List (List Nat)) (h : ∀ i, i < ls.length → Under 256 (tx ls i)) : Under 256 ls.flatten := by
  intro x hx
  obtain ⟨l, hl, hxl⟩ := List.mem_flatten.1 hx
  obtain ⟨i, hi, rfl⟩ := List.getElem_of_mem hl
  have := h i hi
  unfold tx at this
  rw [List.getElem?_eq_getElem hi] at this
  exact this x hxl

theorem Rows2.under {w : World} {v : Value} {ls : List (List Nat)} (h : Rows2 w v ls) : Under 256 ls.flatten := by
  obtain ⟨a, cap, rfl, h1, h2, h3⟩ := h
  apply under_flat
  intro i hi
  obtain ⟨b, off, rfl, hc⟩ := h3 (by omega)
  obtain ⟨u, _, ⟨_, _, _, _, _, _, h6⟩, _⟩ := hc i hi
  exact h6
end Go.Proofs.YtpmobjfhhkglbaaDoor

/- Leaves that sign once: chains, plain, over whatever sum H. -/
namespace Go.Proofs.YtpmobjfhhkglbaaDoor
open Go.RowKit
set_option linter.unusedVariables false
set_option linter.unusedSimpArgs false

def be2 (n : Nat) : List Nat := (leL n 2).reverse
theorem be2_len (n : Nat) : (be2 n).length = 2 := by unfold be2; rw [List.length_reverse, leL_length]
section
variable (H : List Nat → List Nat) (pre : List Nat)
end
section
variable {H : List Nat → List Nat} {pre : List Nat}
variable (hH : ∀ x, (H x).length = 32)
end
end Go.Proofs.YtpmobjfhhkglbaaDoor
