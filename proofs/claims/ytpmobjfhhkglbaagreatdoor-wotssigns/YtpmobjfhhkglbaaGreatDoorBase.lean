import Derived.Test.YtpmobjfhhkglbaaGreatDoorProg
import Derived.WalkKit
import Derived.WalkLawsBesides
import Derived.WalkSpells
import Derived.Deep.QuietTactic
import Derived.BigQuiet
import Derived.OpenShut
import Derived.RegionTactic
import Derived.BigRegion
set_option maxHeartbeats 8000000
set_option maxRecDepth 100000
namespace Go.Proofs.YtpmobjfhhkglbaaGreatDoor
open Go.RowKit
set_option linter.unusedVariables false
def el (l : List Nat) (i : Nat) : Nat := l[i]?.getD 0
def Under (m : Nat) (l : List Nat) : Prop := ∀ x ∈ l, x < m
theorem el_lt {m : Nat} {l : List Nat} (h : Under m l) (hm : 0 < m) (i : Nat) : el l i < m := by
  unfold el
  by_cases hi : i < l.length
  · rw [List.getElem?_eq_getElem hi]; exact h _ (List.getElem_mem hi)
  · rw [List.getElem?_eq_none (by omega)]; exact hm
theorem el_at {l : List Nat} {i : Nat} (h : i < l.length) : el l i = l[i] := by
  unfold el; rw [List.getElem?_eq_getElem h]; rfl
def Cells (k : IntKind) (w : World) (a : Option Addr) (l : List Nat) : Prop :=
  0 < l.length → ∃ b off, a = some ⟨b, off, none⟩ ∧ ∀ i, i < l.length → w.cell? ⟨b, off + i, none⟩ = some (.int k (el l i))
def Row (k : IntKind) (m : Nat) (w : World) (v : Value) (l : List Nat) : Prop :=
  ∃ a cap, v = .slice a l.length cap ∧ l.length ≤ cap ∧ cap ≤ maxLen ∧ Cells k w a l ∧ Under m l
theorem Cells.below {k : IntKind} {w w' : World} {a : Option Addr} {l : List Nat} {B : Nat} (h : Cells k w a l) (hb : Below B w w') (hB : w.heap.size ≤ B) : Cells k w' a l := by
  intro hl
  obtain ⟨b, off, rfl, hc⟩ := h hl
  refine ⟨b, off, rfl, fun i hi => ?_⟩
  have h1 := hc i hi
  have h2 := World.block_lt_of_cell? w _ h1
  rw [hb.cell (p := ⟨b, off + i, none⟩) (by simp at h2 ⊢; omega)]
  exact h1
theorem Row.below {k : IntKind} {m : Nat} {w w' : World} {v : Value} {l : List Nat} (h : Row k m w v l) (hb : Below w.heap.size w w') : Row k m w' v l := by
  obtain ⟨a, cap, rfl, h1, h2, h3, h4⟩ := h
  exact ⟨a, cap, rfl, h1, h2, h3.below hb (Nat.le_refl _), h4⟩
theorem Row.drewN {k : IntKind} {m : Nat} {w : World} {v : Value} {l : List Nat} (h : Row k m w v l) (n : Nat) : Row k m (w.drewN n) v l := by
  obtain ⟨a, cap, rfl, h1, h2, h3, h4⟩ := h
  refine ⟨a, cap, rfl, h1, h2, fun hl => ?_, h4⟩
  obtain ⟨b, off, rfl, hc⟩ := h3 hl
  exact ⟨b, off, rfl, fun i hi => by simpa using hc i hi⟩
theorem Row.nil (k : IntKind) (m : Nat) (w : World) : Row k m w (.slice none 0 0) [] :=
  ⟨none, 0, rfl, Nat.le_refl _, Nat.zero_le _, fun h => by simp at h, fun x hx => by simp at hx⟩
theorem hide {p : Prop} (h : p) : Hid p := h
theorem vint {k : IntKind} {a b : Int} (h : a = b) : Value.int k a = Value.int k b := by rw [h]
theorem ret_bool {a b : Bool} (h : a = b) : Ending.returned (.bool a) = .returned (.bool b) := by rw [h]
theorem ret_int {k : IntKind} {a b : Int} (h : a = b) : Ending.returned (.int k a) = .returned (.int k b) := by rw [h]
theorem plI {α : Type _} (l : List α) (i : Nat) (a : α) : l.toArray.setIfInBounds i a = (l.set i a).toArray := List.setIfInBounds_toArray ..
theorem plZ {α : Type _} (x : α) (l : List α) (a : α) : (x :: l).set 0 a = a :: l := rfl
theorem plS {α : Type _} (x : α) (l : List α) (n : Nat) (a : α) : (x :: l).set (n + 1) a = x :: l.set n a := rfl
def vals (k : IntKind) (l : List Nat) : List Value := l.map (fun (x : Nat) => Value.int k (x : Int))
theorem vals_length (k : IntKind) (l : List Nat) : (vals k l).length = l.length := by simp [vals]
theorem vals_append (k : IntKind) (l m : List Nat) : vals k (l ++ m) = vals k l ++ vals k m := by simp [vals]
theorem vals_set (k : IntKind) (l : List Nat) (i x : Nat) : (vals k l).set i (.int k (x : Int)) = vals k (l.set i x) := by simp [vals, List.map_set]
theorem vals_get (k : IntKind) (l : List Nat) (i : Nat) (h : i < l.length) : (vals k l)[i]? = some (.int k (el l i)) := by
  rw [el_at h]; simp [vals, h]
theorem vals_one (k : IntKind) (l : List Nat) : ∀ u ∈ vals k l, u.oneCell' = true := by
  intro u hu
  obtain ⟨_, _, rfl⟩ := List.mem_map.1 hu
  rfl
def Own (e : TypeId) (k : IntKind) (m : Nat) (w : World) (B : Nat) (v : Value) (l : List Nat) : Prop :=
  w.ownsRow B e 1 v l.length (vals k l) ∧ Under m l
theorem Own.row {e : TypeId} {k : IntKind} {m : Nat} {w : World} {B : Nat} {v : Value} {l : List Nat} (h : Own e k m w B v l) : Row k m w v l := by
  obtain ⟨h, hu⟩ := h
  have h' := h
  obtain ⟨h1, ⟨rfl, h2⟩ | ⟨g, cap, cur, rfl, h3, h4, h5, h6, h7, h8⟩⟩ := h
  · exact ⟨none, 0, by rw [h2], by omega, Nat.zero_le _, fun h => by omega, hu⟩
  · refine ⟨_, cap, rfl, h5, h6, fun hl => ⟨g, 0, rfl, fun i hi => ?_⟩, hu⟩
    rw [Nat.zero_add]
    rw [h'.cellAt i (by omega), vals_get k l i hi]
theorem Own.mono {e : TypeId} {k : IntKind} {m : Nat} {w : World} {B B' : Nat} {v : Value} {l : List Nat} (h : Own e k m w B v l) (hB : B' ≤ B) : Own e k m w B' v l := by
  obtain ⟨⟨h1, h2⟩, hu⟩ := h
  refine ⟨⟨h1, ?_⟩, hu⟩
  rcases h2 with h2 | ⟨g, cap, cur, rfl, h3, h4⟩
  · exact .inl h2
  · exact .inr ⟨g, cap, cur, rfl, by omega, h4⟩
theorem Tryz.info5 : (Tryz.prog.info? 5).map (fun i => (i.zero, i.size, i.bytes)) = some (some (.int .u8 0), 1, 1) := by kernel_rfl
theorem Tryz.info42 : (Tryz.prog.info? 42).map (fun i => (i.zero, i.size, i.bytes)) = some (some (.int .u32 0), 1, 4) := by kernel_rfl
theorem made_u8 (n : Nat) : (madeCells (Value.int .u8 0).cells (n * 1)).toList = vals .u8 (List.replicate n 0) := by
  rw [Nat.mul_one]
  show (madeCells #[Value.int .u8 0] n).toList = _
  rw [toList_madeCells_one]
  simp [vals]
theorem cells_new (w : World) (x : Value) (t : TypeId) : ∀ j u, [x][j]? = some u → (w.alloc (.cells #[x] t)).cell? ((⟨w.heap.size, 0, none⟩ : Addr).add j) = some u := by
  intro j u hj
  match j, hj with
  | 0, hj => simp at hj; subst hj; simp [Addr.add]
theorem one_new (k : IntKind) (x : Int) : ∀ u ∈ [Value.int k x], u.oneCell' = true := by
  intro u hu; simp at hu; subst hu; rfl
theorem below_append {B : Nat} {w wr w' : World} {e : TypeId} {v : Value} {k : Nat} {xs : List Value} (hb : Below B w wr) (hs : B ≤ wr.heap.size) (how : wr.ownsRow B e 1 v k xs) (o : Obj)
    (hg : (wr.alloc o).grownBy w' v.ownBlock) : Below B w w' :=
  (hb.alloc hs o).grown hg (by simp; omega) (fun k h => (how.lt k h).1)
theorem below_append' {B : Nat} {w wr w' : World} {e : TypeId} {v : Value} {k : Nat} {xs : List Value} (hb : Below B w wr) (hs : B ≤ wr.heap.size) (how : wr.ownsRow B e 1 v k xs)
    (hg : wr.grownBy w' v.ownBlock) : Below B w w' :=
  hb.grown hg hs (fun k h => (how.lt k h).1)
theorem Under.replicate (m n : Nat) (h : 0 < m) : Under m (List.replicate n 0) := by
  intro x hx
  have := List.eq_of_mem_replicate hx
  omega
theorem Under.set {m : Nat} {l : List Nat} (h : Under m l) (i x : Nat) (hx : x < m) : Under m (l.set i x) := by
  intro y hy
  rcases List.mem_or_eq_of_mem_set hy with h1 | h1
  · exact h y h1
  · omega
def leL (n size : Nat) : List Nat := (List.range size).map (fun i => n / 256 ^ i % 256)
def leTo (n size k : Nat) : List Nat := (List.range size).map (fun i => if i < k then n / 256 ^ i % 256 else 0)
theorem leTo_zero (n size : Nat) : leTo n size 0 = List.replicate size 0 := by
  apply List.ext_getElem <;> simp [leTo]
theorem leTo_length (n size k : Nat) : (leTo n size k).length = size := by simp [leTo]
theorem leTo_set (n size k : Nat) : (leTo n size k).set k (n / 256 ^ k % 256) = leTo n size (k + 1) := by
  apply List.ext_getElem
  · simp [leTo]
  · intro i h1 h2
    simp only [leTo, List.getElem_set, List.getElem_map, List.getElem_range]
    by_cases h : k = i
    · subst h; simp
    · simp [h]; by_cases h3 : i < k
      · simp [h3, show i < k + 1 by omega]
      · simp [h3, show ¬ i < k + 1 by omega]
theorem leTo_full (n size k : Nat) (hn : n < 18446744073709551616) (h : k = size ∨ 8 ≤ k) : leTo n size k = leL n size := by
  unfold leTo leL
  apply List.map_congr_left
  intro i hi
  have hi' : i < size := List.mem_range.1 hi
  by_cases h1 : i < k
  · simp [h1]
  · have h8 : 8 ≤ i := by omega
    have h3 : 256 ^ 8 ≤ 256 ^ i := Nat.pow_le_pow_right (by decide) h8
    have h4 : (256 : Nat) ^ 8 = 18446744073709551616 := by decide
    rw [Nat.div_eq_of_lt (by omega)]
    simp
theorem leTo_under (n size k : Nat) : Under 256 (leTo n size k) := by
  intro x hx
  obtain ⟨i, _, rfl⟩ := List.mem_map.1 hx
  split <;> omega
theorem byte_shr (n k : Nat) : (n : Int) / 2 ^ (8 * k) % 256 = ((n / 256 ^ k % 256 : Nat) : Int) := by
  rw [show (256 : Nat) ^ k = 2 ^ (8 * k) from by rw [Nat.pow_mul]]
  simp
def leS (n : Nat) (size : Int) : List Nat := if size ≤ 0 ∨ 65536 < size then [] else leL n size.toNat
theorem le_any (n : Nat) (size : Int) (w : World) (hn : n < 18446744073709551616) (hs0 : -9223372036854775808 ≤ size) (hs1 : size ≤ 9223372036854775807) :
    Calls Tryz.prog 49 #[.int .u64 n, .int .i64 size] w fun e w' => ∃ v, e = .returned v ∧ Own 5 .u8 256 w' w.heap.size v (leS n size) ∧ Below w.heap.size w w' := by
  by_cases h0 : size ≤ 0
  · have hS : leS n size = [] := by unfold leS; rw [if_pos (by omega)]
    rw [hS]
    clear hS
    go_enter Tryz.func49, Tryz.ntmps49
    go_wp2
    go_ret
    exact ⟨_, rfl, ⟨World.ownsRow_nil _ _ _ _, fun x hx => by simp at hx⟩, Below.refl _ _⟩
  by_cases h1 : 65536 < size
  · have hS : leS n size = [] := by unfold leS; rw [if_pos (by omega)]
    rw [hS]
    clear hS
    go_enter Tryz.func49, Tryz.ntmps49
    go_wp2
    go_ret
    exact ⟨_, rfl, ⟨World.ownsRow_nil _ _ _ _, fun x hx => by simp at hx⟩, Below.refl _ _⟩
  have hS : leS n size = leL n size.toNat := by unfold leS; rw [if_neg (by omega)]
  rw [hS]
  clear hS
  obtain ⟨N, rfl⟩ := Int.eq_ofNat_of_zero_le (show 0 ≤ size by omega)
  rw [Int.toNat_natCast]
  obtain ⟨i0, hi, hz0, hz1, hz2⟩ := info_parts Tryz.info5
  have hNN : N ≤ 65536 := by omega
  by_cases h8 : (8 : Int) < (N : Int)
  all_goals
    go_enter Tryz.func49, Tryz.ntmps49
    go_wp2_with (first | (at_make; refine wpList_make_full _ rfl _ _ 27 rfl w.heap.size 5 i0 (.int .u8 0) 1 Tryz.underlying27 hi hz0 hz1 _ _ _ _ N rfl rfl rfl rfl (by rw [hz2]; omega) (by unfold maxLen; omega) (Nat.le_refl _) ?_; intro w1 hown hgrow) | go_in)
    rw [made_u8] at hown
    have hb := (Below.refl w.heap.size w).grown hgrow (Nat.le_refl _) (fun k h => by cases h)
    clear hgrow
    go_loopw [17] (fun i wr => ∃ k : Nat, k ≤ N ∧ k ≤ 8 ∧ i = .int .i64 k ∧ wr.ownsRow w.heap.size 5 1 (.slice (some ⟨w.heap.size, 0, none⟩) N N) N (vals .u8 (leTo n N k)) ∧ Below w.heap.size w wr) (fun i _ => 8 - (intOf i).toNat)
    case atStart => exact ⟨0, Nat.zero_le _, by omega, rfl, by rw [leTo_zero]; exact hown, hb⟩
    case round =>
      obtain ⟨k, hk, hk8, rfl, how, hbr⟩ := hrel
      clear hown hb
      by_cases hlt : k < N ∧ k < 8
      · obtain ⟨hlt, hlt8⟩ := hlt
        have c1 := how.cellAt k (by omega)
        rw [vals_get _ _ _ (by rw [leTo_length]; exact hlt)] at c1
        have f1 := how.frozenAt k
        have st := how.stored k (.int .u8 ((n / 256 ^ k % 256 : Nat) : Int))
        rw [vals_set, leTo_set] at st
        have HST := hide st
        clear st
        go_wp2
        rw [byte_shr]
        go_roundw
        case rel => exact ⟨k + 1, by omega, by omega, by go_num, HST.out.1, hbr.setCell (by simp) _⟩
        case measure => simp [intOf]; omega
      · go_wp2
        go_ret
        exact ⟨_, rfl, ⟨by rw [← leTo_full n N k hn (by omega), leTo_length]; exact how, by rw [← leTo_full n N k hn (by omega)]; exact leTo_under _ _ _⟩, hbr⟩
def revTo (l : List Nat) (k : Nat) : List Nat := (List.range l.length).map (fun t => if t < k ∨ l.length - k ≤ t then el l (l.length - 1 - t) else el l t)
theorem revTo_length (l : List Nat) (k : Nat) : (revTo l k).length = l.length := by simp [revTo]
theorem revTo_zero (l : List Nat) : revTo l 0 = l := by
  apply List.ext_getElem
  · simp [revTo]
  · intro i h1 h2
    simp only [revTo, List.getElem_map, List.getElem_range]
    rw [if_neg (by omega), el_at h2]
theorem revTo_full (l : List Nat) (k : Nat) (h : l.length ≤ 2 * k + 1) : revTo l k = l.reverse := by
  apply List.ext_getElem
  · simp [revTo]
  · intro i h1 h2
    have h3 : i < l.length := by simpa using h2
    simp only [revTo, List.getElem_map, List.getElem_range, List.getElem_reverse]
    by_cases hc : i < k ∨ l.length - k ≤ i
    · rw [if_pos hc, el_at]
    · rw [if_neg hc, el_at h3]
      have e : i = l.length - 1 - i := by omega
      congr 1
theorem revTo_el (l : List Nat) (k t : Nat) (ht : t < l.length) (h : k ≤ t ∧ t < l.length - k) : el (revTo l k) t = el l t := by
  rw [el_at (by rw [revTo_length]; exact ht)]
  simp only [revTo, List.getElem_map, List.getElem_range]
  rw [if_neg (by omega)]
theorem revTo_set (l : List Nat) (k j : Nat) (hj : j = l.length - 1 - k) (h : k < j) :
    ((revTo l k).set k (el l j)).set j (el l k) = revTo l (k + 1) := by
  apply List.ext_getElem
  · simp [revTo]
  · intro i h1 h2
    have h3 : i < l.length := by simpa [revTo] using h2
    simp only [revTo, List.getElem_set, List.getElem_map, List.getElem_range]
    by_cases e1 : j = i
    · subst e1; rw [if_pos rfl, if_pos (by omega)]; congr 1; omega
    · rw [if_neg e1]
      by_cases e2 : k = i
      · subst e2; rw [if_pos rfl, if_pos (by omega)]; congr 1
      · rw [if_neg e2]
        by_cases e3 : i < k ∨ l.length - k ≤ i
        · rw [if_pos e3, if_pos (by omega)]
        · rw [if_neg e3, if_neg (by omega)]
theorem revTo_under (l : List Nat) (k : Nat) (m : Nat) (hm : 0 < m) (h : Under m l) : Under m (revTo l k) := by
  intro x hx
  obtain ⟨i, _, rfl⟩ := List.mem_map.1 hx
  split <;> exact el_lt h hm _
theorem rev_any (v : Value) (l : List Nat) (B : Nat) (w : World) (h : Own 5 .u8 256 w B v l) :
    Calls Tryz.prog 50 #[v] w fun e w' => e = .returned (.tuple #[]) ∧ Own 5 .u8 256 w' B v l.reverse ∧ Below B w w' := by
  obtain ⟨ho, hu⟩ := h
  have ho' := ho
  obtain ⟨h1, ⟨rfl, h2⟩ | ⟨g, cap, cur, rfl, h3, h4, h5, h6, h7, h8⟩⟩ := ho
  · have : l = [] := List.eq_nil_of_length_eq_zero h2
    subst this
    go_enter Tryz.func50, Tryz.ntmps50
    go_wp2
    refine wp_loop_rounds 1 ?_; rw [rounds_succ]
    go_wp2
    go_end0
    exact ⟨rfl, ⟨ho', hu⟩, Below.refl _ _⟩
  · clear h4 h7 h8 h1
    unfold maxLen at h6
    generalize hN : l.length = N at *
    have HN := hide hN
    clear hN
    go_enter Tryz.func50, Tryz.ntmps50
    go_wp2
    go_loopw [2, 3] (fun i j wr => ∃ k jn : Nat, i = .int .i64 k ∧ j = .int .i64 ((jn : Int) - 1) ∧ k + jn = N ∧ wr.ownsRow B 5 1 (.slice (some ⟨g, 0, none⟩) N cap) N (vals .u8 (revTo l k)) ∧ Below B w wr) (fun _ j _ => (intOf j).toNat)
    case atStart => exact ⟨0, N, rfl, rfl, by omega, by rw [revTo_zero]; exact ho', Below.refl _ _⟩
    case round =>
      obtain ⟨k, jn, rfl, rfl, hkj, how, hbr⟩ := hrel
      have hle1 : k ≤ N := by omega
      have hle2 : jn ≤ N := by omega
      have HKJ := hide hkj
      clear hkj
      by_cases hlt : k + 1 < jn
      · obtain ⟨j, rfl⟩ : ∃ j, jn = j + 1 := ⟨jn - 1, by omega⟩
        have hkj : k < j := by omega
        have hjN : j < N := by omega
        have c1 := how.cellAt k (by omega)
        rw [vals_get _ _ _ (by rw [revTo_length, HN.out]; omega)] at c1
        have c2 := how.cellAt j (by omega)
        rw [vals_get _ _ _ (by rw [revTo_length, HN.out]; omega)] at c2
        have f1 := how.frozenAt k
        have f2 := how.frozenAt j
        rw [show (((j + 1 : Nat) : Int) - 1) = (j : Int) from by omega]
        go_wp2
        go_region
        go_wp2
        go_roundw
        case rel =>
          have e1 : el (revTo l k) j = el l j := revTo_el l k j (by rw [HN.out]; omega) (by rw [HN.out]; have := HKJ.out; omega)
          have e2 : el (revTo l k) k = el l k := revTo_el l k k (by rw [HN.out]; omega) (by rw [HN.out]; have := HKJ.out; omega)
          have s1 := (how.stored k (.int .u8 (el (revTo l k) j : Int))).1
          have s2 := (s1.stored j (.int .u8 (el (revTo l k) k : Int))).1
          rw [vals_set, vals_set, e1, e2, revTo_set l k j (by rw [HN.out]; have := HKJ.out; omega) hkj] at s2
          rw [e1, e2]
          exact ⟨k + 1, j, by go_num, rfl, by have := HKJ.out; omega, s2, ((hbr.setCell (by simpa using h3) _).setCell (by simpa using h3) _).drew⟩
        case measure => simp [intOf]; omega
      · go_wp2
        go_end0
        have e : revTo l k = l.reverse := revTo_full l k (by rw [HN.out]; have := HKJ.out; omega)
        refine ⟨rfl, ⟨?_, ?_⟩, hbr⟩
        · rw [← e, revTo_length, HN.out]; exact how
        · rw [← e]; exact revTo_under _ _ _ (by decide) hu
theorem be_any (n : Nat) (size : Int) (w : World) (hn : n < 18446744073709551616) (hs0 : -9223372036854775808 ≤ size) (hs1 : size ≤ 9223372036854775807) :
    Calls Tryz.prog 28 #[.int .u64 n, .int .i64 size] w fun e w' => ∃ v, e = .returned v ∧ Own 5 .u8 256 w' w.heap.size v (leS n size).reverse ∧ Below w.heap.size w w' := by
  go_enter Tryz.func28, Tryz.ntmps28
  go_wp2_with fail
  refine (le_any n size _ hn hs0 hs1).mono ?_
  rintro e w1 ⟨v, rfl, ho, hb⟩
  go_wp2_with fail
  refine (rev_any v _ _ _ ho).mono ?_
  rintro e w2 ⟨rfl, ho2, hb2⟩
  go_wp2
  go_ret
  exact ⟨_, rfl, ho2, hb.trans hb2⟩
def beTo (n size k : Nat) : List Nat := (List.range size).map (fun t => if size - k ≤ t then n / 256 ^ (size - 1 - t) % 256 else 0)
theorem beTo_zero (n size : Nat) : beTo n size 0 = List.replicate size 0 := by
  apply List.ext_getElem
  · simp [beTo]
  · intro i h1 h2
    have : i < size := by simpa [beTo] using h1
    simp only [beTo, List.getElem_map, List.getElem_range, List.getElem_replicate]
    rw [if_neg (by omega)]
theorem beTo_length (n size k : Nat) : (beTo n size k).length = size := by simp [beTo]
theorem beTo_set (n size k j : Nat) (h : j + 1 + k = size) : (beTo n size k).set j (n / 256 ^ k % 256) = beTo n size (k + 1) := by
  apply List.ext_getElem
  · simp [beTo]
  · intro i h1 h2
    have h3 : i < size := by simpa [beTo] using h2
    simp only [beTo, List.getElem_set, List.getElem_map, List.getElem_range]
    by_cases e : j = i
    · subst e; rw [if_pos rfl, if_pos (by omega)]; congr 3; omega
    · rw [if_neg e]
      by_cases h4 : size - k ≤ i
      · rw [if_pos h4, if_pos (by omega)]
      · rw [if_neg h4, if_neg (by omega)]
theorem leL_length (n size : Nat) : (leL n size).length = size := by simp [leL]
theorem beTo_full (n size : Nat) : beTo n size size = (leL n size).reverse := by
  apply List.ext_getElem
  · simp [beTo, leL]
  · intro i h1 h2
    have h3 : i < size := by simpa [beTo] using h1
    simp only [beTo, leL, List.getElem_map, List.getElem_range, List.getElem_reverse, List.length_map, List.length_range]
    rw [if_pos (by omega)]
theorem beTo_under (n size k : Nat) : Under 256 (beTo n size k) := by
  intro x hx
  obtain ⟨i, _, rfl⟩ := List.mem_map.1 hx
  split <;> omega
theorem rbe_nil (n : Nat) (size : Int) (h : size ≤ 0 ∨ 65536 < size) : (leS n size).reverse = [] := by
  unfold leS; rw [if_pos h]; rfl
theorem and255 (M : Nat) (h : M < 18446744073709551616) : bits BinOp.and IntKind.u64 (M : Int) 255 % 256 = ((M % 256 : Nat) : Int) := by
  rw [show (255 : Int) = ((255 : Nat) : Int) from rfl, u64_and_nat M 255 h (by decide), show M &&& 255 = M % 256 from Nat.and_two_pow_sub_one_eq_mod M 8]
  omega
theorem rbe_any (n : Nat) (size : Int) (w : World) (hn : n < 18446744073709551616) (hs0 : -9223372036854775808 ≤ size) (hs1 : size ≤ 9223372036854775807) :
    Calls Tryz.prog 30 #[.int .u64 n, .int .i64 size] w fun e w' => ∃ v, e = .returned v ∧ Own 5 .u8 256 w' w.heap.size v (leS n size).reverse ∧ Below w.heap.size w w' := by
  by_cases h0 : size < 0
  · rw [rbe_nil n size (by omega)]
    go_enter Tryz.func30, Tryz.ntmps30
    go_wp2
    go_ret
    exact ⟨_, rfl, ⟨World.ownsRow_nil _ _ _ _, fun x hx => by simp at hx⟩, Below.refl _ _⟩
  by_cases h1 : 65536 < size
  · rw [rbe_nil n size (by omega)]
    go_enter Tryz.func30, Tryz.ntmps30
    go_wp2
    go_ret
    exact ⟨_, rfl, ⟨World.ownsRow_nil _ _ _ _, fun x hx => by simp at hx⟩, Below.refl _ _⟩
  obtain ⟨N, rfl⟩ := Int.eq_ofNat_of_zero_le (show 0 ≤ size by omega)
  have hS : (leS n (N : Int)).reverse = beTo n N N := by
    rw [beTo_full]; unfold leS
    by_cases hz : N = 0
    · subst hz; rfl
    · rw [if_neg (by omega), Int.toNat_natCast]
  rw [hS]
  clear hS
  obtain ⟨i0, hi, hz0, hz1, hz2⟩ := info_parts Tryz.info5
  have hNN : N ≤ 65536 := by omega
  go_enter Tryz.func30, Tryz.ntmps30
  go_wp2_with (first | (at_make; refine wpList_make_full _ rfl _ _ 27 rfl w.heap.size 5 i0 (.int .u8 0) 1 Tryz.underlying27 hi hz0 hz1 _ _ _ _ N rfl rfl rfl rfl (by rw [hz2]; omega) (by unfold maxLen; omega) (Nat.le_refl _) ?_; intro w1 hown hgrow) | go_in)
  rw [made_u8] at hown
  have hb := (Below.refl w.heap.size w).grown hgrow (Nat.le_refl _) (fun k h => by cases h)
  clear hgrow
  go_loopw [0, 6] (fun nn i wr => ∃ k jn : Nat, jn + k = N ∧ i = .int .i64 ((jn : Int) - 1) ∧ nn = .int .u64 ((n / 256 ^ k : Nat) : Int) ∧ wr.ownsRow w.heap.size 5 1 (.slice (some ⟨w.heap.size, 0, none⟩) N N) N (vals .u8 (beTo n N k)) ∧ Below w.heap.size w wr) (fun _ i _ => (intOf i + 1).toNat)
  case atStart => exact ⟨0, N, by omega, rfl, by simp, by rw [beTo_zero]; exact hown, hb⟩
  case round =>
    obtain ⟨k, jn, hkj, rfl, rfl, how, hbr⟩ := hrel
    clear hown hb
    have HKJ := hide hkj
    have hle : jn ≤ N := by omega
    clear hkj
    have hM : n / 256 ^ k < 18446744073709551616 := Nat.lt_of_le_of_lt (Nat.div_le_self _ _) hn
    generalize hMM : n / 256 ^ k = M at *
    have HM := hide hMM
    clear hMM
    by_cases hlt : 0 < jn
    · obtain ⟨j, rfl⟩ : ∃ j, jn = j + 1 := ⟨jn - 1, by omega⟩
      rw [show (((j + 1 : Nat) : Int) - 1) = (j : Int) from by omega]
      have c1 := how.cellAt j (by omega)
      rw [vals_get _ _ _ (by rw [beTo_length]; omega)] at c1
      have f1 := how.frozenAt j
      go_wp2
      rw [and255 M hM]
      go_roundw
      case rel =>
        have e : M % 256 = n / 256 ^ k % 256 := by rw [HM.out]
        have st := (how.stored j (.int .u8 ((M % 256 : Nat) : Int))).1
        rw [vals_set, e, beTo_set n N k j HKJ.out] at st
        rw [e]
        exact ⟨k + 1, j, by have := HKJ.out; omega, rfl, vint (by rw [Nat.pow_succ, ← Nat.div_div_eq_div_mul, HM.out]; simp), st, hbr.setCell (by simp) _⟩
      case measure => simp [intOf]
    · go_wp2
      go_ret
      have e : k = N := by have := HKJ.out; omega
      subst e
      exact ⟨_, rfl, ⟨by rw [beTo_length]; exact how, beTo_under _ _ _⟩, hbr⟩
def numL (l : List Nat) : Nat := l.foldl (fun n x => (n * 256 + x) % 18446744073709551616) 0
theorem take_snoc {l : List Nat} {k : Nat} (h : k < l.length) : l.take (k + 1) = l.take k ++ [el l k] := by
  rw [List.take_succ_eq_append_getElem h, el_at h]
theorem numL_snoc (l : List Nat) (x : Nat) : numL (l ++ [x]) = (numL l * 256 + x) % 18446744073709551616 := by
  unfold numL; rw [List.foldl_append]; rfl
theorem numL_lt (l : List Nat) : numL l < 18446744073709551616 := by
  rcases List.eq_nil_or_concat l with rfl | ⟨m, x, rfl⟩
  · decide
  · rw [List.concat_eq_append, numL_snoc]; exact Nat.mod_lt _ (by decide)
theorem step_num (N x : Nat) (hN : N < 18446744073709551616) (hx : x < 256) :
    bits .or .u64 (IntKind.u64.wrap ((N : Int) * 256)) (x : Int) = (((N * 256 + x) % 18446744073709551616 : Nat) : Int) := by
  have e : IntKind.u64.wrap ((N : Int) * 256) = ((N * 256 % 18446744073709551616 : Nat) : Int) := by
    rw [IntKind.wrap_u64]; omega
  rw [e, u64_or_nat _ _ (Nat.mod_lt _ (by decide)) (by omega), nat_join 8 _ _ (by omega) (by omega)]
  congr 1
  omega
theorem num_any (va : Value) (l : List Nat) (w : World) (ha : Row .u8 256 w va l) :
    Calls Tryz.prog 74 #[va] w fun e w' => e = .returned (.int .u64 (numL l)) ∧ w' = w := by
  obtain ⟨a, ca, rfl, ha1, ha2, ha3, ha4⟩ := ha
  unfold maxLen at ha2
  go_enter Tryz.func74, Tryz.ntmps74
  go_wp2
  go_loop [3, 8] (fun n i => ∃ k : Nat, k ≤ l.length ∧ i = .int .i64 k ∧ n = .int .u64 (numL (l.take k))) (fun _ i => l.length - (intOf i).toNat)
  case atStart => exact ⟨0, Nat.zero_le _, rfl, rfl⟩
  case round =>
    obtain ⟨k, hk, rfl, rfl⟩ := hrel
    have hn := numL_lt (l.take k)
    by_cases hlt : k < l.length
    · obtain ⟨ba, oa, rfl, hca⟩ := ha3 (by omega)
      have c1 := hca k hlt
      have hx := el_lt ha4 (by decide) k
      clear hca
      generalize hN : numL (l.take k) = N at *
      have HN : Hid (numL (l.take k) = N) := hN
      clear hN
      go_wp2
      go_round
      case rel => exact ⟨k + 1, by omega, by go_num, vint (by rw [take_snoc hlt, numL_snoc, HN.out]; exact step_num N _ hn hx)⟩
      case measure => simp [intOf]; omega
    · go_wp2
      go_ret
      exact ⟨ret_int (by rw [List.take_of_length_le (by omega)]), rfl⟩
theorem rnum_any (va : Value) (l : List Nat) (w : World) (ha : Row .u8 256 w va l) :
    Calls Tryz.prog 75 #[va] w fun e w' => e = .returned (.int .u64 (numL l)) ∧ w' = w := by
  obtain ⟨a, ca, rfl, ha1, ha2, ha3, ha4⟩ := ha
  unfold maxLen at ha2
  go_enter Tryz.func75, Tryz.ntmps75
  go_wp2
  go_loop [3, 4] (fun n i => ∃ k : Nat, k ≤ l.length ∧ i = .int .i64 k ∧ n = .int .u64 (numL (l.take k))) (fun _ i => l.length - (intOf i).toNat)
  case atStart => exact ⟨0, Nat.zero_le _, rfl, rfl⟩
  case round =>
    obtain ⟨k, hk, rfl, rfl⟩ := hrel
    have hn := numL_lt (l.take k)
    by_cases hlt : k < l.length
    · obtain ⟨ba, oa, rfl, hca⟩ := ha3 (by omega)
      have c1 := hca k hlt
      have hx := el_lt ha4 (by decide) k
      clear hca
      generalize hN : numL (l.take k) = N at *
      have HN : Hid (numL (l.take k) = N) := hN
      clear hN
      go_wp2
      go_round
      case rel => exact ⟨k + 1, by omega, by go_num, vint (by rw [take_snoc hlt, numL_snoc, HN.out]; simp only [IntKind.wrap_u64]; omega)⟩
      case measure => simp [intOf]; omega
    · go_wp2
      go_ret
      exact ⟨ret_int (by rw [List.take_of_length_le (by omega)]), rfl⟩
def valLe : List Nat → Nat
  | [] => 0
  | x :: r => x + 256 * valLe r
theorem valLe_append (a b : List Nat) : valLe (a ++ b) = valLe a + 256 ^ a.length * valLe b := by
  induction a with
  | nil => simp [valLe]
  | cons x r ih => simp only [List.cons_append, valLe, ih, List.length_cons, Nat.pow_succ]; rw [Nat.mul_add]; rw [show 256 ^ r.length * 256 * valLe b = 256 * (256 ^ r.length * valLe b) from by rw [Nat.mul_comm (256 ^ r.length) 256, Nat.mul_assoc]]; omega
theorem valLe_lt (a : List Nat) (h : Under 256 a) : valLe a < 256 ^ a.length := by
  induction a with
  | nil => simp [valLe]
  | cons x r ih =>
    have hx := h x (by simp)
    have := ih (fun y hy => h y (by simp [hy]))
    simp only [valLe, List.length_cons, Nat.pow_succ]
    omega
theorem Under.take {m : Nat} {l : List Nat} (h : Under m l) (k : Nat) : Under m (l.take k) := fun x hx => h x (List.mem_of_mem_take hx)
theorem Under.drop {m : Nat} {l : List Nat} (h : Under m l) (k : Nat) : Under m (l.drop k) := fun x hx => h x (List.mem_of_mem_drop hx)
theorem p256 (k : Nat) : (256 : Nat) ^ k = 2 ^ (8 * k) := by rw [Nat.pow_mul]
theorem pp (k : Nat) : 0 < (2 : Nat) ^ k := Nat.pow_pos (by decide)
theorem mod_div_mod (V a h w : Nat) (hh : h + w ≤ a) : V % 2 ^ a / 2 ^ h % 2 ^ w = V / 2 ^ h % 2 ^ w := by
  obtain ⟨d, rfl⟩ : ∃ d, a = h + (w + d) := ⟨a - h - w, by omega⟩
  rw [Nat.pow_add, Nat.mod_mul_right_div_self, Nat.pow_add]
  exact Nat.mod_mod_of_dvd _ (Nat.dvd_mul_right _ _)
theorem div_div_pow (V a b : Nat) : V / 2 ^ a / 2 ^ b = V / 2 ^ (a + b) := by
  rw [Nat.div_div_eq_div_mul, Nat.pow_add]
theorem mod_succ (X k : Nat) : X / 2 % 2 ^ k * 2 + X % 2 = X % 2 ^ (k + 1) := by
  rw [Nat.pow_succ, Nat.mul_comm (2 ^ k) 2, Nat.mod_mul, Nat.mul_comm 2 (X / 2 % 2 ^ k)]
  omega
def valBe (l : List Nat) : Nat := l.foldl (fun n x => n * 256 + x) 0
theorem valBe_snoc (l : List Nat) (x : Nat) : valBe (l ++ [x]) = valBe l * 256 + x := by
  unfold valBe; rw [List.foldl_append]; rfl
theorem valBe_le (l : List Nat) : valBe l.reverse = valLe l := by
  induction l with
  | nil => rfl
  | cons x r ih => rw [List.reverse_cons, valBe_snoc, ih]; simp only [valLe]; omega
theorem valBe_eq (l : List Nat) : valBe l = valLe l.reverse := by rw [← valBe_le, List.reverse_reverse]
theorem valBe_take (l : List Nat) (hu : Under 256 l) (a : Nat) (ha : a ≤ l.length) : valBe (l.take a) = valBe l / 2 ^ (8 * (l.length - a)) := by
  have e : l.reverse = (l.drop a).reverse ++ (l.take a).reverse := by rw [← List.reverse_append, List.take_append_drop]
  rw [valBe_eq l, e, valLe_append, valBe_eq, List.length_reverse, List.length_drop, p256]
  have hlt := valLe_lt (l.drop a).reverse (fun x hx => hu x (List.mem_of_mem_drop (List.mem_reverse.1 hx)))
  rw [List.length_reverse, List.length_drop, p256] at hlt
  rw [Nat.add_mul_div_left _ _ (pp _), Nat.div_eq_of_lt hlt, Nat.zero_add]
theorem valBe_lt (l : List Nat) (hu : Under 256 l) : valBe l < 2 ^ (8 * l.length) := by
  rw [valBe_eq]
  have := valLe_lt l.reverse (fun x hx => hu x (List.mem_reverse.1 hx))
  rw [List.length_reverse, p256] at this
  exact this
theorem valBe_el (l : List Nat) (hu : Under 256 l) (j : Nat) (hj : j < l.length) : el l j = valBe l / 2 ^ (8 * (l.length - 1 - j)) % 256 := by
  have h1 := valBe_take l hu (j + 1) (by omega)
  rw [take_snoc hj, valBe_snoc] at h1
  have hx := el_lt hu (by decide) j
  rw [show l.length - 1 - j = l.length - (j + 1) by omega, ← h1]
  omega
def dig (l : List Nat) (w i : Nat) : Nat := valBe l / 2 ^ (8 * l.length - (i + 1) * w) % 2 ^ w
def digL (l : List Nat) (w c : Nat) : List Nat := (List.range c).map (dig l w)
theorem digL_length (l : List Nat) (w c : Nat) : (digL l w c).length = c := by simp [digL]
theorem digL_succ (l : List Nat) (w c : Nat) : digL l w (c + 1) = digL l w c ++ [dig l w c] := by simp [digL, List.range_succ]
theorem digL_under (l : List Nat) (w c : Nat) (hw : w ≤ 24) : Under 4294967296 (digL l w c) := by
  intro x hx
  obtain ⟨i, _, rfl⟩ := List.mem_map.1 hx
  have h1 : dig l w i < 2 ^ w := Nat.mod_lt _ (pp w)
  have h2 : 2 ^ w ≤ 2 ^ 24 := Nat.pow_le_pow_right (by decide) hw
  have h3 : (2 : Nat) ^ 24 = 16777216 := by decide
  omega
theorem dig_read (l : List Nat) (hu : Under 256 l) (w i a : Nat) (ha : a ≤ l.length) (hi : (i + 1) * w ≤ 8 * a) (h32 : 8 * a - (i + 1) * w + w ≤ 32) :
    valBe (l.take a) % 2 ^ 32 / 2 ^ (8 * a - (i + 1) * w) % 2 ^ w = dig l w i := by
  rw [mod_div_mod _ _ _ _ h32, valBe_take l hu a ha, div_div_pow]
  unfold dig
  congr 3
  omega
theorem bit_be (l : List Nat) (hu : Under 256 l) (p : Nat) (hp : p < 8 * l.length) :
    el l (p / 8) / 2 ^ (7 - p % 8) % 2 = valBe l / 2 ^ (8 * l.length - 1 - p) % 2 := by
  rw [valBe_el l hu (p / 8) (by omega)]
  have h := mod_div_mod (valBe l / 2 ^ (8 * (l.length - 1 - p / 8))) 8 (7 - p % 8) 1 (by omega)
  rw [show (256 : Nat) = 2 ^ 8 from rfl]
  rw [show (2 : Nat) ^ 1 = 2 from rfl] at h
  rw [h, div_div_pow]
  congr 3
  omega
def digTo (l : List Nat) (w i k : Nat) : Nat := valBe l / 2 ^ (8 * l.length - (i * w + k)) % 2 ^ k
theorem digTo_zero (l : List Nat) (w i : Nat) : digTo l w i 0 = 0 := by unfold digTo; exact Nat.mod_one _
theorem digTo_full (l : List Nat) (w i : Nat) : digTo l w i w = dig l w i := by unfold digTo dig; rw [Nat.add_mul, Nat.one_mul]
theorem digTo_succ (l : List Nat) (hu : Under 256 l) (w i k : Nat) (hp : i * w + k < 8 * l.length) :
    digTo l w i k * 2 + el l ((i * w + k) / 8) / 2 ^ (7 - (i * w + k) % 8) % 2 = digTo l w i (k + 1) := by
  rw [bit_be l hu _ hp]
  unfold digTo
  have e : valBe l / 2 ^ (8 * l.length - (i * w + k)) = valBe l / 2 ^ (8 * l.length - 1 - (i * w + k)) / 2 := by
    rw [show (2 : Nat) = 2 ^ 1 from rfl, ← Nat.pow_mul, ← Nat.pow_mul, Nat.one_mul, Nat.one_mul, div_div_pow]
    congr 2
    omega
  rw [e, mod_succ]
  congr 3
  omega
theorem digTo_lt (l : List Nat) (w i k : Nat) : digTo l w i k < 2 ^ k := Nat.mod_lt _ (pp k)
end Go.Proofs.YtpmobjfhhkglbaaGreatDoor
