/- der's writer: spend, head. -/
import Derived.Test.YtlddpjcacnahmaaGreatDoorNum
import Derived.Test.YtlddpjcacnahmaaGreatDoorApp2
import Derived.Laws.BitsAllLaws
import Derived.Test.YtlddpjcacnahmaaGreatDoorPCmp
import Derived.Lib.MinMax
import Derived.Test.YtlddpjcacnahmaaGreatDoorKit
import Derived.Test.YtlddpjcacnahmaaGreatDoorBase
import Derived.Laws.AppendOwnNone
namespace Go.Proofs.YtlddpjcacnahmaaGreatDoor
open Go.RowKit Go.Deep
set_option linter.unusedVariables false

/-- a writer's box: what may still be written -/
def WB (w : World) (P : Nat) (L : Int) : Prop := w.heap[P]? = some (.cells #[.int .i64 L] 141)
theorem WB.lt {w : World} {P : Nat} {L : Int} (h : WB w P L) : P < w.heap.size := (Array.getElem?_eq_some_iff.1 h).1
theorem WB.below {w w' : World} {P : Nat} {L : Int} (h : WB w P L) (hb : Below w.heap.size w w') : WB w' P L := by
  unfold WB
  rw [hb.block P h.lt]
  exact h
theorem WB.cells {w : World} {P : Nat} {L : Int} (h : WB w P L) : w.cell? ⟨P, 0, none⟩ = some (.int .i64 L) ∧ w.frozen? ⟨P, 0, none⟩ = false :=
  ⟨by rw [cell_at' h]; rfl, frozen_of_row w _ 0 _ _ h⟩
theorem WB.set {w : World} {P : Nat} {L : Int} (h : WB w P L) (M : Int) : WB (w.setCell ⟨P, 0, none⟩ (.int .i64 M)) P M := by
  unfold WB at *
  rw [heap_setCell_same _ _ _ _ _ _ h]
  rfl
set_option maxHeartbeats 1000000 in
theorem spend_any (P n : Nat) (L : Int) (w : World) (hw : WB w P L) (hn : (n : Int) ≤ L) (hL : L ≤ 1048576) :
    Calls Tryz.prog 139 #[.pointer (some ⟨P, 0, none⟩), .int .i64 n] w fun e w' => e = .returned (.bool true) ∧ WB w' P (L - n) ∧ Turn P w w' := by
  obtain ⟨c0, f0⟩ := hw.cells
  have hr1 : (0 : Int) ≤ L - (n : Int) := by omega
  have hr2 : L - (n : Int) < 9223372036854775808 := by omega
  have hs := hw.set (L - n)
  have ht := Turn.set P 0 w (.int .i64 (L - n))
  generalize hM : L - (n : Int) = M at *
  go_enter Tryz.func139, Tryz.ntmps139
  go_wp2_with fail
  go_ret
  exact ⟨rfl, hs, ht⟩

theorem orLen : bits .or .u8 128 1 = 129 ∧ bits .or .u8 128 2 = 130 ∧ bits .or .u8 128 3 = 131 := by decide
/-- what head tells -/
def HeadE (t n : Nat) (w : World) (e : Ending) (w' : World) : Prop := (∃ v, e = .returned v ∧ Own 5 .u8 256 w' w.heap.size v (t :: lenE n)) ∧ Below w.heap.size w w'
theorem head_under {t n : Nat} (ht : t < 256) (hn : n < 16777216) : Under 256 (t :: lenE n) := by
  intro x hx
  rcases List.mem_cons.1 hx with rfl | h
  · exact ht
  · exact lenE_under hn x h

theorem info_b : ∃ i, Tryz.prog.info? 5 = some i ∧ i.zero = some (.int .u8 0) ∧ i.size = 1 ∧ i.bytes = 1 := info_byte

set_option maxRecDepth 100000 in
set_option maxHeartbeats 4000000 in
theorem head_1 (t n : Nat) (w : World) (ht : t < 256) (h1 : ¬ n < 128) (h2 : n < 256) :
    Calls Tryz.prog 142 #[.int .i64 t, .int .i64 n] w fun e w' => HeadE t n w e w' := by
  have hsz := lengthSize_any n (by omega) w
  rw [show lsz n = 1 by unfold lsz; rw [if_neg (by omega), if_pos (by omega)]] at hsz
  have HE : Hid (t :: lenE n = [t, 129, n]) := hide (by unfold lenE; rw [if_neg (by omega), if_pos (by omega)])
  have HU := hide (head_under (n := n) ht (by omega))
  have ht1 : (t : Int) % 256 = (t : Int) := by omega
  have ho := orLen
  obtain ⟨i0, hi, hz0, hz1, hz2⟩ := info_b
  go_enter Tryz.func142, Tryz.ntmps142
  go_wp2_with fail
  refine hsz.mono ?_
  rintro e w1 ⟨rfl, rfl⟩
  clear hsz
  go_wp2_with fail
  clear ho ht1
  have hst : Own 5 .u8 256 (w1.alloc (.cells #[.int .u8 t, .int .u8 129] 5)) w1.heap.size (.slice (some ⟨w1.heap.size, 0, none⟩) 2 2) ([t, 129, n].take (2 + 0)) := ⟨two_own 5 .u8 t 129 w1 w1.heap.size (Nat.le_refl _), fun x hx => by
    rw [show [t, 129, n].take (2 + 0) = [t, 129] from rfl] at hx
    simp at hx
    omega⟩
  have hbs : Below w1.heap.size w1 (w1.alloc (.cells #[.int .u8 t, .int .u8 129] 5)) := keep_alloc _ _
  go_loopw [6, 24] (fun vo iv wr => ∃ k : Nat, k ≤ 1 ∧ iv = .int .i64 k ∧ Own 5 .u8 256 wr w1.heap.size vo ([t, 129, n].take (2 + k)) ∧ Below w1.heap.size w1 wr) (fun _ iv _ => 1 - (intOf iv).toNat)
  case atStart => exact ⟨0, by omega, rfl, hst, hbs⟩
  case round =>
    obtain ⟨k, hk, rfl, how, hbr⟩ := hrel
    have hsw := hbr.size
    by_cases hlt : k < 1
    · have hlti : (k : Int) < 1 := by omega
      obtain rfl : k = 0 := by omega
      rw [show [t, 129, n].take (2 + 0) = [t, 129] from rfl] at how
      have hxl : n < 256 := by omega
      go_wp2_with (first
        | (at_builtin; refine wpList_append_own _ rfl _ _ 22 rfl w1.heap.size 5 i0 (.int .u8 0) 1 1 Tryz.underlying22 hi hz0 hz1 hz2 rfl (by decide) _ _ _ rfl (how.1.alloc _) ⟨wr.heap.size, 0, none⟩ 1 1 (vals .u8 [n]) rfl rfl (app_cells wr .u8 (n) _ _ (by omega)) (vals_one _ _) (by unfold maxLen; simp) (by simp) (by simp; omega) ?_; intro v4 w4 how4 hgrow4 _; have hb4 := below_append hbr hsw how.1 _ hgrow4)
        | fail)
      exact ⟨⟨0 + 1, by omega, by simp, ⟨by rw [show [t, 129, n].take (2 + (0 + 1)) = [t, 129] ++ [n] from rfl, vals_append]; exact how4, how.2.append (Under.one hxl)⟩, hb4⟩, by simp [intOf]; try omega⟩
    · obtain rfl : k = 1 := by omega
      go_wp2_with fail
      go_ret
      exact ⟨⟨_, rfl, by rw [HE.out]; exact how⟩, hbr⟩

set_option maxRecDepth 100000 in
set_option maxHeartbeats 4000000 in
theorem head_2 (t n : Nat) (w : World) (ht : t < 256) (h1 : ¬ n < 256) (h2 : n < 65536) :
    Calls Tryz.prog 142 #[.int .i64 t, .int .i64 n] w fun e w' => HeadE t n w e w' := by
  have hsz := lengthSize_any n (by omega) w
  rw [show lsz n = 2 by unfold lsz; rw [if_neg (by omega), if_neg (by omega), if_pos (by omega)]] at hsz
  have HE : Hid (t :: lenE n = [t, 130, n / 256, n % 256]) := hide (by unfold lenE; rw [if_neg (by omega), if_neg (by omega), if_pos (by omega)])
  have HU := hide (head_under (n := n) ht (by omega))
  have ht1 : (t : Int) % 256 = (t : Int) := by omega
  have ho := orLen
  obtain ⟨i0, hi, hz0, hz1, hz2⟩ := info_b
  go_enter Tryz.func142, Tryz.ntmps142
  go_wp2_with fail
  refine hsz.mono ?_
  rintro e w1 ⟨rfl, rfl⟩
  clear hsz
  go_wp2_with fail
  clear ho ht1
  have hst : Own 5 .u8 256 (w1.alloc (.cells #[.int .u8 t, .int .u8 130] 5)) w1.heap.size (.slice (some ⟨w1.heap.size, 0, none⟩) 2 2) ([t, 130, n / 256, n % 256].take (2 + 0)) := ⟨two_own 5 .u8 t 130 w1 w1.heap.size (Nat.le_refl _), fun x hx => by
    rw [show [t, 130, n / 256, n % 256].take (2 + 0) = [t, 130] from rfl] at hx
    simp at hx
    omega⟩
  have hbs : Below w1.heap.size w1 (w1.alloc (.cells #[.int .u8 t, .int .u8 130] 5)) := keep_alloc _ _
  go_loopw [6, 24] (fun vo iv wr => ∃ k : Nat, k ≤ 2 ∧ iv = .int .i64 k ∧ Own 5 .u8 256 wr w1.heap.size vo ([t, 130, n / 256, n % 256].take (2 + k)) ∧ Below w1.heap.size w1 wr) (fun _ iv _ => 2 - (intOf iv).toNat)
  case atStart => exact ⟨0, by omega, rfl, hst, hbs⟩
  case round =>
    obtain ⟨k, hk, rfl, how, hbr⟩ := hrel
    have hsw := hbr.size
    by_cases hlt : k < 2
    · have hlti : (k : Int) < 2 := by omega
      rcases (by omega : k = 0 ∨ k = 1) with rfl | rfl
      · rw [show [t, 130, n / 256, n % 256].take (2 + 0) = [t, 130] from rfl] at how
        have hxl : n / 256 < 256 := by omega
        go_wp2_with (first
          | (at_builtin; refine wpList_append_own _ rfl _ _ 22 rfl w1.heap.size 5 i0 (.int .u8 0) 1 1 Tryz.underlying22 hi hz0 hz1 hz2 rfl (by decide) _ _ _ rfl (how.1.alloc _) ⟨wr.heap.size, 0, none⟩ 1 1 (vals .u8 [n / 256]) rfl rfl (app_cells wr .u8 (n / 256) _ _ (by omega)) (vals_one _ _) (by unfold maxLen; simp) (by simp) (by simp; omega) ?_; intro v4 w4 how4 hgrow4 _; have hb4 := below_append hbr hsw how.1 _ hgrow4)
          | fail)
        exact ⟨⟨0 + 1, by omega, by simp, ⟨by rw [show [t, 130, n / 256, n % 256].take (2 + (0 + 1)) = [t, 130] ++ [n / 256] from rfl, vals_append]; exact how4, how.2.append (Under.one hxl)⟩, hb4⟩, by simp [intOf]; try omega⟩
      · rw [show [t, 130, n / 256, n % 256].take (2 + 1) = [t, 130, n / 256] from rfl] at how
        have hxl : n % 256 < 256 := by omega
        go_wp2_with (first
          | (at_builtin; refine wpList_append_own _ rfl _ _ 22 rfl w1.heap.size 5 i0 (.int .u8 0) 1 1 Tryz.underlying22 hi hz0 hz1 hz2 rfl (by decide) _ _ _ rfl (how.1.alloc _) ⟨wr.heap.size, 0, none⟩ 1 1 (vals .u8 [n % 256]) rfl rfl (app_cells wr .u8 (n % 256) _ _ (by omega)) (vals_one _ _) (by unfold maxLen; simp) (by simp) (by simp; omega) ?_; intro v4 w4 how4 hgrow4 _; have hb4 := below_append hbr hsw how.1 _ hgrow4)
          | fail)
        exact ⟨⟨1 + 1, by omega, by simp, ⟨by rw [show [t, 130, n / 256, n % 256].take (2 + (1 + 1)) = [t, 130, n / 256] ++ [n % 256] from rfl, vals_append]; exact how4, how.2.append (Under.one hxl)⟩, hb4⟩, by simp [intOf]; try omega⟩
    · obtain rfl : k = 2 := by omega
      go_wp2_with fail
      go_ret
      exact ⟨⟨_, rfl, by rw [HE.out]; exact how⟩, hbr⟩

set_option maxRecDepth 100000 in
set_option maxHeartbeats 4000000 in
theorem head_3 (t n : Nat) (w : World) (ht : t < 256) (h1 : ¬ n < 65536) (h2 : n < 16777216) :
    Calls Tryz.prog 142 #[.int .i64 t, .int .i64 n] w fun e w' => HeadE t n w e w' := by
  have hsz := lengthSize_any n (by omega) w
  rw [show lsz n = 3 by unfold lsz; rw [if_neg (by omega), if_neg (by omega), if_neg (by omega)]] at hsz
  have HE : Hid (t :: lenE n = [t, 131, n / 65536, n / 256 % 256, n % 256]) := hide (by unfold lenE; rw [if_neg (by omega), if_neg (by omega), if_neg (by omega)])
  have HU := hide (head_under (n := n) ht (by omega))
  have ht1 : (t : Int) % 256 = (t : Int) := by omega
  have ho := orLen
  obtain ⟨i0, hi, hz0, hz1, hz2⟩ := info_b
  go_enter Tryz.func142, Tryz.ntmps142
  go_wp2_with fail
  refine hsz.mono ?_
  rintro e w1 ⟨rfl, rfl⟩
  clear hsz
  go_wp2_with fail
  clear ho ht1
  have hst : Own 5 .u8 256 (w1.alloc (.cells #[.int .u8 t, .int .u8 131] 5)) w1.heap.size (.slice (some ⟨w1.heap.size, 0, none⟩) 2 2) ([t, 131, n / 65536, n / 256 % 256, n % 256].take (2 + 0)) := ⟨two_own 5 .u8 t 131 w1 w1.heap.size (Nat.le_refl _), fun x hx => by
    rw [show [t, 131, n / 65536, n / 256 % 256, n % 256].take (2 + 0) = [t, 131] from rfl] at hx
    simp at hx
    omega⟩
  have hbs : Below w1.heap.size w1 (w1.alloc (.cells #[.int .u8 t, .int .u8 131] 5)) := keep_alloc _ _
  go_loopw [6, 24] (fun vo iv wr => ∃ k : Nat, k ≤ 3 ∧ iv = .int .i64 k ∧ Own 5 .u8 256 wr w1.heap.size vo ([t, 131, n / 65536, n / 256 % 256, n % 256].take (2 + k)) ∧ Below w1.heap.size w1 wr) (fun _ iv _ => 3 - (intOf iv).toNat)
  case atStart => exact ⟨0, by omega, rfl, hst, hbs⟩
  case round =>
    obtain ⟨k, hk, rfl, how, hbr⟩ := hrel
    have hsw := hbr.size
    by_cases hlt : k < 3
    · have hlti : (k : Int) < 3 := by omega
      rcases (by omega : k = 0 ∨ k = 1 ∨ k = 2) with rfl | rfl | rfl
      · rw [show [t, 131, n / 65536, n / 256 % 256, n % 256].take (2 + 0) = [t, 131] from rfl] at how
        have hxl : n / 65536 < 256 := by omega
        go_wp2_with (first
          | (at_builtin; refine wpList_append_own _ rfl _ _ 22 rfl w1.heap.size 5 i0 (.int .u8 0) 1 1 Tryz.underlying22 hi hz0 hz1 hz2 rfl (by decide) _ _ _ rfl (how.1.alloc _) ⟨wr.heap.size, 0, none⟩ 1 1 (vals .u8 [n / 65536]) rfl rfl (app_cells wr .u8 (n / 65536) _ _ (by omega)) (vals_one _ _) (by unfold maxLen; simp) (by simp) (by simp; omega) ?_; intro v4 w4 how4 hgrow4 _; have hb4 := below_append hbr hsw how.1 _ hgrow4)
          | fail)
        exact ⟨⟨0 + 1, by omega, by simp, ⟨by rw [show [t, 131, n / 65536, n / 256 % 256, n % 256].take (2 + (0 + 1)) = [t, 131] ++ [n / 65536] from rfl, vals_append]; exact how4, how.2.append (Under.one hxl)⟩, hb4⟩, by simp [intOf]; try omega⟩
      · rw [show [t, 131, n / 65536, n / 256 % 256, n % 256].take (2 + 1) = [t, 131, n / 65536] from rfl] at how
        have hxl : n / 256 % 256 < 256 := by omega
        go_wp2_with (first
          | (at_builtin; refine wpList_append_own _ rfl _ _ 22 rfl w1.heap.size 5 i0 (.int .u8 0) 1 1 Tryz.underlying22 hi hz0 hz1 hz2 rfl (by decide) _ _ _ rfl (how.1.alloc _) ⟨wr.heap.size, 0, none⟩ 1 1 (vals .u8 [n / 256 % 256]) rfl rfl (app_cells wr .u8 (n / 256 % 256) _ _ (by omega)) (vals_one _ _) (by unfold maxLen; simp) (by simp) (by simp; omega) ?_; intro v4 w4 how4 hgrow4 _; have hb4 := below_append hbr hsw how.1 _ hgrow4)
          | fail)
        exact ⟨⟨1 + 1, by omega, by simp, ⟨by rw [show [t, 131, n / 65536, n / 256 % 256, n % 256].take (2 + (1 + 1)) = [t, 131, n / 65536] ++ [n / 256 % 256] from rfl, vals_append]; exact how4, how.2.append (Under.one hxl)⟩, hb4⟩, by simp [intOf]; try omega⟩
      · rw [show [t, 131, n / 65536, n / 256 % 256, n % 256].take (2 + 2) = [t, 131, n / 65536, n / 256 % 256] from rfl] at how
        have hxl : n % 256 < 256 := by omega
        go_wp2_with (first
          | (at_builtin; refine wpList_append_own _ rfl _ _ 22 rfl w1.heap.size 5 i0 (.int .u8 0) 1 1 Tryz.underlying22 hi hz0 hz1 hz2 rfl (by decide) _ _ _ rfl (how.1.alloc _) ⟨wr.heap.size, 0, none⟩ 1 1 (vals .u8 [n % 256]) rfl rfl (app_cells wr .u8 (n % 256) _ _ (by omega)) (vals_one _ _) (by unfold maxLen; simp) (by simp) (by simp; omega) ?_; intro v4 w4 how4 hgrow4 _; have hb4 := below_append hbr hsw how.1 _ hgrow4)
          | fail)
        exact ⟨⟨2 + 1, by omega, by simp, ⟨by rw [show [t, 131, n / 65536, n / 256 % 256, n % 256].take (2 + (2 + 1)) = [t, 131, n / 65536, n / 256 % 256] ++ [n % 256] from rfl, vals_append]; exact how4, how.2.append (Under.one hxl)⟩, hb4⟩, by simp [intOf]; try omega⟩
    · obtain rfl : k = 3 := by omega
      go_wp2_with fail
      go_ret
      exact ⟨⟨_, rfl, by rw [HE.out]; exact how⟩, hbr⟩

set_option maxHeartbeats 2000000 in
theorem head_any (t n : Nat) (w : World) (ht : t < 256) (hn : n < 16777216) :
    Calls Tryz.prog 142 #[.int .i64 t, .int .i64 n] w fun e w' => HeadE t n w e w' := by
  by_cases h1 : n < 128
  · have hsz := lengthSize_any n (by omega) w
    rw [show lsz n = 0 by unfold lsz; rw [if_pos h1]] at hsz
    have HE : Hid (t :: lenE n = [t, n]) := hide (by unfold lenE; rw [if_pos h1])
    have ht1 : (t : Int) % 256 = (t : Int) := by omega
    have hn1 : (n : Int) % 256 = (n : Int) := by omega
    go_enter Tryz.func142, Tryz.ntmps142
    go_wp2_with fail
    refine hsz.mono ?_
    rintro e w1 ⟨rfl, rfl⟩
    clear hsz
    go_wp2_with fail
    go_ret
    exact ⟨⟨_, rfl, by rw [HE.out]; exact ⟨two_own 5 .u8 t n w1 w1.heap.size (Nat.le_refl _), fun x hx => by simp at hx; omega⟩⟩, keep_alloc _ _⟩
  by_cases h2 : n < 256
  · exact head_1 t n w ht h1 h2
  by_cases h3 : n < 65536
  · exact head_2 t n w ht h2 h3
  · exact head_3 t n w ht h3 hn
end Go.Proofs.YtlddpjcacnahmaaGreatDoor

/- How small a value is: the document's Small. -/
namespace Go.Proofs.YtlddpjcacnahmaaGreatDoor
open Go.RowKit
set_option linter.unusedVariables false

/-- how many parts and bytes a value has, down to a depth -/
def szF : Nat → Nd → Nat
  | 0, _ => 0
  | d + 1, .mk _ b ks => 1 + b.length + (ks.map (szF d)).sum
theorem sum_take (f : Nd → Nat) {ks : List Nd} {k : Nat} (h : k < ks.length) : ((ks.take (k + 1)).map f).sum = ((ks.take k).map f).sum + f (kx ks k) := by
  rw [List.take_succ_eq_append_getElem h, List.map_append, List.sum_append, kx_at h]; simp
theorem sum_le (f : Nd → Nat) (ks : List Nd) (k : Nat) : ((ks.take k).map f).sum ≤ (ks.map f).sum := by
  have : (ks.map f).sum = ((ks.take k).map f).sum + ((ks.drop k).map f).sum := by rw [← List.sum_append, ← List.map_append, List.take_append_drop]
  omega
theorem sz_kid {d : Nat} {t : Int} {b : List Nat} {ks : List Nd} {k : Nat} (h : k < ks.length) : szF d (kx ks k) + b.length < szF (d + 1) (.mk t b ks) := by
  have h1 := sum_take (szF d) h
  have h2 := sum_le (szF d) ks (k + 1)
  rw [szF]
  omega
/-- what Small tells -/
def SmallE (d : Nat) (x : Nd) (left : Int) (w : World) (e : Ending) (w' : World) : Prop := (∃ r : Int, e = .returned (.int .i64 r) ∧ r < left ∧ -2000000 ≤ r ∧ (0 ≤ r → r = left - (szF d x : Nat))) ∧ Below w.heap.size w w'

set_option maxHeartbeats 4000000 in
theorem rsmall_any : ∀ (d : Nat) (c0 c1 c2 : Value) (x : Nd) (left : Int) (w : World), NdAt w d c0 c1 c2 x → 0 ≤ left → left ≤ 3000 →
    Calls Tryz.prog 57 #[.agg #[c0, c1, c2], .int .i64 left] w fun e w' => SmallE d x left w e w' := by
  intro d
  induction d with
  | zero => intro c0 c1 c2 x left w h; exact h.elim
  | succ d ih =>
    rintro c0 c1 c2 ⟨t, b, ks⟩ left w ⟨rfl, ht, hrb, _, _, ka, kcap, rfl, hk1, hk2, hk3⟩ hl0 hl1
    unfold maxLen at hk2
    obtain ⟨ba, bcap, rfl, hb1, hb2, _, _⟩ := hrb
    unfold maxLen at hb2
    have hbw : Below w.heap.size w (w.alloc (.cells #[.int .i64 t, .slice ba b.length bcap, .slice ka ks.length kcap] 28)) := keep_alloc w _
    have p1 := box_cell w (.int .i64 t) (.slice ba b.length bcap) (.slice ka ks.length kcap) 28
    have p12 : (w.alloc (.cells #[.int .i64 t, .slice ba b.length bcap, .slice ka ks.length kcap] 28)).cell? ⟨w.heap.size, 2, none⟩ = some (.slice ka ks.length kcap) := p1.2.2
    obtain ⟨m, HM, hm0, hm1⟩ : ∃ m : Nat, Hid (min b.length 1048576 = m) ∧ m ≤ b.length ∧ m ≤ 1048576 := ⟨_, hide rfl, by omega, by omega⟩
    have hmin : min (b.length : Int) 1048576 = (m : Int) := by have := HM.out; omega
    go_enter Tryz.func57, Tryz.ntmps57
    go_wp2_with fail
    go_loopw [1, 5] (fun l i wr => ∃ (k : Nat) (z : Int), k ≤ ks.length ∧ i = .int .i64 k ∧ l = .int .i64 z ∧ z < left ∧ -2000000 ≤ z ∧ Hid (0 ≤ z → m = b.length ∧ z = left - 1 - (m : Int) - ((((ks.take k).map (szF d)).sum : Nat) : Int)) ∧ Below (w.alloc (.cells #[.int .i64 t, .slice ba b.length bcap, .slice ka ks.length kcap] 28)).heap.size (w.alloc (.cells #[.int .i64 t, .slice ba b.length bcap, .slice ka ks.length kcap] 28)) wr) (fun _ i _ => ks.length - (intOf i).toNat)
    case atStart => exact ⟨0, left - 1 - (m : Int), Nat.zero_le _, rfl, rfl, by omega, by omega, hide (fun h => ⟨by have := HM.out; omega, by simp⟩), Below.refl _ _⟩
    case round =>
      obtain ⟨k, z, hk, rfl, rfl, hz1, hz2, HA, hbr⟩ := hrel
      have q12 : wr.cell? ⟨w.heap.size, 2, none⟩ = some (.slice ka ks.length kcap) := Below.cells hbr p12
      have hbwr := keep_trans hbw hbr
      by_cases hlt : k < ks.length
      · by_cases hz0 : 0 ≤ z
        · obtain ⟨bk, ok, rfl, hck⟩ := hk3 (by omega)
          obtain ⟨x0, x1, x2, xc, xn⟩ := hck k hlt
          obtain ⟨xc0, xc1, xc2⟩ := xc.below hbwr
          have hih := ih x0 x1 x2 (kx ks k) z wr (NdAt.below hbwr _ _ _ _ _ xn) hz0 (by omega)
          clear hck xc xn
          go_wp2_with fail
          refine hih.mono ?_
          rintro e w2 ⟨⟨r, rfl, hr1, hr2, hr3⟩, hb2⟩
          have HR : Hid (0 ≤ r → m = b.length ∧ r = left - 1 - (m : Int) - ((((ks.take (k + 1)).map (szF d)).sum : Nat) : Int)) := hide (fun h => by
            obtain ⟨h1, h2⟩ := HA.out hz0
            have h3 := hr3 h
            rw [sum_take _ hlt]
            exact ⟨h1, by omega⟩)
          have hb3 := keep_trans hbr hb2
          clear hih hr3 hb2 q12 xc0 xc1 xc2 HA
          go_wp2_with fail
          go_roundw
          case rel => exact ⟨k + 1, r, by omega, by go_num, rfl, by omega, hr2, HR, hb3⟩
          case measure => simp [intOf]; omega
        · have hzd : decide (0 ≤ z) = false := decide_eq_false hz0
          go_wp2_with fail
          go_ret
          exact ⟨⟨z, rfl, hz1, hz2, fun h => (by omega)⟩, hbwr⟩
      · have hend : k = ks.length := by omega
        have HE : Hid (0 ≤ z → z = left - ((szF (d + 1) (.mk t b ks) : Nat) : Int)) := hide (fun h => by
          obtain ⟨h1, h2⟩ := HA.out h
          rw [List.take_of_length_le (by omega)] at h2
          rw [szF]
          omega)
        go_wp2_with fail
        go_ret
        exact ⟨⟨z, rfl, hz1, hz2, HE.out⟩, hbwr⟩
end Go.Proofs.YtlddpjcacnahmaaGreatDoor

/- Contract of apostilleref01.Join. -/
namespace Go.Proofs.YtlddpjcacnahmaaGreatDoor
open Go.RowKit
set_option linter.unusedVariables false

set_option maxHeartbeats 2000000 in
theorem rjoin_any (va : Value) (ls : List (List Nat)) (w : World) (ha : Rows2 w va ls) (hs : ls.flatten.length ≤ 2000000) :
    Calls Tryz.prog 138 #[va] w fun e w' => ∃ v, e = .returned v ∧ Own 5 .u8 256 w' w.heap.size v ls.flatten ∧ Below w.heap.size w w' := by
  have hu := ha.under
  have ha' := ha
  obtain ⟨a, ca, rfl, ha1, ha2, ha3⟩ := ha
  unfold maxLen at ha2
  obtain ⟨i0, hi, hz0, hz1, hz2⟩ := info_parts Tryz.info5
  go_enter Tryz.func138, Tryz.ntmps138
  go_wp2
  go_loopw [3, 4] (fun v i wr => ∃ k : Nat, k ≤ ls.length ∧ i = .int .i64 k ∧ wr.ownsRow w.heap.size 5 1 v (ls.take k).flatten.length (vals .u8 (ls.take k).flatten) ∧ Below w.heap.size w wr) (fun _ i _ => ls.length - (intOf i).toNat)
  case atStart => exact ⟨0, Nat.zero_le _, rfl, World.ownsRow_nil _ _ _ _, Below.refl _ _⟩
  case round =>
    obtain ⟨k, hk, rfl, how, hbr⟩ := hrel
    by_cases hlt : k < ls.length
    · have hf := flat_succ hlt
      have hle := flat_le ls (k + 1)
      rw [hf, List.length_append] at hle
      obtain ⟨a2, ca2, he, _, _, h3⟩ := ha'.below hbr
      obtain ⟨rfl, rfl⟩ : a = a2 ∧ ca = ca2 := by simpa using he
      obtain ⟨b, off, rfl, hc⟩ := h3 (by omega)
      obtain ⟨u, c1, ⟨au, cu, rfl, hu1, hu2, hu3, hu4⟩, htidy⟩ := hc k hlt
      clear hc h3 he ha3
      have hsz := hbr.size
      have HF := hide hf
      clear hf
      generalize hM : (ls.take k).flatten = M at *
      have HM := hide hM
      clear hM
      generalize hT : tx ls k = T at *
      have HT := hide hT
      clear hT
      cases au with
      | none =>
        obtain ⟨h0, rfl⟩ := htidy _ _ rfl
        have hT0 : T = [] := List.eq_nil_of_length_eq_zero h0
        subst hT0
        go_wp2_with (first | (at_builtin; refine wpList_append_own_none rfl _ _ 22 rfl w.heap.size 5 i0 1 Tryz.underlying22 hi _ _ _ rfl how rfl ?_) | fail)
        go_roundw
        case rel => exact ⟨k + 1, by omega, by go_num, by rw [HF.out, List.append_nil]; exact how, hbr⟩
        case measure => simp [intOf]; omega
      | some x =>
        go_wp2_with (first | (at_builtin; refine wpList_append_own _ rfl _ _ 22 rfl w.heap.size 5 i0 (.int .u8 0) 1 1 Tryz.underlying22 hi hz0 hz1 hz2 rfl (by decide) _ _ _ rfl how x T.length cu (vals .u8 T) rfl (by rw [vals_length, Nat.mul_one]) (cells_news hu3) (vals_one _ _) (by unfold maxLen; omega) (by omega) hsz ?_; intro v' w3 how' hgrow _) | fail)
        have hb3 := below_append' hbr hsz how hgrow
        clear how hgrow hbr
        go_roundw
        case rel => exact ⟨k + 1, by omega, by go_num, by rw [HF.out, List.length_append, vals_append]; exact how', hb3⟩
        case measure => simp [intOf]; omega
    · go_wp2
      go_ret
      rw [List.take_of_length_le (by omega)] at how
      exact ⟨_, rfl, ⟨how, hu⟩, hbr⟩
end Go.Proofs.YtlddpjcacnahmaaGreatDoor
