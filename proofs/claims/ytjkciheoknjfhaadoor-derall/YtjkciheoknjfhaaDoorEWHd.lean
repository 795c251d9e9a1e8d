/- der's writer: spend, head. -/
import Derived.Test.YtjkciheoknjfhaaDoorNum
import Derived.Test.YtjkciheoknjfhaaDoorApp2
import Derived.Laws.BitsAllLaws
namespace Go.Proofs.YtjkciheoknjfhaaDoor
open Go.RowKit Go.Deep
set_option linter.unusedVariables false

/-- a writer's box: what may still be written -/
def WB (w : World) (P : Nat) (L : Int) : Prop := w.heap[P]? = some (.cells #[.int .i64 L] 49)
theorem WB.lt {w : World} {P : Nat} {L : Int} (h : WB w P L) : P < w.heap.size := (Array.getElem?_eq_some_iff.1 h).1
theorem WB.below {w w' : World} {P : Nat} {L : Int} (h : WB w P L) (hb : Below w.heap.size w w') : WB w' P L := by
  unfold WB
  rw [hb.block P h.lt]
  exact h
theorem WB.cells {w : World} {P : Nat} {L : Int} (h : WB w P L) : w.cell? ⟨P, 0, none⟩ = some (.int .i64 L) ∧ w.frozen? ⟨P, 0, none⟩ = false :=
  ⟨by rw [cell_at' h]; rfl, frozen_of_row w _ 0 _ _ h⟩
theorem WB.set {w : World} {P : Nat} {L : Int} (h : WB w P L) (M : Int) : WB (w.setCell ⟨P, 0, none⟩ (.int .i64 M)) P M := by
  unfold WB at *
  rw [heap_setCell_same _ _ _ _ _ _ h]
  rfl
set_option maxHeartbeats 1000000 in
theorem spend_any (P n : Nat) (L : Int) (w : World) (hw : WB w P L) (hn : (n : Int) ≤ L) (hL : L ≤ 1048576) :
    Calls Tryd.prog 35 #[.pointer (some ⟨P, 0, none⟩), .int .i64 n] w fun e w' => e = .returned (.bool true) ∧ WB w' P (L - n) ∧ Turn P w w' := by
  obtain ⟨c0, f0⟩ := hw.cells
  have hr1 : (0 : Int) ≤ L - (n : Int) := by omega
  have hr2 : L - (n : Int) < 9223372036854775808 := by omega
  have hs := hw.set (L - n)
  have ht := Turn.set P 0 w (.int .i64 (L - n))
  generalize hM : L - (n : Int) = M at *
  go_enter Tryd.func35, Tryd.ntmps35
  go_wp2_with fail
  go_ret
  exact ⟨rfl, hs, ht⟩

theorem orLen : bits .or .u8 128 1 = 129 ∧ bits .or .u8 128 2 = 130 ∧ bits .or .u8 128 3 = 131 := by decide
/-- what head tells -/
def HeadE (t n : Nat) (w : World) (e : Ending) (w' : World) : Prop := (∃ v, e = .returned v ∧ Own 5 .u8 256 w' w.heap.size v (t :: lenE n)) ∧ Below w.heap.size w w'
theorem head_under {t n : Nat} (ht : t < 256) (hn : n < 16777216) : Under 256 (t :: lenE n) := by
  intro x hx
  rcases List.mem_cons.1 hx with rfl | h
  · exact ht
  · exact lenE_under hn x h

theorem info_b : ∃ i, Tryd.prog.info? 5 = some i ∧ i.zero = some (.int .u8 0) ∧ i.size = 1 ∧ i.bytes = 1 := info_byte

set_option maxRecDepth 100000 in
set_option maxHeartbeats 4000000 in
theorem head_1 (t n : Nat) (w : World) (ht : t < 256) (h1 : ¬ n < 128) (h2 : n < 256) :
    Calls Tryd.prog 38 #[.int .i64 t, .int .i64 n] w fun e w' => HeadE t n w e w' := by
  have hsz := lengthSize_any n (by omega) w
  rw [show lsz n = 1 by unfold lsz; rw [if_neg (by omega), if_pos (by omega)]] at hsz
  have HE : Hid (t :: lenE n = [t, 129, n]) := hide (by unfold lenE; rw [if_neg (by omega), if_pos (by omega)])
  have HU := hide (head_under (n := n) ht (by omega))
  have ht1 : (t : Int) % 256 = (t : Int) := by omega
  have ho := orLen
  obtain ⟨i0, hi, hz0, hz1, hz2⟩ := info_b
  go_enter Tryd.func38, Tryd.ntmps38
  go_wp2_with fail
  refine hsz.mono ?_
  rintro e w1 ⟨rfl, rfl⟩
  clear hsz
  go_wp2_with fail
  clear ho ht1
  have hst : Own 5 .u8 256 (w1.alloc (.cells #[.int .u8 t, .int .u8 129] 5)) w1.heap.size (.slice (some ⟨w1.heap.size, 0, none⟩) 2 2) ([t, 129, n].take (2 + 0)) := ⟨two_own 5 .u8 t 129 w1 w1.heap.size (Nat.le_refl _), fun x hx => by
    rw [show [t, 129, n].take (2 + 0) = [t, 129] from rfl] at hx
    simp at hx
    omega⟩
  have hbs : Below w1.heap.size w1 (w1.alloc (.cells #[.int .u8 t, .int .u8 129] 5)) := keep_alloc _ _
  go_loopw [6, 24] (fun vo iv wr => ∃ k : Nat, k ≤ 1 ∧ iv = .int .i64 k ∧ Own 5 .u8 256 wr w1.heap.size vo ([t, 129, n].take (2 + k)) ∧ Below w1.heap.size w1 wr) (fun _ iv _ => 1 - (intOf iv).toNat)
  case atStart => exact ⟨0, by omega, rfl, hst, hbs⟩
  case round =>
    obtain ⟨k, hk, rfl, how, hbr⟩ := hrel
    have hsw := hbr.size
    by_cases hlt : k < 1
    · have hlti : (k : Int) < 1 := by omega
      obtain rfl : k = 0 := by omega
      rw [show [t, 129, n].take (2 + 0) = [t, 129] from rfl] at how
      have hxl : n < 256 := by omega
      go_wp2_with (first
        | (at_builtin; refine wpList_append_own _ rfl _ _ 22 rfl w1.heap.size 5 i0 (.int .u8 0) 1 1 Tryd.underlying22 hi hz0 hz1 hz2 rfl (by decide) _ _ _ rfl (how.1.alloc _) ⟨wr.heap.size, 0, none⟩ 1 1 (vals .u8 [n]) rfl rfl (app_cells wr .u8 (n) _ _ (by omega)) (vals_one _ _) (by unfold maxLen; simp) (by simp) (by simp; omega) ?_; intro v4 w4 how4 hgrow4 _; have hb4 := below_append hbr hsw how.1 _ hgrow4)
        | fail)
      exact ⟨⟨0 + 1, by omega, by simp, ⟨by rw [show [t, 129, n].take (2 + (0 + 1)) = [t, 129] ++ [n] from rfl, vals_append]; exact how4, how.2.append (Under.one hxl)⟩, hb4⟩, by simp [intOf]; try omega⟩
    · obtain rfl : k = 1 := by omega
      go_wp2_with fail
      go_ret
      exact ⟨⟨_, rfl, by rw [HE.out]; exact how⟩, hbr⟩

set_option maxRecDepth 100000 in
set_option maxHeartbeats 4000000 in
theorem head_2 (t n : Nat) (w : World) (ht : t < 256) (h1 : ¬ n < 256) (h2 : n < 65536) :
    Calls Tryd.prog 38 #[.int .i64 t, .int .i64 n] w fun e w' => HeadE t n w e w' := by
  have hsz := lengthSize_any n (by omega) w
  rw [show lsz n = 2 by unfold lsz; rw [if_neg (by omega), if_neg (by omega), if_pos (by omega)]] at hsz
  have HE : Hid (t :: lenE n = [t, 130, n / 256, n % 256]) := hide (by unfold lenE; rw [if_neg (by omega), if_neg (by omega), if_pos (by omega)])
  have HU := hide (head_under (n := n) ht (by omega))
  have ht1 : (t : Int) % 256 = (t : Int) := by omega
  have ho := orLen
  obtain ⟨i0, hi, hz0, hz1, hz2⟩ := info_b
  go_enter Tryd.func38, Tryd.ntmps38
  go_wp2_with fail
  refine hsz.mono ?_
  rintro e w1 ⟨rfl, rfl⟩
  clear hsz
  go_wp2_with fail
  clear ho ht1
  have hst : Own 5 .u8 256 (w1.alloc (.cells #[.int .u8 t, .int .u8 130] 5)) w1.heap.size (.slice (some ⟨w1.heap.size, 0, none⟩) 2 2) ([t, 130, n / 256, n % 256].take (2 + 0)) := ⟨two_own 5 .u8 t 130 w1 w1.heap.size (Nat.le_refl _), fun x hx => by
    rw [show [t, 130, n / 256, n % 256].take (2 + 0) = [t, 130] from rfl] at hx
    simp at hx
    omega⟩
  have hbs : Below w1.heap.size w1 (w1.alloc (.cells #[.int .u8 t, .int .u8 130] 5)) := keep_alloc _ _
  go_loopw [6, 24] (fun vo iv wr => ∃ k : Nat, k ≤ 2 ∧ iv = .int .i64 k ∧ Own 5 .u8 256 wr w1.heap.size vo ([t, 130, n / 256, n % 256].take (2 + k)) ∧ Below w1.heap.size w1 wr) (fun _ iv _ => 2 - (intOf iv).toNat)
  case atStart => exact ⟨0, by omega, rfl, hst, hbs⟩
  case round =>
    obtain ⟨k, hk, rfl, how, hbr⟩ := hrel
    have hsw := hbr.size
    by_cases hlt : k < 2
    · have hlti : (k : Int) < 2 := by omega
      rcases (by omega : k = 0 ∨ k = 1) with rfl | rfl
      · rw [show [t, 130, n / 256, n % 256].take (2 + 0) = [t, 130] from rfl] at how
        have hxl : n / 256 < 256 := by omega
        go_wp2_with (first
          | (at_builtin; refine wpList_append_own _ rfl _ _ 22 rfl w1.heap.size 5 i0 (.int .u8 0) 1 1 Tryd.underlying22 hi hz0 hz1 hz2 rfl (by decide) _ _ _ rfl (how.1.alloc _) ⟨wr.heap.size, 0, none⟩ 1 1 (vals .u8 [n / 256]) rfl rfl (app_cells wr .u8 (n / 256) _ _ (by omega)) (vals_one _ _) (by unfold maxLen; simp) (by simp) (by simp; omega) ?_; intro v4 w4 how4 hgrow4 _; have hb4 := below_append hbr hsw how.1 _ hgrow4)
          | fail)
        exact ⟨⟨0 + 1, by omega, by simp, ⟨by rw [show [t, 130, n / 256, n % 256].take (2 + (0 + 1)) = [t, 130] ++ [n / 256] from rfl, vals_append]; exact how4, how.2.append (Under.one hxl)⟩, hb4⟩, by simp [intOf]; try omega⟩
      · rw [show [t, 130, n / 256, n % 256].take (2 + 1) = [t, 130, n / 256] from rfl] at how
        have hxl : n % 256 < 256 := by omega
        go_wp2_with (first
          | (at_builtin; refine wpList_append_own _ rfl _ _ 22 rfl w1.heap.size 5 i0 (.int .u8 0) 1 1 Tryd.underlying22 hi hz0 hz1 hz2 rfl (by decide) _ _ _ rfl (how.1.alloc _) ⟨wr.heap.size, 0, none⟩ 1 1 (vals .u8 [n % 256]) rfl rfl (app_cells wr .u8 (n % 256) _ _ (by omega)) (vals_one _ _) (by unfold maxLen; simp) (by simp) (by simp; omega) ?_; intro v4 w4 how4 hgrow4 _; have hb4 := below_append hbr hsw how.1 _ hgrow4)
          | fail)
        exact ⟨⟨1 + 1, by omega, by simp, ⟨by rw [show [t, 130, n / 256, n % 256].take (2 + (1 + 1)) = [t, 130, n / 256] ++ [n % 256] from rfl, vals_append]; exact how4, how.2.append (Under.one hxl)⟩, hb4⟩, by simp [intOf]; try omega⟩
    · obtain rfl : k = 2 := by omega
      go_wp2_with fail
      go_ret
      exact ⟨⟨_, rfl, by rw [HE.out]; exact how⟩, hbr⟩

set_option maxRecDepth 100000 in
set_option maxHeartbeats 4000000 in
theorem head_3 (t n : Nat) (w : World) (ht : t < 256) (h1 : ¬ n < 65536) (h2 : n < 16777216) :
    Calls Tryd.prog 38 #[.int .i64 t, .int .i64 n] w fun e w' => HeadE t n w e w' := by
  have hsz := lengthSize_any n (by omega) w
  rw [show lsz n = 3 by unfold lsz; rw [if_neg (by omega), if_neg (by omega), if_neg (by omega)]] at hsz
  have HE : Hid (t :: lenE n = [t, 131, n / 65536, n / 256 % 256, n % 256]) := hide (by unfold lenE; rw [if_neg (by omega), if_neg (by omega), if_neg (by omega)])
  have HU := hide (head_under (n := n) ht (by omega))
  have ht1 : (t : Int) % 256 = (t : Int) := by omega
  have ho := orLen
  obtain ⟨i0, hi, hz0, hz1, hz2⟩ := info_b
  go_enter Tryd.func38, Tryd.ntmps38
  go_wp2_with fail
  refine hsz.mono ?_
  rintro e w1 ⟨rfl, rfl⟩
  clear hsz
  go_wp2_with fail
  clear ho ht1
  have hst : Own 5 .u8 256 (w1.alloc (.cells #[.int .u8 t, .int .u8 131] 5)) w1.heap.size (.slice (some ⟨w1.heap.size, 0, none⟩) 2 2) ([t, 131, n / 65536, n / 256 % 256, n % 256].take (2 + 0)) := ⟨two_own 5 .u8 t 131 w1 w1.heap.size (Nat.le_refl _), fun x hx => by
    rw [show [t, 131, n / 65536, n / 256 % 256, n % 256].take (2 + 0) = [t, 131] from rfl] at hx
    simp at hx
    omega⟩
  have hbs : Below w1.heap.size w1 (w1.alloc (.cells #[.int .u8 t, .int .u8 131] 5)) := keep_alloc _ _
  go_loopw [6, 24] (fun vo iv wr => ∃ k : Nat, k ≤ 3 ∧ iv = .int .i64 k ∧ Own 5 .u8 256 wr w1.heap.size vo ([t, 131, n / 65536, n / 256 % 256, n % 256].take (2 + k)) ∧ Below w1.heap.size w1 wr) (fun _ iv _ => 3 - (intOf iv).toNat)
  case atStart => exact ⟨0, by omega, rfl, hst, hbs⟩
  case round =>
    obtain ⟨k, hk, rfl, how, hbr⟩ := hrel
    have hsw := hbr.size
    by_cases hlt : k < 3
    · have hlti : (k : Int) < 3 := by omega
      rcases (by omega : k = 0 ∨ k = 1 ∨ k = 2) with rfl | rfl | rfl
      · rw [show [t, 131, n / 65536, n / 256 % 256, n % 256].take (2 + 0) = [t, 131] from rfl] at how
        have hxl : n / 65536 < 256 := by omega
        go_wp2_with (first
          | (at_builtin; refine wpList_append_own _ rfl _ _ 22 rfl w1.heap.size 5 i0 (.int .u8 0) 1 1 Tryd.underlying22 hi hz0 hz1 hz2 rfl (by decide) _ _ _ rfl (how.1.alloc _) ⟨wr.heap.size, 0, none⟩ 1 1 (vals .u8 [n / 65536]) rfl rfl (app_cells wr .u8 (n / 65536) _ _ (by omega)) (vals_one _ _) (by unfold maxLen; simp) (by simp) (by simp; omega) ?_; intro v4 w4 how4 hgrow4 _; have hb4 := below_append hbr hsw how.1 _ hgrow4)
          | fail)
        exact ⟨⟨0 + 1, by omega, by simp, ⟨by rw [show [t, 131, n / 65536, n / 256 % 256, n % 256].take (2 + (0 + 1)) = [t, 131] ++ [n / 65536] from rfl, vals_append]; exact how4, how.2.append (Under.one hxl)⟩, hb4⟩, by simp [intOf]; try omega⟩
      · rw [show [t, 131, n / 65536, n / 256 % 256, n % 256].take (2 + 1) = [t, 131, n / 65536] from rfl] at how
        have hxl : n / 256 % 256 < 256 := by omega
        go_wp2_with (first
          | (at_builtin; refine wpList_append_own _ rfl _ _ 22 rfl w1.heap.size 5 i0 (.int .u8 0) 1 1 Tryd.underlying22 hi hz0 hz1 hz2 rfl (by decide) _ _ _ rfl (how.1.alloc _) ⟨wr.heap.size, 0, none⟩ 1 1 (vals .u8 [n / 256 % 256]) rfl rfl (app_cells wr .u8 (n / 256 % 256) _ _ (by omega)) (vals_one _ _) (by unfold maxLen; simp) (by simp) (by simp; omega) ?_; intro v4 w4 how4 hgrow4 _; have hb4 := below_append hbr hsw how.1 _ hgrow4)
          | fail)
        exact ⟨⟨1 + 1, by omega, by simp, ⟨by rw [show [t, 131, n / 65536, n / 256 % 256, n % 256].take (2 + (1 + 1)) = [t, 131, n / 65536] ++ [n / 256 % 256] from rfl, vals_append]; exact how4, how.2.append (Under.one hxl)⟩, hb4⟩, by simp [intOf]; try omega⟩
      · rw [show [t, 131, n / 65536, n / 256 % 256, n % 256].take (2 + 2) = [t, 131, n / 65536, n / 256 % 256] from rfl] at how
        have hxl : n % 256 < 256 := by omega
        go_wp2_with (first
          | (at_builtin; refine wpList_append_own _ rfl _ _ 22 rfl w1.heap.size 5 i0 (.int .u8 0) 1 1 Tryd.underlying22 hi hz0 hz1 hz2 rfl (by decide) _ _ _ rfl (how.1.alloc _) ⟨wr.heap.size, 0, none⟩ 1 1 (vals .u8 [n % 256]) rfl rfl (app_cells wr .u8 (n % 256) _ _ (by omega)) (vals_one _ _) (by unfold maxLen; simp) (by simp) (by simp; omega) ?_; intro v4 w4 how4 hgrow4 _; have hb4 := below_append hbr hsw how.1 _ hgrow4)
          | fail)
        exact ⟨⟨2 + 1, by omega, by simp, ⟨by rw [show [t, 131, n / 65536, n / 256 % 256, n % 256].take (2 + (2 + 1)) = [t, 131, n / 65536, n / 256 % 256] ++ [n % 256] from rfl, vals_append]; exact how4, how.2.append (Under.one hxl)⟩, hb4⟩, by simp [intOf]; try omega⟩
    · obtain rfl : k = 3 := by omega
      go_wp2_with fail
      go_ret
      exact ⟨⟨_, rfl, by rw [HE.out]; exact how⟩, hbr⟩

set_option maxHeartbeats 2000000 in
theorem head_any (t n : Nat) (w : World) (ht : t < 256) (hn : n < 16777216) :
    Calls Tryd.prog 38 #[.int .i64 t, .int .i64 n] w fun e w' => HeadE t n w e w' := by
  by_cases h1 : n < 128
  · have hsz := lengthSize_any n (by omega) w
    rw [show lsz n = 0 by unfold lsz; rw [if_pos h1]] at hsz
    have HE : Hid (t :: lenE n = [t, n]) := hide (by unfold lenE; rw [if_pos h1])
    have ht1 : (t : Int) % 256 = (t : Int) := by omega
    have hn1 : (n : Int) % 256 = (n : Int) := by omega
    go_enter Tryd.func38, Tryd.ntmps38
    go_wp2_with fail
    refine hsz.mono ?_
    rintro e w1 ⟨rfl, rfl⟩
    clear hsz
    go_wp2_with fail
    go_ret
    exact ⟨⟨_, rfl, by rw [HE.out]; exact ⟨two_own 5 .u8 t n w1 w1.heap.size (Nat.le_refl _), fun x hx => by simp at hx; omega⟩⟩, keep_alloc _ _⟩
  by_cases h2 : n < 256
  · exact head_1 t n w ht h1 h2
  by_cases h3 : n < 65536
  · exact head_2 t n w ht h2 h3
  · exact head_3 t n w ht h3 hn
end Go.Proofs.YtjkciheoknjfhaaDoor
