/- Contracts of sha.begin, stored, resume, block at words of 64 bits. -/
import Derived.Test.YtnjiilnkobhibaaDoorHFin32
import Derived.Test.YtnjiilnkobhibaaDoorHKi2
import Derived.Test.YtnjiilnkobhibaaDoorHMix64
import Derived.Test.YtnjiilnkobhibaaDoorTex
namespace Go.Proofs.YtnjiilnkobhibaaDoor
open Go.RowKit
set_option linter.unusedVariables false
set_option linter.unusedSimpArgs false

theorem block_any64 (v : Value) (w : World) :
    Calls Tryd.prog 72 #[v] w fun e w' => e = .returned (.int .i64 128) ∧ w' = w := by
  go_enter Tryd.func72, Tryd.ntmps72
  go_wp2_with fail
  refine (either_int64 _ _ _).mono ?_
  rintro e w1 ⟨rfl, rfl⟩
  go_wp2
  go_ret
  exact ⟨rfl, rfl⟩


set_option maxHeartbeats 2000000 in
set_option maxRecDepth 100000 in
theorem stored_any64 (l : List Nat) (w : World) (h8 : l.length = 8) (hu : Under 18446744073709551616 l) :
    Calls Tryd.prog 57 #[.agg (arr .u64 l)] w fun e w' => e = .returned (.agg (arr .u64 l)) ∧ Below w.heap.size w w' := by
  have hA : Lies .u64 94 (((w.alloc (.cells (arr .u64 l) 94)).alloc (.cells #[.int .u64 0, .int .u64 0, .int .u64 0, .int .u64 0, .int .u64 0, .int .u64 0, .int .u64 0, .int .u64 0] 79)).alloc (.cells #[.int .u64 0, .int .u64 0, .int .u64 0, .int .u64 0, .int .u64 0, .int .u64 0, .int .u64 0, .int .u64 0] 79)) w.heap.size l := ((Lies.new _ _ w l).alloc _).alloc _
  have hO : Lies .u64 79 (((w.alloc (.cells (arr .u64 l) 94)).alloc (.cells #[.int .u64 0, .int .u64 0, .int .u64 0, .int .u64 0, .int .u64 0, .int .u64 0, .int .u64 0, .int .u64 0] 79)).alloc (.cells #[.int .u64 0, .int .u64 0, .int .u64 0, .int .u64 0, .int .u64 0, .int .u64 0, .int .u64 0, .int .u64 0] 79)) (w.heap.size + 1) (List.replicate 8 0) := by
    have := (Lies.new .u64 79 (w.alloc (.cells (arr .u64 l) 94)) (List.replicate 8 0)).alloc (.cells #[.int .u64 0, .int .u64 0, .int .u64 0, .int .u64 0, .int .u64 0, .int .u64 0, .int .u64 0, .int .u64 0] 79)
    rw [World.size_alloc] at this
    exact this
  have hL : Lies .u64 79 (((w.alloc (.cells (arr .u64 l) 94)).alloc (.cells #[.int .u64 0, .int .u64 0, .int .u64 0, .int .u64 0, .int .u64 0, .int .u64 0, .int .u64 0, .int .u64 0] 79)).alloc (.cells #[.int .u64 0, .int .u64 0, .int .u64 0, .int .u64 0, .int .u64 0, .int .u64 0, .int .u64 0, .int .u64 0] 79)) (w.heap.size + 1 + 1) (pad 8 (l.take 0)) := by
    have := Lies.new .u64 79 ((w.alloc (.cells (arr .u64 l) 94)).alloc (.cells #[.int .u64 0, .int .u64 0, .int .u64 0, .int .u64 0, .int .u64 0, .int .u64 0, .int .u64 0, .int .u64 0] 79)) (List.replicate 8 0)
    rw [World.size_alloc, World.size_alloc] at this
    exact this
  have hb : Below w.heap.size w (((w.alloc (.cells (arr .u64 l) 94)).alloc (.cells #[.int .u64 0, .int .u64 0, .int .u64 0, .int .u64 0, .int .u64 0, .int .u64 0, .int .u64 0, .int .u64 0] 79)).alloc (.cells #[.int .u64 0, .int .u64 0, .int .u64 0, .int .u64 0, .int .u64 0, .int .u64 0, .int .u64 0, .int .u64 0] 79)) := keep_trans (keep_trans (keep_alloc _ _) (keep_alloc _ _)) (keep_alloc _ _)
  have HO := hide hO
  have HL := hide hL
  have HB := hide hb
  clear hO hL hb
  go_enter Tryd.func57, Tryd.ntmps57
  go_wp2_with (first
    | (refine wpList_load_row rfl 94 _ (by rfl) w.heap.size (by rfl) _ _ _ (.array 8 44) hA (by kernel_rfl) rfl (by rw [arr_size, h8]; kernel_rfl) ?_)
    | fail)
  go_loopw [7] (fun i wr => ∃ j : Nat, j ≤ 8 ∧ i = .int .i64 j ∧ Lies .u64 79 wr (w.heap.size + 1 + 1) (pad 8 (l.take j)) ∧ Lies .u64 79 wr (w.heap.size + 1) (List.replicate 8 0) ∧ Below w.heap.size w wr) (fun i _ => 8 - (intOf i).toNat)
  case atStart => exact ⟨0, Nat.zero_le _, rfl, HL.out, HO.out, HB.out⟩
  case round =>
    obtain ⟨j, hj, rfl, hLj, hOj, hbj⟩ := hrel
    clear hA
    by_cases hlt : j < 8
    · have hix : ∀ w : World, (Instr.index 94 (.agg (arr .u64 l)) (.int .i64 (j : Int))).run Tryd.prog w = .ok (.int .u64 (el l j)) w := fun w =>
        index_arr _ 44 8 .u64 l (by kernel_rfl) (by kernel_rfl) (by kernel_rfl) h8 j hlt w
      have hel : el l j < 18446744073709551616 := el_lt hu (by decide) j
      have htl : (l.take j).length = j := by rw [List.length_take]; omega
      have c1 := hLj.cell (i := j) (by rw [pad_length (by omega)]; omega)
      have f1 := hLj.frozen j
      have hst := hLj.set j (el l j)
      have hse := pad_set (n := 8) (l := l.take j) (by omega) (el l j)
      rw [htl, ← take_el (by omega)] at hse
      rw [hse] at hst
      have HST := hide hst
      clear hst hse htl
      have ij0 : (0 : Int) ≤ (j : Int) := Int.natCast_nonneg _
      have ij1 : (j : Int) < 8 := by omega
      go_wp2
      refine ⟨⟨j + 1, by omega, by go_num, HST.out, hOj.but (But.setCell (But.refl (w.heap.size + 1 + 1) _) _ _) (by omega), hbj.setCell (by simp; omega) _⟩, by simp [intOf]; omega⟩
    · obtain rfl : j = 8 := by omega
      rw [List.take_of_length_le (by omega), pad_full h8] at hLj
      have hOf : Lies .u64 79 (wr.setRow (w.heap.size + 1) (arr .u64 l)) (w.heap.size + 1) l := hOj.row
      have hbf : Below w.heap.size w (wr.setRow (w.heap.size + 1) (arr .u64 l)) := hbj.trans ((But.setRow (But.refl _ _) _).below (by omega) hbj.size)
      go_wp2_with (first
        | (refine wpList_load_row rfl 79 _ (by rfl) (w.heap.size + 1 + 1) (by rfl) _ _ _ (.array 8 44) hLj (by kernel_rfl) rfl (by rw [arr_size, h8]; kernel_rfl) ?_)
        | (refine wpList_store_row rfl 79 _ _ (by rfl) (w.heap.size + 1) (arr .u64 l) (by rfl) (by rfl) _ _ hOj (by rw [arr_size, h8]; kernel_rfl) (by rw [arr_size, arr_size, h8, List.length_replicate]) (arr_one _ _) ?_)
        | fail)
      refine bodyPost_ret (v := .agg (arr .u64 l)) ?_ ?_ ?_
      · exact results_cell_row Tryd.results57 _ _ (w.heap.size + 1) _ _ _ (.array 8 44) (by rfl) hOf (by kernel_rfl) rfl (by rw [arr_size, h8]; kernel_rfl)
      · rfl
      · exact ⟨rfl, hbf⟩

set_option maxHeartbeats 2000000 in
set_option maxRecDepth 100000 in
theorem begin_any64 (r : List Nat) (f : Nat) (w : World) (h16 : r.length = 16) (hu : Under 18446744073709551616 r) (hf : f ≤ 8) :
    Calls Tryd.prog 56 #[.agg (arr .u64 r), .int .i64 f] w fun e w' => e = .returned (.agg (arr .u64 (((r.drop f).take 8).map (hi true)))) ∧ Below w.heap.size w w' := by
  have h8 : (((r.drop f).take 8).map (hi true)).length = 8 := by rw [List.length_map, List.length_take, List.length_drop]; omega
  have hel : ∀ j, j < 8 → el (((r.drop f).take 8).map (hi true)) j = hi true (el r (f + j)) := fun j hj => by
    rw [el_at (by omega), List.getElem_map, List.getElem_take, List.getElem_drop, el_at (by omega)]
  have HE := hide hel
  clear hel
  have hA : Lies .u64 92 (((w.alloc (.cells (arr .u64 r) 92)).alloc (.cells #[.int .u64 0, .int .u64 0, .int .u64 0, .int .u64 0, .int .u64 0, .int .u64 0, .int .u64 0, .int .u64 0] 94)).alloc (.cells #[.int .u64 0, .int .u64 0, .int .u64 0, .int .u64 0, .int .u64 0, .int .u64 0, .int .u64 0, .int .u64 0] 94)) w.heap.size r := ((Lies.new _ _ w r).alloc _).alloc _
  have hO : Lies .u64 94 (((w.alloc (.cells (arr .u64 r) 92)).alloc (.cells #[.int .u64 0, .int .u64 0, .int .u64 0, .int .u64 0, .int .u64 0, .int .u64 0, .int .u64 0, .int .u64 0] 94)).alloc (.cells #[.int .u64 0, .int .u64 0, .int .u64 0, .int .u64 0, .int .u64 0, .int .u64 0, .int .u64 0, .int .u64 0] 94)) (w.heap.size + 1) (List.replicate 8 0) := by
    have := (Lies.new .u64 94 (w.alloc (.cells (arr .u64 r) 92)) (List.replicate 8 0)).alloc (.cells #[.int .u64 0, .int .u64 0, .int .u64 0, .int .u64 0, .int .u64 0, .int .u64 0, .int .u64 0, .int .u64 0] 94)
    rw [World.size_alloc] at this
    exact this
  have hL : Lies .u64 94 (((w.alloc (.cells (arr .u64 r) 92)).alloc (.cells #[.int .u64 0, .int .u64 0, .int .u64 0, .int .u64 0, .int .u64 0, .int .u64 0, .int .u64 0, .int .u64 0] 94)).alloc (.cells #[.int .u64 0, .int .u64 0, .int .u64 0, .int .u64 0, .int .u64 0, .int .u64 0, .int .u64 0, .int .u64 0] 94)) (w.heap.size + 1 + 1) (pad 8 ((((r.drop f).take 8).map (hi true)).take 0)) := by
    have := Lies.new .u64 94 ((w.alloc (.cells (arr .u64 r) 92)).alloc (.cells #[.int .u64 0, .int .u64 0, .int .u64 0, .int .u64 0, .int .u64 0, .int .u64 0, .int .u64 0, .int .u64 0] 94)) (List.replicate 8 0)
    rw [World.size_alloc, World.size_alloc] at this
    exact this
  have hb : Below w.heap.size w (((w.alloc (.cells (arr .u64 r) 92)).alloc (.cells #[.int .u64 0, .int .u64 0, .int .u64 0, .int .u64 0, .int .u64 0, .int .u64 0, .int .u64 0, .int .u64 0] 94)).alloc (.cells #[.int .u64 0, .int .u64 0, .int .u64 0, .int .u64 0, .int .u64 0, .int .u64 0, .int .u64 0, .int .u64 0] 94)) := keep_trans (keep_trans (keep_alloc _ _) (keep_alloc _ _)) (keep_alloc _ _)
  have HA := hide hA
  have HO := hide hO
  have HL := hide hL
  have HB := hide hb
  clear hA hO hL hb
  generalize hl : ((r.drop f).take 8).map (hi true) = l at *
  go_enter Tryd.func56, Tryd.ntmps56
  go_wp2
  go_loopw [7] (fun i wr => ∃ j : Nat, j ≤ 8 ∧ i = .int .i64 j ∧ Lies .u64 94 wr (w.heap.size + 1 + 1) (pad 8 (l.take j)) ∧ Lies .u64 94 wr (w.heap.size + 1) (List.replicate 8 0) ∧ Lies .u64 92 wr w.heap.size r ∧ Below w.heap.size w wr) (fun i _ => 8 - (intOf i).toNat)
  case atStart => exact ⟨0, Nat.zero_le _, rfl, HL.out, HO.out, HA.out, HB.out⟩
  case round =>
    obtain ⟨j, hj, rfl, hLj, hOj, hAj, hbj⟩ := hrel
    by_cases hlt : j < 8
    · have hle := HE.out j hlt
      have hrl : el r (f + j) < 18446744073709551616 := el_lt hu (by decide) _
      have htl : (l.take j).length = j := by rw [List.length_take]; omega
      have c1 := hLj.cell (i := j) (by rw [pad_length (by omega)]; omega)
      have c2 := hAj.cell (i := f + j) (by omega)
      have f1 := hLj.frozen j
      have hst := hLj.set j (el l j)
      have hse := pad_set (n := 8) (l := l.take j) (by omega) (el l j)
      rw [htl, ← take_el (by omega)] at hse
      rw [hse, hle] at hst
      have HST := hide hst
      clear hst hse htl hle
      have ij0 : (0 : Int) ≤ (j : Int) := Int.natCast_nonneg _
      have ij1 : (j : Int) < 8 := by omega
      have ij2 : (f : Int) + (j : Int) = ((f + j : Nat) : Int) := by omega
      have ij3 : f + j < 16 := by omega
      have ij4 : ((f + j : Nat) : Int) < 16 := by omega
      have ij5 : (0 : Int) ≤ ((f + j : Nat) : Int) := Int.natCast_nonneg _
      have ij6 : IntKind.i64.wrap ((f + j : Nat) : Int) = ((f + j : Nat) : Int) := by rw [IntKind.wrap_i64]; omega
      generalize f + j = q at *
      go_wp2_with fail
      refine (first64 (el r q) _ hrl).mono ?_
      rintro e w1 ⟨rfl, rfl⟩
      go_wp2
      refine ⟨⟨j + 1, by omega, by go_num, HST.out, hOj.but (But.setCell (But.refl (w.heap.size + 1 + 1) _) _ _) (by omega), hAj.but (But.setCell (But.refl (w.heap.size + 1 + 1) _) _ _) (by omega), hbj.setCell (by simp; omega) _⟩, by simp [intOf]; omega⟩
    · obtain rfl : j = 8 := by omega
      rw [List.take_of_length_le (by omega), pad_full h8] at hLj
      have hOf : Lies .u64 94 (wr.setRow (w.heap.size + 1) (arr .u64 l)) (w.heap.size + 1) l := hOj.row
      have hbf : Below w.heap.size w (wr.setRow (w.heap.size + 1) (arr .u64 l)) := hbj.trans ((But.setRow (But.refl _ _) _).below (by omega) hbj.size)
      go_wp2_with (first
        | (refine wpList_load_row rfl 94 _ (by rfl) (w.heap.size + 1 + 1) (by rfl) _ _ _ (.array 8 44) hLj (by kernel_rfl) rfl (by rw [arr_size, h8]; kernel_rfl) ?_)
        | (refine wpList_store_row rfl 94 _ _ (by rfl) (w.heap.size + 1) (arr .u64 l) (by rfl) (by rfl) _ _ hOj (by rw [arr_size, h8]; kernel_rfl) (by rw [arr_size, arr_size, h8, List.length_replicate]) (arr_one _ _) ?_)
        | fail)
      refine bodyPost_ret (v := .agg (arr .u64 l)) ?_ ?_ ?_
      · exact results_cell_row Tryd.results56 _ _ (w.heap.size + 1) _ _ _ (.array 8 44) (by rfl) hOf (by kernel_rfl) rfl (by rw [arr_size, h8]; kernel_rfl)
      · rfl
      · exact ⟨rfl, hbf⟩

set_option maxRecDepth 100000 in
theorem zero8864 : ∀ w, (zeroValue 113).run Tryd.prog w = .ok (.agg (arr .u64 (List.replicate 88 0))) w := zero_arr (by kernel_rfl)

theorem el_map_hi64 (b : Bool) (r : List Nat) (j : Nat) (hj : j < r.length) : el (r.map (hi b)) j = hi b (el r j) := by
  rw [el_at (by rw [List.length_map]; exact hj), List.getElem_map, el_at hj]

set_option maxHeartbeats 4000000 in
set_option maxRecDepth 100000 in
theorem resume_any64 (hs r : List Nat) (w : World) (h8 : hs.length = 8) (hhu : Under 18446744073709551616 hs) (h80 : r.length = 80) (hru : Under 18446744073709551616 r) :
    Calls Tryd.prog 70 #[.agg (arr .u64 hs), .agg (arr .u64 r)] w fun e w' => ∃ g, e = .returned (.pointer (some ⟨g, 0, none⟩)) ∧ w.heap.size ≤ g ∧ Lies .u64 113 w' g (hs ++ r.map (hi true)) ∧ Below w.heap.size w w' := by
  have hz := zero8864
  have hA : Lies .u64 79 (((w.alloc (.cells (arr .u64 hs) 79)).alloc (.cells (arr .u64 r) 105)).alloc (.cells (arr .u64 (List.replicate 88 0)) 113)) w.heap.size hs := ((Lies.new _ _ w hs).alloc _).alloc _
  have hC : Lies .u64 105 (((w.alloc (.cells (arr .u64 hs) 79)).alloc (.cells (arr .u64 r) 105)).alloc (.cells (arr .u64 (List.replicate 88 0)) 113)) (w.heap.size + 1) r := by
    have := (Lies.new .u64 105 (w.alloc (.cells (arr .u64 hs) 79)) r).alloc (.cells (arr .u64 (List.replicate 88 0)) 113)
    rw [World.size_alloc] at this
    exact this
  have hL : Lies .u64 113 (((w.alloc (.cells (arr .u64 hs) 79)).alloc (.cells (arr .u64 r) 105)).alloc (.cells (arr .u64 (List.replicate 88 0)) 113)) (w.heap.size + 1 + 1) (pad 88 (hs.take 0)) := by
    have := Lies.new .u64 113 ((w.alloc (.cells (arr .u64 hs) 79)).alloc (.cells (arr .u64 r) 105)) (List.replicate 88 0)
    rw [World.size_alloc, World.size_alloc] at this
    exact this
  have hb : Below w.heap.size w (((w.alloc (.cells (arr .u64 hs) 79)).alloc (.cells (arr .u64 r) 105)).alloc (.cells (arr .u64 (List.replicate 88 0)) 113)) := keep_trans (keep_trans (keep_alloc _ _) (keep_alloc _ _)) (keep_alloc _ _)
  have HC := hide hC
  have HL := hide hL
  have HB := hide hb
  clear hC hL hb
  go_enter Tryd.func70, Tryd.ntmps70
  go_wp2_with (first
    | (refine wpList_load_row rfl 79 _ (by rfl) w.heap.size (by rfl) _ _ _ (.array 8 44) hA (by kernel_rfl) rfl (by rw [arr_size, h8]; kernel_rfl) ?_)
    | fail)
  clear hA
  go_loopw [11] (fun i wr => ∃ j : Nat, j ≤ 8 ∧ i = .int .i64 j ∧ Lies .u64 113 wr (w.heap.size + 1 + 1) (pad 88 (hs.take j)) ∧ Lies .u64 105 wr (w.heap.size + 1) r ∧ Below w.heap.size w wr) (fun i _ => 8 - (intOf i).toNat)
  case atStart => exact ⟨0, Nat.zero_le _, rfl, HL.out, HC.out, HB.out⟩
  case round =>
    obtain ⟨j, hj, rfl, hLj, hCj, hbj⟩ := hrel
    by_cases hlt : j < 8
    · have hix : ∀ w : World, (Instr.index 79 (.agg (arr .u64 hs)) (.int .i64 (j : Int))).run Tryd.prog w = .ok (.int .u64 (el hs j)) w := fun w =>
        index_arr _ 44 8 .u64 hs (by kernel_rfl) (by kernel_rfl) (by kernel_rfl) h8 j hlt w
      have hel : el hs j < 18446744073709551616 := el_lt hhu (by decide) j
      have htl : (hs.take j).length = j := by rw [List.length_take]; omega
      have c1 := hLj.cell (i := j) (by rw [pad_length (by omega)]; omega)
      have f1 := hLj.frozen j
      have hst := hLj.set j (el hs j)
      have hse := pad_set (n := 88) (l := hs.take j) (by omega) (el hs j)
      rw [htl, ← take_el (by omega)] at hse
      rw [hse] at hst
      have HST := hide hst
      clear hst hse htl
      have ij0 : (0 : Int) ≤ (j : Int) := Int.natCast_nonneg _
      have ij1 : (j : Int) < 8 := by omega
      go_wp2
      refine ⟨⟨j + 1, by omega, by go_num, HST.out, hCj.but (But.setCell (But.refl (w.heap.size + 1 + 1) _) _ _) (by omega), hbj.setCell (by simp; omega) _⟩, by simp [intOf]; omega⟩
    · obtain rfl : j = 8 := by omega
      rw [List.take_of_length_le (by omega)] at hLj
      clear HL HC HB
      have hL0 : Lies .u64 113 wr (w.heap.size + 1 + 1) (pad 88 (hs ++ (r.map (hi true)).take 0)) := by rw [List.take_zero, List.append_nil]; exact hLj
      have hlr : (r.map (hi true)).length = 80 := by rw [List.length_map]; exact h80
      clear hLj
      go_wp2_with (first
        | (refine wpList_load_row rfl 105 _ (by rfl) (w.heap.size + 1) (by rfl) _ _ _ (.array 80 44) hCj (by kernel_rfl) rfl (by rw [arr_size, h80]; kernel_rfl) ?_)
        | fail)
      clear hCj
      go_loopw [21] (fun i wr => ∃ j : Nat, j ≤ 80 ∧ i = .int .i64 j ∧ Lies .u64 113 wr (w.heap.size + 1 + 1) (pad 88 (hs ++ (r.map (hi true)).take j)) ∧ Below w.heap.size w wr) (fun i _ => 80 - (intOf i).toNat)
      case atStart => exact ⟨0, Nat.zero_le _, rfl, hL0, hbj⟩
      case round =>
        obtain ⟨j, hj, rfl, hLj, hbj⟩ := hrel
        clear hL0
        by_cases hlt : j < 80
        · have hix : ∀ w : World, (Instr.index 105 (.agg (arr .u64 r)) (.int .i64 (j : Int))).run Tryd.prog w = .ok (.int .u64 (el r j)) w := fun w =>
            index_arr _ 44 80 .u64 r (by kernel_rfl) (by kernel_rfl) (by kernel_rfl) h80 j hlt w
          have hrl : el r j < 18446744073709551616 := el_lt hru (by decide) j
          have htl : (hs ++ (r.map (hi true)).take j).length = 8 + j := by rw [List.length_append, List.length_take]; omega
          have c1 := hLj.cell (i := 8 + j) (by rw [pad_length (by omega)]; omega)
          have f1 := hLj.frozen (8 + j)
          have hst := hLj.set (8 + j) (hi true (el r j))
          have hse := pad_set (n := 88) (l := hs ++ (r.map (hi true)).take j) (by omega) (hi true (el r j))
          rw [htl, List.append_assoc, ← el_map_hi64 true r j (by omega), ← take_el (by omega)] at hse
          rw [← el_map_hi64 true r j (by omega), hse, el_map_hi64 true r j (by omega)] at hst
          have HST := hide hst
          clear hst hse htl
          have ij0 : (0 : Int) ≤ (j : Int) := Int.natCast_nonneg _
          have ij1 : (j : Int) < 80 := by omega
          go_wp2_with fail
          refine (first64 (el r j) _ hrl).mono ?_
          rintro e w1 ⟨rfl, rfl⟩
          go_wp2
          refine ⟨⟨j + 1, by omega, by go_num, HST.out, hbj.setCell (by simp; omega) _⟩, by simp [intOf]; omega⟩
        · obtain rfl : j = 80 := by omega
          rw [List.take_of_length_le (by omega), pad_full (by rw [List.length_append]; omega)] at hLj
          go_wp2
          go_ret
          exact ⟨_, rfl, by omega, hLj, hbj⟩
end Go.Proofs.YtnjiilnkobhibaaDoor

/- Contract of sha.sum.take at words of 64 bits. -/
namespace Go.Proofs.YtnjiilnkobhibaaDoor
open Go.RowKit
set_option linter.unusedVariables false
set_option linter.unusedSimpArgs false

set_option maxHeartbeats 4000000 in
set_option maxRecDepth 100000 in
theorem take_any64 (g : Nat) (hs l : List Nat) (v : Value) (w : World) (hS : Sm64 w g hs (ks true)) (h8 : hs.length = 8) (hhu : Under 18446744073709551616 hs) (hR : Row .u8 256 w v l) (ha : Away g v l) (ht : Tidy v) (hl : l.length ≤ 1000000) :
    Calls Tryd.prog 71 #[.pointer (some ⟨g, 0, none⟩), v] w fun e w' => (∃ v', e = .returned v' ∧ Row .u8 256 w' v' (left true l) ∧ Away g v' (left true l) ∧ Tidy v') ∧ Sm64 w' g (eat true hs l) (ks true) ∧ But g w w' := by
  go_enter Tryd.func71, Tryd.ntmps71
  go_wp2
  go_loopw [1] (fun u wr => ∃ (L H : List Nat), L.length ≤ l.length ∧ slen u = L.length ∧ Row .u8 256 wr u L ∧ Away g u L ∧ Tidy u ∧ Sm64 wr g H (ks true) ∧ But g w wr ∧ eat true hs l = eat true H L ∧ left true l = left true L ∧ H.length = 8 ∧ Under 18446744073709551616 H) (fun u _ => slen u)
  case atStart => exact ⟨l, hs, Nat.le_refl _, by obtain ⟨a, c, rfl, _⟩ := hR; rfl, hR, ha, ht, hS, But.refl _ _, rfl, rfl, h8, hhu⟩
  case round =>
    obtain ⟨L, H, hLl, hsl, hRL, hAL, hTL, hSL, hBL, hE, hLf, hH8, hHu⟩ := hrel
    have HE := hide hE
    have HF := hide hLf
    have hlu := hRL.under
    clear hE hLf
    obtain ⟨a, cap, rfl, g1, g2, g3, g4⟩ := hRL
    have hRL : Row .u8 256 wr (.slice a L.length cap) L := ⟨a, cap, rfl, g1, g2, g3, g4⟩
    unfold maxLen at g2
    by_cases hlt : 128 ≤ L.length
    · obtain ⟨bb, off, rfl, hc⟩ := g3 (by omega)
      clear hc g3
      have hRt := hRL.cut (M := 128) hlt
      go_wp2_with fail
      refine (block_any64 _ _).mono ?_
      rintro e w1 ⟨rfl, rfl⟩
      go_wp2_with fail
      refine (block_any64 _ _).mono ?_
      rintro e w2 ⟨rfl, rfl⟩
      go_wp2_with fail
      refine (spread_any64 _ _ _ hRt (by rw [List.length_take]; omega)).mono ?_
      rintro e w3 ⟨rfl, hb3⟩
      have hS3 := hSL.below hb3
      have hsch := sched_under (b := true) (hlu.take 128) 64
      go_wp2_with fail
      refine (mix_any64 g H (ks true) _ w3 hS3 hH8 (ks_length true) (pad_length (by rw [sched_length]; decide)) hHu (ks_under true) (pad_under hsch (by decide))).mono ?_
      rintro e w4 ⟨rfl, hS4, hB4⟩
      have hcp : addW true H (rndN true (ks true) (pad 80 (sched true (L.take 128) 64)) (rn true) H) 8 = comp true H (L.take 128) := comp_pad H _
      rw [hcp] at hS4
      clear hcp
      go_wp2_with fail
      refine (block_any64 _ _).mono ?_
      rintro e w5 ⟨rfl, rfl⟩
      go_wp2
      have hif : (if cap = 128 then some (⟨bb, off, none⟩ : Addr) else some ⟨bb, off + 128, none⟩) = some ⟨bb, off, none⟩ ∧ cap = 128 ∨ (if cap = 128 then some (⟨bb, off, none⟩ : Addr) else some ⟨bb, off + 128, none⟩) = some ⟨bb, off + 128, none⟩ := by
        by_cases h : cap = 128
        · exact .inl ⟨if_pos h, h⟩
        · exact .inr (if_neg h)
      generalize (if cap = 128 then some (⟨bb, off, none⟩ : Addr) else some ⟨bb, off + 128, none⟩) = A at *
      have hbz : bz true = 128 := rfl
      have hdl : (L.drop 128).length = L.length - 128 := List.length_drop
      refine ⟨⟨L.drop 128, comp true H (L.take 128), by omega, by simp [slen], ((hRL.below hb3).but hAL hB4).rest hlt A hif, fun hp q hq => ?_, ?_, hS4, (hBL.trans (But.of_below hb3)).trans hB4, ?_, ?_, comp_length _ _ _, comp_under _ _ _⟩, by simp [slen]; omega⟩
      · refine hAL (by omega) q ?_
        rcases hif with ⟨rfl, _⟩ | rfl
        · exact hq
        · simpa [Value.ownBlock] using hq
      · rcases hif with ⟨rfl, _⟩ | rfl <;> exact tidy_at _ _ _
      · rw [HE.out, eat_step (by rw [hbz]; exact hlt), hbz]
      · rw [HF.out, left_step (by rw [hbz]; exact hlt), hbz]
    · go_wp2_with fail
      refine (block_any64 _ _).mono ?_
      rintro e w1 ⟨rfl, rfl⟩
      go_wp2
      go_ret
      exact ⟨⟨_, rfl, by rw [HF.out, left_short (by show _ < 128; omega)]; exact hRL, by rw [HF.out, left_short (by show _ < 128; omega)]; exact hAL, hTL⟩, by rw [HE.out, eat_short (by show _ < 128; omega)]; exact hSL, hBL⟩
end Go.Proofs.YtnjiilnkobhibaaDoor
