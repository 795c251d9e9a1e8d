/- Contracts of sha.begin, stored, resume, block at words of 64 bits. -/
import Derived.Test.YtgdcpdbmacmheaaDoorHTur64
import Derived.Test.YtgdcpdbmacmheaaDoorHKi2
namespace Go.Proofs.YtgdcpdbmacmheaaDoor
open Go.RowKit
set_option linter.unusedVariables false
set_option linter.unusedSimpArgs false

theorem block_any64 (v : Value) (w : World) :
    Calls Tryd.prog 45 #[v] w fun e w' => e = .returned (.int .i64 128) ∧ w' = w := by
  go_enter Tryd.func45, Tryd.ntmps45
  go_wp2_with fail
  refine (either_int64 _ _ _).mono ?_
  rintro e w1 ⟨rfl, rfl⟩
  go_wp2
  go_ret
  exact ⟨rfl, rfl⟩


set_option maxHeartbeats 2000000 in
set_option maxRecDepth 100000 in
theorem stored_any64 (l : List Nat) (w : World) (h8 : l.length = 8) (hu : Under 18446744073709551616 l) :
    Calls Tryd.prog 28 #[.agg (arr .u64 l)] w fun e w' => e = .returned (.agg (arr .u64 l)) ∧ Below w.heap.size w w' := by
  have hA : Lies .u64 57 (((w.alloc (.cells (arr .u64 l) 57)).alloc (.cells #[.int .u64 0, .int .u64 0, .int .u64 0, .int .u64 0, .int .u64 0, .int .u64 0, .int .u64 0, .int .u64 0] 24)).alloc (.cells #[.int .u64 0, .int .u64 0, .int .u64 0, .int .u64 0, .int .u64 0, .int .u64 0, .int .u64 0, .int .u64 0] 24)) w.heap.size l := ((Lies.new _ _ w l).alloc _).alloc _
  have hO : Lies .u64 24 (((w.alloc (.cells (arr .u64 l) 57)).alloc (.cells #[.int .u64 0, .int .u64 0, .int .u64 0, .int .u64 0, .int .u64 0, .int .u64 0, .int .u64 0, .int .u64 0] 24)).alloc (.cells #[.int .u64 0, .int .u64 0, .int .u64 0, .int .u64 0, .int .u64 0, .int .u64 0, .int .u64 0, .int .u64 0] 24)) (w.heap.size + 1) (List.replicate 8 0) := by
    have := (Lies.new .u64 24 (w.alloc (.cells (arr .u64 l) 57)) (List.replicate 8 0)).alloc (.cells #[.int .u64 0, .int .u64 0, .int .u64 0, .int .u64 0, .int .u64 0, .int .u64 0, .int .u64 0, .int .u64 0] 24)
    rw [World.size_alloc] at this
    exact this
  have hL : Lies .u64 24 (((w.alloc (.cells (arr .u64 l) 57)).alloc (.cells #[.int .u64 0, .int .u64 0, .int .u64 0, .int .u64 0, .int .u64 0, .int .u64 0, .int .u64 0, .int .u64 0] 24)).alloc (.cells #[.int .u64 0, .int .u64 0, .int .u64 0, .int .u64 0, .int .u64 0, .int .u64 0, .int .u64 0, .int .u64 0] 24)) (w.heap.size + 1 + 1) (pad 8 (l.take 0)) := by
    have := Lies.new .u64 24 ((w.alloc (.cells (arr .u64 l) 57)).alloc (.cells #[.int .u64 0, .int .u64 0, .int .u64 0, .int .u64 0, .int .u64 0, .int .u64 0, .int .u64 0, .int .u64 0] 24)) (List.replicate 8 0)
    rw [World.size_alloc, World.size_alloc] at this
    exact this
  have hb : Below w.heap.size w (((w.alloc (.cells (arr .u64 l) 57)).alloc (.cells #[.int .u64 0, .int .u64 0, .int .u64 0, .int .u64 0, .int .u64 0, .int .u64 0, .int .u64 0, .int .u64 0] 24)).alloc (.cells #[.int .u64 0, .int .u64 0, .int .u64 0, .int .u64 0, .int .u64 0, .int .u64 0, .int .u64 0, .int .u64 0] 24)) := keep_trans (keep_trans (keep_alloc _ _) (keep_alloc _ _)) (keep_alloc _ _)
  have HO := hide hO
  have HL := hide hL
  have HB := hide hb
  clear hO hL hb
  go_enter Tryd.func28, Tryd.ntmps28
  go_wp2_with (first
    | (refine wpList_load_row rfl 57 _ (by rfl) w.heap.size (by rfl) _ _ _ (.array 8 23) hA (by kernel_rfl) rfl (by rw [arr_size, h8]; kernel_rfl) ?_)
    | fail)
  go_loopw [7] (fun i wr => ∃ j : Nat, j ≤ 8 ∧ i = .int .i64 j ∧ Lies .u64 24 wr (w.heap.size + 1 + 1) (pad 8 (l.take j)) ∧ Lies .u64 24 wr (w.heap.size + 1) (List.replicate 8 0) ∧ Below w.heap.size w wr) (fun i _ => 8 - (intOf i).toNat)
  case atStart => exact ⟨0, Nat.zero_le _, rfl, HL.out, HO.out, HB.out⟩
  case round =>
    obtain ⟨j, hj, rfl, hLj, hOj, hbj⟩ := hrel
    clear hA
    by_cases hlt : j < 8
    · have hix : ∀ w : World, (Instr.index 57 (.agg (arr .u64 l)) (.int .i64 (j : Int))).run Tryd.prog w = .ok (.int .u64 (el l j)) w := fun w =>
        index_arr _ 23 8 .u64 l (by kernel_rfl) (by kernel_rfl) (by kernel_rfl) h8 j hlt w
      have hel : el l j < 18446744073709551616 := el_lt hu (by decide) j
      have htl : (l.take j).length = j := by rw [List.length_take]; omega
      have c1 := hLj.cell (i := j) (by rw [pad_length (by omega)]; omega)
      have f1 := hLj.frozen j
      have hst := hLj.set j (el l j)
      have hse := pad_set (n := 8) (l := l.take j) (by omega) (el l j)
      rw [htl, ← take_el (by omega)] at hse
      rw [hse] at hst
      have HST := hide hst
      clear hst hse htl
      have ij0 : (0 : Int) ≤ (j : Int) := Int.natCast_nonneg _
      have ij1 : (j : Int) < 8 := by omega
      go_wp2
      refine ⟨⟨j + 1, by omega, by go_num, HST.out, hOj.but (But.setCell (But.refl (w.heap.size + 1 + 1) _) _ _) (by omega), hbj.setCell (by simp; omega) _⟩, by simp [intOf]; omega⟩
    · obtain rfl : j = 8 := by omega
      rw [List.take_of_length_le (by omega), pad_full h8] at hLj
      have hOf : Lies .u64 24 (wr.setRow (w.heap.size + 1) (arr .u64 l)) (w.heap.size + 1) l := hOj.row
      have hbf : Below w.heap.size w (wr.setRow (w.heap.size + 1) (arr .u64 l)) := hbj.trans ((But.setRow (But.refl _ _) _).below (by omega) hbj.size)
      go_wp2_with (first
        | (refine wpList_load_row rfl 24 _ (by rfl) (w.heap.size + 1 + 1) (by rfl) _ _ _ (.array 8 23) hLj (by kernel_rfl) rfl (by rw [arr_size, h8]; kernel_rfl) ?_)
        | (refine wpList_store_row rfl 24 _ _ (by rfl) (w.heap.size + 1) (arr .u64 l) (by rfl) (by rfl) _ _ hOj (by rw [arr_size, h8]; kernel_rfl) (by rw [arr_size, arr_size, h8, List.length_replicate]) (arr_one _ _) ?_)
        | fail)
      refine bodyPost_ret (v := .agg (arr .u64 l)) ?_ ?_ ?_
      · exact results_cell_row Tryd.results28 _ _ (w.heap.size + 1) _ _ _ (.array 8 23) (by rfl) hOf (by kernel_rfl) rfl (by rw [arr_size, h8]; kernel_rfl)
      · rfl
      · exact ⟨rfl, hbf⟩

set_option maxHeartbeats 2000000 in
set_option maxRecDepth 100000 in
theorem begin_any64 (r : List Nat) (f : Nat) (w : World) (h16 : r.length = 16) (hu : Under 18446744073709551616 r) (hf : f ≤ 8) :
    Calls Tryd.prog 27 #[.agg (arr .u64 r), .int .i64 f] w fun e w' => e = .returned (.agg (arr .u64 (((r.drop f).take 8).map (hi true)))) ∧ Below w.heap.size w w' := by
  have h8 : (((r.drop f).take 8).map (hi true)).length = 8 := by rw [List.length_map, List.length_take, List.length_drop]; omega
  have hel : ∀ j, j < 8 → el (((r.drop f).take 8).map (hi true)) j = hi true (el r (f + j)) := fun j hj => by
    rw [el_at (by omega), List.getElem_map, List.getElem_take, List.getElem_drop, el_at (by omega)]
  have HE := hide hel
  clear hel
  have hA : Lies .u64 55 (((w.alloc (.cells (arr .u64 r) 55)).alloc (.cells #[.int .u64 0, .int .u64 0, .int .u64 0, .int .u64 0, .int .u64 0, .int .u64 0, .int .u64 0, .int .u64 0] 57)).alloc (.cells #[.int .u64 0, .int .u64 0, .int .u64 0, .int .u64 0, .int .u64 0, .int .u64 0, .int .u64 0, .int .u64 0] 57)) w.heap.size r := ((Lies.new _ _ w r).alloc _).alloc _
  have hO : Lies .u64 57 (((w.alloc (.cells (arr .u64 r) 55)).alloc (.cells #[.int .u64 0, .int .u64 0, .int .u64 0, .int .u64 0, .int .u64 0, .int .u64 0, .int .u64 0, .int .u64 0] 57)).alloc (.cells #[.int .u64 0, .int .u64 0, .int .u64 0, .int .u64 0, .int .u64 0, .int .u64 0, .int .u64 0, .int .u64 0] 57)) (w.heap.size + 1) (List.replicate 8 0) := by
    have := (Lies.new .u64 57 (w.alloc (.cells (arr .u64 r) 55)) (List.replicate 8 0)).alloc (.cells #[.int .u64 0, .int .u64 0, .int .u64 0, .int .u64 0, .int .u64 0, .int .u64 0, .int .u64 0, .int .u64 0] 57)
    rw [World.size_alloc] at this
    exact this
  have hL : Lies .u64 57 (((w.alloc (.cells (arr .u64 r) 55)).alloc (.cells #[.int .u64 0, .int .u64 0, .int .u64 0, .int .u64 0, .int .u64 0, .int .u64 0, .int .u64 0, .int .u64 0] 57)).alloc (.cells #[.int .u64 0, .int .u64 0, .int .u64 0, .int .u64 0, .int .u64 0, .int .u64 0, .int .u64 0, .int .u64 0] 57)) (w.heap.size + 1 + 1) (pad 8 ((((r.drop f).take 8).map (hi true)).take 0)) := by
    have := Lies.new .u64 57 ((w.alloc (.cells (arr .u64 r) 55)).alloc (.cells #[.int .u64 0, .int .u64 0, .int .u64 0, .int .u64 0, .int .u64 0, .int .u64 0, .int .u64 0, .int .u64 0] 57)) (List.replicate 8 0)
    rw [World.size_alloc, World.size_alloc] at this
    exact this
  have hb : Below w.heap.size w (((w.alloc (.cells (arr .u64 r) 55)).alloc (.cells #[.int .u64 0, .int .u64 0, .int .u64 0, .int .u64 0, .int .u64 0, .int .u64 0, .int .u64 0, .int .u64 0] 57)).alloc (.cells #[.int .u64 0, .int .u64 0, .int .u64 0, .int .u64 0, .int .u64 0, .int .u64 0, .int .u64 0, .int .u64 0] 57)) := keep_trans (keep_trans (keep_alloc _ _) (keep_alloc _ _)) (keep_alloc _ _)
  have HA := hide hA
  have HO := hide hO
  have HL := hide hL
  have HB := hide hb
  clear hA hO hL hb
  generalize hl : ((r.drop f).take 8).map (hi true) = l at *
  go_enter Tryd.func27, Tryd.ntmps27
  go_wp2
  go_loopw [7] (fun i wr => ∃ j : Nat, j ≤ 8 ∧ i = .int .i64 j ∧ Lies .u64 57 wr (w.heap.size + 1 + 1) (pad 8 (l.take j)) ∧ Lies .u64 57 wr (w.heap.size + 1) (List.replicate 8 0) ∧ Lies .u64 55 wr w.heap.size r ∧ Below w.heap.size w wr) (fun i _ => 8 - (intOf i).toNat)
  case atStart => exact ⟨0, Nat.zero_le _, rfl, HL.out, HO.out, HA.out, HB.out⟩
  case round =>
    obtain ⟨j, hj, rfl, hLj, hOj, hAj, hbj⟩ := hrel
    by_cases hlt : j < 8
    · have hle := HE.out j hlt
      have hrl : el r (f + j) < 18446744073709551616 := el_lt hu (by decide) _
      have htl : (l.take j).length = j := by rw [List.length_take]; omega
      have c1 := hLj.cell (i := j) (by rw [pad_length (by omega)]; omega)
      have c2 := hAj.cell (i := f + j) (by omega)
      have f1 := hLj.frozen j
      have hst := hLj.set j (el l j)
      have hse := pad_set (n := 8) (l := l.take j) (by omega) (el l j)
      rw [htl, ← take_el (by omega)] at hse
      rw [hse, hle] at hst
      have HST := hide hst
      clear hst hse htl hle
      have ij0 : (0 : Int) ≤ (j : Int) := Int.natCast_nonneg _
      have ij1 : (j : Int) < 8 := by omega
      have ij2 : (f : Int) + (j : Int) = ((f + j : Nat) : Int) := by omega
      have ij3 : f + j < 16 := by omega
      have ij4 : ((f + j : Nat) : Int) < 16 := by omega
      have ij5 : (0 : Int) ≤ ((f + j : Nat) : Int) := Int.natCast_nonneg _
      have ij6 : IntKind.i64.wrap ((f + j : Nat) : Int) = ((f + j : Nat) : Int) := by rw [IntKind.wrap_i64]; omega
      generalize f + j = q at *
      go_wp2_with fail
      refine (first64 (el r q) _ hrl).mono ?_
      rintro e w1 ⟨rfl, rfl⟩
      go_wp2
      refine ⟨⟨j + 1, by omega, by go_num, HST.out, hOj.but (But.setCell (But.refl (w.heap.size + 1 + 1) _) _ _) (by omega), hAj.but (But.setCell (But.refl (w.heap.size + 1 + 1) _) _ _) (by omega), hbj.setCell (by simp; omega) _⟩, by simp [intOf]; omega⟩
    · obtain rfl : j = 8 := by omega
      rw [List.take_of_length_le (by omega), pad_full h8] at hLj
      have hOf : Lies .u64 57 (wr.setRow (w.heap.size + 1) (arr .u64 l)) (w.heap.size + 1) l := hOj.row
      have hbf : Below w.heap.size w (wr.setRow (w.heap.size + 1) (arr .u64 l)) := hbj.trans ((But.setRow (But.refl _ _) _).below (by omega) hbj.size)
      go_wp2_with (first
        | (refine wpList_load_row rfl 57 _ (by rfl) (w.heap.size + 1 + 1) (by rfl) _ _ _ (.array 8 23) hLj (by kernel_rfl) rfl (by rw [arr_size, h8]; kernel_rfl) ?_)
        | (refine wpList_store_row rfl 57 _ _ (by rfl) (w.heap.size + 1) (arr .u64 l) (by rfl) (by rfl) _ _ hOj (by rw [arr_size, h8]; kernel_rfl) (by rw [arr_size, arr_size, h8, List.length_replicate]) (arr_one _ _) ?_)
        | fail)
      refine bodyPost_ret (v := .agg (arr .u64 l)) ?_ ?_ ?_
      · exact results_cell_row Tryd.results27 _ _ (w.heap.size + 1) _ _ _ (.array 8 23) (by rfl) hOf (by kernel_rfl) rfl (by rw [arr_size, h8]; kernel_rfl)
      · rfl
      · exact ⟨rfl, hbf⟩

set_option maxRecDepth 100000 in
theorem zero8864 : ∀ w, (zeroValue 78).run Tryd.prog w = .ok (.agg (arr .u64 (List.replicate 88 0))) w := zero_arr (by kernel_rfl)

theorem el_map_hi64 (b : Bool) (r : List Nat) (j : Nat) (hj : j < r.length) : el (r.map (hi b)) j = hi b (el r j) := by
  rw [el_at (by rw [List.length_map]; exact hj), List.getElem_map, el_at hj]

set_option maxHeartbeats 4000000 in
set_option maxRecDepth 100000 in
theorem resume_any64 (hs r : List Nat) (w : World) (h8 : hs.length = 8) (hhu : Under 18446744073709551616 hs) (h80 : r.length = 80) (hru : Under 18446744073709551616 r) :
    Calls Tryd.prog 44 #[.agg (arr .u64 hs), .agg (arr .u64 r)] w fun e w' => ∃ g, e = .returned (.pointer (some ⟨g, 0, none⟩)) ∧ w.heap.size ≤ g ∧ Lies .u64 78 w' g (hs ++ r.map (hi true)) ∧ Below w.heap.size w w' := by
  have hz := zero8864
  have hA : Lies .u64 24 (((w.alloc (.cells (arr .u64 hs) 24)).alloc (.cells (arr .u64 r) 68)).alloc (.cells (arr .u64 (List.replicate 88 0)) 78)) w.heap.size hs := ((Lies.new _ _ w hs).alloc _).alloc _
  have hC : Lies .u64 68 (((w.alloc (.cells (arr .u64 hs) 24)).alloc (.cells (arr .u64 r) 68)).alloc (.cells (arr .u64 (List.replicate 88 0)) 78)) (w.heap.size + 1) r := by
    have := (Lies.new .u64 68 (w.alloc (.cells (arr .u64 hs) 24)) r).alloc (.cells (arr .u64 (List.replicate 88 0)) 78)
    rw [World.size_alloc] at this
    exact this
  have hL : Lies .u64 78 (((w.alloc (.cells (arr .u64 hs) 24)).alloc (.cells (arr .u64 r) 68)).alloc (.cells (arr .u64 (List.replicate 88 0)) 78)) (w.heap.size + 1 + 1) (pad 88 (hs.take 0)) := by
    have := Lies.new .u64 78 ((w.alloc (.cells (arr .u64 hs) 24)).alloc (.cells (arr .u64 r) 68)) (List.replicate 88 0)
    rw [World.size_alloc, World.size_alloc] at this
    exact this
  have hb : Below w.heap.size w (((w.alloc (.cells (arr .u64 hs) 24)).alloc (.cells (arr .u64 r) 68)).alloc (.cells (arr .u64 (List.replicate 88 0)) 78)) := keep_trans (keep_trans (keep_alloc _ _) (keep_alloc _ _)) (keep_alloc _ _)
  have HC := hide hC
  have HL := hide hL
  have HB := hide hb
  clear hC hL hb
  go_enter Tryd.func44, Tryd.ntmps44
  go_wp2_with (first
    | (refine wpList_load_row rfl 24 _ (by rfl) w.heap.size (by rfl) _ _ _ (.array 8 23) hA (by kernel_rfl) rfl (by rw [arr_size, h8]; kernel_rfl) ?_)
    | fail)
  clear hA
  go_loopw [11] (fun i wr => ∃ j : Nat, j ≤ 8 ∧ i = .int .i64 j ∧ Lies .u64 78 wr (w.heap.size + 1 + 1) (pad 88 (hs.take j)) ∧ Lies .u64 68 wr (w.heap.size + 1) r ∧ Below w.heap.size w wr) (fun i _ => 8 - (intOf i).toNat)
  case atStart => exact ⟨0, Nat.zero_le _, rfl, HL.out, HC.out, HB.out⟩
  case round =>
    obtain ⟨j, hj, rfl, hLj, hCj, hbj⟩ := hrel
    by_cases hlt : j < 8
    · have hix : ∀ w : World, (Instr.index 24 (.agg (arr .u64 hs)) (.int .i64 (j : Int))).run Tryd.prog w = .ok (.int .u64 (el hs j)) w := fun w =>
        index_arr _ 23 8 .u64 hs (by kernel_rfl) (by kernel_rfl) (by kernel_rfl) h8 j hlt w
      have hel : el hs j < 18446744073709551616 := el_lt hhu (by decide) j
      have htl : (hs.take j).length = j := by rw [List.length_take]; omega
      have c1 := hLj.cell (i := j) (by rw [pad_length (by omega)]; omega)
      have f1 := hLj.frozen j
      have hst := hLj.set j (el hs j)
      have hse := pad_set (n := 88) (l := hs.take j) (by omega) (el hs j)
      rw [htl, ← take_el (by omega)] at hse
      rw [hse] at hst
      have HST := hide hst
      clear hst hse htl
      have ij0 : (0 : Int) ≤ (j : Int) := Int.natCast_nonneg _
      have ij1 : (j : Int) < 8 := by omega
      go_wp2
      refine ⟨⟨j + 1, by omega, by go_num, HST.out, hCj.but (But.setCell (But.refl (w.heap.size + 1 + 1) _) _ _) (by omega), hbj.setCell (by simp; omega) _⟩, by simp [intOf]; omega⟩
    · obtain rfl : j = 8 := by omega
      rw [List.take_of_length_le (by omega)] at hLj
      clear HL HC HB
      have hL0 : Lies .u64 78 wr (w.heap.size + 1 + 1) (pad 88 (hs ++ (r.map (hi true)).take 0)) := by rw [List.take_zero, List.append_nil]; exact hLj
      have hlr : (r.map (hi true)).length = 80 := by rw [List.length_map]; exact h80
      clear hLj
      go_wp2_with (first
        | (refine wpList_load_row rfl 68 _ (by rfl) (w.heap.size + 1) (by rfl) _ _ _ (.array 80 23) hCj (by kernel_rfl) rfl (by rw [arr_size, h80]; kernel_rfl) ?_)
        | fail)
      clear hCj
      go_loopw [21] (fun i wr => ∃ j : Nat, j ≤ 80 ∧ i = .int .i64 j ∧ Lies .u64 78 wr (w.heap.size + 1 + 1) (pad 88 (hs ++ (r.map (hi true)).take j)) ∧ Below w.heap.size w wr) (fun i _ => 80 - (intOf i).toNat)
      case atStart => exact ⟨0, Nat.zero_le _, rfl, hL0, hbj⟩
      case round =>
        obtain ⟨j, hj, rfl, hLj, hbj⟩ := hrel
        clear hL0
        by_cases hlt : j < 80
        · have hix : ∀ w : World, (Instr.index 68 (.agg (arr .u64 r)) (.int .i64 (j : Int))).run Tryd.prog w = .ok (.int .u64 (el r j)) w := fun w =>
            index_arr _ 23 80 .u64 r (by kernel_rfl) (by kernel_rfl) (by kernel_rfl) h80 j hlt w
          have hrl : el r j < 18446744073709551616 := el_lt hru (by decide) j
          have htl : (hs ++ (r.map (hi true)).take j).length = 8 + j := by rw [List.length_append, List.length_take]; omega
          have c1 := hLj.cell (i := 8 + j) (by rw [pad_length (by omega)]; omega)
          have f1 := hLj.frozen (8 + j)
          have hst := hLj.set (8 + j) (hi true (el r j))
          have hse := pad_set (n := 88) (l := hs ++ (r.map (hi true)).take j) (by omega) (hi true (el r j))
          rw [htl, List.append_assoc, ← el_map_hi64 true r j (by omega), ← take_el (by omega)] at hse
          rw [← el_map_hi64 true r j (by omega), hse, el_map_hi64 true r j (by omega)] at hst
          have HST := hide hst
          clear hst hse htl
          have ij0 : (0 : Int) ≤ (j : Int) := Int.natCast_nonneg _
          have ij1 : (j : Int) < 80 := by omega
          go_wp2_with fail
          refine (first64 (el r j) _ hrl).mono ?_
          rintro e w1 ⟨rfl, rfl⟩
          go_wp2
          refine ⟨⟨j + 1, by omega, by go_num, HST.out, hbj.setCell (by simp; omega) _⟩, by simp [intOf]; omega⟩
        · obtain rfl : j = 80 := by omega
          rw [List.take_of_length_le (by omega), pad_full (by rw [List.length_append]; omega)] at hLj
          go_wp2
          go_ret
          exact ⟨_, rfl, by omega, hLj, hbj⟩
end Go.Proofs.YtgdcpdbmacmheaaDoor
