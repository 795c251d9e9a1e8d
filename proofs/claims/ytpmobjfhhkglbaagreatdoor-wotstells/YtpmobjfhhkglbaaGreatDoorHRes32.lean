/- Contracts of sha.begin, stored, resume, block at words of 32 bits. -/
import Derived.Test.YtpmobjfhhkglbaaGreatDoorHTur32
import Derived.Test.YtpmobjfhhkglbaaGreatDoorHaM
import Derived.Test.YtpmobjfhhkglbaaGreatDoorHMix32
import Derived.Test.YtpmobjfhhkglbaaGreatDoorHHsh
import Derived.Test.YtpmobjfhhkglbaaGreatDoorBitm
namespace Go.Proofs.YtpmobjfhhkglbaaGreatDoor
open Go.RowKit
set_option linter.unusedVariables false
set_option linter.unusedSimpArgs false

theorem block_any32 (v : Value) (w : World) :
    Calls Tryz.prog 118 #[v] w fun e w' => e = .returned (.int .i64 64) ∧ w' = w := by
  go_enter Tryz.func118, Tryz.ntmps118
  go_wp2_with fail
  refine (either_int32 _ _ _).mono ?_
  rintro e w1 ⟨rfl, rfl⟩
  go_wp2
  go_ret
  exact ⟨rfl, rfl⟩


set_option maxHeartbeats 2000000 in
set_option maxRecDepth 100000 in
theorem stored_any32 (l : List Nat) (w : World) (h8 : l.length = 8) (hu : Under 4294967296 l) :
    Calls Tryz.prog 102 #[.agg (arr .u32 l)] w fun e w' => e = .returned (.agg (arr .u64 l)) ∧ Below w.heap.size w w' := by
  have hA : Lies .u32 122 (((w.alloc (.cells (arr .u32 l) 122)).alloc (.cells #[.int .u64 0, .int .u64 0, .int .u64 0, .int .u64 0, .int .u64 0, .int .u64 0, .int .u64 0, .int .u64 0] 87)).alloc (.cells #[.int .u64 0, .int .u64 0, .int .u64 0, .int .u64 0, .int .u64 0, .int .u64 0, .int .u64 0, .int .u64 0] 87)) w.heap.size l := ((Lies.new _ _ w l).alloc _).alloc _
  have hO : Lies .u64 87 (((w.alloc (.cells (arr .u32 l) 122)).alloc (.cells #[.int .u64 0, .int .u64 0, .int .u64 0, .int .u64 0, .int .u64 0, .int .u64 0, .int .u64 0, .int .u64 0] 87)).alloc (.cells #[.int .u64 0, .int .u64 0, .int .u64 0, .int .u64 0, .int .u64 0, .int .u64 0, .int .u64 0, .int .u64 0] 87)) (w.heap.size + 1) (List.replicate 8 0) := by
    have := (Lies.new .u64 87 (w.alloc (.cells (arr .u32 l) 122)) (List.replicate 8 0)).alloc (.cells #[.int .u64 0, .int .u64 0, .int .u64 0, .int .u64 0, .int .u64 0, .int .u64 0, .int .u64 0, .int .u64 0] 87)
    rw [World.size_alloc] at this
    exact this
  have hL : Lies .u64 87 (((w.alloc (.cells (arr .u32 l) 122)).alloc (.cells #[.int .u64 0, .int .u64 0, .int .u64 0, .int .u64 0, .int .u64 0, .int .u64 0, .int .u64 0, .int .u64 0] 87)).alloc (.cells #[.int .u64 0, .int .u64 0, .int .u64 0, .int .u64 0, .int .u64 0, .int .u64 0, .int .u64 0, .int .u64 0] 87)) (w.heap.size + 1 + 1) (pad 8 (l.take 0)) := by
    have := Lies.new .u64 87 ((w.alloc (.cells (arr .u32 l) 122)).alloc (.cells #[.int .u64 0, .int .u64 0, .int .u64 0, .int .u64 0, .int .u64 0, .int .u64 0, .int .u64 0, .int .u64 0] 87)) (List.replicate 8 0)
    rw [World.size_alloc, World.size_alloc] at this
    exact this
  have hb : Below w.heap.size w (((w.alloc (.cells (arr .u32 l) 122)).alloc (.cells #[.int .u64 0, .int .u64 0, .int .u64 0, .int .u64 0, .int .u64 0, .int .u64 0, .int .u64 0, .int .u64 0] 87)).alloc (.cells #[.int .u64 0, .int .u64 0, .int .u64 0, .int .u64 0, .int .u64 0, .int .u64 0, .int .u64 0, .int .u64 0] 87)) := keep_trans (keep_trans (keep_alloc _ _) (keep_alloc _ _)) (keep_alloc _ _)
  have HO := hide hO
  have HL := hide hL
  have HB := hide hb
  clear hO hL hb
  go_enter Tryz.func102, Tryz.ntmps102
  go_wp2_with (first
    | (refine wpList_load_row rfl 122 _ (by rfl) w.heap.size (by rfl) _ _ _ (.array 8 42) hA (by kernel_rfl) rfl (by rw [arr_size, h8]; kernel_rfl) ?_)
    | fail)
  go_loopw [7] (fun i wr => ∃ j : Nat, j ≤ 8 ∧ i = .int .i64 j ∧ Lies .u64 87 wr (w.heap.size + 1 + 1) (pad 8 (l.take j)) ∧ Lies .u64 87 wr (w.heap.size + 1) (List.replicate 8 0) ∧ Below w.heap.size w wr) (fun i _ => 8 - (intOf i).toNat)
  case atStart => exact ⟨0, Nat.zero_le _, rfl, HL.out, HO.out, HB.out⟩
  case round =>
    obtain ⟨j, hj, rfl, hLj, hOj, hbj⟩ := hrel
    clear hA
    by_cases hlt : j < 8
    · have hix : ∀ w : World, (Instr.index 122 (.agg (arr .u32 l)) (.int .i64 (j : Int))).run Tryz.prog w = .ok (.int .u32 (el l j)) w := fun w =>
        index_arr _ 42 8 .u32 l (by kernel_rfl) (by kernel_rfl) (by kernel_rfl) h8 j hlt w
      have hel : el l j < 4294967296 := el_lt hu (by decide) j
      have htl : (l.take j).length = j := by rw [List.length_take]; omega
      have c1 := hLj.cell (i := j) (by rw [pad_length (by omega)]; omega)
      have f1 := hLj.frozen j
      have hst := hLj.set j (el l j)
      have hse := pad_set (n := 8) (l := l.take j) (by omega) (el l j)
      rw [htl, ← take_el (by omega)] at hse
      rw [hse] at hst
      have HST := hide hst
      clear hst hse htl
      have ij0 : (0 : Int) ≤ (j : Int) := Int.natCast_nonneg _
      have ij1 : (j : Int) < 8 := by omega
      go_wp2
      refine ⟨⟨j + 1, by omega, by go_num, HST.out, hOj.but (But.setCell (But.refl (w.heap.size + 1 + 1) _) _ _) (by omega), hbj.setCell (by simp; omega) _⟩, by simp [intOf]; omega⟩
    · obtain rfl : j = 8 := by omega
      rw [List.take_of_length_le (by omega), pad_full h8] at hLj
      have hOf : Lies .u64 87 (wr.setRow (w.heap.size + 1) (arr .u64 l)) (w.heap.size + 1) l := hOj.row
      have hbf : Below w.heap.size w (wr.setRow (w.heap.size + 1) (arr .u64 l)) := hbj.trans ((But.setRow (But.refl _ _) _).below (by omega) hbj.size)
      go_wp2_with (first
        | (refine wpList_load_row rfl 87 _ (by rfl) (w.heap.size + 1 + 1) (by rfl) _ _ _ (.array 8 26) hLj (by kernel_rfl) rfl (by rw [arr_size, h8]; kernel_rfl) ?_)
        | (refine wpList_store_row rfl 87 _ _ (by rfl) (w.heap.size + 1) (arr .u64 l) (by rfl) (by rfl) _ _ hOj (by rw [arr_size, h8]; kernel_rfl) (by rw [arr_size, arr_size, h8, List.length_replicate]) (arr_one _ _) ?_)
        | fail)
      refine bodyPost_ret (v := .agg (arr .u64 l)) ?_ ?_ ?_
      · exact results_cell_row Tryz.results102 _ _ (w.heap.size + 1) _ _ _ (.array 8 26) (by rfl) hOf (by kernel_rfl) rfl (by rw [arr_size, h8]; kernel_rfl)
      · rfl
      · exact ⟨rfl, hbf⟩

set_option maxHeartbeats 2000000 in
set_option maxRecDepth 100000 in
theorem begin_any32 (r : List Nat) (f : Nat) (w : World) (h16 : r.length = 16) (hu : Under 18446744073709551616 r) (hf : f ≤ 8) :
    Calls Tryz.prog 101 #[.agg (arr .u64 r), .int .i64 f] w fun e w' => e = .returned (.agg (arr .u32 (((r.drop f).take 8).map (hi false)))) ∧ Below w.heap.size w w' := by
  have h8 : (((r.drop f).take 8).map (hi false)).length = 8 := by rw [List.length_map, List.length_take, List.length_drop]; omega
  have hel : ∀ j, j < 8 → el (((r.drop f).take 8).map (hi false)) j = hi false (el r (f + j)) := fun j hj => by
    rw [el_at (by omega), List.getElem_map, List.getElem_take, List.getElem_drop, el_at (by omega)]
  have HE := hide hel
  clear hel
  have hA : Lies .u64 124 (((w.alloc (.cells (arr .u64 r) 124)).alloc (.cells #[.int .u32 0, .int .u32 0, .int .u32 0, .int .u32 0, .int .u32 0, .int .u32 0, .int .u32 0, .int .u32 0] 122)).alloc (.cells #[.int .u32 0, .int .u32 0, .int .u32 0, .int .u32 0, .int .u32 0, .int .u32 0, .int .u32 0, .int .u32 0] 122)) w.heap.size r := ((Lies.new _ _ w r).alloc _).alloc _
  have hO : Lies .u32 122 (((w.alloc (.cells (arr .u64 r) 124)).alloc (.cells #[.int .u32 0, .int .u32 0, .int .u32 0, .int .u32 0, .int .u32 0, .int .u32 0, .int .u32 0, .int .u32 0] 122)).alloc (.cells #[.int .u32 0, .int .u32 0, .int .u32 0, .int .u32 0, .int .u32 0, .int .u32 0, .int .u32 0, .int .u32 0] 122)) (w.heap.size + 1) (List.replicate 8 0) := by
    have := (Lies.new .u32 122 (w.alloc (.cells (arr .u64 r) 124)) (List.replicate 8 0)).alloc (.cells #[.int .u32 0, .int .u32 0, .int .u32 0, .int .u32 0, .int .u32 0, .int .u32 0, .int .u32 0, .int .u32 0] 122)
    rw [World.size_alloc] at this
    exact this
  have hL : Lies .u32 122 (((w.alloc (.cells (arr .u64 r) 124)).alloc (.cells #[.int .u32 0, .int .u32 0, .int .u32 0, .int .u32 0, .int .u32 0, .int .u32 0, .int .u32 0, .int .u32 0] 122)).alloc (.cells #[.int .u32 0, .int .u32 0, .int .u32 0, .int .u32 0, .int .u32 0, .int .u32 0, .int .u32 0, .int .u32 0] 122)) (w.heap.size + 1 + 1) (pad 8 ((((r.drop f).take 8).map (hi false)).take 0)) := by
    have := Lies.new .u32 122 ((w.alloc (.cells (arr .u64 r) 124)).alloc (.cells #[.int .u32 0, .int .u32 0, .int .u32 0, .int .u32 0, .int .u32 0, .int .u32 0, .int .u32 0, .int .u32 0] 122)) (List.replicate 8 0)
    rw [World.size_alloc, World.size_alloc] at this
    exact this
  have hb : Below w.heap.size w (((w.alloc (.cells (arr .u64 r) 124)).alloc (.cells #[.int .u32 0, .int .u32 0, .int .u32 0, .int .u32 0, .int .u32 0, .int .u32 0, .int .u32 0, .int .u32 0] 122)).alloc (.cells #[.int .u32 0, .int .u32 0, .int .u32 0, .int .u32 0, .int .u32 0, .int .u32 0, .int .u32 0, .int .u32 0] 122)) := keep_trans (keep_trans (keep_alloc _ _) (keep_alloc _ _)) (keep_alloc _ _)
  have HA := hide hA
  have HO := hide hO
  have HL := hide hL
  have HB := hide hb
  clear hA hO hL hb
  generalize hl : ((r.drop f).take 8).map (hi false) = l at *
  go_enter Tryz.func101, Tryz.ntmps101
  go_wp2
  go_loopw [7] (fun i wr => ∃ j : Nat, j ≤ 8 ∧ i = .int .i64 j ∧ Lies .u32 122 wr (w.heap.size + 1 + 1) (pad 8 (l.take j)) ∧ Lies .u32 122 wr (w.heap.size + 1) (List.replicate 8 0) ∧ Lies .u64 124 wr w.heap.size r ∧ Below w.heap.size w wr) (fun i _ => 8 - (intOf i).toNat)
  case atStart => exact ⟨0, Nat.zero_le _, rfl, HL.out, HO.out, HA.out, HB.out⟩
  case round =>
    obtain ⟨j, hj, rfl, hLj, hOj, hAj, hbj⟩ := hrel
    by_cases hlt : j < 8
    · have hle := HE.out j hlt
      have hrl : el r (f + j) < 18446744073709551616 := el_lt hu (by decide) _
      have htl : (l.take j).length = j := by rw [List.length_take]; omega
      have c1 := hLj.cell (i := j) (by rw [pad_length (by omega)]; omega)
      have c2 := hAj.cell (i := f + j) (by omega)
      have f1 := hLj.frozen j
      have hst := hLj.set j (el l j)
      have hse := pad_set (n := 8) (l := l.take j) (by omega) (el l j)
      rw [htl, ← take_el (by omega)] at hse
      rw [hse, hle] at hst
      have HST := hide hst
      clear hst hse htl hle
      have ij0 : (0 : Int) ≤ (j : Int) := Int.natCast_nonneg _
      have ij1 : (j : Int) < 8 := by omega
      have ij2 : (f : Int) + (j : Int) = ((f + j : Nat) : Int) := by omega
      have ij3 : f + j < 16 := by omega
      have ij4 : ((f + j : Nat) : Int) < 16 := by omega
      have ij5 : (0 : Int) ≤ ((f + j : Nat) : Int) := Int.natCast_nonneg _
      have ij6 : IntKind.i64.wrap ((f + j : Nat) : Int) = ((f + j : Nat) : Int) := by rw [IntKind.wrap_i64]; omega
      generalize f + j = q at *
      go_wp2_with fail
      refine (first32 (el r q) _ hrl).mono ?_
      rintro e w1 ⟨rfl, rfl⟩
      go_wp2
      refine ⟨⟨j + 1, by omega, by go_num, HST.out, hOj.but (But.setCell (But.refl (w.heap.size + 1 + 1) _) _ _) (by omega), hAj.but (But.setCell (But.refl (w.heap.size + 1 + 1) _) _ _) (by omega), hbj.setCell (by simp; omega) _⟩, by simp [intOf]; omega⟩
    · obtain rfl : j = 8 := by omega
      rw [List.take_of_length_le (by omega), pad_full h8] at hLj
      have hOf : Lies .u32 122 (wr.setRow (w.heap.size + 1) (arr .u32 l)) (w.heap.size + 1) l := hOj.row
      have hbf : Below w.heap.size w (wr.setRow (w.heap.size + 1) (arr .u32 l)) := hbj.trans ((But.setRow (But.refl _ _) _).below (by omega) hbj.size)
      go_wp2_with (first
        | (refine wpList_load_row rfl 122 _ (by rfl) (w.heap.size + 1 + 1) (by rfl) _ _ _ (.array 8 42) hLj (by kernel_rfl) rfl (by rw [arr_size, h8]; kernel_rfl) ?_)
        | (refine wpList_store_row rfl 122 _ _ (by rfl) (w.heap.size + 1) (arr .u32 l) (by rfl) (by rfl) _ _ hOj (by rw [arr_size, h8]; kernel_rfl) (by rw [arr_size, arr_size, h8, List.length_replicate]) (arr_one _ _) ?_)
        | fail)
      refine bodyPost_ret (v := .agg (arr .u32 l)) ?_ ?_ ?_
      · exact results_cell_row Tryz.results101 _ _ (w.heap.size + 1) _ _ _ (.array 8 42) (by rfl) hOf (by kernel_rfl) rfl (by rw [arr_size, h8]; kernel_rfl)
      · rfl
      · exact ⟨rfl, hbf⟩

set_option maxRecDepth 100000 in
theorem zero8832 : ∀ w, (zeroValue 141).run Tryz.prog w = .ok (.agg (arr .u32 (List.replicate 88 0))) w := zero_arr (by kernel_rfl)

theorem el_map_hi32 (b : Bool) (r : List Nat) (j : Nat) (hj : j < r.length) : el (r.map (hi b)) j = hi b (el r j) := by
  rw [el_at (by rw [List.length_map]; exact hj), List.getElem_map, el_at hj]

set_option maxHeartbeats 4000000 in
set_option maxRecDepth 100000 in
theorem resume_any32 (hs r : List Nat) (w : World) (h8 : hs.length = 8) (hhu : Under 4294967296 hs) (h80 : r.length = 80) (hru : Under 18446744073709551616 r) :
    Calls Tryz.prog 117 #[.agg (arr .u64 hs), .agg (arr .u64 r)] w fun e w' => ∃ g, e = .returned (.pointer (some ⟨g, 0, none⟩)) ∧ w.heap.size ≤ g ∧ Lies .u32 141 w' g (hs ++ r.map (hi false)) ∧ Below w.heap.size w w' := by
  have hz := zero8832
  have hA : Lies .u64 87 (((w.alloc (.cells (arr .u64 hs) 87)).alloc (.cells (arr .u64 r) 113)).alloc (.cells (arr .u32 (List.replicate 88 0)) 141)) w.heap.size hs := ((Lies.new _ _ w hs).alloc _).alloc _
  have hC : Lies .u64 113 (((w.alloc (.cells (arr .u64 hs) 87)).alloc (.cells (arr .u64 r) 113)).alloc (.cells (arr .u32 (List.replicate 88 0)) 141)) (w.heap.size + 1) r := by
    have := (Lies.new .u64 113 (w.alloc (.cells (arr .u64 hs) 87)) r).alloc (.cells (arr .u32 (List.replicate 88 0)) 141)
    rw [World.size_alloc] at this
    exact this
  have hL : Lies .u32 141 (((w.alloc (.cells (arr .u64 hs) 87)).alloc (.cells (arr .u64 r) 113)).alloc (.cells (arr .u32 (List.replicate 88 0)) 141)) (w.heap.size + 1 + 1) (pad 88 (hs.take 0)) := by
    have := Lies.new .u32 141 ((w.alloc (.cells (arr .u64 hs) 87)).alloc (.cells (arr .u64 r) 113)) (List.replicate 88 0)
    rw [World.size_alloc, World.size_alloc] at this
    exact this
  have hb : Below w.heap.size w (((w.alloc (.cells (arr .u64 hs) 87)).alloc (.cells (arr .u64 r) 113)).alloc (.cells (arr .u32 (List.replicate 88 0)) 141)) := keep_trans (keep_trans (keep_alloc _ _) (keep_alloc _ _)) (keep_alloc _ _)
  have HC := hide hC
  have HL := hide hL
  have HB := hide hb
  clear hC hL hb
  go_enter Tryz.func117, Tryz.ntmps117
  go_wp2_with (first
    | (refine wpList_load_row rfl 87 _ (by rfl) w.heap.size (by rfl) _ _ _ (.array 8 26) hA (by kernel_rfl) rfl (by rw [arr_size, h8]; kernel_rfl) ?_)
    | fail)
  clear hA
  go_loopw [11] (fun i wr => ∃ j : Nat, j ≤ 8 ∧ i = .int .i64 j ∧ Lies .u32 141 wr (w.heap.size + 1 + 1) (pad 88 (hs.take j)) ∧ Lies .u64 113 wr (w.heap.size + 1) r ∧ Below w.heap.size w wr) (fun i _ => 8 - (intOf i).toNat)
  case atStart => exact ⟨0, Nat.zero_le _, rfl, HL.out, HC.out, HB.out⟩
  case round =>
    obtain ⟨j, hj, rfl, hLj, hCj, hbj⟩ := hrel
    by_cases hlt : j < 8
    · have hix : ∀ w : World, (Instr.index 87 (.agg (arr .u64 hs)) (.int .i64 (j : Int))).run Tryz.prog w = .ok (.int .u64 (el hs j)) w := fun w =>
        index_arr _ 26 8 .u64 hs (by kernel_rfl) (by kernel_rfl) (by kernel_rfl) h8 j hlt w
      have hel : el hs j < 4294967296 := el_lt hhu (by decide) j
      have htl : (hs.take j).length = j := by rw [List.length_take]; omega
      have c1 := hLj.cell (i := j) (by rw [pad_length (by omega)]; omega)
      have f1 := hLj.frozen j
      have hst := hLj.set j (el hs j)
      have hse := pad_set (n := 88) (l := hs.take j) (by omega) (el hs j)
      rw [htl, ← take_el (by omega)] at hse
      rw [hse] at hst
      have HST := hide hst
      clear hst hse htl
      have ij0 : (0 : Int) ≤ (j : Int) := Int.natCast_nonneg _
      have ij1 : (j : Int) < 8 := by omega
      go_wp2
      refine ⟨⟨j + 1, by omega, by go_num, HST.out, hCj.but (But.setCell (But.refl (w.heap.size + 1 + 1) _) _ _) (by omega), hbj.setCell (by simp; omega) _⟩, by simp [intOf]; omega⟩
    · obtain rfl : j = 8 := by omega
      rw [List.take_of_length_le (by omega)] at hLj
      clear HL HC HB
      have hL0 : Lies .u32 141 wr (w.heap.size + 1 + 1) (pad 88 (hs ++ (r.map (hi false)).take 0)) := by rw [List.take_zero, List.append_nil]; exact hLj
      have hlr : (r.map (hi false)).length = 80 := by rw [List.length_map]; exact h80
      clear hLj
      go_wp2_with (first
        | (refine wpList_load_row rfl 113 _ (by rfl) (w.heap.size + 1) (by rfl) _ _ _ (.array 80 26) hCj (by kernel_rfl) rfl (by rw [arr_size, h80]; kernel_rfl) ?_)
        | fail)
      clear hCj
      go_loopw [22] (fun i wr => ∃ j : Nat, j ≤ 80 ∧ i = .int .i64 j ∧ Lies .u32 141 wr (w.heap.size + 1 + 1) (pad 88 (hs ++ (r.map (hi false)).take j)) ∧ Below w.heap.size w wr) (fun i _ => 80 - (intOf i).toNat)
      case atStart => exact ⟨0, Nat.zero_le _, rfl, hL0, hbj⟩
      case round =>
        obtain ⟨j, hj, rfl, hLj, hbj⟩ := hrel
        clear hL0
        by_cases hlt : j < 80
        · have hix : ∀ w : World, (Instr.index 113 (.agg (arr .u64 r)) (.int .i64 (j : Int))).run Tryz.prog w = .ok (.int .u64 (el r j)) w := fun w =>
            index_arr _ 26 80 .u64 r (by kernel_rfl) (by kernel_rfl) (by kernel_rfl) h80 j hlt w
          have hrl : el r j < 18446744073709551616 := el_lt hru (by decide) j
          have htl : (hs ++ (r.map (hi false)).take j).length = 8 + j := by rw [List.length_append, List.length_take]; omega
          have c1 := hLj.cell (i := 8 + j) (by rw [pad_length (by omega)]; omega)
          have f1 := hLj.frozen (8 + j)
          have hst := hLj.set (8 + j) (hi false (el r j))
          have hse := pad_set (n := 88) (l := hs ++ (r.map (hi false)).take j) (by omega) (hi false (el r j))
          rw [htl, List.append_assoc, ← el_map_hi32 false r j (by omega), ← take_el (by omega)] at hse
          rw [← el_map_hi32 false r j (by omega), hse, el_map_hi32 false r j (by omega)] at hst
          have HST := hide hst
          clear hst hse htl
          have ij0 : (0 : Int) ≤ (j : Int) := Int.natCast_nonneg _
          have ij1 : (j : Int) < 80 := by omega
          go_wp2_with fail
          refine (first32 (el r j) _ hrl).mono ?_
          rintro e w1 ⟨rfl, rfl⟩
          go_wp2
          refine ⟨⟨j + 1, by omega, by go_num, HST.out, hbj.setCell (by simp; omega) _⟩, by simp [intOf]; omega⟩
        · obtain rfl : j = 80 := by omega
          rw [List.take_of_length_le (by omega), pad_full (by rw [List.length_append]; omega)] at hLj
          go_wp2
          go_ret
          exact ⟨_, rfl, by omega, hLj, hbj⟩
end Go.Proofs.YtpmobjfhhkglbaaGreatDoor

/- Contract of sha.sum.take at words of 32 bits. -/
namespace Go.Proofs.YtpmobjfhhkglbaaGreatDoor
open Go.RowKit
set_option linter.unusedVariables false
set_option linter.unusedSimpArgs false

set_option maxHeartbeats 4000000 in
set_option maxRecDepth 100000 in
theorem take_any32 (g : Nat) (hs l : List Nat) (v : Value) (w : World) (hS : Sm32 w g hs (ks false)) (h8 : hs.length = 8) (hhu : Under 4294967296 hs) (hR : Row .u8 256 w v l) (ha : Away g v l) (ht : Tidy v) (hl : l.length ≤ 1000000) :
    Calls Tryz.prog 119 #[.pointer (some ⟨g, 0, none⟩), v] w fun e w' => (∃ v', e = .returned v' ∧ Row .u8 256 w' v' (left false l) ∧ Away g v' (left false l) ∧ Tidy v') ∧ Sm32 w' g (eat false hs l) (ks false) ∧ But g w w' := by
  go_enter Tryz.func119, Tryz.ntmps119
  go_wp2
  go_loopw [1] (fun u wr => ∃ (L H : List Nat), L.length ≤ l.length ∧ slen u = L.length ∧ Row .u8 256 wr u L ∧ Away g u L ∧ Tidy u ∧ Sm32 wr g H (ks false) ∧ But g w wr ∧ eat false hs l = eat false H L ∧ left false l = left false L ∧ H.length = 8 ∧ Under 4294967296 H) (fun u _ => slen u)
  case atStart => exact ⟨l, hs, Nat.le_refl _, by obtain ⟨a, c, rfl, _⟩ := hR; rfl, hR, ha, ht, hS, But.refl _ _, rfl, rfl, h8, hhu⟩
  case round =>
    obtain ⟨L, H, hLl, hsl, hRL, hAL, hTL, hSL, hBL, hE, hLf, hH8, hHu⟩ := hrel
    have HE := hide hE
    have HF := hide hLf
    have hlu := hRL.under
    clear hE hLf
    obtain ⟨a, cap, rfl, g1, g2, g3, g4⟩ := hRL
    have hRL : Row .u8 256 wr (.slice a L.length cap) L := ⟨a, cap, rfl, g1, g2, g3, g4⟩
    unfold maxLen at g2
    by_cases hlt : 64 ≤ L.length
    · obtain ⟨bb, off, rfl, hc⟩ := g3 (by omega)
      clear hc g3
      have hRt := hRL.cut (M := 64) hlt
      go_wp2_with fail
      refine (block_any32 _ _).mono ?_
      rintro e w1 ⟨rfl, rfl⟩
      go_wp2_with fail
      refine (block_any32 _ _).mono ?_
      rintro e w2 ⟨rfl, rfl⟩
      go_wp2_with fail
      refine (spread_any32 _ _ _ hRt (by rw [List.length_take]; omega)).mono ?_
      rintro e w3 ⟨rfl, hb3⟩
      have hS3 := hSL.below hb3
      have hsch := sched_under (b := false) (hlu.take 64) 48
      go_wp2_with fail
      refine (mix_any32 g H (ks false) _ w3 hS3 hH8 (ks_length false) (pad_length (by rw [sched_length]; decide)) hHu (ks_under false) (pad_under hsch (by decide))).mono ?_
      rintro e w4 ⟨rfl, hS4, hB4⟩
      have hcp : addW false H (rndN false (ks false) (pad 80 (sched false (L.take 64) 48)) (rn false) H) 8 = comp false H (L.take 64) := comp_pad H _
      rw [hcp] at hS4
      clear hcp
      go_wp2_with fail
      refine (block_any32 _ _).mono ?_
      rintro e w5 ⟨rfl, rfl⟩
      go_wp2
      have hif : (if cap = 64 then some (⟨bb, off, none⟩ : Addr) else some ⟨bb, off + 64, none⟩) = some ⟨bb, off, none⟩ ∧ cap = 64 ∨ (if cap = 64 then some (⟨bb, off, none⟩ : Addr) else some ⟨bb, off + 64, none⟩) = some ⟨bb, off + 64, none⟩ := by
        by_cases h : cap = 64
        · exact .inl ⟨if_pos h, h⟩
        · exact .inr (if_neg h)
      generalize (if cap = 64 then some (⟨bb, off, none⟩ : Addr) else some ⟨bb, off + 64, none⟩) = A at *
      have hbz : bz false = 64 := rfl
      have hdl : (L.drop 64).length = L.length - 64 := List.length_drop
      refine ⟨⟨L.drop 64, comp false H (L.take 64), by omega, by simp [slen], ((hRL.below hb3).but hAL hB4).rest hlt A hif, fun hp q hq => ?_, ?_, hS4, (hBL.trans (But.of_below hb3)).trans hB4, ?_, ?_, comp_length _ _ _, comp_under _ _ _⟩, by simp [slen]; omega⟩
      · refine hAL (by omega) q ?_
        rcases hif with ⟨rfl, _⟩ | rfl
        · exact hq
        · simpa [Value.ownBlock] using hq
      · rcases hif with ⟨rfl, _⟩ | rfl <;> exact tidy_at _ _ _
      · rw [HE.out, eat_step (by rw [hbz]; exact hlt), hbz]
      · rw [HF.out, left_step (by rw [hbz]; exact hlt), hbz]
    · go_wp2_with fail
      refine (block_any32 _ _).mono ?_
      rintro e w1 ⟨rfl, rfl⟩
      go_wp2
      go_ret
      exact ⟨⟨_, rfl, by rw [HF.out, left_short (by show _ < 64; omega)]; exact hRL, by rw [HF.out, left_short (by show _ < 64; omega)]; exact hAL, hTL⟩, by rw [HE.out, eat_short (by show _ < 64; omega)]; exact hSL, hBL⟩
end Go.Proofs.YtpmobjfhhkglbaaGreatDoor

/- Contracts of the small helpers: room, isWidth, holds, such, lowest, packedSize. -/
namespace Go.Proofs.YtpmobjfhhkglbaaGreatDoor
open Go.RowKit
set_option linter.unusedVariables false

/-- may so many numbers of so many bits be in a text of so many bytes? -/
def okB (len : Nat) (w c : Int) : Bool := decide (1 ≤ w ∧ w ≤ 24 ∧ 0 ≤ c ∧ c ≤ (len : Int) * 8 / w)

theorem okB_of {len : Nat} {w c : Int} (h : okB len w c = true) : ∃ W C : Nat, w = W ∧ c = C ∧ 1 ≤ W ∧ W ≤ 24 ∧ C * W ≤ 8 * len := by
  unfold okB at h
  have h := of_decide_eq_true h
  obtain ⟨W, rfl⟩ := Int.eq_ofNat_of_zero_le (show 0 ≤ w by omega)
  obtain ⟨C, rfl⟩ := Int.eq_ofNat_of_zero_le h.2.2.1
  refine ⟨W, C, rfl, rfl, by omega, by omega, ?_⟩
  have h4 := h.2.2.2
  have h5 : C ≤ len * 8 / W := by
    have : ((len : Int) * 8 / (W : Int)) = ((len * 8 / W : Nat) : Int) := by simp
    omega
  have h6 : C * W ≤ len * 8 / W * W := Nat.mul_le_mul_right W h5
  have h7 : len * 8 / W * W ≤ len * 8 := Nat.div_mul_le_self _ _
  omega
theorem okB_mk {len W C : Nat} (h1 : 1 ≤ W) (h2 : W ≤ 24) (h : C * W ≤ 8 * len) : okB len (W : Int) (C : Int) = true := by
  unfold okB
  refine decide_eq_true ⟨by omega, by omega, by omega, ?_⟩
  have : ((len : Int) * 8 / (W : Int)) = ((len * 8 / W : Nat) : Int) := by simp
  rw [this]
  have h3 : C ≤ len * 8 / W := (Nat.le_div_iff_mul_le (by omega)).2 (by omega)
  omega

set_option maxHeartbeats 400000 in
theorem isWidth_any (x : Int) (w : World) : Calls Tryz.prog 65 #[.int .i64 x] w fun e w' => e = .returned (.bool (decide (1 ≤ x ∧ x ≤ 24))) ∧ w' = w := by
  by_cases h1 : 1 ≤ x
  · by_cases h2 : x ≤ 24
    · go_enter Tryz.func65, Tryz.ntmps65
      go_wp2
      go_ret
      exact ⟨ret_bool (by simp [h1, h2]), rfl⟩
    · go_enter Tryz.func65, Tryz.ntmps65
      go_wp2
      go_ret
      exact ⟨ret_bool (by symm; apply decide_eq_false; omega), rfl⟩
  · go_enter Tryz.func65, Tryz.ntmps65
    go_wp2
    go_ret
    exact ⟨ret_bool (by simp; intro _; omega), rfl⟩

set_option maxHeartbeats 400000 in
theorem holds_any (va : Value) (l : List Nat) (x c : Int) (w : World) (ha : Row .u8 256 w va l) (hl : l.length ≤ 140737488355328)
    (hc0 : -9223372036854775808 ≤ c) (hc1 : c ≤ 9223372036854775807) :
    Calls Tryz.prog 51 #[va, .int .i64 x, .int .i64 c] w fun e w' => e = .returned (.bool (okB l.length x c)) ∧ w' = w := by
  obtain ⟨a, ca, rfl, ha1, ha2, ha3, ha4⟩ := ha
  unfold maxLen at ha2
  by_cases h1 : 1 ≤ x ∧ x ≤ 24
  · have hd : decide (1 ≤ x ∧ x ≤ 24) = true := by simp [h1]
    obtain ⟨h1, h2⟩ := h1
    by_cases h3 : c < 0
    · go_enter Tryz.func51, Tryz.ntmps51
      go_wp2_with (go_at_call 65; refine (isWidth_any _ _).mono ?_; rintro e w' ⟨rfl, rfl⟩)
      go_ret
      exact ⟨ret_bool (by unfold okB; symm; apply decide_eq_false; omega), rfl⟩
    · have h3' : 0 ≤ c := by omega
      go_enter Tryz.func51, Tryz.ntmps51
      go_wp2_with (go_at_call 65; refine (isWidth_any _ _).mono ?_; rintro e w' ⟨rfl, rfl⟩)
      go_ret
      exact ⟨ret_bool (by unfold okB; simp [h1, h2, h3']), rfl⟩
  · have hd : decide (1 ≤ x ∧ x ≤ 24) = false := decide_eq_false h1
    go_enter Tryz.func51, Tryz.ntmps51
    go_wp2_with (go_at_call 65; refine (isWidth_any _ _).mono ?_; rintro e w' ⟨rfl, rfl⟩)
    go_ret
    exact ⟨ret_bool (by unfold okB; symm; apply decide_eq_false; omega), rfl⟩

set_option maxHeartbeats 400000 in
theorem such_any (va : Value) (l : List Nat) (x c : Int) (w : World) (ha : Row .u8 256 w va l) (hl : l.length ≤ 140737488355328) :
    Calls Tryz.prog 55 #[va, .int .i64 x, .int .i64 c] w fun e w' => e = .returned (.bool (okB l.length x c)) ∧ w' = w := by
  obtain ⟨a, ca, rfl, ha1, ha2, ha3, ha4⟩ := ha
  unfold maxLen at ha2
  by_cases h1 : 1 ≤ x
  · by_cases h2 : x ≤ 24
    · by_cases h3 : 0 ≤ c
      · go_enter Tryz.func55, Tryz.ntmps55
        go_wp2
        go_ret
        exact ⟨ret_bool (by unfold okB; simp [h1, h2, h3]), rfl⟩
      · go_enter Tryz.func55, Tryz.ntmps55
        go_wp2
        go_ret
        exact ⟨ret_bool (by unfold okB; symm; apply decide_eq_false; omega), rfl⟩
    · go_enter Tryz.func55, Tryz.ntmps55
      go_wp2
      go_ret
      exact ⟨ret_bool (by unfold okB; symm; apply decide_eq_false; omega), rfl⟩
  · go_enter Tryz.func55, Tryz.ntmps55
    go_wp2
    go_ret
    exact ⟨ret_bool (by unfold okB; symm; apply decide_eq_false; omega), rfl⟩

theorem mask_and (n W : Nat) (hn : n < 4294967296) (hW : W ≤ 24) : bits BinOp.and IntKind.u32 (n : Int) ((2 ^ W - 1) % 4294967296) = ((n % 2 ^ W : Nat) : Int) := by
  have h2 : 2 ^ W ≤ 2 ^ 24 := Nat.pow_le_pow_right (by decide) hW
  have h3 : (2 : Nat) ^ 24 = 16777216 := by decide
  have h4 := pp W
  have e : (((2 : Int) ^ W - 1) % 4294967296) = ((2 ^ W - 1 : Nat) : Int) := by
    have e1 : ((2 : Int) ^ W) = ((2 ^ W : Nat) : Int) := by simp
    rw [e1]
    omega
  rw [e, u32_and_nat n _ hn (by omega), Nat.and_two_pow_sub_one_eq_mod]

set_option maxHeartbeats 400000 in
theorem lowest_any (n W : Nat) (w : World) (hn : n < 4294967296) (hW : W ≤ 24) :
    Calls Tryz.prog 53 #[.int .u32 n, .int .i64 W] w fun e w' => e = .returned (.int .u32 ((n % 2 ^ W : Nat) : Int)) ∧ w' = w := by
  go_enter Tryz.func53, Tryz.ntmps53
  go_wp2
  go_ret
  exact ⟨ret_int (mask_and n W hn hW), rfl⟩

set_option maxHeartbeats 400000 in
theorem room8_any (c : Nat) (w : World) (hc : c ≤ 140737488355328) :
    Calls Tryz.prog 54 #[.int .i64 c] w fun e w' => ∃ v, e = .returned v ∧ Own 5 .u8 256 w' w.heap.size v [] ∧ Below w.heap.size w w' := by
  obtain ⟨i0, hi, hz0, hz1, hz2⟩ := info_parts Tryz.info5
  by_cases h0 : c = 0
  · subst h0
    go_enter Tryz.func54, Tryz.ntmps54
    go_wp2
    go_ret
    exact ⟨_, rfl, ⟨World.ownsRow_nil _ _ _ _, fun x hx => by simp at hx⟩, Below.refl _ _⟩
  · have hne : ((c : Int) == 0) = false := by simp; omega
    go_enter Tryz.func54, Tryz.ntmps54
    go_wp2_with (first | (at_make; refine wpList_make_own _ rfl _ _ 27 rfl w.heap.size 5 i0 (.int .u8 0) 1 Tryz.underlying27 hi hz0 hz1 _ _ _ c rfl rfl rfl (by rw [hz2]; omega) (by unfold maxLen; omega) (Nat.le_refl _) ?_; intro w1 hown hgrow) | go_in)
    go_ret
    exact ⟨_, rfl, ⟨hown, fun x hx => by simp at hx⟩, (Below.refl w.heap.size w).grown hgrow (Nat.le_refl _) (fun k h => by cases h)⟩

set_option maxHeartbeats 400000 in
theorem room32_any (c : Nat) (w : World) (hc : c ≤ 70368744177664) :
    Calls Tryz.prog 52 #[.int .i64 c] w fun e w' => ∃ v, e = .returned v ∧ Own 42 .u32 4294967296 w' w.heap.size v [] ∧ Below w.heap.size w w' := by
  obtain ⟨i0, hi, hz0, hz1, hz2⟩ := info_parts Tryz.info42
  by_cases h0 : c = 0
  · subst h0
    go_enter Tryz.func52, Tryz.ntmps52
    go_wp2
    go_ret
    exact ⟨_, rfl, ⟨World.ownsRow_nil _ _ _ _, fun x hx => by simp at hx⟩, Below.refl _ _⟩
  · have hne : ((c : Int) == 0) = false := by simp; omega
    go_enter Tryz.func52, Tryz.ntmps52
    go_wp2_with (first | (at_make; refine wpList_make_own _ rfl _ _ 33 rfl w.heap.size 42 i0 (.int .u32 0) 1 Tryz.underlying33 hi hz0 hz1 _ _ _ c rfl rfl rfl (by rw [hz2]; omega) (by unfold maxLen; omega) (Nat.le_refl _) ?_; intro w1 hown hgrow) | go_in)
    go_ret
    exact ⟨_, rfl, ⟨hown, fun x hx => by simp at hx⟩, (Below.refl w.heap.size w).grown hgrow (Nat.le_refl _) (fun k h => by cases h)⟩
end Go.Proofs.YtpmobjfhhkglbaaGreatDoor
