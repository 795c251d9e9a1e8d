/- Contract of sha.spread at words of 32 bits. -/
import Derived.Test.YtpmobjfhhkglbaaDoorHTur32
import Derived.Test.YtpmobjfhhkglbaaDoorBase
import Derived.Test.YtpmobjfhhkglbaaDoorHKit
namespace Go.Proofs.YtpmobjfhhkglbaaDoor
open Go.RowKit
set_option linter.unusedVariables false
set_option linter.unusedSimpArgs false

set_option maxRecDepth 100000 in
theorem zero8032 : ∀ w, (zeroValue 109).run Tryd.prog w = .ok (.agg (arr .u32 (List.replicate 80 0))) w := zero_arr (by kernel_rfl)

set_option maxHeartbeats 4000000 in
set_option maxRecDepth 100000 in
theorem spread_any32 (v : Value) (l : List Nat) (w : World) (hR : Row .u8 256 w v l) (hl : l.length = 64) :
    Calls Tryd.prog 84 #[v] w fun e w' => e = .returned (.agg (arr .u32 (pad 80 (sched false l 48)))) ∧ Below w.heap.size w w' := by
  have hu := hR.under
  obtain ⟨a, cap, rfl, h1, h2, h3⟩ := hR.opens hl
  obtain ⟨bb, off, rfl, hc⟩ := h3 (by decide)
  have hz := zero8032
  go_enter Tryd.func84, Tryd.ntmps84
  go_wp2_with fail
  refine (either_int32 _ _ _).mono ?_
  rintro e w1 ⟨rfl, rfl⟩
  go_wp2
  have hL0 : Lies .u32 109 ((w.alloc (.cells (arr .u32 (List.replicate 80 0)) 109)).alloc (.cells (arr .u32 (List.replicate 80 0)) 109)) (w.heap.size + 1) (pad 80 (words false l 0)) := by
    have := Lies.new .u32 109 (w.alloc (.cells (arr .u32 (List.replicate 80 0)) 109)) (List.replicate 80 0)
    rw [World.size_alloc] at this
    exact this
  have hO0 : Lies .u32 109 ((w.alloc (.cells (arr .u32 (List.replicate 80 0)) 109)).alloc (.cells (arr .u32 (List.replicate 80 0)) 109)) w.heap.size (List.replicate 80 0) := (Lies.new .u32 109 w (List.replicate 80 0)).alloc _
  have hb0 := keep_trans (keep_alloc w (.cells (arr .u32 (List.replicate 80 0)) 109)) (keep_alloc _ (.cells (arr .u32 (List.replicate 80 0)) 109))
  go_loopw [10] (fun i wr => ∃ t : Nat, t ≤ 16 ∧ i = .int .i64 t ∧ Lies .u32 109 wr (w.heap.size + 1) (pad 80 (words false l t)) ∧ Lies .u32 109 wr w.heap.size (List.replicate 80 0) ∧ Below w.heap.size w wr) (fun i _ => 16 - (intOf i).toNat)
  case atStart => exact ⟨0, Nat.zero_le _, rfl, hL0, hO0, hb0⟩
  case round =>
    obtain ⟨t, ht, rfl, hLt, hOt, hbt⟩ := hrel
    clear hL0 hO0 hb0
    by_cases hlt : t < 16
    · have hRt := (hR.below hbt).mid (i := t * 4) (j := (t + 1) * 4) (by omega) (by omega)
      go_wp2_with fail
      refine (num_any _ _ _ hRt).mono ?_
      rintro e w2 ⟨rfl, rfl⟩
      have hwd : numL ((l.drop (t * 4)).take ((t + 1) * 4 - t * 4)) = word false l t := by
        rw [show (t + 1) * 4 - t * 4 = 4 by omega]; rfl
      rw [hwd]
      have hwl : word false l t < 4294967296 := word_lt hu t
      have hst := hLt.set t (word false l t)
      have hse := pad_set (n := 80) (l := words false l t) (by rw [words_length]; omega) (word false l t)
      rw [words_length, ← words_succ] at hse
      rw [hse] at hst
      have HST := hide hst
      have c1 := hLt.cell (i := t) (by rw [pad_length (by rw [words_length]; omega)]; omega)
      have f1 := hLt.frozen t
      clear hwd hse hst hRt
      generalize hW : word false l t = W at *
      have HW := hide hW
      clear hW
      have ik0 : (0 : Int) ≤ (t : Int) := Int.natCast_nonneg _
      have ik1 : (t : Int) < 80 := by omega
      go_wp2
      refine ⟨⟨t + 1, by omega, by go_num, HST.out, hOt.but (But.setCell (But.refl (w.heap.size + 1) _) _ _) (by omega), hbt.setCell (by simp) _⟩, by simp [intOf]; omega⟩
    · obtain rfl : t = 16 := by omega
      go_wp2_with fail
      refine (either_tur32 7 18 3 1 8 7 _).mono ?_
      rintro e w3 ⟨rfl, hb3⟩
      unfold tur32
      go_wp2_with fail
      refine (either_tur32 17 19 10 19 61 6 _).mono ?_
      rintro e w4 ⟨rfl, hb4⟩
      unfold tur32
      go_wp2
      have hw : Lies .u32 109 w4 (w.heap.size + 1) (pad 80 (sched false l 0)) := ((hLt.below hb3).alloc _).below hb4
      have hO4 : Lies .u32 109 w4 w.heap.size (List.replicate 80 0) := ((hOt.below hb3).alloc _).below hb4
      have hA4 : Tu32 w4 w3.heap.size 7 18 3 := (Tu32.new w3 7 18 3).below hb4
      have hB5 : Tu32 (w4.alloc (.cells #[.int .i64 17, .int .i64 19, .int .i64 10] 126)) w4.heap.size 17 19 10 := Tu32.new w4 17 19 10
      have hw5 := hw.alloc (.cells #[.int .i64 17, .int .i64 19, .int .i64 10] 126)
      have hO5 := hO4.alloc (.cells #[.int .i64 17, .int .i64 19, .int .i64 10] 126)
      have hA5 := hA4.below (keep_alloc w4 (.cells #[.int .i64 17, .int .i64 19, .int .i64 10] 126))
      have hs3 := hb3.size
      have hs4 := hb4.size
      rw [World.size_alloc] at hs4
      have hne3 : w3.heap.size ≠ w.heap.size + 1 := by have := hLt.lt; omega
      have hne4 : w4.heap.size ≠ w.heap.size + 1 := by have := hLt.lt; omega
      have hb5 := keep_trans hbt (keep_trans hb3 (keep_trans (keep_alloc _ _) (keep_trans hb4 (keep_alloc w4 (.cells #[.int .i64 17, .int .i64 19, .int .i64 10] 126)))))
      clear hw hO4 hA4 hb3 hb4 hLt hOt hbt hs3 hs4
      generalize w4.alloc (.cells #[.int .i64 17, .int .i64 19, .int .i64 10] 126) = w5 at *
      go_loopw [8] (fun i wr => ∃ j : Nat, j ≤ 48 ∧ i = .int .i64 ((16 + j : Nat) : Int) ∧ Lies .u32 109 wr (w.heap.size + 1) (pad 80 (sched false l j)) ∧ Lies .u32 109 wr w.heap.size (List.replicate 80 0) ∧ Tu32 wr w3.heap.size 7 18 3 ∧ Tu32 wr w4.heap.size 17 19 10 ∧ Below w.heap.size w wr) (fun i _ => 100 - (intOf i).toNat)
      case atStart => exact ⟨0, Nat.zero_le _, rfl, hw5, hO5, hA5, hB5, hb5⟩
      case round =>
        obtain ⟨j, hj, rfl, hLj, hOj, hAj, hBj, hbj⟩ := hrel
        clear hw5 hO5 hA5 hB5 hb5
        have hlen := sched_length false l j
        have hsu := sched_under (b := false) hu j
        have hsc := sched_succ false l j
        by_cases hlt : j < 48
        · have hpl : (pad 80 (sched false l j)).length = 80 := pad_length (by omega)
          have hse := pad_set (n := 80) (l := sched false l j) (by omega) (nxt false (sched false l j))
          rw [← hsc, hlen] at hse
          have HSE := hide hse
          have HN : Hid (nxt false (sched false l j) = (lS1 false (el (sched false l j) (14 + j)) + el (sched false l j) (9 + j) + lS0 false (el (sched false l j) (1 + j)) + el (sched false l j) j) % wm false) := by
            apply hide
            unfold nxt
            rw [hlen, show 16 + j - 2 = 14 + j by omega, show 16 + j - 7 = 9 + j by omega, show 16 + j - 15 = 1 + j by omega, show 16 + j - 16 = j by omega]
          have HL := hide hlen
          clear hse hsc hlen
          generalize nxt false (sched false l j) = N at *
          generalize sched false l j = s at *
          have u := fun i => el_lt hsu (wm_pos false) i
          have hX : LiesX .u32 109 wr (w.heap.size + 1) (pad 80 s) (16 + j) := hLj.toX (by omega)
          have e2 : el (pad 80 s) (14 + j) = el s (14 + j) := pad_el (by rw [HL.out]; omega)
          have e7 : el (pad 80 s) (9 + j) = el s (9 + j) := pad_el (by rw [HL.out]; omega)
          have e15 : el (pad 80 s) (1 + j) = el s (1 + j) := pad_el (by rw [HL.out]; omega)
          have e16 : el (pad 80 s) j = el s j := pad_el (by rw [HL.out]; omega)
          have hmk : ∀ w', LiesX .u32 109 w' (w.heap.size + 1) (pad 80 s) (16 + j) ∧ But (w.heap.size + 1) wr w' → (w'.cell? ⟨w.heap.size + 1, 14 + j, none⟩ = some (.int .u32 (el s (14 + j))) ∧ w'.cell? ⟨w.heap.size + 1, 9 + j, none⟩ = some (.int .u32 (el s (9 + j))) ∧ w'.cell? ⟨w.heap.size + 1, 1 + j, none⟩ = some (.int .u32 (el s (1 + j))) ∧ w'.cell? ⟨w.heap.size + 1, j, none⟩ = some (.int .u32 (el s j)) ∧ w'.cell? ⟨w3.heap.size, 0, none⟩ = some (.int .i64 7) ∧ w'.cell? ⟨w3.heap.size, 1, none⟩ = some (.int .i64 18) ∧ w'.cell? ⟨w3.heap.size, 2, none⟩ = some (.int .i64 3) ∧ w'.cell? ⟨w4.heap.size, 0, none⟩ = some (.int .i64 17) ∧ w'.cell? ⟨w4.heap.size, 1, none⟩ = some (.int .i64 19) ∧ w'.cell? ⟨w4.heap.size, 2, none⟩ = some (.int .i64 10) ∧ w'.cell? ⟨w.heap.size + 1, 16 + j, none⟩ = some (rdc w' ⟨w.heap.size + 1, 16 + j, none⟩) ∧ w'.frozen? ⟨w.heap.size + 1, 16 + j, none⟩ = false ∧ (LiesX .u32 109 w' (w.heap.size + 1) (pad 80 s) (16 + j) ∧ But (w.heap.size + 1) wr w')) := fun w' ⟨hb, hB⟩ => by
            obtain ⟨a0, a1, a2⟩ := (hAj.but hB hne3).cells
            obtain ⟨b0, b1, b2⟩ := (hBj.but hB hne4).cells
            exact ⟨by rw [hb.cell (by omega) (by omega), e2], by rw [hb.cell (by omega) (by omega), e7], by rw [hb.cell (by omega) (by omega), e15], by rw [hb.cell (by omega) (by omega), e16], a0, a1, a2, b0, b1, b2, hb.here (by omega), hb.frozen _, hb, hB⟩
          have HMK := hide hmk
          have HX := hide hX
          clear hmk hX e2 e7 e15 e16
          have y2 : ((16 + j : Nat) : Int) - 2 = ((14 + j : Nat) : Int) := by omega
          have y7 : ((16 + j : Nat) : Int) - 7 = ((9 + j : Nat) : Int) := by omega
          have y15 : ((16 + j : Nat) : Int) - 15 = ((1 + j : Nat) : Int) := by omega
          have y16 : ((16 + j : Nat) : Int) - 16 = (j : Int) := by omega
          have n0 : 16 + j < 80 ∧ 14 + j < 80 ∧ 9 + j < 80 ∧ 1 + j < 80 ∧ 16 + j < 64 := by omega
          have HNJ : Hid (16 + (j + 1) = 16 + j + 1) := hide (by omega)
          have HJ : Hid (j + 1 ≤ 48) := hide (by omega)
          have nj : j < 80 := by omega
          have u2 : el s (14 + j) < 4294967296 := u _
          have u15 : el s (1 + j) < 4294967296 := u _
          have u7 : el s (9 + j) < 4294967296 := u _
          have u16 : el s j < 4294967296 := u _
          clear hlt hj hpl hsu u
          generalize 16 + j = T at *
          generalize 14 + j = c2 at *
          generalize 9 + j = c7 at *
          generalize 1 + j = c15 at *
          obtain ⟨n1, n2, n3, n4, n5⟩ := n0
          have i0 : (0 : Int) ≤ (j : Int) := Int.natCast_nonneg _
          have i1 : (j : Int) < 80 := by omega
          have i2 : (0 : Int) ≤ (c2 : Int) := Int.natCast_nonneg _
          have i3 : (c2 : Int) < 80 := by omega
          have i4 : (0 : Int) ≤ (c7 : Int) := Int.natCast_nonneg _
          have i5 : (c7 : Int) < 80 := by omega
          have i6 : (0 : Int) ≤ (c15 : Int) := Int.natCast_nonneg _
          have i7 : (c15 : Int) < 80 := by omega
          have i8 : (0 : Int) ≤ (T : Int) := Int.natCast_nonneg _
          have i9 : (T : Int) < 80 := by omega
          have r2 : IntKind.i64.wrap (c2 : Int) = (c2 : Int) := by rw [IntKind.wrap_i64]; omega
          have r7 : IntKind.i64.wrap (c7 : Int) = (c7 : Int) := by rw [IntKind.wrap_i64]; omega
          have r15 : IntKind.i64.wrap (c15 : Int) = (c15 : Int) := by rw [IntKind.wrap_i64]; omega
          have r16 : IntKind.i64.wrap (j : Int) = (j : Int) := by rw [IntKind.wrap_i64]; omega
          have i10 : (T : Int) < 64 := by omega
          go_wp2_with fail
          refine (either_int32 _ _ _).mono ?_
          rintro e w6 ⟨rfl, rfl⟩
          go_wp2
          go_region_held3 (fun w' => w'.cell? ⟨w.heap.size + 1, c2, none⟩ = some (.int .u32 (el s c2)) ∧ w'.cell? ⟨w.heap.size + 1, c7, none⟩ = some (.int .u32 (el s c7)) ∧ w'.cell? ⟨w.heap.size + 1, c15, none⟩ = some (.int .u32 (el s c15)) ∧ w'.cell? ⟨w.heap.size + 1, j, none⟩ = some (.int .u32 (el s j)) ∧ w'.cell? ⟨w3.heap.size, 0, none⟩ = some (.int .i64 7) ∧ w'.cell? ⟨w3.heap.size, 1, none⟩ = some (.int .i64 18) ∧ w'.cell? ⟨w3.heap.size, 2, none⟩ = some (.int .i64 3) ∧ w'.cell? ⟨w4.heap.size, 0, none⟩ = some (.int .i64 17) ∧ w'.cell? ⟨w4.heap.size, 1, none⟩ = some (.int .i64 19) ∧ w'.cell? ⟨w4.heap.size, 2, none⟩ = some (.int .i64 10) ∧ w'.cell? ⟨w.heap.size + 1, T, none⟩ = some (rdc w' ⟨w.heap.size + 1, T, none⟩) ∧ w'.frozen? ⟨w.heap.size + 1, T, none⟩ = false ∧ (LiesX .u32 109 w' (w.heap.size + 1) (pad 80 s) T ∧ But (w.heap.size + 1) w6 w'))
            (first
              | exact HMK.out _ ⟨HX.out, But.refl _ _⟩
              | exact HMK.out _ ⟨HX.out, (But.refl _ _).drew⟩
              | (go_split_ands; exact HMK.out _ ⟨LiesX.below (by assumption) hb8, But.trans (by assumption) (But.of_below hb8)⟩)
              | (go_split_ands; exact HMK.out _ ⟨LiesX.below (by assumption) hb7, But.trans (by assumption) (But.of_below hb7)⟩)
              | (go_split_ands; exact HMK.out _ ⟨LiesX.set (by assumption) _, But.setCell (by assumption) _ _⟩)
              | (go_split_ands; exact HMK.out _ ⟨by assumption, But.drew (by assumption)⟩))
            (first
              | (go_at_call_of 92 (el s c2); refine (shifted32 (el s c2) 17 19 10 _ u2 (by decide) (by decide) (by decide)).mono ?_; rintro e w7 ⟨rfl, hb7⟩)
              | (go_at_call_of 92 (el s c15); refine (shifted32 (el s c15) 7 18 3 _ u15 (by decide) (by decide) (by decide)).mono ?_; rintro e w8 ⟨rfl, hb8⟩))
          go_wp2_with fail
          have hB78 : Below w6.heap.size w6 w8 := by first | exact keep_trans hb7 hb8 | exact keep_trans (un_drew hb7) hb8 | exact keep_trans (un_drewN hb7) hb8
          have hN : (((shft3 false 17 19 10 (el s c2) + el s c7) % 4294967296 + shft3 false 7 18 3 (el s c15)) % 4294967296 + el s j) % 4294967296 = N := by
            rw [HN.out]
            simp only [lS0, lS1, wm, cond_true, cond_false]
            omega
          rw [add_is32, add_is32, add_is32, hN]
          have hBS : But (w.heap.size + 1) w6 (w8.setCell ⟨w.heap.size + 1, T, none⟩ (.int .u32 (N : Int))) := (But.of_below hB78).setCell T _
          exact ⟨⟨j + 1, HJ.out, vint (by rw [HNJ.out]; omega), by rw [← HSE.out]; exact (hLj.below hB78).set T N, hOj.but hBS (by omega), hAj.but hBS hne3, hBj.but hBS hne4, hbj.trans (hBS.below (by omega) hbj.size)⟩, by simp [intOf]; omega⟩
        · obtain rfl : j = 48 := by omega
          have hpl : (pad 80 (sched false l 48)).length = 80 := pad_length (by omega)
          have hlz : (List.replicate 80 0).length = 80 := rfl
          generalize hF : pad 80 (sched false l 48) = F at *
          have HF := hide hF
          clear hF
          go_wp2_with fail
          refine (either_int32 _ _ _).mono ?_
          rintro e w6 ⟨rfl, rfl⟩
          go_wp2_with (first
            | (refine wpList_load_row rfl 109 _ (by rfl) (w.heap.size + 1) (by rfl) _ _ _ (.array 80 42) hLj (by kernel_rfl) rfl (by rw [arr_size, hpl]; kernel_rfl) ?_)
            | (refine wpList_store_row rfl 109 _ _ (by rfl) w.heap.size (arr .u32 F) (by rfl) (by rfl) _ _ hOj (by rw [arr_size, hpl]; kernel_rfl) (by rw [arr_size, arr_size, hpl, List.length_replicate]) (arr_one _ _) ?_)
            | fail)
          have hOf : Lies .u32 109 (w6.setRow w.heap.size (arr .u32 F)) w.heap.size F := hOj.row
          have hbf : Below w.heap.size w (w6.setRow w.heap.size (arr .u32 F)) := hbj.trans ((But.setRow (But.refl _ _) _).below (Nat.le_refl _) hbj.size)
          refine bodyPost_ret (v := .agg (arr .u32 F)) ?_ ?_ ?_
          · exact results_cell_row Tryd.results84 _ _ w.heap.size _ _ _ (.array 80 42) (by rfl) hOf (by kernel_rfl) rfl (by rw [arr_size, hpl]; kernel_rfl)
          · rfl
          · exact ⟨by rw [HF.out], hbf⟩
end Go.Proofs.YtpmobjfhhkglbaaDoor

/- Contracts of sha.begin, stored, resume, block at words of 32 bits. -/
namespace Go.Proofs.YtpmobjfhhkglbaaDoor
open Go.RowKit
set_option linter.unusedVariables false
set_option linter.unusedSimpArgs false

theorem block_any32 (v : Value) (w : World) :
    Calls Tryd.prog 71 #[v] w fun e w' => e = .returned (.int .i64 64) ∧ w' = w := by
  go_enter Tryd.func71, Tryd.ntmps71
  go_wp2_with fail
  refine (either_int32 _ _ _).mono ?_
  rintro e w1 ⟨rfl, rfl⟩
  go_wp2
  go_ret
  exact ⟨rfl, rfl⟩


set_option maxHeartbeats 2000000 in
set_option maxRecDepth 100000 in
theorem stored_any32 (l : List Nat) (w : World) (h8 : l.length = 8) (hu : Under 4294967296 l) :
    Calls Tryd.prog 57 #[.agg (arr .u32 l)] w fun e w' => e = .returned (.agg (arr .u64 l)) ∧ Below w.heap.size w w' := by
  have hA : Lies .u32 93 (((w.alloc (.cells (arr .u32 l) 93)).alloc (.cells #[.int .u64 0, .int .u64 0, .int .u64 0, .int .u64 0, .int .u64 0, .int .u64 0, .int .u64 0, .int .u64 0] 77)).alloc (.cells #[.int .u64 0, .int .u64 0, .int .u64 0, .int .u64 0, .int .u64 0, .int .u64 0, .int .u64 0, .int .u64 0] 77)) w.heap.size l := ((Lies.new _ _ w l).alloc _).alloc _
  have hO : Lies .u64 77 (((w.alloc (.cells (arr .u32 l) 93)).alloc (.cells #[.int .u64 0, .int .u64 0, .int .u64 0, .int .u64 0, .int .u64 0, .int .u64 0, .int .u64 0, .int .u64 0] 77)).alloc (.cells #[.int .u64 0, .int .u64 0, .int .u64 0, .int .u64 0, .int .u64 0, .int .u64 0, .int .u64 0, .int .u64 0] 77)) (w.heap.size + 1) (List.replicate 8 0) := by
    have := (Lies.new .u64 77 (w.alloc (.cells (arr .u32 l) 93)) (List.replicate 8 0)).alloc (.cells #[.int .u64 0, .int .u64 0, .int .u64 0, .int .u64 0, .int .u64 0, .int .u64 0, .int .u64 0, .int .u64 0] 77)
    rw [World.size_alloc] at this
    exact this
  have hL : Lies .u64 77 (((w.alloc (.cells (arr .u32 l) 93)).alloc (.cells #[.int .u64 0, .int .u64 0, .int .u64 0, .int .u64 0, .int .u64 0, .int .u64 0, .int .u64 0, .int .u64 0] 77)).alloc (.cells #[.int .u64 0, .int .u64 0, .int .u64 0, .int .u64 0, .int .u64 0, .int .u64 0, .int .u64 0, .int .u64 0] 77)) (w.heap.size + 1 + 1) (pad 8 (l.take 0)) := by
    have := Lies.new .u64 77 ((w.alloc (.cells (arr .u32 l) 93)).alloc (.cells #[.int .u64 0, .int .u64 0, .int .u64 0, .int .u64 0, .int .u64 0, .int .u64 0, .int .u64 0, .int .u64 0] 77)) (List.replicate 8 0)
    rw [World.size_alloc, World.size_alloc] at this
    exact this
  have hb : Below w.heap.size w (((w.alloc (.cells (arr .u32 l) 93)).alloc (.cells #[.int .u64 0, .int .u64 0, .int .u64 0, .int .u64 0, .int .u64 0, .int .u64 0, .int .u64 0, .int .u64 0] 77)).alloc (.cells #[.int .u64 0, .int .u64 0, .int .u64 0, .int .u64 0, .int .u64 0, .int .u64 0, .int .u64 0, .int .u64 0] 77)) := keep_trans (keep_trans (keep_alloc _ _) (keep_alloc _ _)) (keep_alloc _ _)
  have HO := hide hO
  have HL := hide hL
  have HB := hide hb
  clear hO hL hb
  go_enter Tryd.func57, Tryd.ntmps57
  go_wp2_with (first
    | (refine wpList_load_row rfl 93 _ (by rfl) w.heap.size (by rfl) _ _ _ (.array 8 42) hA (by kernel_rfl) rfl (by rw [arr_size, h8]; kernel_rfl) ?_)
    | fail)
  go_loopw [7] (fun i wr => ∃ j : Nat, j ≤ 8 ∧ i = .int .i64 j ∧ Lies .u64 77 wr (w.heap.size + 1 + 1) (pad 8 (l.take j)) ∧ Lies .u64 77 wr (w.heap.size + 1) (List.replicate 8 0) ∧ Below w.heap.size w wr) (fun i _ => 8 - (intOf i).toNat)
  case atStart => exact ⟨0, Nat.zero_le _, rfl, HL.out, HO.out, HB.out⟩
  case round =>
    obtain ⟨j, hj, rfl, hLj, hOj, hbj⟩ := hrel
    clear hA
    by_cases hlt : j < 8
    · have hix : ∀ w : World, (Instr.index 93 (.agg (arr .u32 l)) (.int .i64 (j : Int))).run Tryd.prog w = .ok (.int .u32 (el l j)) w := fun w =>
        index_arr _ 42 8 .u32 l (by kernel_rfl) (by kernel_rfl) (by kernel_rfl) h8 j hlt w
      have hel : el l j < 4294967296 := el_lt hu (by decide) j
      have htl : (l.take j).length = j := by rw [List.length_take]; omega
      have c1 := hLj.cell (i := j) (by rw [pad_length (by omega)]; omega)
      have f1 := hLj.frozen j
      have hst := hLj.set j (el l j)
      have hse := pad_set (n := 8) (l := l.take j) (by omega) (el l j)
      rw [htl, ← take_el (by omega)] at hse
      rw [hse] at hst
      have HST := hide hst
      clear hst hse htl
      have ij0 : (0 : Int) ≤ (j : Int) := Int.natCast_nonneg _
      have ij1 : (j : Int) < 8 := by omega
      go_wp2
      refine ⟨⟨j + 1, by omega, by go_num, HST.out, hOj.but (But.setCell (But.refl (w.heap.size + 1 + 1) _) _ _) (by omega), hbj.setCell (by simp; omega) _⟩, by simp [intOf]; omega⟩
    · obtain rfl : j = 8 := by omega
      rw [List.take_of_length_le (by omega), pad_full h8] at hLj
      have hOf : Lies .u64 77 (wr.setRow (w.heap.size + 1) (arr .u64 l)) (w.heap.size + 1) l := hOj.row
      have hbf : Below w.heap.size w (wr.setRow (w.heap.size + 1) (arr .u64 l)) := hbj.trans ((But.setRow (But.refl _ _) _).below (by omega) hbj.size)
      go_wp2_with (first
        | (refine wpList_load_row rfl 77 _ (by rfl) (w.heap.size + 1 + 1) (by rfl) _ _ _ (.array 8 49) hLj (by kernel_rfl) rfl (by rw [arr_size, h8]; kernel_rfl) ?_)
        | (refine wpList_store_row rfl 77 _ _ (by rfl) (w.heap.size + 1) (arr .u64 l) (by rfl) (by rfl) _ _ hOj (by rw [arr_size, h8]; kernel_rfl) (by rw [arr_size, arr_size, h8, List.length_replicate]) (arr_one _ _) ?_)
        | fail)
      refine bodyPost_ret (v := .agg (arr .u64 l)) ?_ ?_ ?_
      · exact results_cell_row Tryd.results57 _ _ (w.heap.size + 1) _ _ _ (.array 8 49) (by rfl) hOf (by kernel_rfl) rfl (by rw [arr_size, h8]; kernel_rfl)
      · rfl
      · exact ⟨rfl, hbf⟩

set_option maxHeartbeats 2000000 in
set_option maxRecDepth 100000 in
theorem begin_any32 (r : List Nat) (f : Nat) (w : World) (h16 : r.length = 16) (hu : Under 18446744073709551616 r) (hf : f ≤ 8) :
    Calls Tryd.prog 56 #[.agg (arr .u64 r), .int .i64 f] w fun e w' => e = .returned (.agg (arr .u32 (((r.drop f).take 8).map (hi false)))) ∧ Below w.heap.size w w' := by
  have h8 : (((r.drop f).take 8).map (hi false)).length = 8 := by rw [List.length_map, List.length_take, List.length_drop]; omega
  have hel : ∀ j, j < 8 → el (((r.drop f).take 8).map (hi false)) j = hi false (el r (f + j)) := fun j hj => by
    rw [el_at (by omega), List.getElem_map, List.getElem_take, List.getElem_drop, el_at (by omega)]
  have HE := hide hel
  clear hel
  have hA : Lies .u64 95 (((w.alloc (.cells (arr .u64 r) 95)).alloc (.cells #[.int .u32 0, .int .u32 0, .int .u32 0, .int .u32 0, .int .u32 0, .int .u32 0, .int .u32 0, .int .u32 0] 93)).alloc (.cells #[.int .u32 0, .int .u32 0, .int .u32 0, .int .u32 0, .int .u32 0, .int .u32 0, .int .u32 0, .int .u32 0] 93)) w.heap.size r := ((Lies.new _ _ w r).alloc _).alloc _
  have hO : Lies .u32 93 (((w.alloc (.cells (arr .u64 r) 95)).alloc (.cells #[.int .u32 0, .int .u32 0, .int .u32 0, .int .u32 0, .int .u32 0, .int .u32 0, .int .u32 0, .int .u32 0] 93)).alloc (.cells #[.int .u32 0, .int .u32 0, .int .u32 0, .int .u32 0, .int .u32 0, .int .u32 0, .int .u32 0, .int .u32 0] 93)) (w.heap.size + 1) (List.replicate 8 0) := by
    have := (Lies.new .u32 93 (w.alloc (.cells (arr .u64 r) 95)) (List.replicate 8 0)).alloc (.cells #[.int .u32 0, .int .u32 0, .int .u32 0, .int .u32 0, .int .u32 0, .int .u32 0, .int .u32 0, .int .u32 0] 93)
    rw [World.size_alloc] at this
    exact this
  have hL : Lies .u32 93 (((w.alloc (.cells (arr .u64 r) 95)).alloc (.cells #[.int .u32 0, .int .u32 0, .int .u32 0, .int .u32 0, .int .u32 0, .int .u32 0, .int .u32 0, .int .u32 0] 93)).alloc (.cells #[.int .u32 0, .int .u32 0, .int .u32 0, .int .u32 0, .int .u32 0, .int .u32 0, .int .u32 0, .int .u32 0] 93)) (w.heap.size + 1 + 1) (pad 8 ((((r.drop f).take 8).map (hi false)).take 0)) := by
    have := Lies.new .u32 93 ((w.alloc (.cells (arr .u64 r) 95)).alloc (.cells #[.int .u32 0, .int .u32 0, .int .u32 0, .int .u32 0, .int .u32 0, .int .u32 0, .int .u32 0, .int .u32 0] 93)) (List.replicate 8 0)
    rw [World.size_alloc, World.size_alloc] at this
    exact this
  have hb : Below w.heap.size w (((w.alloc (.cells (arr .u64 r) 95)).alloc (.cells #[.int .u32 0, .int .u32 0, .int .u32 0, .int .u32 0, .int .u32 0, .int .u32 0, .int .u32 0, .int .u32 0] 93)).alloc (.cells #[.int .u32 0, .int .u32 0, .int .u32 0, .int .u32 0, .int .u32 0, .int .u32 0, .int .u32 0, .int .u32 0] 93)) := keep_trans (keep_trans (keep_alloc _ _) (keep_alloc _ _)) (keep_alloc _ _)
  have HA := hide hA
  have HO := hide hO
  have HL := hide hL
  have HB := hide hb
  clear hA hO hL hb
  generalize hl : ((r.drop f).take 8).map (hi false) = l at *
  go_enter Tryd.func56, Tryd.ntmps56
  go_wp2
  go_loopw [7] (fun i wr => ∃ j : Nat, j ≤ 8 ∧ i = .int .i64 j ∧ Lies .u32 93 wr (w.heap.size + 1 + 1) (pad 8 (l.take j)) ∧ Lies .u32 93 wr (w.heap.size + 1) (List.replicate 8 0) ∧ Lies .u64 95 wr w.heap.size r ∧ Below w.heap.size w wr) (fun i _ => 8 - (intOf i).toNat)
  case atStart => exact ⟨0, Nat.zero_le _, rfl, HL.out, HO.out, HA.out, HB.out⟩
  case round =>
    obtain ⟨j, hj, rfl, hLj, hOj, hAj, hbj⟩ := hrel
    by_cases hlt : j < 8
    · have hle := HE.out j hlt
      have hrl : el r (f + j) < 18446744073709551616 := el_lt hu (by decide) _
      have htl : (l.take j).length = j := by rw [List.length_take]; omega
      have c1 := hLj.cell (i := j) (by rw [pad_length (by omega)]; omega)
      have c2 := hAj.cell (i := f + j) (by omega)
      have f1 := hLj.frozen j
      have hst := hLj.set j (el l j)
      have hse := pad_set (n := 8) (l := l.take j) (by omega) (el l j)
      rw [htl, ← take_el (by omega)] at hse
      rw [hse, hle] at hst
      have HST := hide hst
      clear hst hse htl hle
      have ij0 : (0 : Int) ≤ (j : Int) := Int.natCast_nonneg _
      have ij1 : (j : Int) < 8 := by omega
      have ij2 : (f : Int) + (j : Int) = ((f + j : Nat) : Int) := by omega
      have ij3 : f + j < 16 := by omega
      have ij4 : ((f + j : Nat) : Int) < 16 := by omega
      have ij5 : (0 : Int) ≤ ((f + j : Nat) : Int) := Int.natCast_nonneg _
      have ij6 : IntKind.i64.wrap ((f + j : Nat) : Int) = ((f + j : Nat) : Int) := by rw [IntKind.wrap_i64]; omega
      generalize f + j = q at *
      go_wp2_with fail
      refine (first32 (el r q) _ hrl).mono ?_
      rintro e w1 ⟨rfl, rfl⟩
      go_wp2
      refine ⟨⟨j + 1, by omega, by go_num, HST.out, hOj.but (But.setCell (But.refl (w.heap.size + 1 + 1) _) _ _) (by omega), hAj.but (But.setCell (But.refl (w.heap.size + 1 + 1) _) _ _) (by omega), hbj.setCell (by simp; omega) _⟩, by simp [intOf]; omega⟩
    · obtain rfl : j = 8 := by omega
      rw [List.take_of_length_le (by omega), pad_full h8] at hLj
      have hOf : Lies .u32 93 (wr.setRow (w.heap.size + 1) (arr .u32 l)) (w.heap.size + 1) l := hOj.row
      have hbf : Below w.heap.size w (wr.setRow (w.heap.size + 1) (arr .u32 l)) := hbj.trans ((But.setRow (But.refl _ _) _).below (by omega) hbj.size)
      go_wp2_with (first
        | (refine wpList_load_row rfl 93 _ (by rfl) (w.heap.size + 1 + 1) (by rfl) _ _ _ (.array 8 42) hLj (by kernel_rfl) rfl (by rw [arr_size, h8]; kernel_rfl) ?_)
        | (refine wpList_store_row rfl 93 _ _ (by rfl) (w.heap.size + 1) (arr .u32 l) (by rfl) (by rfl) _ _ hOj (by rw [arr_size, h8]; kernel_rfl) (by rw [arr_size, arr_size, h8, List.length_replicate]) (arr_one _ _) ?_)
        | fail)
      refine bodyPost_ret (v := .agg (arr .u32 l)) ?_ ?_ ?_
      · exact results_cell_row Tryd.results56 _ _ (w.heap.size + 1) _ _ _ (.array 8 42) (by rfl) hOf (by kernel_rfl) rfl (by rw [arr_size, h8]; kernel_rfl)
      · rfl
      · exact ⟨rfl, hbf⟩

set_option maxRecDepth 100000 in
theorem zero8832 : ∀ w, (zeroValue 111).run Tryd.prog w = .ok (.agg (arr .u32 (List.replicate 88 0))) w := zero_arr (by kernel_rfl)

theorem el_map_hi32 (b : Bool) (r : List Nat) (j : Nat) (hj : j < r.length) : el (r.map (hi b)) j = hi b (el r j) := by
  rw [el_at (by rw [List.length_map]; exact hj), List.getElem_map, el_at hj]

set_option maxHeartbeats 4000000 in
set_option maxRecDepth 100000 in
theorem resume_any32 (hs r : List Nat) (w : World) (h8 : hs.length = 8) (hhu : Under 4294967296 hs) (h80 : r.length = 80) (hru : Under 18446744073709551616 r) :
    Calls Tryd.prog 70 #[.agg (arr .u64 hs), .agg (arr .u64 r)] w fun e w' => ∃ g, e = .returned (.pointer (some ⟨g, 0, none⟩)) ∧ w.heap.size ≤ g ∧ Lies .u32 111 w' g (hs ++ r.map (hi false)) ∧ Below w.heap.size w w' := by
  have hz := zero8832
  have hA : Lies .u64 77 (((w.alloc (.cells (arr .u64 hs) 77)).alloc (.cells (arr .u64 r) 107)).alloc (.cells (arr .u32 (List.replicate 88 0)) 111)) w.heap.size hs := ((Lies.new _ _ w hs).alloc _).alloc _
  have hC : Lies .u64 107 (((w.alloc (.cells (arr .u64 hs) 77)).alloc (.cells (arr .u64 r) 107)).alloc (.cells (arr .u32 (List.replicate 88 0)) 111)) (w.heap.size + 1) r := by
    have := (Lies.new .u64 107 (w.alloc (.cells (arr .u64 hs) 77)) r).alloc (.cells (arr .u32 (List.replicate 88 0)) 111)
    rw [World.size_alloc] at this
    exact this
  have hL : Lies .u32 111 (((w.alloc (.cells (arr .u64 hs) 77)).alloc (.cells (arr .u64 r) 107)).alloc (.cells (arr .u32 (List.replicate 88 0)) 111)) (w.heap.size + 1 + 1) (pad 88 (hs.take 0)) := by
    have := Lies.new .u32 111 ((w.alloc (.cells (arr .u64 hs) 77)).alloc (.cells (arr .u64 r) 107)) (List.replicate 88 0)
    rw [World.size_alloc, World.size_alloc] at this
    exact this
  have hb : Below w.heap.size w (((w.alloc (.cells (arr .u64 hs) 77)).alloc (.cells (arr .u64 r) 107)).alloc (.cells (arr .u32 (List.replicate 88 0)) 111)) := keep_trans (keep_trans (keep_alloc _ _) (keep_alloc _ _)) (keep_alloc _ _)
  have HC := hide hC
  have HL := hide hL
  have HB := hide hb
  clear hC hL hb
  go_enter Tryd.func70, Tryd.ntmps70
  go_wp2_with (first
    | (refine wpList_load_row rfl 77 _ (by rfl) w.heap.size (by rfl) _ _ _ (.array 8 49) hA (by kernel_rfl) rfl (by rw [arr_size, h8]; kernel_rfl) ?_)
    | fail)
  clear hA
  go_loopw [11] (fun i wr => ∃ j : Nat, j ≤ 8 ∧ i = .int .i64 j ∧ Lies .u32 111 wr (w.heap.size + 1 + 1) (pad 88 (hs.take j)) ∧ Lies .u64 107 wr (w.heap.size + 1) r ∧ Below w.heap.size w wr) (fun i _ => 8 - (intOf i).toNat)
  case atStart => exact ⟨0, Nat.zero_le _, rfl, HL.out, HC.out, HB.out⟩
  case round =>
    obtain ⟨j, hj, rfl, hLj, hCj, hbj⟩ := hrel
    by_cases hlt : j < 8
    · have hix : ∀ w : World, (Instr.index 77 (.agg (arr .u64 hs)) (.int .i64 (j : Int))).run Tryd.prog w = .ok (.int .u64 (el hs j)) w := fun w =>
        index_arr _ 49 8 .u64 hs (by kernel_rfl) (by kernel_rfl) (by kernel_rfl) h8 j hlt w
      have hel : el hs j < 4294967296 := el_lt hhu (by decide) j
      have htl : (hs.take j).length = j := by rw [List.length_take]; omega
      have c1 := hLj.cell (i := j) (by rw [pad_length (by omega)]; omega)
      have f1 := hLj.frozen j
      have hst := hLj.set j (el hs j)
      have hse := pad_set (n := 88) (l := hs.take j) (by omega) (el hs j)
      rw [htl, ← take_el (by omega)] at hse
      rw [hse] at hst
      have HST := hide hst
      clear hst hse htl
      have ij0 : (0 : Int) ≤ (j : Int) := Int.natCast_nonneg _
      have ij1 : (j : Int) < 8 := by omega
      go_wp2
      refine ⟨⟨j + 1, by omega, by go_num, HST.out, hCj.but (But.setCell (But.refl (w.heap.size + 1 + 1) _) _ _) (by omega), hbj.setCell (by simp; omega) _⟩, by simp [intOf]; omega⟩
    · obtain rfl : j = 8 := by omega
      rw [List.take_of_length_le (by omega)] at hLj
      clear HL HC HB
      have hL0 : Lies .u32 111 wr (w.heap.size + 1 + 1) (pad 88 (hs ++ (r.map (hi false)).take 0)) := by rw [List.take_zero, List.append_nil]; exact hLj
      have hlr : (r.map (hi false)).length = 80 := by rw [List.length_map]; exact h80
      clear hLj
      go_wp2_with (first
        | (refine wpList_load_row rfl 107 _ (by rfl) (w.heap.size + 1) (by rfl) _ _ _ (.array 80 49) hCj (by kernel_rfl) rfl (by rw [arr_size, h80]; kernel_rfl) ?_)
        | fail)
      clear hCj
      go_loopw [22] (fun i wr => ∃ j : Nat, j ≤ 80 ∧ i = .int .i64 j ∧ Lies .u32 111 wr (w.heap.size + 1 + 1) (pad 88 (hs ++ (r.map (hi false)).take j)) ∧ Below w.heap.size w wr) (fun i _ => 80 - (intOf i).toNat)
      case atStart => exact ⟨0, Nat.zero_le _, rfl, hL0, hbj⟩
      case round =>
        obtain ⟨j, hj, rfl, hLj, hbj⟩ := hrel
        clear hL0
        by_cases hlt : j < 80
        · have hix : ∀ w : World, (Instr.index 107 (.agg (arr .u64 r)) (.int .i64 (j : Int))).run Tryd.prog w = .ok (.int .u64 (el r j)) w := fun w =>
            index_arr _ 49 80 .u64 r (by kernel_rfl) (by kernel_rfl) (by kernel_rfl) h80 j hlt w
          have hrl : el r j < 18446744073709551616 := el_lt hru (by decide) j
          have htl : (hs ++ (r.map (hi false)).take j).length = 8 + j := by rw [List.length_append, List.length_take]; omega
          have c1 := hLj.cell (i := 8 + j) (by rw [pad_length (by omega)]; omega)
          have f1 := hLj.frozen (8 + j)
          have hst := hLj.set (8 + j) (hi false (el r j))
          have hse := pad_set (n := 88) (l := hs ++ (r.map (hi false)).take j) (by omega) (hi false (el r j))
          rw [htl, List.append_assoc, ← el_map_hi32 false r j (by omega), ← take_el (by omega)] at hse
          rw [← el_map_hi32 false r j (by omega), hse, el_map_hi32 false r j (by omega)] at hst
          have HST := hide hst
          clear hst hse htl
          have ij0 : (0 : Int) ≤ (j : Int) := Int.natCast_nonneg _
          have ij1 : (j : Int) < 80 := by omega
          go_wp2_with fail
          refine (first32 (el r j) _ hrl).mono ?_
          rintro e w1 ⟨rfl, rfl⟩
          go_wp2
          refine ⟨⟨j + 1, by omega, by go_num, HST.out, hbj.setCell (by simp; omega) _⟩, by simp [intOf]; omega⟩
        · obtain rfl : j = 80 := by omega
          rw [List.take_of_length_le (by omega), pad_full (by rw [List.length_append]; omega)] at hLj
          go_wp2
          go_ret
          exact ⟨_, rfl, by omega, hLj, hbj⟩
end Go.Proofs.YtpmobjfhhkglbaaDoor
