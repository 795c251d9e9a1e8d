import Derived.Test.YtpmobjfhhkglbaaGreatDoorHTur32
import Derived.Test.YtpmobjfhhkglbaaGreatDoorBase
set_option maxHeartbeats 8000000
set_option maxRecDepth 100000
namespace Go.Proofs.YtpmobjfhhkglbaaGreatDoor
open Go.RowKit
set_option linter.unusedVariables false
set_option linter.unusedSimpArgs false
abbrev Sm32 (w : World) (g : Nat) (hs cs : List Nat) : Prop := Lies .u32 141 w g (hs ++ cs)
theorem mix_any32 (g : Nat) (hs cs ls : List Nat) (w : World) (hS : Sm32 w g hs cs) (h8 : hs.length = 8) (c80 : cs.length = 80) (l80 : ls.length = 80) (hhu : Under 4294967296 hs) (hcu : Under 4294967296 cs) (hlu : Under 4294967296 ls) :
    Calls Tryz.prog 130 #[.pointer (some ⟨g, 0, none⟩), .agg (arr .u32 ls)] w fun e w' => e = .returned (.tuple #[]) ∧ Sm32 w' g (addW false hs (rndN false cs ls (rn false) hs) 8) cs ∧ But g w w' := by
  go_enter Tryz.func130, Tryz.ntmps130
  go_wp2_with fail
  refine (either_tur32 2 13 22 28 34 39 _).mono ?_
  rintro e w1 ⟨rfl, hb1⟩
  unfold tur32
  go_wp2_with fail
  refine (either_tur32 6 11 25 14 18 41 _).mono ?_
  rintro e w2 ⟨rfl, hb2⟩
  unfold tur32
  have hS2 : Sm32 w2 g hs cs := (((hS.alloc _).below hb1).alloc _).below hb2
  have hL2 : Lies .u32 139 w2 w.heap.size ls := (((Lies.new .u32 139 w ls).below hb1).alloc _).below hb2
  have hA2 : Tu32 w2 w1.heap.size 2 13 22 := (Tu32.new w1 2 13 22).below hb2
  go_wp2
  have hB3 : Tu32 (w2.alloc (.cells #[.int .i64 6, .int .i64 11, .int .i64 25] 155)) w2.heap.size 6 11 25 := Tu32.new w2 6 11 25
  have hw3 := keep_trans (keep_trans (keep_trans (keep_trans (keep_alloc _ _) hb1) (keep_alloc _ _)) hb2) (keep_alloc w2 (.cells #[.int .i64 6, .int .i64 11, .int .i64 25] 155))
  have hS3 := hS2.alloc (.cells #[.int .i64 6, .int .i64 11, .int .i64 25] 155)
  have hL3 := hL2.alloc (.cells #[.int .i64 6, .int .i64 11, .int .i64 25] 155)
  have hA3 := hA2.below (keep_alloc w2 (.cells #[.int .i64 6, .int .i64 11, .int .i64 25] 155))
  clear hS2 hL2 hA2 hb1 hb2
  generalize w2.alloc (.cells #[.int .i64 6, .int .i64 11, .int .i64 25] 155) = w3 at *
  have hc := fun (i : Nat) (hi : i < 8) => hS3.cell (i := i) (by rw [List.length_append]; omega)
  have hel : ∀ i, i < 8 → el (hs ++ cs) i = el hs i := fun i hi => by unfold el; rw [List.getElem?_append_left (by omega)]
  have c0 := hc 0 (by decide)
  have c1 := hc 1 (by decide)
  have c2 := hc 2 (by decide)
  have c3 := hc 3 (by decide)
  have c4 := hc 4 (by decide)
  have c5 := hc 5 (by decide)
  have c6 := hc 6 (by decide)
  have c7 := hc 7 (by decide)
  rw [hel _ (by decide)] at c0 c1 c2 c3 c4 c5 c6 c7
  clear hc hel
  go_quiet (fail)
  go_wp2
  go_quiet (fail)
  go_wp2_with fail
  refine (either_int32 _ _ _).mono ?_
  rintro e w4 ⟨rfl, rfl⟩
  go_wp2
  go_loopw [6, 7, 8, 9, 10, 11, 12, 13, 66] (fun v0 v1 v2 v3 v4 v5 v6 v7 i wr => ∃ k : Nat, k ≤ 64 ∧ i = .int .i64 k ∧ v0 = .int .u32 (el (rndN false cs ls k hs) 0) ∧ v1 = .int .u32 (el (rndN false cs ls k hs) 1) ∧ v2 = .int .u32 (el (rndN false cs ls k hs) 2) ∧ v3 = .int .u32 (el (rndN false cs ls k hs) 3) ∧ v4 = .int .u32 (el (rndN false cs ls k hs) 4) ∧ v5 = .int .u32 (el (rndN false cs ls k hs) 5) ∧ v6 = .int .u32 (el (rndN false cs ls k hs) 6) ∧ v7 = .int .u32 (el (rndN false cs ls k hs) 7) ∧ Below w3.heap.size w3 wr) (fun _ _ _ _ _ _ _ _ i _ => 64 - (intOf i).toNat)
  case atStart => exact ⟨0, Nat.zero_le _, rfl, rfl, rfl, rfl, rfl, rfl, rfl, rfl, rfl, bel_drewN (Below.refl _ _) _⟩
  case round =>
    obtain ⟨k, hk, rfl, rfl, rfl, rfl, rfl, rfl, rfl, rfl, rfl, hbr⟩ := hrel
    clear c0 c1 c2 c3 c4 c5 c6 c7
    have hsu := rndN_under (b := false) (ks := cs) (ws := ls) hhu k
    by_cases hlt : k < 64
    · have hnx : rndN false cs ls (k + 1) hs = rnd false (el cs k) (el ls k) (rndN false cs ls k hs) := rfl
      have HNX := hide hnx
      clear hnx
      generalize rndN false cs ls k hs = s at *
      have hSr := hS3.below hbr
      have hLr := hL3.below hbr
      have hAr := hA3.below hbr
      have hBr := hB3.below hbr
      have d1 := hSr.cell (i := 8 + k) (by rw [List.length_append]; omega)
      have del : el (hs ++ cs) (8 + k) = el cs k := by unfold el; rw [List.getElem?_append_right (by omega), h8, Nat.add_sub_cancel_left]
      rw [del] at d1
      have d2 := hLr.cell (i := k) (by omega)
      obtain ⟨e0, e1, e2⟩ := hBr.cells
      obtain ⟨f0, f1, f2⟩ := hAr.cells
      have HA := hide f0
      have HA1 := hide f1
      have HA2 := hide f2
      clear f0 f1 f2 del hSr hLr hAr hBr
      have u := fun i => el_lt hsu (wm_pos false) i
      have u4 : el s 4 < 4294967296 := u 4
      have hcall := turned32 (el s 4) 6 11 25 wr.drew u4 (by decide) (by decide) (by decide)
      have ik0 : (0 : Int) ≤ (k : Int) := Int.natCast_nonneg _
      have ik1 : (k : Int) < 80 := by omega
      have ik2 : k < 80 := by omega
      go_wp2
      go_region_held3 (fun w' => w'.cell? ⟨g, 8 + k, none⟩ = some (.int .u32 (el cs k)) ∧ w'.cell? ⟨w.heap.size, k, none⟩ = some (.int .u32 (el ls k)) ∧ w'.cell? ⟨w2.heap.size, 0, none⟩ = some (.int .i64 6) ∧ w'.cell? ⟨w2.heap.size, 1, none⟩ = some (.int .i64 11) ∧ w'.cell? ⟨w2.heap.size, 2, none⟩ = some (.int .i64 25))
        (first
          | exact ⟨keep_cell (w := wr.drew) d1 hb5, keep_cell (w := wr.drew) d2 hb5, keep_cell (w := wr.drew) e0 hb5, keep_cell (w := wr.drew) e1 hb5, keep_cell (w := wr.drew) e2 hb5⟩
          | exact ⟨d1, d2, e0, e1, e2⟩)
        (first
          | (go_at_call 138; refine hcall.mono ?_; rintro e w5 ⟨rfl, hb5⟩))
      have g0 := keep_cell (w := wr.drew) HA.out hb5
      have g1 := keep_cell (w := wr.drew) HA1.out hb5
      have g2 := keep_cell (w := wr.drew) HA2.out hb5
      clear d1 d2 e0 e1 e2 hcall
      go_wp2_with fail
      refine (turned32 (el s 0) 2 13 22 w5 (u 0) (by decide) (by decide) (by decide)).mono ?_
      rintro e w6 ⟨rfl, hb6⟩
      go_wp2
      go_roundw
      case rel =>
        have u1 : el s 1 < 4294967296 := u 1
        have u2 : el s 2 < 4294967296 := u 2
        have u0 : el s 0 < 4294967296 := u 0
        have u5 : el s 5 < 4294967296 := u 5
        have u6 : el s 6 < 4294967296 := u 6
        rw [chs_is32 _ _ _ u4 u5 u6, maj_is32 _ _ _ u0 u1 u2]
        repeat rw [add_is32]
        rw [rnd032, rnd432]
        refine ⟨k + 1, by omega, by go_num, ?_, ?_, ?_, ?_, ?_, ?_, ?_, ?_, keep_trans hbr (keep_trans (un_drew hb5) hb6)⟩ <;> rw [HNX.out] <;> rfl
      case measure => simp [intOf]; omega
    · obtain rfl : k = 64 := by omega
      have h8s : (rndN false cs ls 64 hs).length = 8 := rndN_length h8 _
      have hSr := hS3.below hbr
      generalize hR : rndN false cs ls 64 hs = s at *
      have HR : Hid (rndN false cs ls (rn false) hs = s) := hR
      clear hR
      have hlen : (hs ++ cs).length = 88 := by rw [List.length_append]; omega
      go_wp2
      go_loopw [131] (fun i wr' => ∃ j : Nat, j ≤ 8 ∧ i = .int .i64 j ∧ Lies .u32 141 wr' g (addW false hs s j ++ hs.drop j ++ cs) ∧ But g w wr') (fun i _ => 8 - (intOf i).toNat)
      case atStart => exact ⟨0, Nat.zero_le _, rfl, hSr, But.of_below (keep_trans hw3 hbr)⟩
      case round =>
        obtain ⟨j, hj, rfl, hSj, hbj⟩ := hrel
        by_cases hlt : j < 8
        · have hix : ∀ w : World, (Instr.index 121 (.agg #[.int .u32 (el s 0), .int .u32 (el s 1), .int .u32 (el s 2), .int .u32 (el s 3), .int .u32 (el s 4), .int .u32 (el s 5), .int .u32 (el s 6), .int .u32 (el s 7)]) (.int .i64 (j : Int))).run Tryz.prog w = .ok (.int .u32 (el s j)) w := fun w => by
            rw [← arr8 .u32 s h8s]; exact index_arr _ 42 8 .u32 s (by kernel_rfl) (by kernel_rfl) (by kernel_rfl) h8s j hlt w
          have c1 := hSj.cell (i := j) (by rw [List.length_append, List.length_append, addW_length, List.length_drop]; omega)
          rw [addTo_get false hs s cs j (by omega)] at c1
          have f1 := hSj.frozen j
          have hst := hSj.set j ((el hs j + el s j) % 4294967296)
          have hse := addTo_set false hs s cs j (by omega)
          have hst' : Lies .u32 141 (wr.setCell ⟨g, j, none⟩ (.int .u32 (((el hs j + el s j) % 4294967296 : Nat) : Int))) g (addW false hs s (j + 1) ++ hs.drop (j + 1) ++ cs) := by rw [← hse]; exact hst
          have HST := hide hst'
          clear hst hse hst'
          have ij0 : (0 : Int) ≤ (j : Int) := Int.natCast_nonneg _
          have ij1 : (j : Int) < 8 := by omega
          go_wp2
          go_region
          go_wp2
          rw [add_is32]
          exact ⟨⟨j + 1, by omega, by go_num, HST.out, (hbj.setCell j _).drew⟩, by simp [intOf]; omega⟩
        · obtain rfl : j = 8 := by omega
          rw [List.drop_of_length_le (by omega), List.append_nil] at hSj
          go_wp2
          go_end0
          exact ⟨rfl, by rw [HR.out]; exact hSj, hbj⟩
theorem zero8032 : ∀ w, (zeroValue 139).run Tryz.prog w = .ok (.agg (arr .u32 (List.replicate 80 0))) w := zero_arr (by kernel_rfl)
theorem spread_any32 (v : Value) (l : List Nat) (w : World) (hR : Row .u8 256 w v l) (hl : l.length = 64) :
    Calls Tryz.prog 131 #[v] w fun e w' => e = .returned (.agg (arr .u32 (pad 80 (sched false l 48)))) ∧ Below w.heap.size w w' := by
  have hu := hR.under
  obtain ⟨a, cap, rfl, h1, h2, h3⟩ := hR.opens hl
  obtain ⟨bb, off, rfl, hc⟩ := h3 (by decide)
  have hz := zero8032
  go_enter Tryz.func131, Tryz.ntmps131
  go_wp2_with fail
  refine (either_int32 _ _ _).mono ?_
  rintro e w1 ⟨rfl, rfl⟩
  go_wp2
  have hL0 : Lies .u32 139 ((w.alloc (.cells (arr .u32 (List.replicate 80 0)) 139)).alloc (.cells (arr .u32 (List.replicate 80 0)) 139)) (w.heap.size + 1) (pad 80 (words false l 0)) := by
    have := Lies.new .u32 139 (w.alloc (.cells (arr .u32 (List.replicate 80 0)) 139)) (List.replicate 80 0)
    rw [World.size_alloc] at this
    exact this
  have hO0 : Lies .u32 139 ((w.alloc (.cells (arr .u32 (List.replicate 80 0)) 139)).alloc (.cells (arr .u32 (List.replicate 80 0)) 139)) w.heap.size (List.replicate 80 0) := (Lies.new .u32 139 w (List.replicate 80 0)).alloc _
  have hb0 := keep_trans (keep_alloc w (.cells (arr .u32 (List.replicate 80 0)) 139)) (keep_alloc _ (.cells (arr .u32 (List.replicate 80 0)) 139))
  go_loopw [10] (fun i wr => ∃ t : Nat, t ≤ 16 ∧ i = .int .i64 t ∧ Lies .u32 139 wr (w.heap.size + 1) (pad 80 (words false l t)) ∧ Lies .u32 139 wr w.heap.size (List.replicate 80 0) ∧ Below w.heap.size w wr) (fun i _ => 16 - (intOf i).toNat)
  case atStart => exact ⟨0, Nat.zero_le _, rfl, hL0, hO0, hb0⟩
  case round =>
    obtain ⟨t, ht, rfl, hLt, hOt, hbt⟩ := hrel
    clear hL0 hO0 hb0
    by_cases hlt : t < 16
    · have hRt := (hR.below hbt).mid (i := t * 4) (j := (t + 1) * 4) (by omega) (by omega)
      go_wp2_with fail
      refine (num_any _ _ _ hRt).mono ?_
      rintro e w2 ⟨rfl, rfl⟩
      have hwd : numL ((l.drop (t * 4)).take ((t + 1) * 4 - t * 4)) = word false l t := by
        rw [show (t + 1) * 4 - t * 4 = 4 by omega]; rfl
      rw [hwd]
      have hwl : word false l t < 4294967296 := word_lt hu t
      have hst := hLt.set t (word false l t)
      have hse := pad_set (n := 80) (l := words false l t) (by rw [words_length]; omega) (word false l t)
      rw [words_length, ← words_succ] at hse
      rw [hse] at hst
      have HST := hide hst
      have c1 := hLt.cell (i := t) (by rw [pad_length (by rw [words_length]; omega)]; omega)
      have f1 := hLt.frozen t
      clear hwd hse hst hRt
      generalize hW : word false l t = W at *
      have HW := hide hW
      clear hW
      have ik0 : (0 : Int) ≤ (t : Int) := Int.natCast_nonneg _
      have ik1 : (t : Int) < 80 := by omega
      go_wp2
      refine ⟨⟨t + 1, by omega, by go_num, HST.out, hOt.but (But.setCell (But.refl (w.heap.size + 1) _) _ _) (by omega), hbt.setCell (by simp) _⟩, by simp [intOf]; omega⟩
    · obtain rfl : t = 16 := by omega
      go_wp2_with fail
      refine (either_tur32 7 18 3 1 8 7 _).mono ?_
      rintro e w3 ⟨rfl, hb3⟩
      unfold tur32
      go_wp2_with fail
      refine (either_tur32 17 19 10 19 61 6 _).mono ?_
      rintro e w4 ⟨rfl, hb4⟩
      unfold tur32
      go_wp2
      have hw : Lies .u32 139 w4 (w.heap.size + 1) (pad 80 (sched false l 0)) := ((hLt.below hb3).alloc _).below hb4
      have hO4 : Lies .u32 139 w4 w.heap.size (List.replicate 80 0) := ((hOt.below hb3).alloc _).below hb4
      have hA4 : Tu32 w4 w3.heap.size 7 18 3 := (Tu32.new w3 7 18 3).below hb4
      have hB5 : Tu32 (w4.alloc (.cells #[.int .i64 17, .int .i64 19, .int .i64 10] 155)) w4.heap.size 17 19 10 := Tu32.new w4 17 19 10
      have hw5 := hw.alloc (.cells #[.int .i64 17, .int .i64 19, .int .i64 10] 155)
      have hO5 := hO4.alloc (.cells #[.int .i64 17, .int .i64 19, .int .i64 10] 155)
      have hA5 := hA4.below (keep_alloc w4 (.cells #[.int .i64 17, .int .i64 19, .int .i64 10] 155))
      have hs3 := hb3.size
      have hs4 := hb4.size
      rw [World.size_alloc] at hs4
      have hne3 : w3.heap.size ≠ w.heap.size + 1 := by have := hLt.lt; omega
      have hne4 : w4.heap.size ≠ w.heap.size + 1 := by have := hLt.lt; omega
      have hb5 := keep_trans hbt (keep_trans hb3 (keep_trans (keep_alloc _ _) (keep_trans hb4 (keep_alloc w4 (.cells #[.int .i64 17, .int .i64 19, .int .i64 10] 155)))))
      clear hw hO4 hA4 hb3 hb4 hLt hOt hbt hs3 hs4
      generalize w4.alloc (.cells #[.int .i64 17, .int .i64 19, .int .i64 10] 155) = w5 at *
      go_loopw [8] (fun i wr => ∃ j : Nat, j ≤ 48 ∧ i = .int .i64 ((16 + j : Nat) : Int) ∧ Lies .u32 139 wr (w.heap.size + 1) (pad 80 (sched false l j)) ∧ Lies .u32 139 wr w.heap.size (List.replicate 80 0) ∧ Tu32 wr w3.heap.size 7 18 3 ∧ Tu32 wr w4.heap.size 17 19 10 ∧ Below w.heap.size w wr) (fun i _ => 100 - (intOf i).toNat)
      case atStart => exact ⟨0, Nat.zero_le _, rfl, hw5, hO5, hA5, hB5, hb5⟩
      case round =>
        obtain ⟨j, hj, rfl, hLj, hOj, hAj, hBj, hbj⟩ := hrel
        clear hw5 hO5 hA5 hB5 hb5
        have hlen := sched_length false l j
        have hsu := sched_under (b := false) hu j
        have hsc := sched_succ false l j
        by_cases hlt : j < 48
        · have hpl : (pad 80 (sched false l j)).length = 80 := pad_length (by omega)
          have hse := pad_set (n := 80) (l := sched false l j) (by omega) (nxt false (sched false l j))
          rw [← hsc, hlen] at hse
          have HSE := hide hse
          have HN : Hid (nxt false (sched false l j) = (lS1 false (el (sched false l j) (14 + j)) + el (sched false l j) (9 + j) + lS0 false (el (sched false l j) (1 + j)) + el (sched false l j) j) % wm false) := by
            apply hide
            unfold nxt
            rw [hlen, show 16 + j - 2 = 14 + j by omega, show 16 + j - 7 = 9 + j by omega, show 16 + j - 15 = 1 + j by omega, show 16 + j - 16 = j by omega]
          have HL := hide hlen
          clear hse hsc hlen
          generalize nxt false (sched false l j) = N at *
          generalize sched false l j = s at *
          have u := fun i => el_lt hsu (wm_pos false) i
          have hX : LiesX .u32 139 wr (w.heap.size + 1) (pad 80 s) (16 + j) := hLj.toX (by omega)
          have e2 : el (pad 80 s) (14 + j) = el s (14 + j) := pad_el (by rw [HL.out]; omega)
          have e7 : el (pad 80 s) (9 + j) = el s (9 + j) := pad_el (by rw [HL.out]; omega)
          have e15 : el (pad 80 s) (1 + j) = el s (1 + j) := pad_el (by rw [HL.out]; omega)
          have e16 : el (pad 80 s) j = el s j := pad_el (by rw [HL.out]; omega)
          have hmk : ∀ w', LiesX .u32 139 w' (w.heap.size + 1) (pad 80 s) (16 + j) ∧ But (w.heap.size + 1) wr w' → (w'.cell? ⟨w.heap.size + 1, 14 + j, none⟩ = some (.int .u32 (el s (14 + j))) ∧ w'.cell? ⟨w.heap.size + 1, 9 + j, none⟩ = some (.int .u32 (el s (9 + j))) ∧ w'.cell? ⟨w.heap.size + 1, 1 + j, none⟩ = some (.int .u32 (el s (1 + j))) ∧ w'.cell? ⟨w.heap.size + 1, j, none⟩ = some (.int .u32 (el s j)) ∧ w'.cell? ⟨w3.heap.size, 0, none⟩ = some (.int .i64 7) ∧ w'.cell? ⟨w3.heap.size, 1, none⟩ = some (.int .i64 18) ∧ w'.cell? ⟨w3.heap.size, 2, none⟩ = some (.int .i64 3) ∧ w'.cell? ⟨w4.heap.size, 0, none⟩ = some (.int .i64 17) ∧ w'.cell? ⟨w4.heap.size, 1, none⟩ = some (.int .i64 19) ∧ w'.cell? ⟨w4.heap.size, 2, none⟩ = some (.int .i64 10) ∧ w'.cell? ⟨w.heap.size + 1, 16 + j, none⟩ = some (rdc w' ⟨w.heap.size + 1, 16 + j, none⟩) ∧ w'.frozen? ⟨w.heap.size + 1, 16 + j, none⟩ = false ∧ (LiesX .u32 139 w' (w.heap.size + 1) (pad 80 s) (16 + j) ∧ But (w.heap.size + 1) wr w')) := fun w' ⟨hb, hB⟩ => by
            obtain ⟨a0, a1, a2⟩ := (hAj.but hB hne3).cells
            obtain ⟨b0, b1, b2⟩ := (hBj.but hB hne4).cells
            exact ⟨by rw [hb.cell (by omega) (by omega), e2], by rw [hb.cell (by omega) (by omega), e7], by rw [hb.cell (by omega) (by omega), e15], by rw [hb.cell (by omega) (by omega), e16], a0, a1, a2, b0, b1, b2, hb.here (by omega), hb.frozen _, hb, hB⟩
          have HMK := hide hmk
          have HX := hide hX
          clear hmk hX e2 e7 e15 e16
          have y2 : ((16 + j : Nat) : Int) - 2 = ((14 + j : Nat) : Int) := by omega
          have y7 : ((16 + j : Nat) : Int) - 7 = ((9 + j : Nat) : Int) := by omega
          have y15 : ((16 + j : Nat) : Int) - 15 = ((1 + j : Nat) : Int) := by omega
          have y16 : ((16 + j : Nat) : Int) - 16 = (j : Int) := by omega
          have n0 : 16 + j < 80 ∧ 14 + j < 80 ∧ 9 + j < 80 ∧ 1 + j < 80 ∧ 16 + j < 64 := by omega
          have HNJ : Hid (16 + (j + 1) = 16 + j + 1) := hide (by omega)
          have HJ : Hid (j + 1 ≤ 48) := hide (by omega)
          have nj : j < 80 := by omega
          have u2 : el s (14 + j) < 4294967296 := u _
          have u15 : el s (1 + j) < 4294967296 := u _
          have u7 : el s (9 + j) < 4294967296 := u _
          have u16 : el s j < 4294967296 := u _
          clear hlt hj hpl hsu u
          generalize 16 + j = T at *
          generalize 14 + j = c2 at *
          generalize 9 + j = c7 at *
          generalize 1 + j = c15 at *
          obtain ⟨n1, n2, n3, n4, n5⟩ := n0
          have i0 : (0 : Int) ≤ (j : Int) := Int.natCast_nonneg _
          have i1 : (j : Int) < 80 := by omega
          have i2 : (0 : Int) ≤ (c2 : Int) := Int.natCast_nonneg _
          have i3 : (c2 : Int) < 80 := by omega
          have i4 : (0 : Int) ≤ (c7 : Int) := Int.natCast_nonneg _
          have i5 : (c7 : Int) < 80 := by omega
          have i6 : (0 : Int) ≤ (c15 : Int) := Int.natCast_nonneg _
          have i7 : (c15 : Int) < 80 := by omega
          have i8 : (0 : Int) ≤ (T : Int) := Int.natCast_nonneg _
          have i9 : (T : Int) < 80 := by omega
          have r2 : IntKind.i64.wrap (c2 : Int) = (c2 : Int) := by rw [IntKind.wrap_i64]; omega
          have r7 : IntKind.i64.wrap (c7 : Int) = (c7 : Int) := by rw [IntKind.wrap_i64]; omega
          have r15 : IntKind.i64.wrap (c15 : Int) = (c15 : Int) := by rw [IntKind.wrap_i64]; omega
          have r16 : IntKind.i64.wrap (j : Int) = (j : Int) := by rw [IntKind.wrap_i64]; omega
          have i10 : (T : Int) < 64 := by omega
          go_wp2_with fail
          refine (either_int32 _ _ _).mono ?_
          rintro e w6 ⟨rfl, rfl⟩
          go_wp2
          go_region_held3 (fun w' => w'.cell? ⟨w.heap.size + 1, c2, none⟩ = some (.int .u32 (el s c2)) ∧ w'.cell? ⟨w.heap.size + 1, c7, none⟩ = some (.int .u32 (el s c7)) ∧ w'.cell? ⟨w.heap.size + 1, c15, none⟩ = some (.int .u32 (el s c15)) ∧ w'.cell? ⟨w.heap.size + 1, j, none⟩ = some (.int .u32 (el s j)) ∧ w'.cell? ⟨w3.heap.size, 0, none⟩ = some (.int .i64 7) ∧ w'.cell? ⟨w3.heap.size, 1, none⟩ = some (.int .i64 18) ∧ w'.cell? ⟨w3.heap.size, 2, none⟩ = some (.int .i64 3) ∧ w'.cell? ⟨w4.heap.size, 0, none⟩ = some (.int .i64 17) ∧ w'.cell? ⟨w4.heap.size, 1, none⟩ = some (.int .i64 19) ∧ w'.cell? ⟨w4.heap.size, 2, none⟩ = some (.int .i64 10) ∧ w'.cell? ⟨w.heap.size + 1, T, none⟩ = some (rdc w' ⟨w.heap.size + 1, T, none⟩) ∧ w'.frozen? ⟨w.heap.size + 1, T, none⟩ = false ∧ (LiesX .u32 139 w' (w.heap.size + 1) (pad 80 s) T ∧ But (w.heap.size + 1) w6 w'))
            (first
              | exact HMK.out _ ⟨HX.out, But.refl _ _⟩
              | exact HMK.out _ ⟨HX.out, (But.refl _ _).drew⟩
              | (go_split_ands; exact HMK.out _ ⟨LiesX.below (by assumption) hb8, But.trans (by assumption) (But.of_below hb8)⟩)
              | (go_split_ands; exact HMK.out _ ⟨LiesX.below (by assumption) hb7, But.trans (by assumption) (But.of_below hb7)⟩)
              | (go_split_ands; exact HMK.out _ ⟨LiesX.set (by assumption) _, But.setCell (by assumption) _ _⟩)
              | (go_split_ands; exact HMK.out _ ⟨by assumption, But.drew (by assumption)⟩))
            (first
              | (go_at_call_of 139 (el s c2); refine (shifted32 (el s c2) 17 19 10 _ u2 (by decide) (by decide) (by decide)).mono ?_; rintro e w7 ⟨rfl, hb7⟩)
              | (go_at_call_of 139 (el s c15); refine (shifted32 (el s c15) 7 18 3 _ u15 (by decide) (by decide) (by decide)).mono ?_; rintro e w8 ⟨rfl, hb8⟩))
          go_wp2_with fail
          have hB78 : Below w6.heap.size w6 w8 := by first | exact keep_trans hb7 hb8 | exact keep_trans (un_drew hb7) hb8 | exact keep_trans (un_drewN hb7) hb8
          have hN : (((shft3 false 17 19 10 (el s c2) + el s c7) % 4294967296 + shft3 false 7 18 3 (el s c15)) % 4294967296 + el s j) % 4294967296 = N := by
            rw [HN.out]
            simp only [lS0, lS1, wm, cond_true, cond_false]
            omega
          rw [add_is32, add_is32, add_is32, hN]
          have hBS : But (w.heap.size + 1) w6 (w8.setCell ⟨w.heap.size + 1, T, none⟩ (.int .u32 (N : Int))) := (But.of_below hB78).setCell T _
          exact ⟨⟨j + 1, HJ.out, vint (by rw [HNJ.out]; omega), by rw [← HSE.out]; exact (hLj.below hB78).set T N, hOj.but hBS (by omega), hAj.but hBS hne3, hBj.but hBS hne4, hbj.trans (hBS.below (by omega) hbj.size)⟩, by simp [intOf]; omega⟩
        · obtain rfl : j = 48 := by omega
          have hpl : (pad 80 (sched false l 48)).length = 80 := pad_length (by omega)
          have hlz : (List.replicate 80 0).length = 80 := rfl
          generalize hF : pad 80 (sched false l 48) = F at *
          have HF := hide hF
          clear hF
          go_wp2_with fail
          refine (either_int32 _ _ _).mono ?_
          rintro e w6 ⟨rfl, rfl⟩
          go_wp2_with (first
            | (refine wpList_load_row rfl 139 _ (by rfl) (w.heap.size + 1) (by rfl) _ _ _ (.array 80 42) hLj (by kernel_rfl) rfl (by rw [arr_size, hpl]; kernel_rfl) ?_)
            | (refine wpList_store_row rfl 139 _ _ (by rfl) w.heap.size (arr .u32 F) (by rfl) (by rfl) _ _ hOj (by rw [arr_size, hpl]; kernel_rfl) (by rw [arr_size, arr_size, hpl, List.length_replicate]) (arr_one _ _) ?_)
            | fail)
          have hOf : Lies .u32 139 (w6.setRow w.heap.size (arr .u32 F)) w.heap.size F := hOj.row
          have hbf : Below w.heap.size w (w6.setRow w.heap.size (arr .u32 F)) := hbj.trans ((But.setRow (But.refl _ _) _).below (Nat.le_refl _) hbj.size)
          refine bodyPost_ret (v := .agg (arr .u32 F)) ?_ ?_ ?_
          · exact results_cell_row Tryz.results131 _ _ w.heap.size _ _ _ (.array 80 42) (by rfl) hOf (by kernel_rfl) rfl (by rw [arr_size, hpl]; kernel_rfl)
          · rfl
          · exact ⟨by rw [HF.out], hbf⟩
end Go.Proofs.YtpmobjfhhkglbaaGreatDoor
