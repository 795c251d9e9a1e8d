/- Contract of the document's block, of words of 64 bits. -/
import Derived.Test.YtpmobjfhhkglbaaGreatDoorGEn32
import Derived.Test.YtpmobjfhhkglbaaGreatDoorGWd32
import Derived.Test.YtpmobjfhhkglbaaGreatDoorHHsh
import Derived.Test.YtpmobjfhhkglbaaGreatDoorHTur32
import Derived.Test.YtpmobjfhhkglbaaGreatDoorGBl32
import Derived.Test.YtpmobjfhhkglbaaGreatDoorHSl
namespace Go.Proofs.YtpmobjfhhkglbaaGreatDoor
open Go.RowKit
set_option linter.unusedVariables false
set_option linter.unusedSimpArgs false

theorem rchs64 (e f g : Nat) (he : e < 18446744073709551616) (hf : f < 18446744073709551616) (hg : g < 18446744073709551616) : bits .xor .u64 (bits .and .u64 (e : Int) (f : Int)) (bits .and .u64 (bits .xor .u64 18446744073709551615 (e : Int)) (g : Int)) = ((chs true e f g : Nat) : Int) := by
  have hn : bits .xor .u64 18446744073709551615 (e : Int) = ((18446744073709551616 - 1 - e : Nat) : Int) := by
    rw [show (18446744073709551615 : Int) = ((18446744073709551616 - 1 : Nat) : Int) from rfl, u64_xor_nat _ _ (by decide) (by omega), ← ones_xor 64 e he]
  rw [hn, and_is64 e f (by omega) (by omega), and_is64 _ g (by omega) (by omega), xor_is64 _ _ (Nat.lt_of_le_of_lt Nat.and_le_left (by omega)) (Nat.lt_of_le_of_lt Nat.and_le_left (by omega))]
  rfl
theorem rr064 (s : List Nat) (k w : Nat) : ((((((el s 7 + turn3 true 14 18 41 (el s 4)) % 18446744073709551616 + chs true (el s 4) (el s 5) (el s 6)) % 18446744073709551616 + k) % 18446744073709551616 + w) % 18446744073709551616 + (turn3 true 28 34 39 (el s 0) + maj (el s 0) (el s 1) (el s 2)) % 18446744073709551616) % 18446744073709551616) = el (rnd true k w s) 0 := by
  show _ = (tOne true s k w + tTwo true s) % wm true
  unfold tOne tTwo
  simp only [gS0, gS1, wm, cond_true, cond_false]
  omega
theorem rr464 (s : List Nat) (k w : Nat) : ((el s 3 + ((((el s 7 + turn3 true 14 18 41 (el s 4)) % 18446744073709551616 + chs true (el s 4) (el s 5) (el s 6)) % 18446744073709551616 + k) % 18446744073709551616 + w) % 18446744073709551616) % 18446744073709551616) = el (rnd true k w s) 4 := by
  show _ = (el s 3 + tOne true s k w) % wm true
  unfold tOne
  simp only [gS0, gS1, wm, cond_true, cond_false]
  omega
theorem addS_get64 (h s : List Nat) (j : Nat) (hj : j < s.length) : el (addW true h s j ++ s.drop j) j = el s j := by
  rw [el_app_right (by rw [addW_length]; omega), addW_length, el_drop, Nat.sub_self]; rfl
theorem addS_set64 (h s : List Nat) (j : Nat) (hj : j < s.length) : (addW true h s j ++ s.drop j).set j ((el s j + el h j) % wm true) = addW true h s (j + 1) ++ s.drop (j + 1) := by
  have e : addW true h s (j + 1) = addW true h s j ++ [(el s j + el h j) % wm true] := by simp [addW, List.range_succ]
  rw [e, drop_el hj, List.append_assoc, List.set_append_right _ _ (by rw [addW_length]; omega), addW_length, Nat.sub_self]
  rfl
theorem eight64 {t : TypeId} {w : World} {g : Nat} {l : List Nat} (h : Lies .u64 t w g l) (h8 : l.length = 8) : w.cell? ⟨g, 0, none⟩ = some (.int .u64 (el l 0)) ∧ w.cell? ⟨g, 1, none⟩ = some (.int .u64 (el l 1)) ∧ w.cell? ⟨g, 2, none⟩ = some (.int .u64 (el l 2)) ∧ w.cell? ⟨g, 3, none⟩ = some (.int .u64 (el l 3)) ∧ w.cell? ⟨g, 4, none⟩ = some (.int .u64 (el l 4)) ∧ w.cell? ⟨g, 5, none⟩ = some (.int .u64 (el l 5)) ∧ w.cell? ⟨g, 6, none⟩ = some (.int .u64 (el l 6)) ∧ w.cell? ⟨g, 7, none⟩ = some (.int .u64 (el l 7)) :=
  ⟨h.cell (by omega), h.cell (by omega), h.cell (by omega), h.cell (by omega), h.cell (by omega), h.cell (by omega), h.cell (by omega), h.cell (by omega)⟩
theorem set864 (s : List Nat) (h : s.length = 8) (a b c d e f g i : Nat) : (((((((s.set 0 a).set 1 b).set 2 c).set 3 d).set 4 e).set 5 f).set 6 g).set 7 i = [a, b, c, d, e, f, g, i] := by
  match s, h with
  | [_, _, _, _, _, _, _, _], _ => rfl
set_option maxHeartbeats 8000000 in
set_option maxRecDepth 100000 in
theorem rblock_any64 (hs l : List Nat) (v : Value) (w : World) (hR : Row .u8 256 w v l) (hl : l.length = 128) (h8 : hs.length = 8) (hhu : Under 18446744073709551616 hs) :
    Calls Tryz.prog 73 #[.agg (arr .u64 hs), v, .bool true] w fun e w' => e = .returned (.agg (arr .u64 (comp true hs l))) ∧ Below w.heap.size w w' := by
  have hz := zero64
  have hz2 := zero8064
  have hO : Lies .u64 87 ((w.alloc (.cells (arr .u64 hs) 87)).alloc (.cells #[.int .u64 0, .int .u64 0, .int .u64 0, .int .u64 0, .int .u64 0, .int .u64 0, .int .u64 0, .int .u64 0] 87)) (w.heap.size + 1) (List.replicate 8 0) := by
    have := Lies.new .u64 87 (w.alloc (.cells (arr .u64 hs) 87)) (List.replicate 8 0)
    rw [World.size_alloc] at this
    exact this
  have hH : Lies .u64 87 ((w.alloc (.cells (arr .u64 hs) 87)).alloc (.cells #[.int .u64 0, .int .u64 0, .int .u64 0, .int .u64 0, .int .u64 0, .int .u64 0, .int .u64 0, .int .u64 0] 87)) w.heap.size hs := (Lies.new .u64 87 w hs).alloc _
  have hb0 := keep_trans (keep_alloc w (.cells (arr .u64 hs) 87)) (keep_alloc _ (.cells #[.int .u64 0, .int .u64 0, .int .u64 0, .int .u64 0, .int .u64 0, .int .u64 0, .int .u64 0, .int .u64 0] 87))
  go_enter Tryz.func73, Tryz.ntmps73
  go_wp2_with fail
  refine (roots256_any _).mono ?_
  rintro e w1 ⟨rfl, hb1⟩
  have hO1 := hO.below hb1
  have hH1 := hH.below hb1
  have hb1' := keep_trans hb0 hb1
  clear hO hH hb0 hb1
  have hK1 : Lies .u64 111 (w1.alloc (.cells (arr .u64 (List.replicate 64 0)) 111)) w1.heap.size (List.replicate 64 0) := Lies.new _ _ w1 _
  go_wp2_with (first
    | (refine wpList_store_row rfl 111 _ _ (by rfl) w1.heap.size (arr .u64 k256) (by rfl) (by rfl) _ _ hK1 (by kernel_rfl) (by rw [arr_size, arr_size, List.length_replicate, k256_length]) (arr_one _ _) ?_)
    | fail)
  have hK1' := hK1.row (l' := k256)
  have hB1 : Below w1.heap.size w1 _ := (keep_alloc w1 (.cells (arr .u64 (List.replicate 64 0)) 111)).trans ((But.setRow (But.refl w1.heap.size _) (arr .u64 k256)).below (Nat.le_refl _) (by simp))
  refine (roots512_any _).mono ?_
  rintro e w2 ⟨rfl, hb2⟩
  have hO2 : Lies .u64 87 w2 (w.heap.size + 1) (List.replicate 8 0) := (hO1.below hB1).below hb2
  have hH2 : Lies .u64 87 w2 w.heap.size hs := (hH1.below hB1).below hb2
  have hK2 : Lies .u64 111 w2 w1.heap.size k256 := hK1'.below hb2
  have hb2' : Below w.heap.size w w2 := keep_trans hb1' (keep_trans hB1 hb2)
  clear hO1 hH1 hK1 hK1' hB1 hb2 hb1'
  have hC2 : Lies .u64 113 (w2.alloc (.cells (arr .u64 (List.replicate 80 0)) 113)) w2.heap.size (List.replicate 80 0) := Lies.new _ _ w2 _
  have hC2' := hC2.row (l' := cubes)
  have hB2 : Below w2.heap.size w2 _ := (keep_alloc w2 (.cells (arr .u64 (List.replicate 80 0)) 113)).trans ((But.setRow (But.refl w2.heap.size _) (arr .u64 cubes)).below (Nat.le_refl _) (by simp))
  go_wp2_with (first
    | (refine wpList_store_row rfl 113 _ _ (by rfl) w2.heap.size (arr .u64 cubes) (by rfl) (by rfl) _ _ hC2 (by kernel_rfl) (by rw [arr_size, arr_size, List.length_replicate, cubes_length]) (arr_one _ _) ?_)
    | fail)
  refine (words_any64 v l _ ((hR.below hb2').below hB2) hl).mono ?_
  rintro e w3 ⟨wv, rfl, hW, hb3⟩
  have hO3 : Lies .u64 87 w3 (w.heap.size + 1) (List.replicate 8 0) := (hO2.below hB2).below hb3
  have hH3 : Lies .u64 87 w3 w.heap.size hs := (hH2.below hB2).below hb3
  have hK3 : Lies .u64 111 w3 w1.heap.size k256 := (hK2.below hB2).below hb3
  have hC3 : Lies .u64 113 w3 w2.heap.size cubes := hC2'.below hb3
  have hb3' : Below w.heap.size w w3 := keep_trans hb2' (keep_trans hB2 hb3)
  have hWl : (sched true l 64).length = 80 := by rw [sched_length]
  have hWr := hW.row
  have hcmp : comp true hs l = addW true hs (rndN true (ks true) (sched true l 64) 80 hs) 8 := rfl
  have HCMP := hide hcmp
  clear hO2 hH2 hK2 hC2 hC2' hB2 hb2' hW hb3 hcmp
  generalize sched true l 64 = S at *
  obtain ⟨wa, wc, rfl, hw1, hw2, hw3⟩ := hWr.opens hWl
  obtain ⟨wbk, woff, rfl, hwc⟩ := hw3 (by decide)
  clear hw3 hwc
  have hV3 : Lies .u64 87 (w3.alloc (.cells #[.int .u64 0, .int .u64 0, .int .u64 0, .int .u64 0, .int .u64 0, .int .u64 0, .int .u64 0, .int .u64 0] 87)) w3.heap.size (List.replicate 8 0) := Lies.new .u64 87 w3 (List.replicate 8 0)
  go_wp2_with (first
    | (refine wpList_load_row rfl 87 _ (by rfl) w.heap.size (by rfl) _ _ _ (.array 8 26) hH3 (by kernel_rfl) rfl (by rw [arr_size, h8]; kernel_rfl) ?_)
    | (refine wpList_store_row rfl 87 _ _ (by rfl) w3.heap.size (arr .u64 hs) (by rfl) (by rfl) _ _ hV3 (by rw [arr_size, h8]; kernel_rfl) (by rw [arr_size, arr_size, h8, List.length_replicate]) (arr_one _ _) ?_)
    | fail)
  have hB3 : Below w3.heap.size w3 ((w3.alloc (.cells #[.int .u64 0, .int .u64 0, .int .u64 0, .int .u64 0, .int .u64 0, .int .u64 0, .int .u64 0, .int .u64 0] 87)).setRow w3.heap.size (arr .u64 hs)) := (keep_alloc w3 _).trans ((But.setRow (But.refl w3.heap.size _) (arr .u64 hs)).below (Nat.le_refl _) (by simp))
  have hV4 := hV3.row (l' := hs)
  have hO4 := hO3.below hB3
  have hH4 := hH3.below hB3
  have hK4 := hK3.below hB3
  have hC4 := hC3.below hB3
  have hW4 := hWr.below hB3
  have hb4 := keep_trans hb3' hB3
  have hoO : w.heap.size + 1 ≠ w3.heap.size := by have := hO3.lt; omega
  have hoH : w.heap.size ≠ w3.heap.size := by have := hH3.lt; omega
  have hoK : w1.heap.size ≠ w3.heap.size := by have := hK3.lt; omega
  have hoC : w2.heap.size ≠ w3.heap.size := by have := hC3.lt; omega
  have hoW : Away w3.heap.size (.slice (some ⟨wbk, woff, none⟩) 80 wc) S := hWr.away (Nat.le_refl _)
  have hlo : w.heap.size ≤ w3.heap.size := hb3'.size
  clear hO3 hH3 hK3 hC3 hWr hb3' hV3 hB3 hR
  generalize (w3.alloc (.cells #[.int .u64 0, .int .u64 0, .int .u64 0, .int .u64 0, .int .u64 0, .int .u64 0, .int .u64 0, .int .u64 0] 87)).setRow w3.heap.size (arr .u64 hs) = w4 at *
  generalize w3.heap.size = q at *
  go_loopw [13] (fun i wr => ∃ k : Nat, k ≤ 80 ∧ i = .int .i64 k ∧ Lies .u64 87 wr q (rndN true (ks true) S k hs) ∧ But q w4 wr) (fun i _ => 80 - (intOf i).toNat)
  case atStart => exact ⟨0, Nat.zero_le _, rfl, hV4, But.refl _ _⟩
  case round =>
    obtain ⟨k, hk, rfl, hVr, hBr⟩ := hrel
    clear hV4
    have hsu := rndN_under (b := true) (ks := ks true) (ws := S) hhu k
    have hs8 : (rndN true (ks true) S k hs).length = 8 := rndN_length h8 k
    by_cases hlt : k < 80
    · have hnx : rndN true (ks true) S (k + 1) hs = rnd true (el (ks true) k) (el S k) (rndN true (ks true) S k hs) := rfl
      have HNX := hide hnx
      clear hnx
      generalize rndN true (ks true) S k hs = s at *
      have u := fun i => el_lt hsu (wm_pos true) i
      have u0 : el s 0 < 18446744073709551616 := u 0
      have u1 : el s 1 < 18446744073709551616 := u 1
      have u2 : el s 2 < 18446744073709551616 := u 2
      have u4 : el s 4 < 18446744073709551616 := u 4
      have u5 : el s 5 < 18446744073709551616 := u 5
      have u6 : el s 6 < 18446744073709551616 := u 6
      clear u
      obtain ⟨z0, z1, z2, z3, z4, z5, z6, z7⟩ := eight64 hVr hs8
      go_wp2_with fail
      refine (rmix_any false false (el s 0) 2 13 22 _ (by omega) (by decide) (by decide) (by decide)).mono ?_
      rintro e w5 ⟨rfl, hb5⟩
      replace hVr := hVr.below hb5
      replace hBr := hBr.trans (But.of_below hb5)
      obtain ⟨z0, z1, z2, z3, z4, z5, z6, z7⟩ := eight64 hVr (by assumption)
      go_wp2_with fail
      refine (rmix_any false false (el s 4) 6 11 25 _ (by omega) (by decide) (by decide) (by decide)).mono ?_
      rintro e w6 ⟨rfl, hb6⟩
      replace hVr := hVr.below hb6
      replace hBr := hBr.trans (But.of_below hb6)
      obtain ⟨z0, z1, z2, z3, z4, z5, z6, z7⟩ := eight64 hVr (by assumption)
      go_wp2_with fail
      refine (rmix_any true false (el s 0) 28 34 39 _ (by omega) (by decide) (by decide) (by decide)).mono ?_
      rintro e w7 ⟨rfl, hb7⟩
      replace hVr := hVr.below hb7
      replace hBr := hBr.trans (But.of_below hb7)
      obtain ⟨z0, z1, z2, z3, z4, z5, z6, z7⟩ := eight64 hVr (by assumption)
      go_wp2_with fail
      refine (rmix_any true false (el s 4) 14 18 41 _ (by omega) (by decide) (by decide) (by decide)).mono ?_
      rintro e w8 ⟨rfl, hb8⟩
      replace hVr := hVr.below hb8
      replace hBr := hBr.trans (But.of_below hb8)
      obtain ⟨z0, z1, z2, z3, z4, z5, z6, z7⟩ := eight64 hVr (by assumption)
      have hCr := hC4.but hBr hoC
      have ck := hCr.cell (i := k) (by rw [cubes_length]; omega)
      have hck : el cubes k = el (ks true) k := (el_map_hi64 true cubes k (by rw [cubes_length]; omega)).symm
      rw [hck] at ck
      have hWk := hW4.but hoW hBr
      obtain ⟨_, _, hew, _, _, hwc⟩ := hWk.opens hWl
      simp only [Value.slice.injEq, true_and] at hew
      obtain ⟨rfl, rfl⟩ := hew
      obtain ⟨_, _, hew, hwc⟩ := hwc (by decide)
      simp only [Option.some.injEq, Addr.mk.injEq, and_true] at hew
      obtain ⟨rfl, rfl⟩ := hew
      have cw := hwc k hlt
      clear hwc hWk hck
      have ik0 : (0 : Int) ≤ (k : Int) := Int.natCast_nonneg _
      have ik1 : (k : Int) < 80 := by omega
      have p0 := hVr.frozen 0
      have p1 := hVr.frozen 1
      have p2 := hVr.frozen 2
      have p3 := hVr.frozen 3
      have p4 := hVr.frozen 4
      have p5 := hVr.frozen 5
      have p6 := hVr.frozen 6
      have p7 := hVr.frozen 7
      go_wp2
      go_quiet (fail)
      go_wp2
      rw [rmx_turn (b := true) u0 (by decide) (by decide) (by decide), rmx_turn (b := true) u4 (by decide) (by decide) (by decide), rchs64 _ _ _ u4 u5 u6, maj_is64 _ _ _ (by omega) (by omega) (by omega)]
      repeat rw [add_is64]
      rw [and_ones64 _ (Nat.mod_lt _ (by decide)), and_ones64 _ (Nat.mod_lt _ (by decide)), rr064, rr464]
      have hset := ((((((((hVr.drewN nq).set 0 (el (rnd true (el (ks true) k) (el S k) s) 0)).set 1 (el s 0)).set 2 (el s 1)).set 3 (el s 2)).set 4 (el (rnd true (el (ks true) k) (el S k) s) 4)).set 5 (el s 4)).set 6 (el s 5)).set 7 (el s 6)
      rw [set864 s hs8] at hset
      refine ⟨⟨k + 1, by omega, by go_num, by rw [HNX.out]; exact hset, ?_⟩, by simp [intOf]; omega⟩
      exact ((((((((hBr.drewN nq).setCell _ _).setCell _ _).setCell _ _).setCell _ _).setCell _ _).setCell _ _).setCell _ _).setCell _ _
    · obtain rfl : k = 80 := by omega
      generalize hsR : rndN true (ks true) S 80 hs = s at *
      have HSR := hide hsR
      clear hsR
      have hVr0 : Lies .u64 87 wr q (addW true hs s 0 ++ s.drop 0) := hVr
      go_wp2
      go_loopw [19] (fun i wr => ∃ j : Nat, j ≤ 8 ∧ i = .int .i64 j ∧ Lies .u64 87 wr q (addW true hs s j ++ s.drop j) ∧ But q w4 wr) (fun i _ => 8 - (intOf i).toNat)
      case atStart => exact ⟨0, Nat.zero_le _, rfl, hVr0, hBr⟩
      case round =>
        clear hVr hVr0 hBr
        obtain ⟨j, hj, rfl, hVr, hBr⟩ := hrel
        by_cases hlt : j < 8
        · have hHr := hH4.but hBr hoH
          have c1 := hVr.cell (i := j) (by rw [List.length_append, addW_length, List.length_drop]; omega)
          rw [addS_get64 hs s j (by omega)] at c1
          have f1 := hVr.frozen j
          have c2 := hHr.cell (i := j) (by omega)
          have v1 : el s j < 18446744073709551616 := el_lt hsu (wm_pos true) j
          have v2 : el hs j < 18446744073709551616 := el_lt hhu (by decide) j
          have hst := hVr.set j ((el s j + el hs j) % 18446744073709551616)
          have hse := addS_set64 hs s j (by omega)
          have hst' : Lies .u64 87 (wr.setCell ⟨q, j, none⟩ (.int .u64 (((el s j + el hs j) % 18446744073709551616 : Nat) : Int))) q (addW true hs s (j + 1) ++ s.drop (j + 1)) := by rw [← hse]; exact hst
          have HST := hide hst'
          clear hst hse hst' hHr
          have hqn : w.heap.size ≠ q := hoH
          have ij0 : (0 : Int) ≤ (j : Int) := Int.natCast_nonneg _
          have ij1 : (j : Int) < 8 := by omega
          go_wp2
          go_region
          go_wp2
          rw [add_is64, and_ones64 _ (Nat.mod_lt _ (by decide))]
          exact ⟨⟨j + 1, by omega, by go_num, HST.out, (hBr.setCell j _).drew⟩, by simp [intOf]; omega⟩
        · obtain rfl : j = 8 := by omega
          rw [List.drop_of_length_le (by omega), List.append_nil] at hVr
          have hOr := hO4.but hBr hoO
          have h8a : (addW true hs s 8).length = 8 := addW_length _ _ _ _
          have hOf : Lies .u64 87 (wr.setRow (w.heap.size + 1) (arr .u64 (addW true hs s 8))) (w.heap.size + 1) (addW true hs s 8) := hOr.row
          have hbf : Below w.heap.size w (wr.setRow (w.heap.size + 1) (arr .u64 (addW true hs s 8))) := (hb4.trans (hBr.below hlo hb4.size)).trans ((But.setRow (But.refl (w.heap.size + 1) _) _).below (by omega) (by have := hb4.size; have := hBr.size; omega))
          go_wp2_with (first
            | (refine wpList_load_row rfl 87 _ (by rfl) q (by rfl) _ _ _ (.array 8 26) hVr (by kernel_rfl) rfl (by rw [arr_size, h8a]; kernel_rfl) ?_)
            | (refine wpList_store_row rfl 87 _ _ (by rfl) (w.heap.size + 1) (arr .u64 (addW true hs s 8)) (by rfl) (by rfl) _ _ hOr (by rw [arr_size, h8a]; kernel_rfl) (by rw [arr_size, arr_size, h8a, List.length_replicate]) (arr_one _ _) ?_)
            | fail)
          refine bodyPost_ret (v := .agg (arr .u64 (addW true hs s 8))) ?_ ?_ ?_
          · exact results_cell_row Tryz.results73 _ _ (w.heap.size + 1) _ _ _ (.array 8 26) (by rfl) hOf (by kernel_rfl) rfl (by rw [arr_size, h8a]; kernel_rfl)
          · rfl
          · exact ⟨by rw [HCMP.out], hbf⟩
end Go.Proofs.YtpmobjfhhkglbaaGreatDoor

/- Contract of the document's Add, of words of 64 bits. -/
namespace Go.Proofs.YtpmobjfhhkglbaaGreatDoor
open Go.RowKit
set_option linter.unusedVariables false
set_option linter.unusedSimpArgs false

/-- where the document's Add stands behind some blocks -/
def RAdd64 (w : World) (kind : Int) (tv : Value) (N : Nat) (ws all : List Nat) (u : Value) (wr : World) : Prop := ∃ (L H : List Nat), L.length ≤ 200000 ∧ slen u = L.length ∧ Row .u8 256 wr u L ∧ Away w.heap.size u L ∧ Away (w.heap.size + 1) u L ∧ Tidy u ∧ Hb wr w.heap.size kind H tv N ∧ El wr (w.heap.size + 1) ∧ Below w.heap.size w wr ∧ eat true ws all = eat true H L ∧ left true all = left true L ∧ H.length = 8 ∧ Under 18446744073709551616 H

set_option maxHeartbeats 8000000 in
set_option maxRecDepth 100000 in
theorem radd_any64 (kind : Int) (hk : wide kind = true) (ws : List Nat) (tv bv : Value) (tl b : List Nat) (size : Nat) (w : World) (h8 : ws.length = 8) (hu : Under 18446744073709551616 ws) (hRt : Row .u8 256 w tv tl) (tT : Tidy tv) (hRb : Row .u8 256 w bv b) (tB : Tidy bv) (htl : tl.length ≤ 100000) (hbl : b.length ≤ 100000) (hsz : size < 1152921504606846976) :
    Calls Tryz.prog 62 #[.agg (hv kind ws tv size), bv] w fun e w' => ∃ v', e = .returned (.agg (hv kind (eat true ws (tl ++ b)) v' (size + b.length))) ∧ Row .u8 256 w' v' (left true (tl ++ b)) ∧ Tidy v' ∧ Below w.heap.size w w' := by
  have hblk : ∀ w, Calls Tryz.prog 72 #[.int .i64 kind] w fun e w' => e = .returned (.int .i64 128) ∧ w = w' := fun w => (rBlock_any kind w).mono fun _ _ ⟨h1, h2⟩ => ⟨by rw [h1, hk]; rfl, h2.symm⟩
  clear hk
  obtain ⟨ta, tc, rfl⟩ := hRt.form
  obtain ⟨ba, bc, rfl⟩ := hRb.form
  have hb0 : Below w.heap.size w ((w.alloc (.cells #[.int .i64 kind, .int .u64 (el ws 0), .int .u64 (el ws 1), .int .u64 (el ws 2), .int .u64 (el ws 3), .int .u64 (el ws 4), .int .u64 (el ws 5), .int .u64 (el ws 6), .int .u64 (el ws 7), .slice ta tl.length tc, .int .u64 size] 89)).alloc (.cells #[.int .i64 0, .int .u64 0, .int .u64 0, .int .u64 0, .int .u64 0, .int .u64 0, .int .u64 0, .int .u64 0, .int .u64 0, .slice none 0 0, .int .u64 0] 89)) := keep_trans (keep_alloc _ _) (keep_alloc _ _)
  have hH0 : Hb ((w.alloc (.cells #[.int .i64 kind, .int .u64 (el ws 0), .int .u64 (el ws 1), .int .u64 (el ws 2), .int .u64 (el ws 3), .int .u64 (el ws 4), .int .u64 (el ws 5), .int .u64 (el ws 6), .int .u64 (el ws 7), .slice ta tl.length tc, .int .u64 size] 89)).alloc (.cells #[.int .i64 0, .int .u64 0, .int .u64 0, .int .u64 0, .int .u64 0, .int .u64 0, .int .u64 0, .int .u64 0, .int .u64 0, .slice none 0 0, .int .u64 0] 89)) w.heap.size kind ws (.slice ta tl.length tc) size := (Hb.new w kind ws (.slice ta tl.length tc) size).below (keep_alloc _ _)
  have hO0 : El ((w.alloc (.cells #[.int .i64 kind, .int .u64 (el ws 0), .int .u64 (el ws 1), .int .u64 (el ws 2), .int .u64 (el ws 3), .int .u64 (el ws 4), .int .u64 (el ws 5), .int .u64 (el ws 6), .int .u64 (el ws 7), .slice ta tl.length tc, .int .u64 size] 89)).alloc (.cells #[.int .i64 0, .int .u64 0, .int .u64 0, .int .u64 0, .int .u64 0, .int .u64 0, .int .u64 0, .int .u64 0, .int .u64 0, .slice none 0 0, .int .u64 0] 89)) (w.heap.size + 1) := by
    have := (Hb.new (w.alloc (.cells (hv kind ws (.slice ta tl.length tc) size) 89)) 0 (List.replicate 8 0) (.slice none 0 0) 0).elev
    rw [World.size_alloc] at this
    exact this
  have hrt := hRt.below hb0
  have hrb := hRb.below hb0
  have hfl : ([tl, b] : List (List Nat)).flatten = tl ++ b := by simp
  have hjl : ([tl, b] : List (List Nat)).flatten.length ≤ 2000000 := by rw [hfl, List.length_append]; omega
  obtain ⟨N, hN⟩ : ∃ N, N = size + b.length := ⟨_, rfl⟩
  have hsum : (size : Int) + (b.length : Int) = (N : Int) := by omega
  have hwr : IntKind.u64.wrap (N : Int) = (N : Int) := by rw [IntKind.wrap_u64]; omega
  have hwr2 : IntKind.u64.wrap (b.length : Int) = (b.length : Int) := by rw [IntKind.wrap_u64]; omega
  have HN := hide hN
  have HO := hide hO0
  have HH := hide hH0
  have HB := hide hb0
  clear hN hO0 hH0 hb0
  have huv : hv kind ws (.slice ta tl.length tc) size = #[.int .i64 kind, .int .u64 (el ws 0), .int .u64 (el ws 1), .int .u64 (el ws 2), .int .u64 (el ws 3), .int .u64 (el ws 4), .int .u64 (el ws 5), .int .u64 (el ws 6), .int .u64 (el ws 7), .slice ta tl.length tc, .int .u64 size] := rfl
  rw [huv]
  clear huv
  go_enter Tryz.func62, Tryz.ntmps62
  go_wp2_with fail
  refine (hblk _).mono ?_
  rintro e w9 ⟨rfl, rfl⟩
  have hrr := rows_lit2 hrt hrb tT tB
  rw [World.size_alloc, World.size_alloc] at hrr
  go_wp2_with fail
  refine (rjoin_any _ [tl, b] _ hrr hjl).mono ?_
  rintro e w1 ⟨v1, rfl, hO1, hb1⟩
  rw [hfl] at hO1
  have hH1 := (HH.out.below (keep_alloc _ _)).below hb1
  have hE1 := (HO.out.below (keep_alloc _ _)).below hb1
  have hbw1 : Below w.heap.size w w1 := keep_trans (keep_trans HB.out (keep_alloc _ _)) hb1
  have hs1 : w.heap.size + 3 ≤ w1.heap.size := by have := hb1.size; simp at this; omega
  have hO1' : Own 5 .u8 256 w1 (w.heap.size + 2) v1 (tl ++ b) := hO1.mono (by simp)
  clear HH HO HB hb1 hrr hrt hrb hO1
  have z10 := hH1.size
  have f10 := hH1.frozen 10
  have hR1 := hO1'.row
  have hT1 := hO1'.tidy
  have hA1 : Away w.heap.size v1 (tl ++ b) := hO1'.away (by omega)
  have hA2 : Away (w.heap.size + 1) v1 (tl ++ b) := hO1'.away (by omega)
  obtain ⟨a1, c1, rfl⟩ := hR1.form
  have hH2 := hH1.setSize N
  have hBq : But w.heap.size w1 (w1.setCell ⟨w.heap.size, 10, none⟩ (.int .u64 (N : Int))) := (But.refl _ _).setCell 10 _
  have hR2 := hR1.but hA1 hBq
  have hE2 : El (w1.setCell ⟨w.heap.size, 10, none⟩ (.int .u64 (N : Int))) (w.heap.size + 1) := by
    obtain ⟨cs, h1, h2⟩ := hE1
    exact ⟨cs, h1, (hBq.block _ (by omega) (by omega)).trans h2⟩
  have hbw2 := hbw1.trans (hBq.below (Nat.le_refl _) hbw1.size)
  go_wp2
  generalize w1.setCell ⟨w.heap.size, 10, none⟩ (.int .u64 (N : Int)) = x2 at *
  rw [← List.length_append] at *
  clear hH1 hE1 hbw1 hs1 hR1 z10 f10 hBq
  go_loopw [6] (fun u wr => RAdd64 w kind (.slice ta tl.length tc) N ws (tl ++ b) u wr) (fun u _ => slen u)
  case atStart => exact ⟨tl ++ b, ws, by rw [List.length_append]; omega, rfl, hR2, hA1, hA2, hT1, hH2, hE2, hbw2, rfl, rfl, h8, hu⟩
  case round =>
    clear hR2 hA1 hA2 hT1 hH2 hE2 hbw2
    obtain ⟨L, H, hLl, hsl, hRL, hAL, hAL2, hTL, hHr, hEr, hbr, hE, hLf, hH8, hHu⟩ := hrel
    have HE := hide hE
    have HF := hide hLf
    have hlu := hRL.under
    clear hE hLf
    obtain ⟨a, cap, rfl, g1, g2, g3, g4⟩ := hRL
    have hRL : Row .u8 256 wr (.slice a L.length cap) L := ⟨a, cap, rfl, g1, g2, g3, g4⟩
    unfold maxLen at g2
    by_cases hlt : 128 ≤ L.length
    · obtain ⟨bb, off, rfl, hc⟩ := g3 (by omega)
      clear hc g3
      have hRt := hRL.cut (M := 128) hlt
      have hcl : (L.take 128).length = 128 := by rw [List.length_take]; omega
      have hC8 := comp_length true H (L.take 128)
      have hCu := comp_under true H (L.take 128)
      have hcall : ∀ w0, Below wr.heap.size wr w0 → Calls Tryz.prog 73 #[.agg #[.int .u64 (el H 0), .int .u64 (el H 1), .int .u64 (el H 2), .int .u64 (el H 3), .int .u64 (el H 4), .int .u64 (el H 5), .int .u64 (el H 6), .int .u64 (el H 7)], .slice (some ⟨bb, off, none⟩) 128 cap, .bool true] w0 fun e w' => e = .returned (.agg (arr .u64 (comp true H (L.take 128)))) ∧ Below w0.heap.size w0 w' := fun w0 h0 => by
        rw [← arr8 .u64 H hH8]
        exact rblock_any64 H (L.take 128) _ w0 (hRt.below h0) hcl hH8 hHu
      generalize hCC : comp true H (L.take 128) = C at *
      have HCC := hide hCC
      clear hCC
      rw [arr8 .u64 C hC8] at hcall
      obtain ⟨z0, z1, z2, z3, z4, z5, z6, z7, z8, z9, z10⟩ := hHr.all
      have hcp : (128 : Int) ≤ (cap : Int) := by omega
      have hcp2 : 128 ≤ cap := by omega
      go_wp2
      go_region_with (first | (go_at_call 73; refine (hcall _ (by first | exact Below.refl _ _ | exact (Below.refl _ _).drew)).mono ?_; rintro e w5 ⟨rfl, hb5⟩; have hb5 : Below wr.heap.size wr w5 := (by first | exact hb5 | exact un_drew hb5); have hH5 := hHr.below hb5; obtain ⟨y0, y1, y2, y3, y4, y5, y6, y7, y8, y9, y10⟩ := hH5.all; have p1 := hH5.frozen 1; have p2 := hH5.frozen 2; have p3 := hH5.frozen 3; have p4 := hH5.frozen 4; have p5 := hH5.frozen 5; have p6 := hH5.frozen 6; have p7 := hH5.frozen 7; have p8 := hH5.frozen 8))
      have hfw : Hb ((((((((w5.setCell ⟨w.heap.size, 1, none⟩ (.int .u64 (el C 0))).setCell ⟨w.heap.size, 2, none⟩ (.int .u64 (el C 1))).setCell ⟨w.heap.size, 3, none⟩ (.int .u64 (el C 2))).setCell ⟨w.heap.size, 4, none⟩ (.int .u64 (el C 3))).setCell ⟨w.heap.size, 5, none⟩ (.int .u64 (el C 4))).setCell ⟨w.heap.size, 6, none⟩ (.int .u64 (el C 5))).setCell ⟨w.heap.size, 7, none⟩ (.int .u64 (el C 6))).setCell ⟨w.heap.size, 8, none⟩ (.int .u64 (el C 7))) w.heap.size kind C (.slice ta tl.length tc) N := hH5.setWords C
      have hBB : But w.heap.size w5 ((((((((w5.setCell ⟨w.heap.size, 1, none⟩ (.int .u64 (el C 0))).setCell ⟨w.heap.size, 2, none⟩ (.int .u64 (el C 1))).setCell ⟨w.heap.size, 3, none⟩ (.int .u64 (el C 2))).setCell ⟨w.heap.size, 4, none⟩ (.int .u64 (el C 3))).setCell ⟨w.heap.size, 5, none⟩ (.int .u64 (el C 4))).setCell ⟨w.heap.size, 6, none⟩ (.int .u64 (el C 5))).setCell ⟨w.heap.size, 7, none⟩ (.int .u64 (el C 6))).setCell ⟨w.heap.size, 8, none⟩ (.int .u64 (el C 7))) := (But.setCell (But.setCell (But.setCell (But.setCell (But.setCell (But.setCell (But.setCell (But.setCell (But.refl w.heap.size w5) _ _) _ _) _ _) _ _) _ _) _ _) _ _) _ _)
      have hRf := (hRL.below hb5).but hAL hBB
      have hEf : El ((((((((w5.setCell ⟨w.heap.size, 1, none⟩ (.int .u64 (el C 0))).setCell ⟨w.heap.size, 2, none⟩ (.int .u64 (el C 1))).setCell ⟨w.heap.size, 3, none⟩ (.int .u64 (el C 2))).setCell ⟨w.heap.size, 4, none⟩ (.int .u64 (el C 3))).setCell ⟨w.heap.size, 5, none⟩ (.int .u64 (el C 4))).setCell ⟨w.heap.size, 6, none⟩ (.int .u64 (el C 5))).setCell ⟨w.heap.size, 7, none⟩ (.int .u64 (el C 6))).setCell ⟨w.heap.size, 8, none⟩ (.int .u64 (el C 7))) (w.heap.size + 1) := (hEr.below hb5).but hBB (by omega)
      have hbf : Below w.heap.size w ((((((((w5.setCell ⟨w.heap.size, 1, none⟩ (.int .u64 (el C 0))).setCell ⟨w.heap.size, 2, none⟩ (.int .u64 (el C 1))).setCell ⟨w.heap.size, 3, none⟩ (.int .u64 (el C 2))).setCell ⟨w.heap.size, 4, none⟩ (.int .u64 (el C 3))).setCell ⟨w.heap.size, 5, none⟩ (.int .u64 (el C 4))).setCell ⟨w.heap.size, 6, none⟩ (.int .u64 (el C 5))).setCell ⟨w.heap.size, 7, none⟩ (.int .u64 (el C 6))).setCell ⟨w.heap.size, 8, none⟩ (.int .u64 (el C 7))) := (hbr.trans (hb5.mono hbr.size)).trans (hBB.below (Nat.le_refl _) (by have := hbr.size; have := hb5.size; omega))
      clear hcp hcp2 y0 y1 y2 y3 y4 y5 y6 y7 y8 y9 y10 z0 z1 z2 z3 z4 z5 z6 z7 z8 z9 z10 p1 p2 p3 p4 p5 p6 p7 p8
      generalize ((((((((w5.setCell ⟨w.heap.size, 1, none⟩ (.int .u64 (el C 0))).setCell ⟨w.heap.size, 2, none⟩ (.int .u64 (el C 1))).setCell ⟨w.heap.size, 3, none⟩ (.int .u64 (el C 2))).setCell ⟨w.heap.size, 4, none⟩ (.int .u64 (el C 3))).setCell ⟨w.heap.size, 5, none⟩ (.int .u64 (el C 4))).setCell ⟨w.heap.size, 6, none⟩ (.int .u64 (el C 5))).setCell ⟨w.heap.size, 7, none⟩ (.int .u64 (el C 6))).setCell ⟨w.heap.size, 8, none⟩ (.int .u64 (el C 7))) = wf at *
      obtain ⟨A, hsf, hA⟩ := slice_from (some ⟨bb, off, none⟩) L.length cap 128 hlt g1
      have hbz : bz true = 128 := rfl
      have hdl : (L.drop 128).length = L.length - 128 := List.length_drop
      have k1 := hRf.behind hlt hA
      have k2 := hAL.behind (n' := L.length - 128) (c' := cap - 128) hA
      have k3 := hAL2.behind (n' := L.length - 128) (c' := cap - 128) hA
      have k4 := hTL.behind hlt hA
      have k5 : eat true ws (tl ++ b) = eat true C (L.drop 128) := by rw [HE.out, eat_step (by rw [hbz]; exact hlt), hbz, HCC.out]
      have k6 : left true (tl ++ b) = left true (L.drop 128) := by rw [HF.out, left_step (by rw [hbz]; exact hlt), hbz]
      have hrl : RAdd64 w kind (.slice ta tl.length tc) N ws (tl ++ b) (.slice A (L.length - 128) (cap - 128)) wf :=
        ⟨L.drop 128, C, by omega, by simp [slen], k1, k2, k3, k4, hfw, hEf, hbf, k5, k6, hC8, hCu⟩
      have hAe : A = if cap = 128 then some ⟨bb, off, none⟩ else some ⟨bb, off + 128, none⟩ := by
        have h1 := hsf wf
        obtain ⟨i0, hi0, _, hz1, _⟩ := info_parts Tryz.info5
        have h : (128 : Int) ≤ (L.length : Int) := by omega
        simp [Instr.slice, Instr.sliceBounds, Instr.sliceBound, asIntOf, Sem.run_bind, run_underlying Tryz.underlying27, h, hlt, sizeOf, typeInfo, hi0, hz1, Addr.add_lit] at h1
        exact h1.symm
      rw [hAe] at hrl
      have HRL := hide hrl
      clear hrl hAe hsf k1 k2 k3 k4 k5 k6 hfw hEf hbf hRf hA
      by_cases hc64 : cap = 128
      · have hrl := HRL.out
        rw [if_pos hc64] at hrl
        go_wp2
        go_roundw
        case rel => first | exact hrl | simpa [hc64] using hrl
        case measure => simp [slen]; omega
      · have hrl := HRL.out
        rw [if_neg hc64] at hrl
        go_wp2
        go_roundw
        case rel => first | exact hrl | simpa [hc64] using hrl
        case measure => simp [slen]; omega
    · have hl9 : left true (tl ++ b) = L := by rw [HF.out, left_short (by show _ < 128; omega)]
      have he9 : eat true ws (tl ++ b) = H := by rw [HE.out, eat_short (by show _ < 128; omega)]
      have HL9 := hide hl9
      have HE9 := hide he9
      clear hl9 he9
      have f9 := hHr.frozen 9
      have hH9 := hHr.setTail (.slice a L.length cap)
      have hB9 : But w.heap.size wr (wr.setCell ⟨w.heap.size, 9, none⟩ (.slice a L.length cap)) := (But.refl _ _).setCell 9 _
      have hE9 := hEr.but hB9 (by omega)
      have hb9 := hbr.trans (hB9.below (Nat.le_refl _) hbr.size)
      have hR9 := hRL.but hAL hB9
      have HB9 := hide hb9
      have HR9 := hide hR9
      clear hb9 hR9
      obtain ⟨old, ho1, ho2⟩ := hE9
      have hHn : (wr.setCell ⟨w.heap.size, 9, none⟩ (.slice a L.length cap)).heap[w.heap.size]? = some (.cells (hv kind H (.slice a L.length cap) N) 89 (0, 0)) := hH9
      have hsz11 : (hv kind H (.slice a L.length cap) N).size = 11 := rfl
      have hfu := setRow_heap (wr.setCell ⟨w.heap.size, 9, none⟩ (.slice a L.length cap)) (w.heap.size + 1) old (hv kind H (.slice a L.length cap) N) 89 _ ho2
      have hBf : But (w.heap.size + 1) (wr.setCell ⟨w.heap.size, 9, none⟩ (.slice a L.length cap)) ((wr.setCell ⟨w.heap.size, 9, none⟩ (.slice a L.length cap)).setRow (w.heap.size + 1) (hv kind H (.slice a L.length cap) N)) := (But.refl _ _).setRow _
      have c9 := hHr.tail
      have HFU := hide hfu
      have HBF := hide hBf
      clear hfu hBf hB9 hH9
      go_wp2_with (first
        | (refine wpList_load_row rfl 89 _ (by rfl) w.heap.size (by rfl) _ _ _ _ hHn Tryz.underlying89 rfl (by kernel_rfl) ?_)
        | (refine wpList_store_row rfl 89 _ _ (by rfl) (w.heap.size + 1) (hv kind H (.slice a L.length cap) N) (by rfl) (by rfl) _ _ ho2 (by kernel_rfl) (by rw [ho1, hsz11]) (by simp [hv, Value.oneCell']) ?_)
        | fail)
      have hBf := HBF.out
      refine bodyPost_ret (v := .agg (hv kind H (.slice a L.length cap) N)) ?_ ?_ ?_
      · exact results_cell_row Tryz.results62 _ _ (w.heap.size + 1) _ _ _ _ (by rfl) HFU.out Tryz.underlying89 rfl (by kernel_rfl)
      · rfl
      · exact ⟨_, by rw [HE9.out, ← HN.out], by rw [HL9.out]; exact HR9.out.but hAL2 hBf, hTL, HB9.out.trans (hBf.below (by omega) (by have := HB9.out.size; omega))⟩
end Go.Proofs.YtpmobjfhhkglbaaGreatDoor
