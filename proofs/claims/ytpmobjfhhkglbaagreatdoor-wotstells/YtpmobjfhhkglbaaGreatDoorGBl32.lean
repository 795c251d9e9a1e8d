/- Contract of the document's block, of words of 32 bits. -/
import Derived.Test.YtpmobjfhhkglbaaGreatDoorGWd32
import Derived.Test.YtpmobjfhhkglbaaGreatDoorHTur32
import Derived.Test.YtpmobjfhhkglbaaGreatDoorBitm
import Derived.Laws.AppendOwnNone
import Derived.Test.YtpmobjfhhkglbaaGreatDoorHHsh
namespace Go.Proofs.YtpmobjfhhkglbaaGreatDoor
open Go.RowKit
set_option linter.unusedVariables false
set_option linter.unusedSimpArgs false

theorem rchs32 (e f g : Nat) (he : e < 4294967296) (hf : f < 4294967296) (hg : g < 4294967296) : bits .xor .u64 (bits .and .u64 (e : Int) (f : Int)) (bits .and .u64 (bits .xor .u64 4294967295 (e : Int)) (g : Int)) = ((chs false e f g : Nat) : Int) := by
  have hn : bits .xor .u64 4294967295 (e : Int) = ((4294967296 - 1 - e : Nat) : Int) := by
    rw [show (4294967295 : Int) = ((4294967296 - 1 : Nat) : Int) from rfl, u64_xor_nat _ _ (by decide) (by omega), ← ones_xor 32 e he]
  rw [hn, and_is64 e f (by omega) (by omega), and_is64 _ g (by omega) (by omega), xor_is64 _ _ (Nat.lt_of_le_of_lt Nat.and_le_left (by omega)) (Nat.lt_of_le_of_lt Nat.and_le_left (by omega))]
  rfl
theorem rr032 (s : List Nat) (k w : Nat) : ((((((el s 7 + turn3 false 6 11 25 (el s 4)) % 18446744073709551616 + chs false (el s 4) (el s 5) (el s 6)) % 18446744073709551616 + k) % 18446744073709551616 + w) % 18446744073709551616 + (turn3 false 2 13 22 (el s 0) + maj (el s 0) (el s 1) (el s 2)) % 18446744073709551616) % 18446744073709551616) % 4294967296 = el (rnd false k w s) 0 := by
  show _ = (tOne false s k w + tTwo false s) % wm false
  unfold tOne tTwo
  simp only [gS0, gS1, wm, cond_true, cond_false]
  omega
theorem rr432 (s : List Nat) (k w : Nat) : ((el s 3 + ((((el s 7 + turn3 false 6 11 25 (el s 4)) % 18446744073709551616 + chs false (el s 4) (el s 5) (el s 6)) % 18446744073709551616 + k) % 18446744073709551616 + w) % 18446744073709551616) % 18446744073709551616) % 4294967296 = el (rnd false k w s) 4 := by
  show _ = (el s 3 + tOne false s k w) % wm false
  unfold tOne
  simp only [gS0, gS1, wm, cond_true, cond_false]
  omega
theorem addS_get32 (h s : List Nat) (j : Nat) (hj : j < s.length) : el (addW false h s j ++ s.drop j) j = el s j := by
  rw [el_app_right (by rw [addW_length]; omega), addW_length, el_drop, Nat.sub_self]; rfl
theorem addS_set32 (h s : List Nat) (j : Nat) (hj : j < s.length) : (addW false h s j ++ s.drop j).set j ((el s j + el h j) % wm false) = addW false h s (j + 1) ++ s.drop (j + 1) := by
  have e : addW false h s (j + 1) = addW false h s j ++ [(el s j + el h j) % wm false] := by simp [addW, List.range_succ]
  rw [e, drop_el hj, List.append_assoc, List.set_append_right _ _ (by rw [addW_length]; omega), addW_length, Nat.sub_self]
  rfl
theorem eight32 {t : TypeId} {w : World} {g : Nat} {l : List Nat} (h : Lies .u64 t w g l) (h8 : l.length = 8) : w.cell? ⟨g, 0, none⟩ = some (.int .u64 (el l 0)) ∧ w.cell? ⟨g, 1, none⟩ = some (.int .u64 (el l 1)) ∧ w.cell? ⟨g, 2, none⟩ = some (.int .u64 (el l 2)) ∧ w.cell? ⟨g, 3, none⟩ = some (.int .u64 (el l 3)) ∧ w.cell? ⟨g, 4, none⟩ = some (.int .u64 (el l 4)) ∧ w.cell? ⟨g, 5, none⟩ = some (.int .u64 (el l 5)) ∧ w.cell? ⟨g, 6, none⟩ = some (.int .u64 (el l 6)) ∧ w.cell? ⟨g, 7, none⟩ = some (.int .u64 (el l 7)) :=
  ⟨h.cell (by omega), h.cell (by omega), h.cell (by omega), h.cell (by omega), h.cell (by omega), h.cell (by omega), h.cell (by omega), h.cell (by omega)⟩
theorem set832 (s : List Nat) (h : s.length = 8) (a b c d e f g i : Nat) : (((((((s.set 0 a).set 1 b).set 2 c).set 3 d).set 4 e).set 5 f).set 6 g).set 7 i = [a, b, c, d, e, f, g, i] := by
  match s, h with
  | [_, _, _, _, _, _, _, _], _ => rfl
set_option maxHeartbeats 8000000 in
set_option maxRecDepth 100000 in
theorem rblock_any32 (hs l : List Nat) (v : Value) (w : World) (hR : Row .u8 256 w v l) (hl : l.length = 64) (h8 : hs.length = 8) (hhu : Under 4294967296 hs) :
    Calls Tryz.prog 73 #[.agg (arr .u64 hs), v, .bool false] w fun e w' => e = .returned (.agg (arr .u64 (comp false hs l))) ∧ Below w.heap.size w w' := by
  have hz := zero64
  have hz2 := zero8064
  have hO : Lies .u64 87 ((w.alloc (.cells (arr .u64 hs) 87)).alloc (.cells #[.int .u64 0, .int .u64 0, .int .u64 0, .int .u64 0, .int .u64 0, .int .u64 0, .int .u64 0, .int .u64 0] 87)) (w.heap.size + 1) (List.replicate 8 0) := by
    have := Lies.new .u64 87 (w.alloc (.cells (arr .u64 hs) 87)) (List.replicate 8 0)
    rw [World.size_alloc] at this
    exact this
  have hH : Lies .u64 87 ((w.alloc (.cells (arr .u64 hs) 87)).alloc (.cells #[.int .u64 0, .int .u64 0, .int .u64 0, .int .u64 0, .int .u64 0, .int .u64 0, .int .u64 0, .int .u64 0] 87)) w.heap.size hs := (Lies.new .u64 87 w hs).alloc _
  have hb0 := keep_trans (keep_alloc w (.cells (arr .u64 hs) 87)) (keep_alloc _ (.cells #[.int .u64 0, .int .u64 0, .int .u64 0, .int .u64 0, .int .u64 0, .int .u64 0, .int .u64 0, .int .u64 0] 87))
  go_enter Tryz.func73, Tryz.ntmps73
  go_wp2_with fail
  refine (roots256_any _).mono ?_
  rintro e w1 ⟨rfl, hb1⟩
  have hO1 := hO.below hb1
  have hH1 := hH.below hb1
  have hb1' := keep_trans hb0 hb1
  clear hO hH hb0 hb1
  have hK1 : Lies .u64 111 (w1.alloc (.cells (arr .u64 (List.replicate 64 0)) 111)) w1.heap.size (List.replicate 64 0) := Lies.new _ _ w1 _
  go_wp2_with (first
    | (refine wpList_store_row rfl 111 _ _ (by rfl) w1.heap.size (arr .u64 k256) (by rfl) (by rfl) _ _ hK1 (by kernel_rfl) (by rw [arr_size, arr_size, List.length_replicate, k256_length]) (arr_one _ _) ?_)
    | fail)
  have hK1' := hK1.row (l' := k256)
  have hB1 : Below w1.heap.size w1 _ := (keep_alloc w1 (.cells (arr .u64 (List.replicate 64 0)) 111)).trans ((But.setRow (But.refl w1.heap.size _) (arr .u64 k256)).below (Nat.le_refl _) (by simp))
  refine (roots512_any _).mono ?_
  rintro e w2 ⟨rfl, hb2⟩
  have hO2 : Lies .u64 87 w2 (w.heap.size + 1) (List.replicate 8 0) := (hO1.below hB1).below hb2
  have hH2 : Lies .u64 87 w2 w.heap.size hs := (hH1.below hB1).below hb2
  have hK2 : Lies .u64 111 w2 w1.heap.size k256 := hK1'.below hb2
  have hb2' : Below w.heap.size w w2 := keep_trans hb1' (keep_trans hB1 hb2)
  clear hO1 hH1 hK1 hK1' hB1 hb2 hb1'
  have hC2 : Lies .u64 113 (w2.alloc (.cells (arr .u64 (List.replicate 80 0)) 113)) w2.heap.size (List.replicate 80 0) := Lies.new _ _ w2 _
  have hC2' := hC2.row (l' := cubes)
  have hB2 : Below w2.heap.size w2 _ := (keep_alloc w2 (.cells (arr .u64 (List.replicate 80 0)) 113)).trans ((But.setRow (But.refl w2.heap.size _) (arr .u64 cubes)).below (Nat.le_refl _) (by simp))
  go_wp2_with (first
    | (refine wpList_store_row rfl 113 _ _ (by rfl) w2.heap.size (arr .u64 cubes) (by rfl) (by rfl) _ _ hC2 (by kernel_rfl) (by rw [arr_size, arr_size, List.length_replicate, cubes_length]) (arr_one _ _) ?_)
    | fail)
  refine (words_any32 v l _ ((hR.below hb2').below hB2) hl).mono ?_
  rintro e w3 ⟨wv, rfl, hW, hb3⟩
  have hO3 : Lies .u64 87 w3 (w.heap.size + 1) (List.replicate 8 0) := (hO2.below hB2).below hb3
  have hH3 : Lies .u64 87 w3 w.heap.size hs := (hH2.below hB2).below hb3
  have hK3 : Lies .u64 111 w3 w1.heap.size k256 := (hK2.below hB2).below hb3
  have hC3 : Lies .u64 113 w3 w2.heap.size cubes := hC2'.below hb3
  have hb3' : Below w.heap.size w w3 := keep_trans hb2' (keep_trans hB2 hb3)
  have hWl : (sched false l 48).length = 64 := by rw [sched_length]
  have hWr := hW.row
  have hcmp : comp false hs l = addW false hs (rndN false (ks false) (sched false l 48) 64 hs) 8 := rfl
  have HCMP := hide hcmp
  clear hO2 hH2 hK2 hC2 hC2' hB2 hb2' hW hb3 hcmp
  generalize sched false l 48 = S at *
  obtain ⟨wa, wc, rfl, hw1, hw2, hw3⟩ := hWr.opens hWl
  obtain ⟨wbk, woff, rfl, hwc⟩ := hw3 (by decide)
  clear hw3 hwc
  have hV3 : Lies .u64 87 (w3.alloc (.cells #[.int .u64 0, .int .u64 0, .int .u64 0, .int .u64 0, .int .u64 0, .int .u64 0, .int .u64 0, .int .u64 0] 87)) w3.heap.size (List.replicate 8 0) := Lies.new .u64 87 w3 (List.replicate 8 0)
  go_wp2_with (first
    | (refine wpList_load_row rfl 87 _ (by rfl) w.heap.size (by rfl) _ _ _ (.array 8 26) hH3 (by kernel_rfl) rfl (by rw [arr_size, h8]; kernel_rfl) ?_)
    | (refine wpList_store_row rfl 87 _ _ (by rfl) w3.heap.size (arr .u64 hs) (by rfl) (by rfl) _ _ hV3 (by rw [arr_size, h8]; kernel_rfl) (by rw [arr_size, arr_size, h8, List.length_replicate]) (arr_one _ _) ?_)
    | fail)
  have hB3 : Below w3.heap.size w3 ((w3.alloc (.cells #[.int .u64 0, .int .u64 0, .int .u64 0, .int .u64 0, .int .u64 0, .int .u64 0, .int .u64 0, .int .u64 0] 87)).setRow w3.heap.size (arr .u64 hs)) := (keep_alloc w3 _).trans ((But.setRow (But.refl w3.heap.size _) (arr .u64 hs)).below (Nat.le_refl _) (by simp))
  have hV4 := hV3.row (l' := hs)
  have hO4 := hO3.below hB3
  have hH4 := hH3.below hB3
  have hK4 := hK3.below hB3
  have hC4 := hC3.below hB3
  have hW4 := hWr.below hB3
  have hb4 := keep_trans hb3' hB3
  have hoO : w.heap.size + 1 ≠ w3.heap.size := by have := hO3.lt; omega
  have hoH : w.heap.size ≠ w3.heap.size := by have := hH3.lt; omega
  have hoK : w1.heap.size ≠ w3.heap.size := by have := hK3.lt; omega
  have hoC : w2.heap.size ≠ w3.heap.size := by have := hC3.lt; omega
  have hoW : Away w3.heap.size (.slice (some ⟨wbk, woff, none⟩) 64 wc) S := hWr.away (Nat.le_refl _)
  have hlo : w.heap.size ≤ w3.heap.size := hb3'.size
  clear hO3 hH3 hK3 hC3 hWr hb3' hV3 hB3 hR
  generalize (w3.alloc (.cells #[.int .u64 0, .int .u64 0, .int .u64 0, .int .u64 0, .int .u64 0, .int .u64 0, .int .u64 0, .int .u64 0] 87)).setRow w3.heap.size (arr .u64 hs) = w4 at *
  generalize w3.heap.size = q at *
  go_loopw [13] (fun i wr => ∃ k : Nat, k ≤ 64 ∧ i = .int .i64 k ∧ Lies .u64 87 wr q (rndN false (ks false) S k hs) ∧ But q w4 wr) (fun i _ => 64 - (intOf i).toNat)
  case atStart => exact ⟨0, Nat.zero_le _, rfl, hV4, But.refl _ _⟩
  case round =>
    obtain ⟨k, hk, rfl, hVr, hBr⟩ := hrel
    clear hV4
    have hsu := rndN_under (b := false) (ks := ks false) (ws := S) hhu k
    have hs8 : (rndN false (ks false) S k hs).length = 8 := rndN_length h8 k
    by_cases hlt : k < 64
    · have hnx : rndN false (ks false) S (k + 1) hs = rnd false (el (ks false) k) (el S k) (rndN false (ks false) S k hs) := rfl
      have HNX := hide hnx
      clear hnx
      generalize rndN false (ks false) S k hs = s at *
      have u := fun i => el_lt hsu (wm_pos false) i
      have u0 : el s 0 < 4294967296 := u 0
      have u1 : el s 1 < 4294967296 := u 1
      have u2 : el s 2 < 4294967296 := u 2
      have u4 : el s 4 < 4294967296 := u 4
      have u5 : el s 5 < 4294967296 := u 5
      have u6 : el s 6 < 4294967296 := u 6
      clear u
      obtain ⟨z0, z1, z2, z3, z4, z5, z6, z7⟩ := eight32 hVr hs8
      go_wp2_with fail
      refine (rmix_any false false (el s 0) 2 13 22 _ (by omega) (by decide) (by decide) (by decide)).mono ?_
      rintro e w5 ⟨rfl, hb5⟩
      replace hVr := hVr.below hb5
      replace hBr := hBr.trans (But.of_below hb5)
      obtain ⟨z0, z1, z2, z3, z4, z5, z6, z7⟩ := eight32 hVr (by assumption)
      go_wp2_with fail
      refine (rmix_any false false (el s 4) 6 11 25 _ (by omega) (by decide) (by decide) (by decide)).mono ?_
      rintro e w6 ⟨rfl, hb6⟩
      replace hVr := hVr.below hb6
      replace hBr := hBr.trans (But.of_below hb6)
      obtain ⟨z0, z1, z2, z3, z4, z5, z6, z7⟩ := eight32 hVr (by assumption)
      have hCr := hK4.but hBr hoK
      have ck := hCr.cell (i := k) (by rw [k256_length]; omega)
      have hck : el k256 k = el (ks false) k := k256_el hlt
      rw [hck] at ck
      have hWk := hW4.but hoW hBr
      obtain ⟨_, _, hew, _, _, hwc⟩ := hWk.opens hWl
      simp only [Value.slice.injEq, true_and] at hew
      obtain ⟨rfl, rfl⟩ := hew
      obtain ⟨_, _, hew, hwc⟩ := hwc (by decide)
      simp only [Option.some.injEq, Addr.mk.injEq, and_true] at hew
      obtain ⟨rfl, rfl⟩ := hew
      have cw := hwc k hlt
      clear hwc hWk hck
      have ik0 : (0 : Int) ≤ (k : Int) := Int.natCast_nonneg _
      have ik1 : (k : Int) < 64 := by omega
      have p0 := hVr.frozen 0
      have p1 := hVr.frozen 1
      have p2 := hVr.frozen 2
      have p3 := hVr.frozen 3
      have p4 := hVr.frozen 4
      have p5 := hVr.frozen 5
      have p6 := hVr.frozen 6
      have p7 := hVr.frozen 7
      go_wp2
      go_quiet (fail)
      go_wp2
      rw [rmx_turn (b := false) u0 (by decide) (by decide) (by decide), rmx_turn (b := false) u4 (by decide) (by decide) (by decide), rchs32 _ _ _ u4 u5 u6, maj_is64 _ _ _ (by omega) (by omega) (by omega)]
      repeat rw [add_is64]
      rw [and_ones32 _ (Nat.mod_lt _ (by decide)), and_ones32 _ (Nat.mod_lt _ (by decide)), rr032, rr432]
      have hset := ((((((((hVr.drewN nq).set 0 (el (rnd false (el (ks false) k) (el S k) s) 0)).set 1 (el s 0)).set 2 (el s 1)).set 3 (el s 2)).set 4 (el (rnd false (el (ks false) k) (el S k) s) 4)).set 5 (el s 4)).set 6 (el s 5)).set 7 (el s 6)
      rw [set832 s hs8] at hset
      refine ⟨⟨k + 1, by omega, by go_num, by rw [HNX.out]; exact hset, ?_⟩, by simp [intOf]; omega⟩
      exact ((((((((hBr.drewN nq).setCell _ _).setCell _ _).setCell _ _).setCell _ _).setCell _ _).setCell _ _).setCell _ _).setCell _ _
    · obtain rfl : k = 64 := by omega
      generalize hsR : rndN false (ks false) S 64 hs = s at *
      have HSR := hide hsR
      clear hsR
      have hVr0 : Lies .u64 87 wr q (addW false hs s 0 ++ s.drop 0) := hVr
      go_wp2
      go_loopw [19] (fun i wr => ∃ j : Nat, j ≤ 8 ∧ i = .int .i64 j ∧ Lies .u64 87 wr q (addW false hs s j ++ s.drop j) ∧ But q w4 wr) (fun i _ => 8 - (intOf i).toNat)
      case atStart => exact ⟨0, Nat.zero_le _, rfl, hVr0, hBr⟩
      case round =>
        clear hVr hVr0 hBr
        obtain ⟨j, hj, rfl, hVr, hBr⟩ := hrel
        by_cases hlt : j < 8
        · have hHr := hH4.but hBr hoH
          have c1 := hVr.cell (i := j) (by rw [List.length_append, addW_length, List.length_drop]; omega)
          rw [addS_get32 hs s j (by omega)] at c1
          have f1 := hVr.frozen j
          have c2 := hHr.cell (i := j) (by omega)
          have v1 : el s j < 4294967296 := el_lt hsu (wm_pos false) j
          have v2 : el hs j < 4294967296 := el_lt hhu (by decide) j
          have hst := hVr.set j ((el s j + el hs j) % 4294967296)
          have hse := addS_set32 hs s j (by omega)
          have hst' : Lies .u64 87 (wr.setCell ⟨q, j, none⟩ (.int .u64 (((el s j + el hs j) % 4294967296 : Nat) : Int))) q (addW false hs s (j + 1) ++ s.drop (j + 1)) := by rw [← hse]; exact hst
          have HST := hide hst'
          clear hst hse hst' hHr
          have hqn : w.heap.size ≠ q := hoH
          have ij0 : (0 : Int) ≤ (j : Int) := Int.natCast_nonneg _
          have ij1 : (j : Int) < 8 := by omega
          go_wp2
          go_region
          go_wp2
          rw [show (el s j : Int) + (el hs j : Int) = ((el s j + el hs j : Nat) : Int) by omega, and_ones32 _ (by omega)]
          exact ⟨⟨j + 1, by omega, by go_num, HST.out, (hBr.setCell j _).drew⟩, by simp [intOf]; omega⟩
        · obtain rfl : j = 8 := by omega
          rw [List.drop_of_length_le (by omega), List.append_nil] at hVr
          have hOr := hO4.but hBr hoO
          have h8a : (addW false hs s 8).length = 8 := addW_length _ _ _ _
          have hOf : Lies .u64 87 (wr.setRow (w.heap.size + 1) (arr .u64 (addW false hs s 8))) (w.heap.size + 1) (addW false hs s 8) := hOr.row
          have hbf : Below w.heap.size w (wr.setRow (w.heap.size + 1) (arr .u64 (addW false hs s 8))) := (hb4.trans (hBr.below hlo hb4.size)).trans ((But.setRow (But.refl (w.heap.size + 1) _) _).below (by omega) (by have := hb4.size; have := hBr.size; omega))
          go_wp2_with (first
            | (refine wpList_load_row rfl 87 _ (by rfl) q (by rfl) _ _ _ (.array 8 26) hVr (by kernel_rfl) rfl (by rw [arr_size, h8a]; kernel_rfl) ?_)
            | (refine wpList_store_row rfl 87 _ _ (by rfl) (w.heap.size + 1) (arr .u64 (addW false hs s 8)) (by rfl) (by rfl) _ _ hOr (by rw [arr_size, h8a]; kernel_rfl) (by rw [arr_size, arr_size, h8a, List.length_replicate]) (arr_one _ _) ?_)
            | fail)
          refine bodyPost_ret (v := .agg (arr .u64 (addW false hs s 8))) ?_ ?_ ?_
          · exact results_cell_row Tryz.results73 _ _ (w.heap.size + 1) _ _ _ (.array 8 26) (by rfl) hOf (by kernel_rfl) rfl (by rw [arr_size, h8a]; kernel_rfl)
          · rfl
          · exact ⟨by rw [HCMP.out], hbf⟩
end Go.Proofs.YtpmobjfhhkglbaaGreatDoor

/- Contract of apostilleref01.Join. -/
namespace Go.Proofs.YtpmobjfhhkglbaaGreatDoor
open Go.RowKit
set_option linter.unusedVariables false

set_option maxHeartbeats 2000000 in
theorem rjoin_any (va : Value) (ls : List (List Nat)) (w : World) (ha : Rows2 w va ls) (hs : ls.flatten.length ≤ 2000000) :
    Calls Tryz.prog 37 #[va] w fun e w' => ∃ v, e = .returned v ∧ Own 5 .u8 256 w' w.heap.size v ls.flatten ∧ Below w.heap.size w w' := by
  have hu := ha.under
  have ha' := ha
  obtain ⟨a, ca, rfl, ha1, ha2, ha3⟩ := ha
  unfold maxLen at ha2
  obtain ⟨i0, hi, hz0, hz1, hz2⟩ := info_parts Tryz.info5
  go_enter Tryz.func37, Tryz.ntmps37
  go_wp2
  go_loopw [3, 4] (fun v i wr => ∃ k : Nat, k ≤ ls.length ∧ i = .int .i64 k ∧ wr.ownsRow w.heap.size 5 1 v (ls.take k).flatten.length (vals .u8 (ls.take k).flatten) ∧ Below w.heap.size w wr) (fun _ i _ => ls.length - (intOf i).toNat)
  case atStart => exact ⟨0, Nat.zero_le _, rfl, World.ownsRow_nil _ _ _ _, Below.refl _ _⟩
  case round =>
    obtain ⟨k, hk, rfl, how, hbr⟩ := hrel
    by_cases hlt : k < ls.length
    · have hf := flat_succ hlt
      have hle := flat_le ls (k + 1)
      rw [hf, List.length_append] at hle
      obtain ⟨a2, ca2, he, _, _, h3⟩ := ha'.below hbr
      obtain ⟨rfl, rfl⟩ : a = a2 ∧ ca = ca2 := by simpa using he
      obtain ⟨b, off, rfl, hc⟩ := h3 (by omega)
      obtain ⟨u, c1, ⟨au, cu, rfl, hu1, hu2, hu3, hu4⟩, htidy⟩ := hc k hlt
      clear hc h3 he ha3
      have hsz := hbr.size
      have HF := hide hf
      clear hf
      generalize hM : (ls.take k).flatten = M at *
      have HM := hide hM
      clear hM
      generalize hT : tx ls k = T at *
      have HT := hide hT
      clear hT
      cases au with
      | none =>
        obtain ⟨h0, rfl⟩ := htidy _ _ rfl
        have hT0 : T = [] := List.eq_nil_of_length_eq_zero h0
        subst hT0
        go_wp2_with (first | (at_builtin; refine wpList_append_own_none rfl _ _ 27 rfl w.heap.size 5 i0 1 Tryz.underlying27 hi _ _ _ rfl how rfl ?_) | fail)
        go_roundw
        case rel => exact ⟨k + 1, by omega, by go_num, by rw [HF.out, List.append_nil]; exact how, hbr⟩
        case measure => simp [intOf]; omega
      | some x =>
        go_wp2_with (first | (at_builtin; refine wpList_append_own _ rfl _ _ 27 rfl w.heap.size 5 i0 (.int .u8 0) 1 1 Tryz.underlying27 hi hz0 hz1 hz2 rfl (by decide) _ _ _ rfl how x T.length cu (vals .u8 T) rfl (by rw [vals_length, Nat.mul_one]) (cells_news hu3) (vals_one _ _) (by unfold maxLen; omega) (by omega) hsz ?_; intro v' w3 how' hgrow _) | fail)
        have hb3 := below_append' hbr hsz how hgrow
        clear how hgrow hbr
        go_roundw
        case rel => exact ⟨k + 1, by omega, by go_num, by rw [HF.out, List.length_append, vals_append]; exact how', hb3⟩
        case measure => simp [intOf]; omega
    · go_wp2
      go_ret
      rw [List.take_of_length_le (by omega)] at how
      exact ⟨_, rfl, ⟨how, hu⟩, hbr⟩
end Go.Proofs.YtpmobjfhhkglbaaGreatDoor

/- Which sums that go on can be: the code's, and the document's. -/
namespace Go.Proofs.YtpmobjfhhkglbaaGreatDoor
open Go.RowKit
set_option linter.unusedVariables false
set_option linter.unusedSimpArgs false

/-- whether a kind has words of 64 bits -/
def wide (kind : Int) : Bool := decide (kind ≠ 1)
def wfit (kind : Int) (ws : List Nat) : Bool := decide (kind ≠ 1) || ws.all (fun x => decide (x < 4294967296))
def hfit (kind : Int) (ws : List Nat) (n size : Nat) : Bool := decide ((kind = 1 ∨ kind = 2 ∨ kind = 3) ∧ size < 1152921504606846976 ∧ n = size % bz (wide kind)) && wfit kind ws
theorem all8 {ws : List Nat} (h8 : ws.length = 8) : ws.all (fun x => decide (x < 4294967296)) = true ↔ ∀ j, j < 8 → el ws j < 4294967296 := by
  rw [List.all_eq_true]
  constructor
  · intro h j hj
    rw [el_at (by omega)]
    exact of_decide_eq_true (h _ (List.getElem_mem _))
  · intro h x hx
    obtain ⟨i, hi, rfl⟩ := List.getElem_of_mem hx
    have := h i (by omega)
    rw [el_at hi] at this
    exact decide_eq_true this
theorem wfit_one {ws : List Nat} (h8 : ws.length = 8) : wfit 1 ws = true ↔ ∀ j, j < 8 → el ws j < 4294967296 := by
  rw [← all8 h8]; simp [wfit]

def bk (kind : Int) : Nat := if kind = 1 then 64 else if kind = 2 ∨ kind = 3 then 128 else 0
theorem blockOf_any (kind : Int) (w : World) : Calls Tryz.prog 115 #[.int .i64 kind] w fun e w' => e = .returned (.int .u64 (bk kind : Nat)) ∧ w' = w := by
  by_cases h1 : kind = 1
  · subst h1
    go_enter Tryz.func115, Tryz.ntmps115
    go_wp2
    go_ret
    exact ⟨rfl, rfl⟩
  by_cases h2 : kind = 2
  · subst h2
    go_enter Tryz.func115, Tryz.ntmps115
    go_wp2
    go_ret
    exact ⟨rfl, rfl⟩
  by_cases h3 : kind = 3
  · subst h3
    go_enter Tryz.func115, Tryz.ntmps115
    go_wp2
    go_ret
    exact ⟨rfl, rfl⟩
  have hb : bk kind = 0 := by simp [bk, h1, h2, h3]
  rw [hb]
  go_enter Tryz.func115, Tryz.ntmps115
  go_wp2
  go_ret
  exact ⟨rfl, rfl⟩
theorem rBlock_any (kind : Int) (w : World) : Calls Tryz.prog 72 #[.int .i64 kind] w fun e w' => e = .returned (.int .i64 (bz (wide kind) : Nat)) ∧ w' = w := by
  by_cases h1 : kind = 1
  · subst h1
    go_enter Tryz.func72, Tryz.ntmps72
    go_wp2
    go_ret
    exact ⟨rfl, rfl⟩
  have hb : bz (wide kind) = 128 := by simp [wide, h1, bz]
  rw [hb]
  go_enter Tryz.func72, Tryz.ntmps72
  go_wp2
  go_ret
  exact ⟨rfl, rfl⟩

set_option maxHeartbeats 2000000 in
set_option maxRecDepth 100000 in
theorem wordsFit_any (kind : Int) (ws : List Nat) (tv : Value) (size : Nat) (w : World) (h8 : ws.length = 8) (hu : Under 18446744073709551616 ws) :
    Calls Tryz.prog 116 #[.agg (hv kind ws tv size)] w fun e w' => e = .returned (.bool (wfit kind ws)) ∧ Below w.heap.size w w' := by
  unfold hv
  by_cases h1 : kind = 1
  · subst h1
    go_enter Tryz.func116, Tryz.ntmps116
    go_wp2
    have hb := keep_alloc w (.cells #[.int .i64 1, .int .u64 (el ws 0), .int .u64 (el ws 1), .int .u64 (el ws 2), .int .u64 (el ws 3), .int .u64 (el ws 4), .int .u64 (el ws 5), .int .u64 (el ws 6), .int .u64 (el ws 7), tv, .int .u64 size] 89)
    generalize w.alloc (.cells #[.int .i64 1, .int .u64 (el ws 0), .int .u64 (el ws 1), .int .u64 (el ws 2), .int .u64 (el ws 3), .int .u64 (el ws 4), .int .u64 (el ws 5), .int .u64 (el ws 6), .int .u64 (el ws 7), tv, .int .u64 size] 89) = w1 at *
    go_loopw [10] (fun i wr => ∃ j : Nat, j ≤ 8 ∧ i = .int .i64 j ∧ wr = w1 ∧ ∀ t, t < j → el ws t < 4294967296) (fun i _ => 8 - (intOf i).toNat)
    case atStart => exact ⟨0, Nat.zero_le _, rfl, rfl, fun t ht => by omega⟩
    case round =>
      obtain ⟨j, hj, rfl, rfl, hall⟩ := hrel
      have HA := hide hall
      clear hall
      by_cases hlt : j < 8
      · have hix : ∀ w : World, (Instr.index 87 (.agg #[.int .u64 (el ws 0), .int .u64 (el ws 1), .int .u64 (el ws 2), .int .u64 (el ws 3), .int .u64 (el ws 4), .int .u64 (el ws 5), .int .u64 (el ws 6), .int .u64 (el ws 7)]) (.int .i64 (j : Int))).run Tryz.prog w = .ok (.int .u64 (el ws j)) w := fun w => by
          rw [← arr8 .u64 ws h8]; exact index_arr _ 26 8 .u64 ws (by kernel_rfl) (by kernel_rfl) (by kernel_rfl) h8 j hlt w
        have ij0 : (0 : Int) ≤ (j : Int) := Int.natCast_nonneg _
        have ij1 : (j : Int) < 8 := by omega
        by_cases hx : el ws j < 4294967296
        · have hx2 : (el ws j : Int) ≤ 4294967295 := by omega
          go_wp2
          exact ⟨⟨j + 1, by omega, by go_num, trivial, fun t ht => by
            by_cases e : t = j
            · subst e; exact hx
            · exact HA.out t (by omega)⟩, by simp [intOf]; omega⟩
        · have hx2 : 4294967295 < (el ws j : Int) := by omega
          have hw : wfit 1 ws = false := by
            cases hq : wfit 1 ws with
            | false => rfl
            | true => exact absurd ((wfit_one h8).1 hq j hlt) hx
          go_wp2
          go_ret
          exact ⟨by rw [hw]; rfl, hb⟩
      · have hw : wfit 1 ws = true := (wfit_one h8).2 (fun t ht => HA.out t (by omega))
        go_wp2
        go_ret
        exact ⟨by rw [hw]; rfl, hb⟩
  · have hw : wfit kind ws = true := by simp [wfit, h1]
    rw [hw]
    go_enter Tryz.func116, Tryz.ntmps116
    go_wp2
    go_ret
    exact ⟨rfl, keep_alloc _ _⟩

end Go.Proofs.YtpmobjfhhkglbaaGreatDoor
