/- Contract of sha.sum.mix at words of 64 bits. -/
import Derived.Test.YtgdcpdbmacmheaaDoorHTur64
namespace Go.Proofs.YtgdcpdbmacmheaaDoor
open Go.RowKit
set_option linter.unusedVariables false
set_option linter.unusedSimpArgs false

/-- a sum's block -/
abbrev Sm64 (w : World) (g : Nat) (hs cs : List Nat) : Prop := Lies .u64 78 w g (hs ++ cs)

set_option maxHeartbeats 4000000 in
set_option maxRecDepth 100000 in
theorem mix_any64 (g : Nat) (hs cs ls : List Nat) (w : World) (hS : Sm64 w g hs cs) (h8 : hs.length = 8) (c80 : cs.length = 80) (l80 : ls.length = 80) (hhu : Under 18446744073709551616 hs) (hcu : Under 18446744073709551616 cs) (hlu : Under 18446744073709551616 ls) :
    Calls Tryd.prog 59 #[.pointer (some ⟨g, 0, none⟩), .agg (arr .u64 ls)] w fun e w' => e = .returned (.tuple #[]) ∧ Sm64 w' g (addW true hs (rndN true cs ls (rn true) hs) 8) cs ∧ But g w w' := by
  go_enter Tryd.func59, Tryd.ntmps59
  go_wp2_with fail
  refine (either_tur64 2 13 22 28 34 39 _).mono ?_
  rintro e w1 ⟨rfl, hb1⟩
  unfold tur64
  go_wp2_with fail
  refine (either_tur64 6 11 25 14 18 41 _).mono ?_
  rintro e w2 ⟨rfl, hb2⟩
  unfold tur64
  have hS2 : Sm64 w2 g hs cs := (((hS.alloc _).below hb1).alloc _).below hb2
  have hL2 : Lies .u64 68 w2 w.heap.size ls := (((Lies.new .u64 68 w ls).below hb1).alloc _).below hb2
  have hA2 : Tu64 w2 w1.heap.size 28 34 39 := (Tu64.new w1 28 34 39).below hb2
  go_wp2
  have hB3 : Tu64 (w2.alloc (.cells #[.int .i64 14, .int .i64 18, .int .i64 41] 94)) w2.heap.size 14 18 41 := Tu64.new w2 14 18 41
  have hw3 := keep_trans (keep_trans (keep_trans (keep_trans (keep_alloc _ _) hb1) (keep_alloc _ _)) hb2) (keep_alloc w2 (.cells #[.int .i64 14, .int .i64 18, .int .i64 41] 94))
  have hS3 := hS2.alloc (.cells #[.int .i64 14, .int .i64 18, .int .i64 41] 94)
  have hL3 := hL2.alloc (.cells #[.int .i64 14, .int .i64 18, .int .i64 41] 94)
  have hA3 := hA2.below (keep_alloc w2 (.cells #[.int .i64 14, .int .i64 18, .int .i64 41] 94))
  clear hS2 hL2 hA2 hb1 hb2
  generalize w2.alloc (.cells #[.int .i64 14, .int .i64 18, .int .i64 41] 94) = w3 at *
  have hc := fun (i : Nat) (hi : i < 8) => hS3.cell (i := i) (by rw [List.length_append]; omega)
  have hel : ∀ i, i < 8 → el (hs ++ cs) i = el hs i := fun i hi => by unfold el; rw [List.getElem?_append_left (by omega)]
  have c0 := hc 0 (by decide)
  have c1 := hc 1 (by decide)
  have c2 := hc 2 (by decide)
  have c3 := hc 3 (by decide)
  have c4 := hc 4 (by decide)
  have c5 := hc 5 (by decide)
  have c6 := hc 6 (by decide)
  have c7 := hc 7 (by decide)
  rw [hel _ (by decide)] at c0 c1 c2 c3 c4 c5 c6 c7
  clear hc hel
  go_quiet (fail)
  go_wp2
  go_quiet (fail)
  go_wp2_with fail
  refine (either_int64 _ _ _).mono ?_
  rintro e w4 ⟨rfl, rfl⟩
  go_wp2
  go_loopw [6, 7, 8, 9, 10, 11, 12, 13, 66] (fun v0 v1 v2 v3 v4 v5 v6 v7 i wr => ∃ k : Nat, k ≤ 80 ∧ i = .int .i64 k ∧ v0 = .int .u64 (el (rndN true cs ls k hs) 0) ∧ v1 = .int .u64 (el (rndN true cs ls k hs) 1) ∧ v2 = .int .u64 (el (rndN true cs ls k hs) 2) ∧ v3 = .int .u64 (el (rndN true cs ls k hs) 3) ∧ v4 = .int .u64 (el (rndN true cs ls k hs) 4) ∧ v5 = .int .u64 (el (rndN true cs ls k hs) 5) ∧ v6 = .int .u64 (el (rndN true cs ls k hs) 6) ∧ v7 = .int .u64 (el (rndN true cs ls k hs) 7) ∧ Below w3.heap.size w3 wr) (fun _ _ _ _ _ _ _ _ i _ => 80 - (intOf i).toNat)
  case atStart => exact ⟨0, Nat.zero_le _, rfl, rfl, rfl, rfl, rfl, rfl, rfl, rfl, rfl, bel_drewN (Below.refl _ _) _⟩
  case round =>
    obtain ⟨k, hk, rfl, rfl, rfl, rfl, rfl, rfl, rfl, rfl, rfl, hbr⟩ := hrel
    clear c0 c1 c2 c3 c4 c5 c6 c7
    have hsu := rndN_under (b := true) (ks := cs) (ws := ls) hhu k
    by_cases hlt : k < 80
    · have hnx : rndN true cs ls (k + 1) hs = rnd true (el cs k) (el ls k) (rndN true cs ls k hs) := rfl
      have HNX := hide hnx
      clear hnx
      generalize rndN true cs ls k hs = s at *
      have hSr := hS3.below hbr
      have hLr := hL3.below hbr
      have hAr := hA3.below hbr
      have hBr := hB3.below hbr
      have d1 := hSr.cell (i := 8 + k) (by rw [List.length_append]; omega)
      have del : el (hs ++ cs) (8 + k) = el cs k := by unfold el; rw [List.getElem?_append_right (by omega), h8, Nat.add_sub_cancel_left]
      rw [del] at d1
      have d2 := hLr.cell (i := k) (by omega)
      obtain ⟨e0, e1, e2⟩ := hBr.cells
      obtain ⟨f0, f1, f2⟩ := hAr.cells
      have HA := hide f0
      have HA1 := hide f1
      have HA2 := hide f2
      clear f0 f1 f2 del hSr hLr hAr hBr
      have u := fun i => el_lt hsu (wm_pos true) i
      have u4 : el s 4 < 18446744073709551616 := u 4
      have hcall := turned64 (el s 4) 14 18 41 wr.drew u4 (by decide) (by decide) (by decide)
      have ik0 : (0 : Int) ≤ (k : Int) := Int.natCast_nonneg _
      have ik1 : (k : Int) < 80 := by omega
      have ik2 : k < 80 := by omega
      go_wp2
      go_region_held3 (fun w' => w'.cell? ⟨g, 8 + k, none⟩ = some (.int .u64 (el cs k)) ∧ w'.cell? ⟨w.heap.size, k, none⟩ = some (.int .u64 (el ls k)) ∧ w'.cell? ⟨w2.heap.size, 0, none⟩ = some (.int .i64 14) ∧ w'.cell? ⟨w2.heap.size, 1, none⟩ = some (.int .i64 18) ∧ w'.cell? ⟨w2.heap.size, 2, none⟩ = some (.int .i64 41))
        (first
          | exact ⟨keep_cell (w := wr.drew) d1 hb5, keep_cell (w := wr.drew) d2 hb5, keep_cell (w := wr.drew) e0 hb5, keep_cell (w := wr.drew) e1 hb5, keep_cell (w := wr.drew) e2 hb5⟩
          | exact ⟨d1, d2, e0, e1, e2⟩)
        (first
          | (go_at_call 69; refine hcall.mono ?_; rintro e w5 ⟨rfl, hb5⟩))
      have g0 := keep_cell (w := wr.drew) HA.out hb5
      have g1 := keep_cell (w := wr.drew) HA1.out hb5
      have g2 := keep_cell (w := wr.drew) HA2.out hb5
      clear d1 d2 e0 e1 e2 hcall
      go_wp2_with fail
      refine (turned64 (el s 0) 28 34 39 w5 (u 0) (by decide) (by decide) (by decide)).mono ?_
      rintro e w6 ⟨rfl, hb6⟩
      go_wp2
      go_roundw
      case rel =>
        have u1 : el s 1 < 18446744073709551616 := u 1
        have u2 : el s 2 < 18446744073709551616 := u 2
        have u0 : el s 0 < 18446744073709551616 := u 0
        have u5 : el s 5 < 18446744073709551616 := u 5
        have u6 : el s 6 < 18446744073709551616 := u 6
        rw [chs_is64 _ _ _ u4 u5 u6, maj_is64 _ _ _ u0 u1 u2]
        repeat rw [add_is64]
        rw [rnd064, rnd464]
        refine ⟨k + 1, by omega, by go_num, ?_, ?_, ?_, ?_, ?_, ?_, ?_, ?_, keep_trans hbr (keep_trans (un_drew hb5) hb6)⟩ <;> rw [HNX.out] <;> rfl
      case measure => simp [intOf]; omega
    · obtain rfl : k = 80 := by omega
      have h8s : (rndN true cs ls 80 hs).length = 8 := rndN_length h8 _
      have hSr := hS3.below hbr
      generalize hR : rndN true cs ls 80 hs = s at *
      have HR : Hid (rndN true cs ls (rn true) hs = s) := hR
      clear hR
      have hlen : (hs ++ cs).length = 88 := by rw [List.length_append]; omega
      go_wp2
      go_loopw [131] (fun i wr' => ∃ j : Nat, j ≤ 8 ∧ i = .int .i64 j ∧ Lies .u64 78 wr' g (addW true hs s j ++ hs.drop j ++ cs) ∧ But g w wr') (fun i _ => 8 - (intOf i).toNat)
      case atStart => exact ⟨0, Nat.zero_le _, rfl, hSr, But.of_below (keep_trans hw3 hbr)⟩
      case round =>
        obtain ⟨j, hj, rfl, hSj, hbj⟩ := hrel
        by_cases hlt : j < 8
        · have hix : ∀ w : World, (Instr.index 24 (.agg #[.int .u64 (el s 0), .int .u64 (el s 1), .int .u64 (el s 2), .int .u64 (el s 3), .int .u64 (el s 4), .int .u64 (el s 5), .int .u64 (el s 6), .int .u64 (el s 7)]) (.int .i64 (j : Int))).run Tryd.prog w = .ok (.int .u64 (el s j)) w := fun w => by
            rw [← arr8 .u64 s h8s]; exact index_arr _ 23 8 .u64 s (by kernel_rfl) (by kernel_rfl) (by kernel_rfl) h8s j hlt w
          have c1 := hSj.cell (i := j) (by rw [List.length_append, List.length_append, addW_length, List.length_drop]; omega)
          rw [addTo_get true hs s cs j (by omega)] at c1
          have f1 := hSj.frozen j
          have hst := hSj.set j ((el hs j + el s j) % 18446744073709551616)
          have hse := addTo_set true hs s cs j (by omega)
          have hst' : Lies .u64 78 (wr.setCell ⟨g, j, none⟩ (.int .u64 (((el hs j + el s j) % 18446744073709551616 : Nat) : Int))) g (addW true hs s (j + 1) ++ hs.drop (j + 1) ++ cs) := by rw [← hse]; exact hst
          have HST := hide hst'
          clear hst hse hst'
          have ij0 : (0 : Int) ≤ (j : Int) := Int.natCast_nonneg _
          have ij1 : (j : Int) < 8 := by omega
          go_wp2
          go_region
          go_wp2
          rw [add_is64]
          exact ⟨⟨j + 1, by omega, by go_num, HST.out, (hbj.setCell j _).drew⟩, by simp [intOf]; omega⟩
        · obtain rfl : j = 8 := by omega
          rw [List.drop_of_length_le (by omega), List.append_nil] at hSj
          go_wp2
          go_end0
          exact ⟨rfl, by rw [HR.out]; exact hSj, hbj⟩
end Go.Proofs.YtgdcpdbmacmheaaDoor
