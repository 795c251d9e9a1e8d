/- For every sum that goes on and every text: apostillelaw07.ShaAdds returns true, and each argument reads afterwards as it read before; sha's two tables of roots are as the program's text lays them. No other condition. -/
import Derived.Test.YtgdcpdbmacmheaaDoorHPlF
import Derived.Test.YtgdcpdbmacmheaaDoorHTop
import Derived.Test.YtgdcpdbmacmheaaDoorFrameT
import Derived.Test.YtgdcpdbmacmheaaDoorHF3
import Derived.WalkKit
import Derived.ProofKit
import Derived.OpenShut
import Derived.ShutString
import Derived.ChangeOld
import Derived.Below
namespace Go.Proofs.YtgdcpdbmacmheaaDoor.shaAdds
open Go.ChangeShapes Go.WideShapes Go.ChangeAt Go.RowKit
open Go.ChangeMaps (open_string shut_string)
set_option linter.unusedVariables false

set_option maxRecDepth 100000 in
set_option maxHeartbeats 4000000 in
theorem walk (cs0 : Array Value) (hk0 : Int) (ws0 : List Nat) (tv0 : Value) (tl0 : List Nat) (sz0 : Nat) (a1 : Option Addr) (len1 cap1 : Nat) (z1 : List Int) (w : World) (w0 : HIs w cs0 hk0 ws0 tv0 tl0 sz0) (w1 : IsRow .u8 w a1 len1 cap1 z1) (hV : Vars w) :
    Calls Tryd.prog 4 #[.agg cs0, .slice a1 len1 cap1] w fun e w' => e = .returned (.bool true) ∧ Below w.heap.size w w' := by
  have htd := isRow_tidy w1
  obtain ⟨l, rfl, hr⟩ := w1.row wf_u8
  clear w1
  have hT : Roots w := hV
  obtain ⟨hcs, hk1, hk2, h8, hu, hRt, tT, hs⟩ := w0
  subst hcs
  obtain ⟨ta, tc, rfl⟩ := hRt.form
  obtain ⟨kind, hkindQ⟩ : ∃ x, x = hk0 := ⟨_, rfl⟩
  subst hkindQ
  obtain ⟨ws, hwsQ⟩ : ∃ x, x = ws0 := ⟨_, rfl⟩
  subst hwsQ
  obtain ⟨tl, htlQ⟩ : ∃ x, x = tl0 := ⟨_, rfl⟩
  subst htlQ
  obtain ⟨size, hsizeQ⟩ : ∃ x, x = sz0 := ⟨_, rfl⟩
  subst hsizeQ
  have huv : hv kind ws (.slice ta tl.length tc) size = #[.int .i64 kind, .int .u64 (el ws 0), .int .u64 (el ws 1), .int .u64 (el ws 2), .int .u64 (el ws 3), .int .u64 (el ws 4), .int .u64 (el ws 5), .int .u64 (el ws 6), .int .u64 (el ws 7), .slice ta tl.length tc, .int .u64 size] := rfl
  have hb0 := keep_alloc w (.cells #[.int .i64 kind, .int .u64 (el ws 0), .int .u64 (el ws 1), .int .u64 (el ws 2), .int .u64 (el ws 3), .int .u64 (el ws 4), .int .u64 (el ws 5), .int .u64 (el ws 6), .int .u64 (el ws 7), .slice ta tl.length tc, .int .u64 size] 26)
  have hH0 := Hb.new w kind ws (.slice ta tl.length tc) size
  by_cases h1 : 600 < l.length
  · have h1i : (600 : Int) < (l.length : Int) := by omega
    rw [huv]
    go_enter Tryd.func4, Tryd.ntmps4
    go_wp2_with fail
    refine (awake_any _ (hT.below hb0)).mono ?_
    rintro e w1 ⟨rfl, hb⟩
    go_wp2_with fail
    go_ret
    exact ⟨rfl, keep_trans hb0 hb⟩
  · have h1i : ¬ (600 : Int) < (l.length : Int) := by omega
    have hfc := rFit_any kind ws (.slice ta tl.length tc) tl size (w.alloc (.cells #[.int .i64 kind, .int .u64 (el ws 0), .int .u64 (el ws 1), .int .u64 (el ws 2), .int .u64 (el ws 3), .int .u64 (el ws 4), .int .u64 (el ws 5), .int .u64 (el ws 6), .int .u64 (el ws 7), .slice ta tl.length tc, .int .u64 size] 26)) h8 hu (hRt.below hb0) hs
    cases hf : hfit kind ws tl.length size with
    | false =>
      rw [hf] at hfc
      unfold hv at hfc
      rw [huv]
      go_enter Tryd.func4, Tryd.ntmps4
      go_wp2_with fail
      refine hfc.mono ?_
      rintro e w1 ⟨rfl, hb1⟩
      go_wp2_with fail
      refine (awake_any _ (hT.below (keep_trans hb0 hb1))).mono ?_
      rintro e w2 ⟨rfl, hb2⟩
      go_wp2_with fail
      go_ret
      exact ⟨rfl, keep_trans (keep_trans hb0 hb1) hb2⟩
    | true =>
      rw [hf] at hfc
      unfold hv at hfc
      rw [huv]
      obtain ⟨hkd, hsz, hn, hu'⟩ := hfit_true h8 hu hf
      have htl : tl.length < bz (wide kind) := by rw [hn]; exact Nat.mod_lt _ (bz_pos _)
      have htl2 : tl.length ≤ 100000 := by have : bz (wide kind) ≤ 128 := (by cases wide kind <;> decide); omega
      have hadd := fun w1 (hb1 : Below w.heap.size w w1) => sAdd_any kind ws _ _ tl l size w1 (hT.below hb1) h8 hu (hRt.below hb1) tT (hr.below hb1) htd (by omega) hf hs
      have hradd := fun w1 (hb1 : Below w.heap.size w w1) => rAdd_any kind ws _ _ tl l size w1 h8 hu' (hRt.below hb1) tT (hr.below hb1) htd htl2 (by omega) hsz
      have hend := fun w1 (hb1 : Below w.heap.size w w1) => sEnd_any kind ws _ tl size w1 (hT.below hb1) h8 hu (hRt.below hb1) tT hf hs
      have hrend := fun w1 (hb1 : Below w.heap.size w w1) => rEnd_any kind ws _ tl size w1 h8 hu' (hRt.below hb1) tT htl hsz
      have hX8 : (eat (wide kind) ws (tl ++ l)).length = 8 := eat_len _ h8
      have hXu : Under 18446744073709551616 (eat (wide kind) ws (tl ++ l)) := under_all (eat_under _ hu')
      have hfx : ¬ 576460752303423488 < size → hfit kind (eat (wide kind) ws (tl ++ l)) (left (wide kind) (tl ++ l)).length (size + l.length) = true := fun h => hfit_add h8 hu hf (by omega)
      have hN : size + l.length < 18446744073709551616 := by omega
      generalize eat (wide kind) ws (tl ++ l) = X at *
      generalize left (wide kind) (tl ++ l) = LL at *
      generalize size + l.length = N at *
      generalize endS (wide kind) ws tl size (outn kind) = EE at *
      unfold hv at hadd hradd hend hrend
      have HX8 := hide hX8
      have HXu := hide hXu
      have HFX := hide hfx
      have HN := hide hN
      have HU := hide hu'
      clear hX8 hXu hfx hN hu' hn hkd htl htl2 hf hsz hs hu h8 h1 huv
      go_enter Tryd.func4, Tryd.ntmps4
      go_wp2_with (first
        | (go_at_call 15; refine hfc.mono ?_; rintro e w1 ⟨rfl, hb1⟩; have hbw1 := keep_trans hb0 hb1; obtain ⟨z0, z1, z2, z3, z4, z5, z6, z7, z8, z9, z10⟩ := (hH0.below hb1).all)
        | (go_at_call 17; refine (hadd _ hbw1).mono ?_; rintro e w2 ⟨v2, rfl, hR2, tT2, hb2⟩; obtain ⟨a2, c2, rfl⟩ := hR2.form)
        | fail)
      have hH : HsT w w.heap.size w2.heap.size kind ws (.slice ta tl.length tc) size kind X (.slice a2 LL.length c2) LL N (w2.alloc (.cells #[.int .i64 kind, .int .u64 (el X 0), .int .u64 (el X 1), .int .u64 (el X 2), .int .u64 (el X 3), .int .u64 (el X 4), .int .u64 (el X 5), .int .u64 (el X 6), .int .u64 (el X 7), .slice a2 LL.length c2, .int .u64 N] 26)) :=
        ⟨((hH0.below hb1).below hb2).below (keep_alloc _ _), Hb.new w2 kind X (.slice a2 LL.length c2) N, hR2.below (keep_alloc _ _), keep_trans (keep_trans hbw1 hb2) (keep_alloc _ _)⟩
      clear z0 z1 z2 z3 z4 z5 z6 z7 z8 z9 z10 hfc hb0 hH0 hb1 hbw1 hb2 hR2 hadd
      generalize w2.alloc (.cells #[.int .i64 kind, .int .u64 (el X 0), .int .u64 (el X 1), .int .u64 (el X 2), .int .u64 (el X 3), .int .u64 (el X 4), .int .u64 (el X 5), .int .u64 (el X 6), .int .u64 (el X 7), .slice a2 LL.length c2, .int .u64 N] 26) = w3 at *
      generalize w2.heap.size = p at *
      have hSm : ∀ (w1 : World) (tb td : Value), Row .u8 256 w1 tb LL → Row .u8 256 w1 td LL → Calls Tryd.prog 13 #[.agg #[.int .i64 kind, .int .u64 (el X 0), .int .u64 (el X 1), .int .u64 (el X 2), .int .u64 (el X 3), .int .u64 (el X 4), .int .u64 (el X 5), .int .u64 (el X 6), .int .u64 (el X 7), tb, .int .u64 N], .agg #[.int .i64 kind, .int .u64 (el X 0), .int .u64 (el X 1), .int .u64 (el X 2), .int .u64 (el X 3), .int .u64 (el X 4), .int .u64 (el X 5), .int .u64 (el X 6), .int .u64 (el X 7), td, .int .u64 N]] w1 fun e w' => e = .returned (.bool true) ∧ Below w1.heap.size w1 w' := fun w1 tb td h1 h2 => by
        have h := rsameH_any kind X tb LL N kind X td LL N w1 HX8.out HX8.out HXu.out HXu.out h1 h2
        rw [hsame_refl] at h
        exact h
      have hFx : ¬ 576460752303423488 < size → ∀ (w1 : World) (tb : Value), Row .u8 256 w1 tb LL → Calls Tryd.prog 15 #[.agg #[.int .i64 kind, .int .u64 (el X 0), .int .u64 (el X 1), .int .u64 (el X 2), .int .u64 (el X 3), .int .u64 (el X 4), .int .u64 (el X 5), .int .u64 (el X 6), .int .u64 (el X 7), tb, .int .u64 N]] w1 fun e w' => e = .returned (.bool true) ∧ Below w1.heap.size w1 w' := fun hq w1 tb h1 => by
        have h := rFit_any kind X tb LL N w1 HX8.out HXu.out h1 HN.out
        rw [HFX.out hq] at h
        exact h
      by_cases hq : 576460752303423488 < size
      · have hD : decide ((576460752303423488 : Int) < (size : Int)) = true := decide_eq_true (by omega)
        clear hq hFx
        have hK0 := hH.drew
        obtain ⟨a0, a1, a2, a3, a4, a5, a6, a7, a8, a9, a10, b0, b1, b2, b3, b4, b5, b6, b7, b8, b9, b10, -⟩ := hH.all
        go_region_with (first
          | (go_at_call 18; refine (hradd _ hK0.bel).mono ?_; rintro e v1 ⟨u1, rfl, hr1, t1, g1⟩; obtain ⟨b1', d1, rfl⟩ := hr1.form; have hK1 := hK0.keep g1; clear a0 a1 a2 a3 a4 a5 a6 a7 a8 a9 a10 b0 b1 b2 b3 b4 b5 b6 b7 b8 b9 b10; obtain ⟨a0, a1, a2, a3, a4, a5, a6, a7, a8, a9, a10, b0, b1, b2, b3, b4, b5, b6, b7, b8, b9, b10, -⟩ := hK1.all)
          | (go_at_call 13; refine (hSm _ _ _ hK1.r hr1).mono ?_; rintro e v2 ⟨rfl, g2⟩; have hK2 := hK1.keep g2; clear a0 a1 a2 a3 a4 a5 a6 a7 a8 a9 a10 b0 b1 b2 b3 b4 b5 b6 b7 b8 b9 b10; obtain ⟨a0, a1, a2, a3, a4, a5, a6, a7, a8, a9, a10, b0, b1, b2, b3, b4, b5, b6, b7, b8, b9, b10, -⟩ := hK2.all)
          | (go_at_call 19; refine (hend _ hK2.bel).mono ?_; rintro e v3 ⟨u3, rfl, hO3, g3⟩; have hK3 := hK2.keep g3; clear a0 a1 a2 a3 a4 a5 a6 a7 a8 a9 a10 b0 b1 b2 b3 b4 b5 b6 b7 b8 b9 b10; obtain ⟨a0, a1, a2, a3, a4, a5, a6, a7, a8, a9, a10, b0, b1, b2, b3, b4, b5, b6, b7, b8, b9, b10, -⟩ := hK3.all)
          | (go_at_call 20; refine (hrend _ hK3.bel).mono ?_; rintro e v4 ⟨u4, rfl, hr4, g4⟩; have hK4 := hK3.keep g4; clear a0 a1 a2 a3 a4 a5 a6 a7 a8 a9 a10 b0 b1 b2 b3 b4 b5 b6 b7 b8 b9 b10; obtain ⟨a0, a1, a2, a3, a4, a5, a6, a7, a8, a9, a10, b0, b1, b2, b3, b4, b5, b6, b7, b8, b9, b10, -⟩ := hK4.all)
          | (go_at_call 12; refine (rsame_true _ _ EE _ (hO3.row.below g4) hr4).mono ?_; rintro e v5 ⟨rfl, g5⟩; have hK5 := hK4.keep g5; clear a0 a1 a2 a3 a4 a5 a6 a7 a8 a9 a10 b0 b1 b2 b3 b4 b5 b6 b7 b8 b9 b10; obtain ⟨a0, a1, a2, a3, a4, a5, a6, a7, a8, a9, a10, b0, b1, b2, b3, b4, b5, b6, b7, b8, b9, b10, -⟩ := hK5.all)
          | (go_at_call 7; refine (awake_any _ (hT.below hK5.bel)).mono ?_; rintro e v7 ⟨rfl, g7⟩))
        all_goals (go_wp2_with fail; go_ret; exact ⟨rfl, (hK5.keep g7).bel⟩)
      · have hFx := hFx hq
        have hD : decide ((576460752303423488 : Int) < (size : Int)) = false := decide_eq_false (by omega)
        clear hq
        go_region_held3 (fun w' => w'.cell? ⟨w.heap.size, 0, none⟩ = some (.int .i64 kind) ∧ w'.cell? ⟨w.heap.size, 1, none⟩ = some (.int .u64 (el ws 0)) ∧ w'.cell? ⟨w.heap.size, 2, none⟩ = some (.int .u64 (el ws 1)) ∧ w'.cell? ⟨w.heap.size, 3, none⟩ = some (.int .u64 (el ws 2)) ∧ w'.cell? ⟨w.heap.size, 4, none⟩ = some (.int .u64 (el ws 3)) ∧ w'.cell? ⟨w.heap.size, 5, none⟩ = some (.int .u64 (el ws 4)) ∧ w'.cell? ⟨w.heap.size, 6, none⟩ = some (.int .u64 (el ws 5)) ∧ w'.cell? ⟨w.heap.size, 7, none⟩ = some (.int .u64 (el ws 6)) ∧ w'.cell? ⟨w.heap.size, 8, none⟩ = some (.int .u64 (el ws 7)) ∧ w'.cell? ⟨w.heap.size, 9, none⟩ = some (.slice ta tl.length tc) ∧ w'.cell? ⟨w.heap.size, 10, none⟩ = some (.int .u64 size) ∧ w'.cell? ⟨p, 0, none⟩ = some (.int .i64 kind) ∧ w'.cell? ⟨p, 1, none⟩ = some (.int .u64 (el X 0)) ∧ w'.cell? ⟨p, 2, none⟩ = some (.int .u64 (el X 1)) ∧ w'.cell? ⟨p, 3, none⟩ = some (.int .u64 (el X 2)) ∧ w'.cell? ⟨p, 4, none⟩ = some (.int .u64 (el X 3)) ∧ w'.cell? ⟨p, 5, none⟩ = some (.int .u64 (el X 4)) ∧ w'.cell? ⟨p, 6, none⟩ = some (.int .u64 (el X 5)) ∧ w'.cell? ⟨p, 7, none⟩ = some (.int .u64 (el X 6)) ∧ w'.cell? ⟨p, 8, none⟩ = some (.int .u64 (el X 7)) ∧ w'.cell? ⟨p, 9, none⟩ = some (.slice a2 LL.length c2) ∧ w'.cell? ⟨p, 10, none⟩ = some (.int .u64 N) ∧ HsT w w.heap.size p kind ws (.slice ta tl.length tc) size kind X (.slice a2 LL.length c2) LL N w')
          (first | exact HsT.all (HsT.keep (HsT.out (by assumption)) g7) | exact HsT.all (HsT.keep (by assumption) g7) | exact HsT.all (HsT.keep (HsT.out (by assumption)) g6) | exact HsT.all (HsT.keep (by assumption) g6) | exact HsT.all (HsT.keep (HsT.out (by assumption)) g5) | exact HsT.all (HsT.keep (by assumption) g5) | exact HsT.all (HsT.keep (HsT.out (by assumption)) g4) | exact HsT.all (HsT.keep (by assumption) g4) | exact HsT.all (HsT.keep (HsT.out (by assumption)) g3) | exact HsT.all (HsT.keep (by assumption) g3) | exact HsT.all (HsT.keep (HsT.out (by assumption)) g2) | exact HsT.all (HsT.keep (by assumption) g2) | exact HsT.all (HsT.keep (HsT.out (by assumption)) g1) | exact HsT.all (HsT.keep (by assumption) g1) | exact HsT.all (by assumption) | exact HsT.all (HsT.out (by assumption)) | exact HsT.all (HsT.drew hH) | exact HsT.all (HsT.drew (HsT.out (by assumption))) | exact HsT.all (HsT.drew (by assumption)))
          (first
            | (go_at_call 18; refine (hradd _ (by exact (HsT.out (w := w) (lb := LL) (by assumption)).bel)).mono ?_; rintro e v1 ⟨u1, rfl, hr1, t1, g1⟩; obtain ⟨b1, d1, rfl⟩ := hr1.form)
            | (go_at_call 13; refine (hSm _ _ _ (by exact (HsT.out (w := w) (lb := LL) (by assumption)).r) hr1).mono ?_; rintro e v2 ⟨rfl, g2⟩)
            | (go_at_call 19; refine (hend _ (by exact (HsT.out (w := w) (lb := LL) (by assumption)).bel)).mono ?_; rintro e v3 ⟨u3, rfl, hO3, g3⟩)
            | (go_at_call 20; refine (hrend _ (by exact (HsT.out (w := w) (lb := LL) (by assumption)).bel)).mono ?_; rintro e v4 ⟨u4, rfl, hr4, g4⟩)
            | (go_at_call 12; refine (rsame_true _ _ EE _ (hO3.row.below g4) hr4).mono ?_; rintro e v5 ⟨rfl, g5⟩)
            | (go_at_call 15; refine (hFx _ _ (by exact (HsT.out (w := w) (lb := LL) (by assumption)).r)).mono ?_; rintro e v6 ⟨rfl, g6⟩)
            | (go_at_call 7; refine (awake_any _ (hT.below (by exact (HsT.out (w := w) (lb := LL) (by assumption)).bel))).mono ?_; rintro e v7 ⟨rfl, g7⟩))
        all_goals (go_wp2_with fail; go_ret; first | exact ⟨rfl, (HsT.out (w := w) (lb := LL) (by assumption)).bel⟩ | exact ⟨rfl, (‹HsT w _ _ _ _ _ _ _ _ _ _ _ _›).bel⟩)

set_option maxRecDepth 100000 in
theorem lifted (os : Os) (started : os.Started) (H : Type) (enc : TypeId × Value → H) :
    ReturnsInHanded {} Tryd.checked os 4 .any (fun w args => (Rows.shaAddsSpec.pre enc Tryd.prog Tryd.f4 Rows.shaAddsRow.domain false w args ∧ laidMetH Tryd.prog Rows.shaAddsRow.laid w) ∧ sizedMet enc Tryd.prog Tryd.f4 (OpenSpec.ofChange Rows.shaAddsSpec) false w args) (Rows.shaAddsSpec.post enc Tryd.prog Tryd.f4 false true false false) := by
  refine change_laid_shaped (C := Tryd.checked) (X := fun w _ => laidMetH Tryd.prog Rows.shaAddsRow.laid w) (fun _ _ _ hh h => h.of_heap hh) own started (by kernel_rfl) Tryd.func4
    (ChangeSpec.witness_shaped (enc := enc) (C := Tryd.checked) (os := os) (X := fun w _ => laidMetH Tryd.prog Rows.shaAddsRow.laid w) false (World.laidAll Tryd.prog os Rows.shaAddsRow.laid) #[.agg #[.int .i64 0, .int .u64 0, .int .u64 0, .int .u64 0, .int .u64 0, .int .u64 0, .int .u64 0, .int .u64 0, .int .u64 0, .slice none 0 0, .int .u64 0], .slice none 0 0] 8 (World.laidAll_os _ _ _)
      (World.shaped_of_ZipB (by kernel_rfl) (by kernel_rfl)) (by kernel_rfl) (by kernel_rfl) (by kernel_rfl)
      (by rw [MakeChecks.laidMetH_plain _ _ _ (by kernel_rfl)]; exact laidMet_laidAll _ (by kernel_rfl) (by kernel_rfl))) ?_
  intro W base args ds gs before hval0 hW hsz0 hL hsh
  have hVars : Vars W := vars_of_laid hL hsh
  have hval : ∀ (j : Nat) t v, Tryd.f4.params[j]? = some t → args[j]? = some v → Value.okWide Tryd.prog W .any base t v := hval0
  have hW' := hW
  obtain ⟨p, q, hA0, hV, rfl, hfz, hnd⟩ := hW
  have hA : DataW.TrodAll enc Tryd.prog W 0 (fun _ => true) true Tryd.f4.params.toList args.toList ds p := hA0
  rw [Tryd.params4] at hA hval
  obtain ⟨v0, vs0, d0, ds0, p0, q0, hargs, rfl, rfl, h0, r0⟩ := trodAll_cons hA
  obtain ⟨v1, vs1, d1, ds1, p1, q1, rfl, rfl, rfl, h1, r1⟩ := trodAll_cons r0
  obtain ⟨rfl, rfl, rfl⟩ := trodAll_nil r1
  obtain rfl : args = #[v0, v1] := by cases args; simp_all
  obtain ⟨rfl, rfl⟩ := trodVars_none hV
  obtain ⟨cs0, rfl, hcz0⟩ := okWide_struct Tryd.underlying26 (hval 0 26 v0 rfl rfl)
  have k0 := h0
  have lt0 : ∀ x ∈ p0, x.block < W.heap.size := by obtain ⟨m, hm⟩ := k0; exact DataW.trod_lt m _ _ _ hm
  obtain ⟨hk0, ws0, tv0, tl0, sz0, w0⟩ : ∃ k ws tv tl sz, HIs W cs0 k ws tv tl sz := by
    obtain ⟨fuel, hf⟩ := h0
    exact read_hash (by simpa [Value.cells] using hf)
  obtain ⟨a1, len1, cap1, rfl⟩ := okWide_slice Tryd.underlying22 (hval 1 22 v1 rfl rfl)
  have k1 := h1
  have lt1 : ∀ x ∈ p1, x.block < W.heap.size := by obtain ⟨m, hm⟩ := k1; exact DataW.trod_lt m _ _ _ hm
  obtain ⟨z1, w1⟩ : ∃ zs, IsRow .u8 W a1 len1 cap1 zs := by
    obtain ⟨fuel, hf⟩ := h1
    rcases open_ints Tryd.underlying22 Tryd.underlying5 (by kernel_rfl) hf with ⟨hcs, _⟩ | ⟨x, l, c, zs, hcs, _, hl, hm, hz, _, hcell, hwz⟩
    · simp [Value.cells] at hcs
      obtain ⟨rfl, rfl, rfl⟩ := hcs
      exact ⟨[], .inl ⟨rfl, rfl, rfl, rfl⟩⟩
    · simp [Value.cells] at hcs
      obtain ⟨rfl, rfl, rfl⟩ := hcs
      exact ⟨zs, .inr ⟨_, rfl, hl, hm, by simpa using hz, hcell, hwz⟩⟩
  clear hA0 hval0
  refine (walk cs0 hk0 ws0 tv0 tl0 sz0 a1 len1 cap1 z1 W w0 w1 hVars).mono fun e W' ⟨he, bel⟩ => ?_
  subst he
  exact ⟨_, rfl, _, _, _, [], _, [], hW', trodAll_mk1 (shut_bool Tryd.underlying4 _), (trodAll_cons_mk (Below.trod laidOut (by kernel_rfl) (of_decide_eq_true (by kernel_rfl)) k0 bel lt0) (trodAll_cons_mk (Below.trod laidOut (by kernel_rfl) (of_decide_eq_true (by kernel_rfl)) k1 bel lt1) trodAll_mk0)), rfl, bel.frame _, fun h => by cases h⟩

theorem over : Rows.shaAddsRow.holds Tryd.pinned (OpenSpec.ofChange Rows.shaAddsSpec) :=
  OpenClaim.holds_of_wide 4 Tryd.f4 rfl rfl rfl rfl rfl rfl rfl ⟨rfl, rfl, rfl, rfl, rfl⟩ rfl rfl rfl rfl rfl (by kernel_rfl) Tryd.func4 (by kernel_rfl)
    (of_decide_eq_true (by kernel_rfl)) (by unfold Func.isWrapper; first | (rw [if_pos (by decide +kernel)]; kernel_rfl) | (rw [if_neg (by decide +kernel)]; exact ⟨rfl, rfl⟩))
    (fun os started H enc _ => lifted os started H enc)

end Go.Proofs.YtgdcpdbmacmheaaDoor.shaAdds
namespace Go.Proofs.YtgdcpdbmacmheaaDoor
theorem shaAdds_card : Rows.ShaAddsCardSaid :=
  Claim7.holds_tied_plain_at .later [] [.data, .data] true (true, "1487c1c3618a2a5037795e47a5f00cdcf09bae054f8b661714c98c731cbd074a") false
    shaAdds.over (fun _ h => by cases h) (by kernel_rfl) (fun _ h => by cases h) shaAdds_row_tie rfl ⟨rfl, rfl⟩ (by kernel_rfl) rfl
    (fun f fn hf hfn => by
      obtain rfl : f = 4 := Option.some.inj ((show Tryd.prog.funcNamed Tryd.f4.name = some 4 by kernel_rfl).symm.trans hf) |>.symm
      obtain rfl : fn = Tryd.f4 := (Option.some.inj (Tryd.func4.symm.trans hfn)).symm
      exact ⟨by kernel_rfl, fun j t ht => by
        rw [Tryd.params4] at ht
        have hm : t ∈ [26, 22] := by simpa using Array.mem_of_getElem? ht
        have hall : ([26, 22].all fun u => !Tryd.prog.wantsStandIn u) = true := by kernel_rfl
        exact (show Tryd.prog.wantsStandIn t = false by simpa using List.all_eq_true.1 hall t hm)⟩)
    (by kernel_rfl)
end Go.Proofs.YtgdcpdbmacmheaaDoor
