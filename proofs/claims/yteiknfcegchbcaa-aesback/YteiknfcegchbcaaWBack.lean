/- For every four texts: apostillelaw10.AesBack returns true, and each argument reads afterwards as it read before. No condition. -/
import Derived.Test.YteiknfcegchbcaaBase
import Derived.Test.YteiknfcegchbcaaAUnc
import Derived.WalkKit
import Derived.ProofKit
import Derived.OpenShut
import Derived.ShutString
import Derived.ChangeOld
import Derived.Below
namespace Go.Proofs.Yteiknfcegchbcaa.aesBack
open Go.ChangeShapes Go.WideShapes Go.ChangeAt Go.RowKit
open Go.ChangeMaps (open_string shut_string)
set_option linter.unusedVariables false

set_option maxRecDepth 100000 in
set_option maxHeartbeats 4000000 in
theorem walk (a0 : Option Addr) (len0 cap0 : Nat) (z0 : List Int) (a1 : Option Addr) (len1 cap1 : Nat) (z1 : List Int) (a2 : Option Addr) (len2 cap2 : Nat) (z2 : List Int) (a3 : Option Addr) (len3 cap3 : Nat) (z3 : List Int) (w : World) (w0 : IsRow .u8 w a0 len0 cap0 z0) (w1 : IsRow .u8 w a1 len1 cap1 z1) (w2 : IsRow .u8 w a2 len2 cap2 z2) (w3 : IsRow .u8 w a3 len3 cap3 z3) :
    Calls Try.prog 6 #[.slice a0 len0 cap0, .slice a1 len1 cap1, .slice a2 len2 cap2, .slice a3 len3 cap3] w fun e w' => e = .returned (.bool true) ∧ Below w.heap.size w w' := by
  have tb : Tidy (.slice a2 len2 cap2) := w2.tidy
  obtain ⟨key, rfl, rk⟩ := w0.row wf_u8
  obtain ⟨f, rfl, rf⟩ := w1.row wf_u8
  obtain ⟨b, rfl, rb⟩ := w2.row wf_u8
  obtain ⟨c, rfl, rc⟩ := w3.row wf_u8
  clear w0 w1 w2 w3
  by_cases h1 : 100 < key.length
  · have h1i : (100 : Int) < (key.length : Int) := by omega
    go_enter Try.func6, Try.ntmps6
    go_wp2_with fail
    refine (aawake_any _).mono ?_
    rintro e x1 ⟨rfl, hb⟩
    go_wp2_with fail
    go_ret
    exact ⟨rfl, hb⟩
  have h1i : ¬ (100 : Int) < (key.length : Int) := by omega
  by_cases h2 : 100 < f.length
  · have h2i : (100 : Int) < (f.length : Int) := by omega
    go_enter Try.func6, Try.ntmps6
    go_wp2_with fail
    refine (aawake_any _).mono ?_
    rintro e x1 ⟨rfl, hb⟩
    go_wp2_with fail
    go_ret
    exact ⟨rfl, hb⟩
  have h2i : ¬ (100 : Int) < (f.length : Int) := by omega
  by_cases h3 : 400 < b.length
  · have h3i : (400 : Int) < (b.length : Int) := by omega
    go_enter Try.func6, Try.ntmps6
    go_wp2_with fail
    refine (aawake_any _).mono ?_
    rintro e x1 ⟨rfl, hb⟩
    go_wp2_with fail
    go_ret
    exact ⟨rfl, hb⟩
  have h3i : ¬ (400 : Int) < (b.length : Int) := by omega
  by_cases h4 : 400 < c.length
  · have h4i : (400 : Int) < (c.length : Int) := by omega
    go_enter Try.func6, Try.ntmps6
    go_wp2_with fail
    refine (aawake_any _).mono ?_
    rintro e x1 ⟨rfl, hb⟩
    go_wp2_with fail
    go_ret
    exact ⟨rfl, hb⟩
  have h4i : ¬ (400 : Int) < (c.length : Int) := by omega
  by_cases hk : Sz3 key.length
  · by_cases hf : f.length = 16
    · have hfB : B16 f := ⟨hf, rf.under⟩
      have hkU := rk.under
      have hbU := rb.under
      have hB1 := cblk_ok key f _ _ w rk rf hk hf
      have hB2 := fun y (v : Value) (h : Below w.heap.size w y) (r : Row .u8 256 y v (thA' key f)) => ab_back (rk.below h) r hk hfB
      have hB3 := fun y (h : Below w.heap.size w y) => cbak_ok key f _ _ y (rk.below h) (rf.below h) hk hf
      have hB4 := fun y (v : Value) (h : Below w.heap.size w y) (r : Row .u8 256 y v (bkA' key f)) => ab_block (rk.below h) r hk hfB
      have hC1 := fun y (h : Below w.heap.size w y) => cch_ok key f b _ _ _ y (rk.below h) (rf.below h) (rb.below h) tb hk hf (by omega)
      have hC2 := fun y (v : Value) (h : Below w.heap.size w y) (r : Row .u8 256 y v (outC (thA' key) f (padL b) (b.length / 16 + 1))) => ab_unch (rk.below h) (rf.below h) r hk hf hbU (by omega)
      have hUN := ab_un rk rf rc hk hf (by omega)
      have hXl := ch_len hkU hfB hbU
      obtain ⟨Z, hZ⟩ : ∃ x : Nat, x = 16 * (b.length / 16 + 1) := ⟨_, rfl⟩
      rw [← hZ] at hXl
      generalize outC (thA' key) f (padL b) (b.length / 16 + 1) = XC at *
      generalize thA' key f = XB at *
      generalize bkA' key f = XD at *
      have z_16 : (Z : Int) % 16 = 0 := by omega
      have t_16 : (Z : Int).tmod 16 = 0 := by rw [Int.tmod_eq_emod_of_nonneg (by omega)]; exact z_16
      have z_b : ¬ ((Z : Int) ≤ (b.length : Int)) := by omega
      have HX := hide (And.intro hXl hZ)
      have HR := hide (And.intro rf (And.intro rb rc))
      clear h1 h2 h3 h4 hXl hZ hfB hkU hbU rk tb hk rf rb rc hf
      rcases hUN with ⟨k, hk0, hU⟩ | ⟨Y, hU, hCY⟩
      · go_enter Try.func6, Try.ntmps6
        go_wp2_with (first
          | (go_at_call_of 8 (Value.slice a1 f.length cap1); refine hB1.mono ?_; rintro e x1 ⟨v1, rfl, r1, _, g1⟩)
          | (go_at_call_of 10 v1; refine (hB2 _ v1 g1 r1).mono ?_; rintro e x2 ⟨v2, rfl, r2, _, g2⟩; have k2 := keep_trans g1 g2)
          | (go_at_call_of 10 (Value.slice a1 f.length cap1); refine (hB3 _ k2).mono ?_; rintro e x3 ⟨v3, rfl, r3, _, g3⟩; have k3 := keep_trans k2 g3)
          | (go_at_call_of 8 v3; refine (hB4 _ v3 k3 r3).mono ?_; rintro e x4 ⟨v4, rfl, r4, _, g4⟩; have k4 := keep_trans k3 g4)
          | (go_at_call_of 12 v2; refine (rsame_true v2 _ f _ (r2.below (keep_trans g3 g4)) (HR.out.1.below k4)).mono ?_; rintro e x5 ⟨rfl, g5⟩; have k5 := keep_trans k4 g5)
          | (go_at_call_of 12 v4; refine (rsame_true v4 _ f _ (r4.below g5) (HR.out.1.below k5)).mono ?_; rintro e x6 ⟨rfl, g6⟩; have k6 := keep_trans k5 g6)
          | (go_at_call_of 13 (Value.slice a2 b.length cap2); refine (hC1 _ k6).mono ?_; rintro e x7 ⟨v7, rfl, r7, _, g7⟩; have k7 := keep_trans k6 g7; obtain ⟨a7, c7, rfl, _⟩ := r7.opens HX.out.1)
          | (go_at_call_of 15 (Value.slice a7 Z c7); refine (hC2 _ _ k7 r7).mono ?_; rintro e x8 ⟨v8, rfl, r8, _, g8⟩; have k8 := keep_trans k7 g8)
          | (go_at_call_of 12 v8; refine (rsame_true v8 _ b _ r8 (HR.out.2.1.below k8)).mono ?_; rintro e x9 ⟨rfl, g9⟩; have k9 := keep_trans k8 g9)
          | (go_at_call_of 15 (Value.slice a3 c.length cap3); refine (hU _ k9).mono ?_; rintro e xa ⟨va, rfl, ra, _, ga⟩; have ka := keep_trans k9 ga; obtain ⟨aa, ca, rfl, _⟩ := ra.opens (N := 0) rfl)
          | (go_at_call 7; refine (aawake_any _).mono ?_; rintro e xb ⟨rfl, gb⟩)
          | fail)
        go_ret
        exact ⟨rfl, keep_trans ka gb⟩
      · go_enter Try.func6, Try.ntmps6
        go_wp2_with (first
          | (go_at_call_of 8 (Value.slice a1 f.length cap1); refine hB1.mono ?_; rintro e x1 ⟨v1, rfl, r1, _, g1⟩)
          | (go_at_call_of 10 v1; refine (hB2 _ v1 g1 r1).mono ?_; rintro e x2 ⟨v2, rfl, r2, _, g2⟩; have k2 := keep_trans g1 g2)
          | (go_at_call_of 10 (Value.slice a1 f.length cap1); refine (hB3 _ k2).mono ?_; rintro e x3 ⟨v3, rfl, r3, _, g3⟩; have k3 := keep_trans k2 g3)
          | (go_at_call_of 8 v3; refine (hB4 _ v3 k3 r3).mono ?_; rintro e x4 ⟨v4, rfl, r4, _, g4⟩; have k4 := keep_trans k3 g4)
          | (go_at_call_of 12 v2; refine (rsame_true v2 _ f _ (r2.below (keep_trans g3 g4)) (HR.out.1.below k4)).mono ?_; rintro e x5 ⟨rfl, g5⟩; have k5 := keep_trans k4 g5)
          | (go_at_call_of 12 v4; refine (rsame_true v4 _ f _ (r4.below g5) (HR.out.1.below k5)).mono ?_; rintro e x6 ⟨rfl, g6⟩; have k6 := keep_trans k5 g6)
          | (go_at_call_of 13 (Value.slice a2 b.length cap2); refine (hC1 _ k6).mono ?_; rintro e x7 ⟨v7, rfl, r7, _, g7⟩; have k7 := keep_trans k6 g7; obtain ⟨a7, c7, rfl, _⟩ := r7.opens HX.out.1)
          | (go_at_call_of 15 (Value.slice a7 Z c7); refine (hC2 _ _ k7 r7).mono ?_; rintro e x8 ⟨v8, rfl, r8, _, g8⟩; have k8 := keep_trans k7 g8)
          | (go_at_call_of 12 v8; refine (rsame_true v8 _ b _ r8 (HR.out.2.1.below k8)).mono ?_; rintro e x9 ⟨rfl, g9⟩; have k9 := keep_trans k8 g9)
          | (go_at_call_of 15 (Value.slice a3 c.length cap3); refine (hU _ k9).mono ?_; rintro e xa ⟨va, rfl, ra, ta, ga⟩; have ka := keep_trans k9 ga)
          | (go_at_call_of 13 va; refine (hCY _ va ka ra ta).mono ?_; rintro e xd ⟨vd, rfl, rd, _, gd⟩; have kd := keep_trans ka gd)
          | (go_at_call_of 12 vd; refine (rsame_true vd _ c _ rd (HR.out.2.2.below kd)).mono ?_; rintro e xe ⟨rfl, ge⟩; have ke := keep_trans kd ge)
          | (go_at_call 7; refine (aawake_any _).mono ?_; rintro e xb ⟨rfl, gb⟩)
          | fail)
        go_ret
        exact ⟨rfl, keep_trans ke gb⟩
    · have hB := fun y (h : Below w.heap.size w y) => cblk_size key f _ _ y (rk.below h) (rf.below h) hk hf
      have hC := fun y (h : Below w.heap.size w y) => cch_size key f _ _ (.slice a2 b.length cap2) y (rk.below h) (rf.below h) hk hf
      have hU := fun y (h : Below w.heap.size w y) => cun_size1 key f _ _ (.slice a3 c.length cap3) y (rk.below h) (rf.below h) hk hf
      clear h1 h2 h3 h4
      go_enter Try.func6, Try.ntmps6
      go_wp2_with (first
        | (go_at_call 8; refine (hB _ (Below.refl _ _)).mono ?_; rintro e x1 ⟨rfl, g1⟩)
        | (go_at_call 13; refine (hC _ g1).mono ?_; rintro e x2 ⟨rfl, g2⟩; have g12 := keep_trans g1 g2)
        | (go_at_call 15; refine (hU _ g12).mono ?_; rintro e x3 ⟨rfl, g3⟩; have g13 := keep_trans g12 g3)
        | (go_at_call 7; refine (aawake_any _).mono ?_; rintro e x7 ⟨rfl, g7⟩)
        | fail)
      go_ret
      exact ⟨rfl, keep_trans g13 g7⟩
  · have hB := fun y (h : Below w.heap.size w y) => cblk_key key _ (.slice a1 f.length cap1) y (rk.below h) hk
    have hC := fun y (h : Below w.heap.size w y) => cch_key key _ (.slice a1 f.length cap1) (.slice a2 b.length cap2) y (rk.below h) hk
    have hU := fun y (h : Below w.heap.size w y) => cun_key key _ (.slice a1 f.length cap1) (.slice a3 c.length cap3) y (rk.below h) hk
    clear h1 h2 h3 h4
    go_enter Try.func6, Try.ntmps6
    go_wp2_with (first
      | (go_at_call 8; refine (hB _ (Below.refl _ _)).mono ?_; rintro e x1 ⟨rfl, g1⟩)
      | (go_at_call 13; refine (hC _ g1).mono ?_; rintro e x2 ⟨rfl, g2⟩; have g12 := keep_trans g1 g2)
      | (go_at_call 15; refine (hU _ g12).mono ?_; rintro e x3 ⟨rfl, g3⟩; have g13 := keep_trans g12 g3)
      | (go_at_call 7; refine (aawake_any _).mono ?_; rintro e x7 ⟨rfl, g7⟩)
      | fail)
    go_ret
    exact ⟨rfl, keep_trans g13 g7⟩

set_option maxRecDepth 100000 in
theorem lifted (os : Os) (started : os.Started) (H : Type) (enc : TypeId × Value → H) :
    ReturnsInHanded {} Try.checked os 6 .any (Rows.aesBackSpec.pre6 enc Try.prog Try.f6 Rows.aesBackRow.domain false) (Rows.aesBackSpec.post enc Try.prog Try.f6 false true false false) := by
  refine returnsInHanded_of_change (C := Try.checked) own started (by kernel_rfl) Try.func6
    (ChangeSpec.witness6 (enc := enc) (C := Try.checked) false ⟨#[], #[.slice none 0 0, .slice none 0 0, .slice none 0 0, .slice none 0 0], []⟩ 8 (by kernel_rfl) (by kernel_rfl) (by kernel_rfl) (by kernel_rfl)) ?_
  intro W base args ds gs before hval0 hW hcnd _
  have hval : ∀ (j : Nat) t v, Try.f6.params[j]? = some t → args[j]? = some v → Value.okWide Try.prog W .any base t v := hval0
  have hW' := hW
  obtain ⟨p, q, hA0, hV, rfl, hfz, hnd⟩ := hW
  have hA : DataW.TrodAll enc Try.prog W 0 (fun _ => true) true Try.f6.params.toList args.toList ds p := hA0
  rw [Try.params6] at hA hval
  obtain ⟨v0, vs0, d0, ds0, p0, q0, hargs, rfl, rfl, h0, r0⟩ := trodAll_cons hA
  obtain ⟨v1, vs1, d1, ds1, p1, q1, rfl, rfl, rfl, h1, r1⟩ := trodAll_cons r0
  obtain ⟨v2, vs2, d2, ds2, p2, q2, rfl, rfl, rfl, h2, r2⟩ := trodAll_cons r1
  obtain ⟨v3, vs3, d3, ds3, p3, q3, rfl, rfl, rfl, h3, r3⟩ := trodAll_cons r2
  obtain ⟨rfl, rfl, rfl⟩ := trodAll_nil r3
  obtain rfl : args = #[v0, v1, v2, v3] := by cases args; simp_all
  obtain ⟨rfl, rfl⟩ := trodVars_none hV
  obtain ⟨a0, len0, cap0, rfl⟩ := okWide_slice Try.underlying22 (hval 0 22 v0 rfl rfl)
  have k0 := h0
  have lt0 : ∀ x ∈ p0, x.block < W.heap.size := by obtain ⟨m, hm⟩ := k0; exact DataW.trod_lt m _ _ _ hm
  obtain ⟨z0, w0⟩ : ∃ zs, IsRow .u8 W a0 len0 cap0 zs := by
    obtain ⟨fuel, hf⟩ := h0
    rcases open_ints Try.underlying22 Try.underlying5 (by kernel_rfl) hf with ⟨hcs, _⟩ | ⟨x, l, c, zs, hcs, _, hl, hm, hz, _, hcell, hwz⟩
    · simp [Value.cells] at hcs
      obtain ⟨rfl, rfl, rfl⟩ := hcs
      exact ⟨[], .inl ⟨rfl, rfl, rfl, rfl⟩⟩
    · simp [Value.cells] at hcs
      obtain ⟨rfl, rfl, rfl⟩ := hcs
      exact ⟨zs, .inr ⟨_, rfl, hl, hm, by simpa using hz, hcell, hwz⟩⟩
  obtain ⟨a1, len1, cap1, rfl⟩ := okWide_slice Try.underlying22 (hval 1 22 v1 rfl rfl)
  have k1 := h1
  have lt1 : ∀ x ∈ p1, x.block < W.heap.size := by obtain ⟨m, hm⟩ := k1; exact DataW.trod_lt m _ _ _ hm
  obtain ⟨z1, w1⟩ : ∃ zs, IsRow .u8 W a1 len1 cap1 zs := by
    obtain ⟨fuel, hf⟩ := h1
    rcases open_ints Try.underlying22 Try.underlying5 (by kernel_rfl) hf with ⟨hcs, _⟩ | ⟨x, l, c, zs, hcs, _, hl, hm, hz, _, hcell, hwz⟩
    · simp [Value.cells] at hcs
      obtain ⟨rfl, rfl, rfl⟩ := hcs
      exact ⟨[], .inl ⟨rfl, rfl, rfl, rfl⟩⟩
    · simp [Value.cells] at hcs
      obtain ⟨rfl, rfl, rfl⟩ := hcs
      exact ⟨zs, .inr ⟨_, rfl, hl, hm, by simpa using hz, hcell, hwz⟩⟩
  obtain ⟨a2, len2, cap2, rfl⟩ := okWide_slice Try.underlying22 (hval 2 22 v2 rfl rfl)
  have k2 := h2
  have lt2 : ∀ x ∈ p2, x.block < W.heap.size := by obtain ⟨m, hm⟩ := k2; exact DataW.trod_lt m _ _ _ hm
  obtain ⟨z2, w2⟩ : ∃ zs, IsRow .u8 W a2 len2 cap2 zs := by
    obtain ⟨fuel, hf⟩ := h2
    rcases open_ints Try.underlying22 Try.underlying5 (by kernel_rfl) hf with ⟨hcs, _⟩ | ⟨x, l, c, zs, hcs, _, hl, hm, hz, _, hcell, hwz⟩
    · simp [Value.cells] at hcs
      obtain ⟨rfl, rfl, rfl⟩ := hcs
      exact ⟨[], .inl ⟨rfl, rfl, rfl, rfl⟩⟩
    · simp [Value.cells] at hcs
      obtain ⟨rfl, rfl, rfl⟩ := hcs
      exact ⟨zs, .inr ⟨_, rfl, hl, hm, by simpa using hz, hcell, hwz⟩⟩
  obtain ⟨a3, len3, cap3, rfl⟩ := okWide_slice Try.underlying22 (hval 3 22 v3 rfl rfl)
  have k3 := h3
  have lt3 : ∀ x ∈ p3, x.block < W.heap.size := by obtain ⟨m, hm⟩ := k3; exact DataW.trod_lt m _ _ _ hm
  obtain ⟨z3, w3⟩ : ∃ zs, IsRow .u8 W a3 len3 cap3 zs := by
    obtain ⟨fuel, hf⟩ := h3
    rcases open_ints Try.underlying22 Try.underlying5 (by kernel_rfl) hf with ⟨hcs, _⟩ | ⟨x, l, c, zs, hcs, _, hl, hm, hz, _, hcell, hwz⟩
    · simp [Value.cells] at hcs
      obtain ⟨rfl, rfl, rfl⟩ := hcs
      exact ⟨[], .inl ⟨rfl, rfl, rfl, rfl⟩⟩
    · simp [Value.cells] at hcs
      obtain ⟨rfl, rfl, rfl⟩ := hcs
      exact ⟨zs, .inr ⟨_, rfl, hl, hm, by simpa using hz, hcell, hwz⟩⟩
  clear hA0 hval0
  refine (walk a0 len0 cap0 z0 a1 len1 cap1 z1 a2 len2 cap2 z2 a3 len3 cap3 z3 W w0 w1 w2 w3).mono fun e W' ⟨he, bel⟩ => ?_
  subst he
  exact ⟨_, rfl, _, _, _, [], _, [], hW', trodAll_mk1 (shut_bool Try.underlying4 _), (trodAll_cons_mk (Below.trod laidOut (by kernel_rfl) (of_decide_eq_true (by kernel_rfl)) k0 bel lt0) (trodAll_cons_mk (Below.trod laidOut (by kernel_rfl) (of_decide_eq_true (by kernel_rfl)) k1 bel lt1) (trodAll_cons_mk (Below.trod laidOut (by kernel_rfl) (of_decide_eq_true (by kernel_rfl)) k2 bel lt2) (trodAll_cons_mk (Below.trod laidOut (by kernel_rfl) (of_decide_eq_true (by kernel_rfl)) k3 bel lt3) trodAll_mk0)))), rfl, bel.frame _, fun h => by cases h⟩

theorem over : Rows.aesBackRow.holds Try.pinned (OpenSpec.ofChange Rows.aesBackSpec) :=
  OpenClaim.holds_of_wide 6 Try.f6 rfl rfl rfl rfl rfl rfl rfl ⟨rfl, rfl, rfl, rfl, rfl⟩ rfl rfl rfl rfl rfl (by kernel_rfl) Try.func6 (by kernel_rfl)
    (of_decide_eq_true (by kernel_rfl)) (by unfold Func.isWrapper; first | (rw [if_pos (by decide +kernel)]; kernel_rfl) | (rw [if_neg (by decide +kernel)]; exact ⟨rfl, rfl⟩))
    (fun os started H enc _ => lifted os started H enc)

end Go.Proofs.Yteiknfcegchbcaa.aesBack
namespace Go.Proofs.Yteiknfcegchbcaa
theorem aesBack_holds : Rows.AesBackSaid := aesBack.over
end Go.Proofs.Yteiknfcegchbcaa
