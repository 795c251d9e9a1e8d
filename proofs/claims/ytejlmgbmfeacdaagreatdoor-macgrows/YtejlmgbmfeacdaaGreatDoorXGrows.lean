/- For every two numbers and every two texts: apostillelaw09.MacGrows returns true, and each argument reads afterwards as it read before; sha's two tables of roots and keccak's table of constants are as the program's text lays them. No other condition. -/
import Derived.Test.YtejlmgbmfeacdaaGreatDoorYHm
import Derived.WalkKit
import Derived.ProofKit
import Derived.OpenShut
import Derived.ShutString
import Derived.ChangeOld
import Derived.Below
namespace Go.Proofs.YtejlmgbmfeacdaaGreatDoor.macGrows
open Go.ChangeShapes Go.WideShapes Go.ChangeAt Go.RowKit
open Go.ChangeMaps (open_string shut_string)
set_option linter.unusedVariables false

set_option maxRecDepth 100000 in
set_option maxHeartbeats 4000000 in
theorem walk (a0 : Int) (a1 : Option Addr) (len1 cap1 : Nat) (z1 : List Int) (a2 : Option Addr) (len2 cap2 : Nat) (z2 : List Int) (a3 : Int) (w : World) (w0 : (Lit.int .i64 a0).wf = true) (w1 : IsRow .u8 w a1 len1 cap1 z1) (w2 : IsRow .u8 w a2 len2 cap2 z2) (w3 : (Lit.int .i64 a3).wf = true) (hV : Vars w) :
    Calls Tryz.prog 4 #[.int .i64 a0, .slice a1 len1 cap1, .slice a2 len2 cap2, .int .i64 a3] w fun e w' => e = .returned (.bool true) ∧ Below w.heap.size w w' := by
  have hR : Roots w := hV.1
  have hC : Csts w := hV.2
  have tk := isRow_tidy w1
  have ti := isRow_tidy w2
  obtain ⟨key, rfl, rk⟩ := w1.row wf_u8
  obtain ⟨info, rfl, ri⟩ := w2.row wf_u8
  clear w1 w2 hV
  by_cases h1 : 400 < key.length
  · have h1i : (400 : Int) < (key.length : Int) := by omega
    go_enter Tryz.func4, Tryz.ntmps4
    go_wp2_with fail
    refine (awake_any _ hR hC).mono ?_
    rintro e x1 ⟨rfl, hb⟩
    go_wp2_with fail
    go_ret
    exact ⟨rfl, hb⟩
  have h1i : ¬ (400 : Int) < (key.length : Int) := by omega
  by_cases h2 : 400 < info.length
  · have h2i : (400 : Int) < (info.length : Int) := by omega
    go_enter Tryz.func4, Tryz.ntmps4
    go_wp2_with fail
    refine (awake_any _ hR hC).mono ?_
    rintro e x1 ⟨rfl, hb⟩
    go_wp2_with fail
    go_ret
    exact ⟨rfl, hb⟩
  have h2i : ¬ (400 : Int) < (info.length : Int) := by omega
  by_cases h3 : 700 < a3 ∧ a3 ≤ 1048576
  · have h3i : 700 < a3 := h3.1
    have h4i : a3 ≤ 1048576 := h3.2
    go_enter Tryz.func4, Tryz.ntmps4
    go_wp2_with fail
    refine (awake_any _ hR hC).mono ?_
    rintro e x1 ⟨rfl, hb⟩
    go_wp2_with fail
    go_ret
    exact ⟨rfl, hb⟩
  obtain ⟨c, O, hd1, hd2⟩ := both_exp a0 _ _ key info a3 w hR hC rk tk ri ti (by omega) (by omega)
  obtain ⟨d, M, hm1, hm2⟩ := both_mask a0 _ key a3 w hR hC rk tk (by omega) (by omega)
  have HR := hide hR
  have HC := hide hC
  clear hR hC
  have htail : ∀ hcase : (¬ 700 < a3) ∨ (700 < a3 ∧ 1048576 < a3), Calls Tryz.prog 4 #[.int .i64 a0, .slice a1 key.length cap1, .slice a2 info.length cap2, .int .i64 a3] w fun e w' => e = .returned (.bool true) ∧ Below w.heap.size w w' := by
    intro hcase
    rcases hcase with h3i | ⟨h3i, h4i⟩
    all_goals
      go_enter Tryz.func4, Tryz.ntmps4
      go_wp2_with fail
      refine (hd1 _ (Below.refl _ _)).mono ?_
      rintro e x1 ⟨v1, rfl, r1, hb1⟩
      go_wp2_with fail
      refine (hd2 _ hb1).mono ?_
      rintro e x2 ⟨v2, rfl, r2, hb2⟩
      replace r1 := r1.below hb2
      replace hb1 := keep_trans hb1 hb2
      clear hb2 hd1 hd2
      go_wp2_with fail
      refine (hm1 _ hb1).mono ?_
      rintro e x3 ⟨v3, rfl, r3, hb3⟩
      replace r1 := r1.below hb3
      replace r2 := r2.below hb3
      replace hb1 := keep_trans hb1 hb3
      clear hb3 hm1
      go_wp2_with fail
      refine (hm2 _ hb1).mono ?_
      rintro e x4 ⟨v4, rfl, r4, hb4⟩
      replace r1 := r1.below hb4
      replace r2 := r2.below hb4
      replace r3 := r3.below hb4
      replace hb1 := keep_trans hb1 hb4
      clear hb4 hm2
      obtain ⟨p1, q1, rfl⟩ := r1.form
      obtain ⟨p2, q2, rfl⟩ := r2.form
      obtain ⟨p3, q3, rfl⟩ := r3.form
      obtain ⟨p4, q4, rfl⟩ := r4.form
      go_wp2_with fail
      refine (rsame_true _ _ _ _ r1 r2).mono ?_
      rintro e x7 ⟨rfl, hb7⟩
      replace r3 := r3.below hb7
      replace r4 := r4.below hb7
      replace hb1 := keep_trans hb1 hb7
      clear hb7 r1 r2
      go_wp2_with fail
      refine (rsame_true _ _ _ _ r3 r4).mono ?_
      rintro e x8 ⟨rfl, hb8⟩
      replace hb1 := keep_trans hb1 hb8
      clear hb8 r3 r4
      go_wp2_with fail
      refine (awake_any _ (HR.out.below hb1) (HC.out.below hb1)).mono ?_
      rintro e x10 ⟨rfl, hb10⟩
      go_wp2_with fail
      go_ret
      exact ⟨rfl, keep_trans hb1 hb10⟩
  exact htail (by omega)

set_option maxRecDepth 100000 in
theorem lifted (os : Os) (started : os.Started) (H : Type) (enc : TypeId × Value → H) :
    ReturnsInHanded {} Tryz.checked os 4 .any (fun w args => (Rows.macGrowsSpec.pre enc Tryz.prog Tryz.f4 Rows.macGrowsRow.domain false w args ∧ laidMetH Tryz.prog Rows.macGrowsRow.laid w) ∧ sizedMet enc Tryz.prog Tryz.f4 (OpenSpec.ofChange Rows.macGrowsSpec) false w args) (Rows.macGrowsSpec.post enc Tryz.prog Tryz.f4 false true false false) := by
  refine change_laid_shaped (C := Tryz.checked) (X := fun w _ => laidMetH Tryz.prog Rows.macGrowsRow.laid w) (fun _ _ _ hh h => h.of_heap hh) own started (by kernel_rfl) Tryz.func4
    (ChangeSpec.witness_shaped (enc := enc) (C := Tryz.checked) (os := os) (X := fun w _ => laidMetH Tryz.prog Rows.macGrowsRow.laid w) false (World.laidAll Tryz.prog os Rows.macGrowsRow.laid) #[.int .i64 0, .slice none 0 0, .slice none 0 0, .int .i64 0] 8 (World.laidAll_os _ _ _)
      (World.shaped_of_ZipB (by kernel_rfl) (by kernel_rfl)) (by kernel_rfl) (by kernel_rfl) (by kernel_rfl)
      (by rw [MakeChecks.laidMetH_plain _ _ _ (by kernel_rfl)]; exact laidMet_laidAll _ (by kernel_rfl) (by kernel_rfl))) ?_
  intro W base args ds gs before hval0 hW hsz0 hL hsh
  have hVars : Vars W := vars_of_laid hL hsh
  have hval : ∀ (j : Nat) t v, Tryz.f4.params[j]? = some t → args[j]? = some v → Value.okWide Tryz.prog W .any base t v := hval0
  have hW' := hW
  obtain ⟨p, q, hA0, hV, rfl, hfz, hnd⟩ := hW
  have hA : DataW.TrodAll enc Tryz.prog W 0 (fun _ => true) true Tryz.f4.params.toList args.toList ds p := hA0
  rw [Tryz.params4] at hA hval
  obtain ⟨v0, vs0, d0, ds0, p0, q0, hargs, rfl, rfl, h0, r0⟩ := trodAll_cons hA
  obtain ⟨v1, vs1, d1, ds1, p1, q1, rfl, rfl, rfl, h1, r1⟩ := trodAll_cons r0
  obtain ⟨v2, vs2, d2, ds2, p2, q2, rfl, rfl, rfl, h2, r2⟩ := trodAll_cons r1
  obtain ⟨v3, vs3, d3, ds3, p3, q3, rfl, rfl, rfl, h3, r3⟩ := trodAll_cons r2
  obtain ⟨rfl, rfl, rfl⟩ := trodAll_nil r3
  obtain rfl : args = #[v0, v1, v2, v3] := by cases args; simp_all
  obtain ⟨rfl, rfl⟩ := trodVars_none hV
  obtain ⟨a0, rfl, rfl, rfl, w0⟩ := open_int Tryz.underlying3 (hval 0 3 v0 rfl rfl) h0
  obtain ⟨a1, len1, cap1, rfl⟩ := okWide_slice Tryz.underlying22 (hval 1 22 v1 rfl rfl)
  have k1 := h1
  have lt1 : ∀ x ∈ p1, x.block < W.heap.size := by obtain ⟨m, hm⟩ := k1; exact DataW.trod_lt m _ _ _ hm
  obtain ⟨z1, w1⟩ : ∃ zs, IsRow .u8 W a1 len1 cap1 zs := by
    obtain ⟨fuel, hf⟩ := h1
    rcases open_ints Tryz.underlying22 Tryz.underlying5 (by kernel_rfl) hf with ⟨hcs, _⟩ | ⟨x, l, c, zs, hcs, _, hl, hm, hz, _, hcell, hwz⟩
    · simp [Value.cells] at hcs
      obtain ⟨rfl, rfl, rfl⟩ := hcs
      exact ⟨[], .inl ⟨rfl, rfl, rfl, rfl⟩⟩
    · simp [Value.cells] at hcs
      obtain ⟨rfl, rfl, rfl⟩ := hcs
      exact ⟨zs, .inr ⟨_, rfl, hl, hm, by simpa using hz, hcell, hwz⟩⟩
  obtain ⟨a2, len2, cap2, rfl⟩ := okWide_slice Tryz.underlying22 (hval 2 22 v2 rfl rfl)
  have k2 := h2
  have lt2 : ∀ x ∈ p2, x.block < W.heap.size := by obtain ⟨m, hm⟩ := k2; exact DataW.trod_lt m _ _ _ hm
  obtain ⟨z2, w2⟩ : ∃ zs, IsRow .u8 W a2 len2 cap2 zs := by
    obtain ⟨fuel, hf⟩ := h2
    rcases open_ints Tryz.underlying22 Tryz.underlying5 (by kernel_rfl) hf with ⟨hcs, _⟩ | ⟨x, l, c, zs, hcs, _, hl, hm, hz, _, hcell, hwz⟩
    · simp [Value.cells] at hcs
      obtain ⟨rfl, rfl, rfl⟩ := hcs
      exact ⟨[], .inl ⟨rfl, rfl, rfl, rfl⟩⟩
    · simp [Value.cells] at hcs
      obtain ⟨rfl, rfl, rfl⟩ := hcs
      exact ⟨zs, .inr ⟨_, rfl, hl, hm, by simpa using hz, hcell, hwz⟩⟩
  obtain ⟨a3, rfl, rfl, rfl, w3⟩ := open_int Tryz.underlying3 (hval 3 3 v3 rfl rfl) h3
  clear hA0 hval0
  refine (walk a0 a1 len1 cap1 z1 a2 len2 cap2 z2 a3 W w0 w1 w2 w3 hVars).mono fun e W' ⟨he, bel⟩ => ?_
  subst he
  exact ⟨_, rfl, _, _, _, [], _, [], hW', trodAll_mk1 (shut_bool Tryz.underlying4 _), (trodAll_cons_mk (shut_int Tryz.underlying3 w0) (trodAll_cons_mk (Below.trod laidOut (by kernel_rfl) (of_decide_eq_true (by kernel_rfl)) k1 bel lt1) (trodAll_cons_mk (Below.trod laidOut (by kernel_rfl) (of_decide_eq_true (by kernel_rfl)) k2 bel lt2) (trodAll_cons_mk (shut_int Tryz.underlying3 w3) trodAll_mk0)))), rfl, bel.frame _, fun h => by cases h⟩

theorem over : Rows.macGrowsRow.holds Tryz.pinned (OpenSpec.ofChange Rows.macGrowsSpec) :=
  OpenClaim.holds_of_wide 4 Tryz.f4 rfl rfl rfl rfl rfl rfl rfl ⟨rfl, rfl, rfl, rfl, rfl⟩ rfl rfl rfl rfl rfl (by kernel_rfl) Tryz.func4 (by kernel_rfl)
    (of_decide_eq_true (by kernel_rfl)) (by unfold Func.isWrapper; first | (rw [if_pos (by decide +kernel)]; kernel_rfl) | (rw [if_neg (by decide +kernel)]; exact ⟨rfl, rfl⟩))
    (fun os started H enc _ => lifted os started H enc)

end Go.Proofs.YtejlmgbmfeacdaaGreatDoor.macGrows
namespace Go.Proofs.YtejlmgbmfeacdaaGreatDoor
theorem macGrows_card : Rows.MacGrowsCardSaid :=
  Claim7.holds_tied_plain_at .later [] [.data, .data, .data] true (true, "260a4d8ea2886379a448f9f66dd4a836cc06976f5460a12c5c04504f86f52883") false
    macGrows.over (fun _ h => by cases h) (by kernel_rfl) (fun _ h => by cases h) macGrows_row_tie rfl ⟨rfl, rfl⟩ (by kernel_rfl) rfl
    (fun f fn hf hfn => by
      obtain rfl : f = 4 := Option.some.inj ((show Tryz.prog.funcNamed Tryz.f4.name = some 4 by kernel_rfl).symm.trans hf) |>.symm
      obtain rfl : fn = Tryz.f4 := (Option.some.inj (Tryz.func4.symm.trans hfn)).symm
      exact ⟨by kernel_rfl, fun j t ht => by
        rw [Tryz.params4] at ht
        have hm : t ∈ [3, 22, 22, 3] := by simpa using Array.mem_of_getElem? ht
        have hall : ([3, 22, 22, 3].all fun u => !Tryz.prog.wantsStandIn u) = true := by kernel_rfl
        exact (show Tryz.prog.wantsStandIn t = false by simpa using List.all_eq_true.1 hall t hm)⟩)
    (by kernel_rfl)
end Go.Proofs.YtejlmgbmfeacdaaGreatDoor
