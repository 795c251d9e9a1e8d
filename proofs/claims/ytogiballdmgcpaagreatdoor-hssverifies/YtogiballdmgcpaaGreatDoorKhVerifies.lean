/- For every key, text and signature: apostillelaw16.HssVerifies returns true, and each argument reads afterwards as it read before; sha's two tables of roots are as the program's text lays them. No other condition. -/
import Derived.Test.YtogiballdmgcpaaGreatDoorHN1
import Derived.Test.YtogiballdmgcpaaGreatDoorBase
import Derived.Test.YtogiballdmgcpaaGreatDoorHRes32
import Derived.Deep.Slices
import Derived.Test.YtogiballdmgcpaaGreatDoorHKit
import Derived.Test.YtogiballdmgcpaaGreatDoorPgF
import Derived.Test.YtogiballdmgcpaaGreatDoorLsK
import Derived.Test.YtogiballdmgcpaaGreatDoorLhE
import Derived.WalkKit
import Derived.ProofKit
import Derived.OpenShut
import Derived.ShutString
import Derived.ChangeOld
import Derived.Below
namespace Go.Proofs.YtogiballdmgcpaaGreatDoor.hssVerifies
open Go.ChangeShapes Go.WideShapes Go.ChangeAt Go.RowKit
open Go.ChangeMaps (open_string shut_string)
set_option linter.unusedVariables false

set_option maxRecDepth 100000 in
set_option maxHeartbeats 4000000 in
theorem walk (a0 : Option Addr) (len0 cap0 : Nat) (z0 : List Int) (a1 : Option Addr) (len1 cap1 : Nat) (z1 : List Int) (a2 : Option Addr) (len2 cap2 : Nat) (z2 : List Int) (w : World) (w0 : IsRow .u8 w a0 len0 cap0 z0) (w1 : IsRow .u8 w a1 len1 cap1 z1) (w2 : IsRow .u8 w a2 len2 cap2 z2) (hV : Vars w) :
    Calls Tryz.prog 4 #[.slice a0 len0 cap0, .slice a1 len1 cap1, .slice a2 len2 cap2] w fun e w' => e = .returned (.bool true) ∧ Below w.heap.size w w' := by
  have tp : Tidy (.slice a0 len0 cap0) := w0.tidy
  have tt : Tidy (.slice a1 len1 cap1) := w1.tidy
  have tg : Tidy (.slice a2 len2 cap2) := w2.tidy
  obtain ⟨pub, rfl, rp⟩ := w0.row wf_u8
  obtain ⟨text, rfl, rt⟩ := w1.row wf_u8
  obtain ⟨sig, rfl, rg⟩ := w2.row wf_u8
  have hT : Roots w := hV
  have haw := fun y (k : Below w.heap.size w y) => awakeH_any y (hT.below k)
  clear w0 w1 w2
  by_cases hf : pub.length ≤ 300 ∧ text.length ≤ 300
  · have hfe := few2H a0 a1 pub.length text.length cap0 cap1 w
    rw [decide_eq_true hf] at hfe
    by_cases h12 : 25000 < sig.length
    · have h12i : (sig.length : Int) > 25000 := by omega
      have h12j : (25000 : Int) < (sig.length : Int) := by omega
      clear rp rt rg tp tt tg hT hf h12
      go_enter Tryz.func4, Tryz.ntmps4
      go_wp2_with (first
        | (go_at_call 7; refine hfe.mono ?_; rintro e y1 ⟨rfl, g1⟩)
        | (go_at_call 8; refine (haw _ g1).mono ?_; rintro e y2 ⟨rfl, g2⟩)
        | fail)
      go_ret
      exact ⟨rfl, keep_trans g1 g2⟩
    have h12i : ¬ (sig.length : Int) > 25000 := by omega
    have h12j : ¬ (25000 : Int) < (sig.length : Int) := by omega
    have hv1 := fun y (kb : Below w.heap.size w y) => cvfH_any pub text sig _ _ _ y (hT.below kb) (rp.below kb) (rt.below kb) tt (by omega) (rg.below kb) (by omega)
    have hv2 := fun y (kb : Below w.heap.size w y) => rvfH_any pub text sig _ _ _ y (rp.below kb) (rt.below kb) tt (by omega) (rg.below kb)
    generalize vfH pub text sig = R at *
    by_cases h8 : 12 ≤ sig.length
    · have h8i : (sig.length : Int) ≥ 12 := by omega
      have h8j : (12 : Int) ≤ (sig.length : Int) := by omega
      have h7i : (11 : Int) < (sig.length : Int) := by omega
      obtain ⟨sa, sc, hse, _, _, hso⟩ := rg.opens rfl
      simp only [Value.slice.injEq] at hse
      obtain ⟨sb, so, rfl, hcell⟩ := hso (by omega)
      obtain ⟨hse1, -, hse2⟩ := hse
      subst hse1
      subst hse2
      have c7 := hcell 11 (by omega)
      obtain ⟨x7, hx7⟩ : ∃ x, x = el sig 11 := ⟨_, rfl⟩
      rw [← hx7] at c7
      clear hcell
      have hcW : ∀ y, Below w.heap.size w y → y.cell? ⟨sb, so + 11, none⟩ = some (.int .u8 (x7 : Int)) := fun y kb => keep_cell c7 kb
      by_cases h4 : x7 = 4
      · subst h4
        clear rp rt rg tp tt tg hT hf h12 hv1 hv2 h8 hx7
        generalize sig.length = SL at *
        go_enter Tryz.func4, Tryz.ntmps4
        go_wp2_with (first
          | (go_at_call 7; refine hfe.mono ?_; rintro e y1 ⟨rfl, g1⟩; have c71 := hcW _ g1)
          | (go_at_call 8; refine (haw _ g1).mono ?_; rintro e y2 ⟨rfl, g2⟩)
          | fail)
        go_ret
        exact ⟨rfl, keep_trans g1 g2⟩
      · have h4i : ¬ (x7 : Int) = 4 := by omega
        have h4b : ((x7 : Int) == 4) = false := by simp; omega
        clear rp rt rg tp tt tg hT hf h12 h8 hx7 h4
        generalize sig.length = SL at *
        go_enter Tryz.func4, Tryz.ntmps4
        go_wp2_with (first
          | (go_at_call 7; refine hfe.mono ?_; rintro e y1 ⟨rfl, g1⟩; have c71 := hcW _ g1)
          | (go_at_call 14; refine (hv1 _ g1).mono ?_; rintro e y6 ⟨rfl, g6⟩; have k6 := keep_trans g1 g6)
          | (go_at_call 15; refine (hv2 _ k6).mono ?_; rintro e y7 ⟨rfl, g7⟩; have k7 := keep_trans k6 g7)
          | (go_at_call 8; refine (haw _ k7).mono ?_; rintro e y8 ⟨rfl, g8⟩)
          | fail)
        go_ret
        exact ⟨rfl, keep_trans k7 g8⟩
    · have h8i : ¬ (sig.length : Int) ≥ 12 := by omega
      have h8j : ¬ (12 : Int) ≤ (sig.length : Int) := by omega
      clear rp rt rg tp tt tg hT hf h12 h8
      generalize sig.length = SL at *
      go_enter Tryz.func4, Tryz.ntmps4
      go_wp2_with (first
        | (go_at_call 7; refine hfe.mono ?_; rintro e y1 ⟨rfl, g1⟩)
        | (go_at_call 14; refine (hv1 _ g1).mono ?_; rintro e y6 ⟨rfl, g6⟩; have k6 := keep_trans g1 g6)
        | (go_at_call 15; refine (hv2 _ k6).mono ?_; rintro e y7 ⟨rfl, g7⟩; have k7 := keep_trans k6 g7)
        | (go_at_call 8; refine (haw _ k7).mono ?_; rintro e y8 ⟨rfl, g8⟩)
        | fail)
      go_ret
      exact ⟨rfl, keep_trans k7 g8⟩
  · have hfe := few2H a0 a1 pub.length text.length cap0 cap1 w
    rw [decide_eq_false hf] at hfe
    clear rp rt rg tp tt tg hT hf
    go_enter Tryz.func4, Tryz.ntmps4
    go_wp2_with (first
      | (go_at_call 7; refine hfe.mono ?_; rintro e y1 ⟨rfl, g1⟩)
      | (go_at_call 8; refine (haw _ g1).mono ?_; rintro e y2 ⟨rfl, g2⟩)
      | fail)
    go_ret
    exact ⟨rfl, keep_trans g1 g2⟩

set_option maxRecDepth 100000 in
theorem lifted (os : Os) (started : os.Started) (H : Type) (enc : TypeId × Value → H) :
    ReturnsInHanded {} Tryz.checked os 4 .any (fun w args => (Rows.hssVerifiesSpec.pre enc Tryz.prog Tryz.f4 Rows.hssVerifiesRow.domain false w args ∧ laidMetH Tryz.prog Rows.hssVerifiesRow.laid w) ∧ sizedMet enc Tryz.prog Tryz.f4 (OpenSpec.ofChange Rows.hssVerifiesSpec) false w args) (Rows.hssVerifiesSpec.post enc Tryz.prog Tryz.f4 false true false false) := by
  refine change_laid_shaped (C := Tryz.checked) (X := fun w _ => laidMetH Tryz.prog Rows.hssVerifiesRow.laid w) (fun _ _ _ hh h => h.of_heap hh) own started (by kernel_rfl) Tryz.func4
    (ChangeSpec.witness_shaped (enc := enc) (C := Tryz.checked) (os := os) (X := fun w _ => laidMetH Tryz.prog Rows.hssVerifiesRow.laid w) false (World.laidAll Tryz.prog os Rows.hssVerifiesRow.laid) #[.slice none 0 0, .slice none 0 0, .slice none 0 0] 8 (World.laidAll_os _ _ _)
      (World.shaped_of_ZipB (by kernel_rfl) (by kernel_rfl)) (by kernel_rfl) (by kernel_rfl) (by kernel_rfl)
      (by rw [MakeChecks.laidMetH_plain _ _ _ (by kernel_rfl)]; exact laidMet_laidAll _ (by kernel_rfl) (by kernel_rfl))) ?_
  intro W base args ds gs before hval0 hW hsz0 hL hsh
  have hVars : Vars W := vars_of_laid hL hsh
  have hval : ∀ (j : Nat) t v, Tryz.f4.params[j]? = some t → args[j]? = some v → Value.okWide Tryz.prog W .any base t v := hval0
  have hW' := hW
  obtain ⟨p, q, hA0, hV, rfl, hfz, hnd⟩ := hW
  have hA : DataW.TrodAll enc Tryz.prog W 0 (fun _ => true) true Tryz.f4.params.toList args.toList ds p := hA0
  rw [Tryz.params4] at hA hval
  obtain ⟨v0, vs0, d0, ds0, p0, q0, hargs, rfl, rfl, h0, r0⟩ := trodAll_cons hA
  obtain ⟨v1, vs1, d1, ds1, p1, q1, rfl, rfl, rfl, h1, r1⟩ := trodAll_cons r0
  obtain ⟨v2, vs2, d2, ds2, p2, q2, rfl, rfl, rfl, h2, r2⟩ := trodAll_cons r1
  obtain ⟨rfl, rfl, rfl⟩ := trodAll_nil r2
  obtain rfl : args = #[v0, v1, v2] := by cases args; simp_all
  obtain ⟨rfl, rfl⟩ := trodVars_none hV
  obtain ⟨a0, len0, cap0, rfl⟩ := okWide_slice Tryz.underlying23 (hval 0 23 v0 rfl rfl)
  have k0 := h0
  have lt0 : ∀ x ∈ p0, x.block < W.heap.size := by obtain ⟨m, hm⟩ := k0; exact DataW.trod_lt m _ _ _ hm
  obtain ⟨z0, w0⟩ : ∃ zs, IsRow .u8 W a0 len0 cap0 zs := by
    obtain ⟨fuel, hf⟩ := h0
    rcases open_ints Tryz.underlying23 Tryz.underlying5 (by kernel_rfl) hf with ⟨hcs, _⟩ | ⟨x, l, c, zs, hcs, _, hl, hm, hz, _, hcell, hwz⟩
    · simp [Value.cells] at hcs
      obtain ⟨rfl, rfl, rfl⟩ := hcs
      exact ⟨[], .inl ⟨rfl, rfl, rfl, rfl⟩⟩
    · simp [Value.cells] at hcs
      obtain ⟨rfl, rfl, rfl⟩ := hcs
      exact ⟨zs, .inr ⟨_, rfl, hl, hm, by simpa using hz, hcell, hwz⟩⟩
  obtain ⟨a1, len1, cap1, rfl⟩ := okWide_slice Tryz.underlying23 (hval 1 23 v1 rfl rfl)
  have k1 := h1
  have lt1 : ∀ x ∈ p1, x.block < W.heap.size := by obtain ⟨m, hm⟩ := k1; exact DataW.trod_lt m _ _ _ hm
  obtain ⟨z1, w1⟩ : ∃ zs, IsRow .u8 W a1 len1 cap1 zs := by
    obtain ⟨fuel, hf⟩ := h1
    rcases open_ints Tryz.underlying23 Tryz.underlying5 (by kernel_rfl) hf with ⟨hcs, _⟩ | ⟨x, l, c, zs, hcs, _, hl, hm, hz, _, hcell, hwz⟩
    · simp [Value.cells] at hcs
      obtain ⟨rfl, rfl, rfl⟩ := hcs
      exact ⟨[], .inl ⟨rfl, rfl, rfl, rfl⟩⟩
    · simp [Value.cells] at hcs
      obtain ⟨rfl, rfl, rfl⟩ := hcs
      exact ⟨zs, .inr ⟨_, rfl, hl, hm, by simpa using hz, hcell, hwz⟩⟩
  obtain ⟨a2, len2, cap2, rfl⟩ := okWide_slice Tryz.underlying23 (hval 2 23 v2 rfl rfl)
  have k2 := h2
  have lt2 : ∀ x ∈ p2, x.block < W.heap.size := by obtain ⟨m, hm⟩ := k2; exact DataW.trod_lt m _ _ _ hm
  obtain ⟨z2, w2⟩ : ∃ zs, IsRow .u8 W a2 len2 cap2 zs := by
    obtain ⟨fuel, hf⟩ := h2
    rcases open_ints Tryz.underlying23 Tryz.underlying5 (by kernel_rfl) hf with ⟨hcs, _⟩ | ⟨x, l, c, zs, hcs, _, hl, hm, hz, _, hcell, hwz⟩
    · simp [Value.cells] at hcs
      obtain ⟨rfl, rfl, rfl⟩ := hcs
      exact ⟨[], .inl ⟨rfl, rfl, rfl, rfl⟩⟩
    · simp [Value.cells] at hcs
      obtain ⟨rfl, rfl, rfl⟩ := hcs
      exact ⟨zs, .inr ⟨_, rfl, hl, hm, by simpa using hz, hcell, hwz⟩⟩
  clear hA0 hval0
  refine (walk a0 len0 cap0 z0 a1 len1 cap1 z1 a2 len2 cap2 z2 W w0 w1 w2 hVars).mono fun e W' ⟨he, bel⟩ => ?_
  subst he
  exact ⟨_, rfl, _, _, _, [], _, [], hW', trodAll_mk1 (shut_bool Tryz.underlying4 _), (trodAll_cons_mk (Below.trod laidOut (by kernel_rfl) (of_decide_eq_true (by kernel_rfl)) k0 bel lt0) (trodAll_cons_mk (Below.trod laidOut (by kernel_rfl) (of_decide_eq_true (by kernel_rfl)) k1 bel lt1) (trodAll_cons_mk (Below.trod laidOut (by kernel_rfl) (of_decide_eq_true (by kernel_rfl)) k2 bel lt2) trodAll_mk0))), rfl, bel.frame _, fun h => by cases h⟩

theorem over : Rows.hssVerifiesRow.holds Tryz.pinned (OpenSpec.ofChange Rows.hssVerifiesSpec) :=
  OpenClaim.holds_of_wide 4 Tryz.f4 rfl rfl rfl rfl rfl rfl rfl ⟨rfl, rfl, rfl, rfl, rfl⟩ rfl rfl rfl rfl rfl (by kernel_rfl) Tryz.func4 (by kernel_rfl)
    (of_decide_eq_true (by kernel_rfl)) (by unfold Func.isWrapper; first | (rw [if_pos (by decide +kernel)]; kernel_rfl) | (rw [if_neg (by decide +kernel)]; exact ⟨rfl, rfl⟩))
    (fun os started H enc _ => lifted os started H enc)

end Go.Proofs.YtogiballdmgcpaaGreatDoor.hssVerifies
namespace Go.Proofs.YtogiballdmgcpaaGreatDoor
theorem hssVerifies_card : Rows.HssVerifiesCardSaid :=
  Claim7.holds_tied_plain_at .later [] [.data, .data] true (true, "0a640b7e697f3855e2ed015271d37461dde8d8faf02f84231c67d8fbae9741b5") false
    hssVerifies.over (fun _ h => by cases h) (by kernel_rfl) (fun _ h => by cases h) hssVerifies_row_tie rfl ⟨rfl, rfl⟩ (by kernel_rfl) rfl
    (fun f fn hf hfn => by
      obtain rfl : f = 4 := Option.some.inj ((show Tryz.prog.funcNamed Tryz.f4.name = some 4 by kernel_rfl).symm.trans hf) |>.symm
      obtain rfl : fn = Tryz.f4 := (Option.some.inj (Tryz.func4.symm.trans hfn)).symm
      exact ⟨by kernel_rfl, fun j t ht => by
        rw [Tryz.params4] at ht
        have hm : t ∈ [23, 23, 23] := by simpa using Array.mem_of_getElem? ht
        have hall : ([23, 23, 23].all fun u => !Tryz.prog.wantsStandIn u) = true := by kernel_rfl
        exact (show Tryz.prog.wantsStandIn t = false by simpa using List.all_eq_true.1 hall t hm)⟩)
    (by kernel_rfl)
end Go.Proofs.YtogiballdmgcpaaGreatDoor
