/- For every two texts: apostillelaw11.WrapTells returns true, and each argument reads afterwards as it read before. No condition. -/
import Derived.Test.YtjnlkihhmenfnaaBase
import Derived.Test.YtjnlkihhmenfnaaWCe
import Derived.WalkKit
import Derived.ProofKit
import Derived.OpenShut
import Derived.ShutString
import Derived.ChangeOld
import Derived.Below
namespace Go.Proofs.Ytjnlkihhmenfnaa.wrapTells
open Go.ChangeShapes Go.WideShapes Go.ChangeAt Go.RowKit
open Go.ChangeMaps (open_string shut_string)
set_option linter.unusedVariables false

set_option maxRecDepth 100000 in
set_option maxHeartbeats 4000000 in
theorem walk (a0 : Option Addr) (len0 cap0 : Nat) (z0 : List Int) (a1 : Option Addr) (len1 cap1 : Nat) (z1 : List Int) (w : World) (w0 : IsRow .u8 w a0 len0 cap0 z0) (w1 : IsRow .u8 w a1 len1 cap1 z1) :
    Calls Try.prog 3 #[.slice a0 len0 cap0, .slice a1 len1 cap1] w fun e w' => e = .returned (.bool true) ∧ Below w.heap.size w w' := by
  obtain ⟨kek, rfl, rk⟩ := w0.row wf_u8
  obtain ⟨key, rfl, rb⟩ := w1.row wf_u8
  clear w0 w1
  by_cases h1 : 100 < kek.length
  · have h1i : (100 : Int) < (kek.length : Int) := by omega
    go_enter Try.func3, Try.ntmps3
    go_wp2_with fail
    refine (wawake_any _).mono ?_
    rintro e x1 ⟨rfl, hb⟩
    go_wp2_with fail
    go_ret
    exact ⟨rfl, hb⟩
  have h1i : ¬ (100 : Int) < (kek.length : Int) := by omega
  obtain ⟨c, X, hc1, hc2⟩ := both_wr rk rb
  obtain ⟨d, Y, hd1, hd2⟩ := both_ux rk rb
  by_cases h2 : 80 < key.length
  · have h2i : (80 : Int) < (key.length : Int) := by omega
    by_cases h3 : key.length ≤ 4200
    · have h3i : (key.length : Int) ≤ 4200 := by omega
      go_enter Try.func3, Try.ntmps3
      go_wp2_with fail
      refine (wawake_any _).mono ?_
      rintro e x1 ⟨rfl, hb⟩
      go_wp2_with fail
      go_ret
      exact ⟨rfl, hb⟩
    have h3i : ¬ (key.length : Int) ≤ 4200 := by omega
    clear h1 h2 h3 rk rb
    go_enter Try.func3, Try.ntmps3
    go_wp2_with (first
      | (go_at_call 6; refine (hc1 _ (Below.refl _ _)).mono ?_; rintro e x1 ⟨v1, rfl, r1, _, g1⟩)
      | (go_at_call 7; refine (hc2 _ g1).mono ?_; rintro e x2 ⟨v2, rfl, r2, _, g2⟩; have g12 := keep_trans g1 g2)
      | (go_at_call 8; refine (hd1 _ g12).mono ?_; rintro e x3 ⟨v3, rfl, r3, _, g3⟩; have g13 := keep_trans g12 g3)
      | (go_at_call 9; refine (hd2 _ g13).mono ?_; rintro e x4 ⟨v4, rfl, r4, _, g4⟩; have g14 := keep_trans g13 g4)
      | (go_at_call_of 10 (#[v1, v2]); refine (rsame_true v1 v2 X _ (r1.below (keep_trans (keep_trans g2 g3) g4)) (r2.below (keep_trans g3 g4))).mono ?_; rintro e x5 ⟨rfl, g5⟩)
      | (go_at_call_of 10 (#[v3, v4]); refine (rsame_true v3 v4 Y _ (r3.below (keep_trans g4 g5)) (r4.below g5)).mono ?_; rintro e x6 ⟨rfl, g6⟩)
      | (go_at_call 5; refine (wawake_any _).mono ?_; rintro e x7 ⟨rfl, g7⟩)
      | fail)
    go_ret
    exact ⟨rfl, keep_trans (keep_trans (keep_trans g14 g5) g6) g7⟩
  have h2i : ¬ (80 : Int) < (key.length : Int) := by omega
  clear h1 h2 rk rb
  go_enter Try.func3, Try.ntmps3
  go_wp2_with (first
    | (go_at_call 6; refine (hc1 _ (Below.refl _ _)).mono ?_; rintro e x1 ⟨v1, rfl, r1, _, g1⟩)
    | (go_at_call 7; refine (hc2 _ g1).mono ?_; rintro e x2 ⟨v2, rfl, r2, _, g2⟩; have g12 := keep_trans g1 g2)
    | (go_at_call 8; refine (hd1 _ g12).mono ?_; rintro e x3 ⟨v3, rfl, r3, _, g3⟩; have g13 := keep_trans g12 g3)
    | (go_at_call 9; refine (hd2 _ g13).mono ?_; rintro e x4 ⟨v4, rfl, r4, _, g4⟩; have g14 := keep_trans g13 g4)
    | (go_at_call_of 10 (#[v1, v2]); refine (rsame_true v1 v2 X _ (r1.below (keep_trans (keep_trans g2 g3) g4)) (r2.below (keep_trans g3 g4))).mono ?_; rintro e x5 ⟨rfl, g5⟩)
    | (go_at_call_of 10 (#[v3, v4]); refine (rsame_true v3 v4 Y _ (r3.below (keep_trans g4 g5)) (r4.below g5)).mono ?_; rintro e x6 ⟨rfl, g6⟩)
    | (go_at_call 5; refine (wawake_any _).mono ?_; rintro e x7 ⟨rfl, g7⟩)
    | fail)
  go_ret
  exact ⟨rfl, keep_trans (keep_trans (keep_trans g14 g5) g6) g7⟩

set_option maxRecDepth 100000 in
theorem lifted (os : Os) (started : os.Started) (H : Type) (enc : TypeId × Value → H) :
    ReturnsInHanded {} Try.checked os 3 .any (Rows.wrapTellsSpec.pre6 enc Try.prog Try.f3 Rows.wrapTellsRow.domain false) (Rows.wrapTellsSpec.post enc Try.prog Try.f3 false true false false) := by
  refine returnsInHanded_of_change (C := Try.checked) own started (by kernel_rfl) Try.func3
    (ChangeSpec.witness6 (enc := enc) (C := Try.checked) false ⟨#[], #[.slice none 0 0, .slice none 0 0], []⟩ 8 (by kernel_rfl) (by kernel_rfl) (by kernel_rfl) (by kernel_rfl)) ?_
  intro W base args ds gs before hval0 hW hcnd _
  have hval : ∀ (j : Nat) t v, Try.f3.params[j]? = some t → args[j]? = some v → Value.okWide Try.prog W .any base t v := hval0
  have hW' := hW
  obtain ⟨p, q, hA0, hV, rfl, hfz, hnd⟩ := hW
  have hA : DataW.TrodAll enc Try.prog W 0 (fun _ => true) true Try.f3.params.toList args.toList ds p := hA0
  rw [Try.params3] at hA hval
  obtain ⟨v0, vs0, d0, ds0, p0, q0, hargs, rfl, rfl, h0, r0⟩ := trodAll_cons hA
  obtain ⟨v1, vs1, d1, ds1, p1, q1, rfl, rfl, rfl, h1, r1⟩ := trodAll_cons r0
  obtain ⟨rfl, rfl, rfl⟩ := trodAll_nil r1
  obtain rfl : args = #[v0, v1] := by cases args; simp_all
  obtain ⟨rfl, rfl⟩ := trodVars_none hV
  obtain ⟨a0, len0, cap0, rfl⟩ := okWide_slice Try.underlying22 (hval 0 22 v0 rfl rfl)
  have k0 := h0
  have lt0 : ∀ x ∈ p0, x.block < W.heap.size := by obtain ⟨m, hm⟩ := k0; exact DataW.trod_lt m _ _ _ hm
  obtain ⟨z0, w0⟩ : ∃ zs, IsRow .u8 W a0 len0 cap0 zs := by
    obtain ⟨fuel, hf⟩ := h0
    rcases open_ints Try.underlying22 Try.underlying5 (by kernel_rfl) hf with ⟨hcs, _⟩ | ⟨x, l, c, zs, hcs, _, hl, hm, hz, _, hcell, hwz⟩
    · simp [Value.cells] at hcs
      obtain ⟨rfl, rfl, rfl⟩ := hcs
      exact ⟨[], .inl ⟨rfl, rfl, rfl, rfl⟩⟩
    · simp [Value.cells] at hcs
      obtain ⟨rfl, rfl, rfl⟩ := hcs
      exact ⟨zs, .inr ⟨_, rfl, hl, hm, by simpa using hz, hcell, hwz⟩⟩
  obtain ⟨a1, len1, cap1, rfl⟩ := okWide_slice Try.underlying22 (hval 1 22 v1 rfl rfl)
  have k1 := h1
  have lt1 : ∀ x ∈ p1, x.block < W.heap.size := by obtain ⟨m, hm⟩ := k1; exact DataW.trod_lt m _ _ _ hm
  obtain ⟨z1, w1⟩ : ∃ zs, IsRow .u8 W a1 len1 cap1 zs := by
    obtain ⟨fuel, hf⟩ := h1
    rcases open_ints Try.underlying22 Try.underlying5 (by kernel_rfl) hf with ⟨hcs, _⟩ | ⟨x, l, c, zs, hcs, _, hl, hm, hz, _, hcell, hwz⟩
    · simp [Value.cells] at hcs
      obtain ⟨rfl, rfl, rfl⟩ := hcs
      exact ⟨[], .inl ⟨rfl, rfl, rfl, rfl⟩⟩
    · simp [Value.cells] at hcs
      obtain ⟨rfl, rfl, rfl⟩ := hcs
      exact ⟨zs, .inr ⟨_, rfl, hl, hm, by simpa using hz, hcell, hwz⟩⟩
  clear hA0 hval0
  refine (walk a0 len0 cap0 z0 a1 len1 cap1 z1 W w0 w1).mono fun e W' ⟨he, bel⟩ => ?_
  subst he
  exact ⟨_, rfl, _, _, _, [], _, [], hW', trodAll_mk1 (shut_bool Try.underlying4 _), (trodAll_cons_mk (Below.trod laidOut (by kernel_rfl) (of_decide_eq_true (by kernel_rfl)) k0 bel lt0) (trodAll_cons_mk (Below.trod laidOut (by kernel_rfl) (of_decide_eq_true (by kernel_rfl)) k1 bel lt1) trodAll_mk0)), rfl, bel.frame _, fun h => by cases h⟩

theorem over : Rows.wrapTellsRow.holds Try.pinned (OpenSpec.ofChange Rows.wrapTellsSpec) :=
  OpenClaim.holds_of_wide 3 Try.f3 rfl rfl rfl rfl rfl rfl rfl ⟨rfl, rfl, rfl, rfl, rfl⟩ rfl rfl rfl rfl rfl (by kernel_rfl) Try.func3 (by kernel_rfl)
    (of_decide_eq_true (by kernel_rfl)) (by unfold Func.isWrapper; first | (rw [if_pos (by decide +kernel)]; kernel_rfl) | (rw [if_neg (by decide +kernel)]; exact ⟨rfl, rfl⟩))
    (fun os started H enc _ => lifted os started H enc)

end Go.Proofs.Ytjnlkihhmenfnaa.wrapTells
namespace Go.Proofs.Ytjnlkihhmenfnaa
theorem wrapTells_holds : Rows.WrapTellsSaid := wrapTells.over
end Go.Proofs.Ytjnlkihhmenfnaa
