/- For every number and every text: apostillelaw14.LmotsTells returns true, and each argument reads afterwards as it read before. No condition. -/
import Derived.Test.YtnjiilnkobhibaaBase
import Derived.Test.YtnjiilnkobhibaaLcT
import Derived.WalkKit
import Derived.ProofKit
import Derived.OpenShut
import Derived.ShutString
import Derived.ChangeOld
import Derived.Below
namespace Go.Proofs.Ytnjiilnkobhibaa.lmotsTells
open Go.ChangeShapes Go.WideShapes Go.ChangeAt Go.RowKit
open Go.ChangeMaps (open_string shut_string)
set_option linter.unusedVariables false

set_option maxRecDepth 100000 in
set_option maxHeartbeats 4000000 in
theorem walk (a0 : Int) (a1 : Option Addr) (len1 cap1 : Nat) (z1 : List Int) (w : World) (w0 : (Lit.int .i64 a0).wf = true) (w1 : IsRow .u8 w a1 len1 cap1 z1) :
    Calls Try.prog 3 #[.int .i64 a0, .slice a1 len1 cap1] w fun e w' => e = .returned (.bool true) ∧ Below w.heap.size w w' := by
  have td : Tidy (.slice a1 len1 cap1) := w1.tidy
  obtain ⟨d, rfl, rd⟩ := w1.row wf_u8
  clear w1
  by_cases hf : d.length ≤ 300
  · have hfe := fun y => few1L a1 d.length cap1 y
    rw [decide_eq_true hf] at hfe
    obtain ⟨c, X, hc1, hc2⟩ := both_dig a0 rd td
    obtain ⟨z, hz1, hz2⟩ := both_size a0
    clear hf td rd
    go_enter Try.func3, Try.ntmps3
    go_wp2_with (first
      | (go_at_call 5; refine (hfe _).mono ?_; rintro e x0 ⟨rfl, g0⟩)
      | (go_at_call 7; refine (hc1 _ g0).mono ?_; rintro e x1 ⟨v1, rfl, r1, g1⟩; have k1 := keep_trans g0 g1)
      | (go_at_call 8; refine (hc2 _ k1).mono ?_; rintro e x2 ⟨v2, rfl, r2, g2⟩; have k2 := keep_trans k1 g2)
      | (go_at_call 9; refine (rsameNums_true v1 v2 X _ (r1.below g2) r2).mono ?_; rintro e x3 ⟨rfl, g3⟩; have k3 := keep_trans k2 g3)
      | (go_at_call 10; refine (hz1 _).mono ?_; rintro e x4 ⟨rfl, g4⟩; have k4 := keep_trans k3 g4)
      | (go_at_call 11; refine (hz2 _).mono ?_; rintro e x5 ⟨rfl, g5⟩; obtain rfl := g5.symm)
      | (go_at_call 6; refine (awakeL_any _).mono ?_; rintro e x7 ⟨rfl, g7⟩)
      | fail)
    go_ret
    exact ⟨rfl, keep_trans k4 g7⟩
  · have hfe := fun y => few1L a1 d.length cap1 y
    rw [decide_eq_false hf] at hfe
    clear hf td rd
    go_enter Try.func3, Try.ntmps3
    go_wp2_with (first
      | (go_at_call 5; refine (hfe _).mono ?_; rintro e x1 ⟨rfl, g1⟩)
      | (go_at_call 6; refine (awakeL_any _).mono ?_; rintro e x2 ⟨rfl, g2⟩)
      | fail)
    go_ret
    exact ⟨rfl, keep_trans g1 g2⟩

set_option maxRecDepth 100000 in
theorem lifted (os : Os) (started : os.Started) (H : Type) (enc : TypeId × Value → H) :
    ReturnsInHanded {} Try.checked os 3 .any (Rows.lmotsTellsSpec.pre6 enc Try.prog Try.f3 Rows.lmotsTellsRow.domain false) (Rows.lmotsTellsSpec.post enc Try.prog Try.f3 false true false false) := by
  refine returnsInHanded_of_change (C := Try.checked) own started (by kernel_rfl) Try.func3
    (ChangeSpec.witness6 (enc := enc) (C := Try.checked) false ⟨#[], #[.int .i64 0, .slice none 0 0], []⟩ 8 (by kernel_rfl) (by kernel_rfl) (by kernel_rfl) (by kernel_rfl)) ?_
  intro W base args ds gs before hval0 hW hcnd _
  have hval : ∀ (j : Nat) t v, Try.f3.params[j]? = some t → args[j]? = some v → Value.okWide Try.prog W .any base t v := hval0
  have hW' := hW
  obtain ⟨p, q, hA0, hV, rfl, hfz, hnd⟩ := hW
  have hA : DataW.TrodAll enc Try.prog W 0 (fun _ => true) true Try.f3.params.toList args.toList ds p := hA0
  rw [Try.params3] at hA hval
  obtain ⟨v0, vs0, d0, ds0, p0, q0, hargs, rfl, rfl, h0, r0⟩ := trodAll_cons hA
  obtain ⟨v1, vs1, d1, ds1, p1, q1, rfl, rfl, rfl, h1, r1⟩ := trodAll_cons r0
  obtain ⟨rfl, rfl, rfl⟩ := trodAll_nil r1
  obtain rfl : args = #[v0, v1] := by cases args; simp_all
  obtain ⟨rfl, rfl⟩ := trodVars_none hV
  obtain ⟨a0, rfl, rfl, rfl, w0⟩ := open_int Try.underlying3 (hval 0 3 v0 rfl rfl) h0
  obtain ⟨a1, len1, cap1, rfl⟩ := okWide_slice Try.underlying22 (hval 1 22 v1 rfl rfl)
  have k1 := h1
  have lt1 : ∀ x ∈ p1, x.block < W.heap.size := by obtain ⟨m, hm⟩ := k1; exact DataW.trod_lt m _ _ _ hm
  obtain ⟨z1, w1⟩ : ∃ zs, IsRow .u8 W a1 len1 cap1 zs := by
    obtain ⟨fuel, hf⟩ := h1
    rcases open_ints Try.underlying22 Try.underlying5 (by kernel_rfl) hf with ⟨hcs, _⟩ | ⟨x, l, c, zs, hcs, _, hl, hm, hz, _, hcell, hwz⟩
    · simp [Value.cells] at hcs
      obtain ⟨rfl, rfl, rfl⟩ := hcs
      exact ⟨[], .inl ⟨rfl, rfl, rfl, rfl⟩⟩
    · simp [Value.cells] at hcs
      obtain ⟨rfl, rfl, rfl⟩ := hcs
      exact ⟨zs, .inr ⟨_, rfl, hl, hm, by simpa using hz, hcell, hwz⟩⟩
  clear hA0 hval0
  refine (walk a0 a1 len1 cap1 z1 W w0 w1).mono fun e W' ⟨he, bel⟩ => ?_
  subst he
  exact ⟨_, rfl, _, _, _, [], _, [], hW', trodAll_mk1 (shut_bool Try.underlying4 _), (trodAll_cons_mk (shut_int Try.underlying3 w0) (trodAll_cons_mk (Below.trod laidOut (by kernel_rfl) (of_decide_eq_true (by kernel_rfl)) k1 bel lt1) trodAll_mk0)), rfl, bel.frame _, fun h => by cases h⟩

theorem over : Rows.lmotsTellsRow.holds Try.pinned (OpenSpec.ofChange Rows.lmotsTellsSpec) :=
  OpenClaim.holds_of_wide 3 Try.f3 rfl rfl rfl rfl rfl rfl rfl ⟨rfl, rfl, rfl, rfl, rfl⟩ rfl rfl rfl rfl rfl (by kernel_rfl) Try.func3 (by kernel_rfl)
    (of_decide_eq_true (by kernel_rfl)) (by unfold Func.isWrapper; first | (rw [if_pos (by decide +kernel)]; kernel_rfl) | (rw [if_neg (by decide +kernel)]; exact ⟨rfl, rfl⟩))
    (fun os started H enc _ => lifted os started H enc)

end Go.Proofs.Ytnjiilnkobhibaa.lmotsTells
namespace Go.Proofs.Ytnjiilnkobhibaa
theorem lmotsTells_holds : Rows.LmotsTellsSaid := lmotsTells.over
end Go.Proofs.Ytnjiilnkobhibaa
