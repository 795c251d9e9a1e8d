/- For every time, every text, and every year and month: apostillelaw03.StampTells returns true, and each argument reads afterwards as it read before. No condition. -/
import Derived.Test.YtmhabfokffecmaaFrame
import Derived.Test.YtmhabfokffecmaaSAwk
import Derived.Test.YtmhabfokffecmaaSRRd
import Derived.Test.YtmhabfokffecmaaSRTx
import Derived.WalkKit
import Derived.ProofKit
import Derived.OpenShut
import Derived.ShutString
namespace Go.Proofs.Ytmhabfokffecmaa.stampTells
open Go.ChangeShapes Go.WideShapes Go.ChangeAt Go.RowKit
open Go.ChangeMaps (open_string shut_string)
set_option linter.unusedVariables false      -- a walk need not use every 'w<i>' (that an integer argument fits its kind)

set_option maxHeartbeats 2000000 in
theorem walk (a0 : Int) (a1 : ByteArray) (a2 : Int) (a3 : Int) (w0 : (Lit.int .i64 a0).wf = true) (w1 : a1.size ≤ maxLen) (w2 : (Lit.int .i64 a2).wf = true) (w3 : (Lit.int .i64 a3).wf = true) (w : World) :
    Calls Try.prog 3 #[.int .i64 a0, .string a1, .int .i64 a2, .int .i64 a3] w fun e w' => e = .returned (.bool true) ∧ Below w.heap.size w w' := by
  obtain ⟨s, rfl⟩ : ∃ t : List UInt8, a1 = ⟨t.toArray⟩ := ⟨a1.data.toList, by simp⟩
  by_cases h3 : (300 : Int) < (s.length : Int)
  · go_enter Try.func3, Try.ntmps3
    go_wp2_with (go_at_call 6; refine (awake_any _).mono ?_; rintro e w' ⟨rfl, hb⟩)
    go_ret
    exact ⟨rfl, by assumption⟩
  go_enter Try.func3, Try.ntmps3
  go_wp2_with fail
  refine (read_any s _ (by omega)).mono ?_
  rintro e w1 ⟨⟨x, c, rfl, hR⟩, b1⟩
  go_wp2_with fail
  refine (rread_any s _ (by omega)).mono ?_
  rintro e w' ⟨⟨x', c', rfl, hR'⟩, rfl⟩
  obtain ⟨rfl, rfl⟩ := hR.same hR'
  clear hR hR'
  go_wp2_with fail
  refine (text_any a0 _).mono ?_
  rintro e w2 ⟨l, rfl, hT, b2⟩
  have b2 := keep_trans b1 b2
  clear b1
  go_wp2_with fail
  refine (rtext_any a0 _).mono ?_
  rintro e w3 ⟨l', rfl, hT', b3⟩
  obtain rfl := hT.same hT'
  have b3 := keep_trans b2 b3
  clear hT hT' b2
  have hxx : (x == x) = true := by simp
  have hcc : (c == c) = true := by simp
  go_wp2_with fail
  refine (days_any a2 a3 _).mono ?_
  rintro e w' ⟨rfl, rfl⟩
  go_wp2_with fail
  refine (rdays_any a2 a3 _).mono ?_
  rintro e w' ⟨rfl, rfl⟩
  generalize daysS a2 a3 = D
  go_wp2_with fail
  refine (awake_any _).mono ?_
  rintro e w4 ⟨rfl, b4⟩
  go_wp2
  go_ret
  exact ⟨rfl, keep_trans b3 b4⟩

set_option maxRecDepth 100000 in
theorem lifted (os : Os) (started : os.Started) (H : Type) (enc : TypeId × Value → H) :
    ReturnsInHanded {} Try.checked os 3 .any (Rows.stampTellsSpec.pre6 enc Try.prog Try.f3 Rows.stampTellsRow.domain false) (Rows.stampTellsSpec.post enc Try.prog Try.f3 false true false false) := by
  refine returnsInHanded_of_change (C := Try.checked) own started (by kernel_rfl) Try.func3
    (ChangeSpec.witness6 (enc := enc) (C := Try.checked) false ⟨#[], #[.int .i64 0, .string ByteArray.empty, .int .i64 0, .int .i64 0], []⟩ 8 (by kernel_rfl) (by kernel_rfl) (by kernel_rfl) (by kernel_rfl)) ?_
  intro W base args ds gs before hval0 hW hcnd _
  have hval : ∀ (j : Nat) t v, Try.f3.params[j]? = some t → args[j]? = some v → Value.okWide Try.prog W .any base t v := hval0
  have hW' := hW
  obtain ⟨p, q, hA0, hV, rfl, hfz, hnd⟩ := hW
  have hA : DataW.TrodAll enc Try.prog W 0 (fun _ => true) true Try.f3.params.toList args.toList ds p := hA0
  rw [Try.params3] at hA hval
  obtain ⟨v0, vs0, d0, ds0, p0, q0, hargs, rfl, rfl, h0, r0⟩ := trodAll_cons hA
  obtain ⟨v1, vs1, d1, ds1, p1, q1, rfl, rfl, rfl, h1, r1⟩ := trodAll_cons r0
  obtain ⟨v2, vs2, d2, ds2, p2, q2, rfl, rfl, rfl, h2, r2⟩ := trodAll_cons r1
  obtain ⟨v3, vs3, d3, ds3, p3, q3, rfl, rfl, rfl, h3, r3⟩ := trodAll_cons r2
  obtain ⟨rfl, rfl, rfl⟩ := trodAll_nil r3
  obtain rfl : args = #[v0, v1, v2, v3] := by cases args; simp_all
  obtain ⟨rfl, rfl⟩ := trodVars_none hV
  obtain ⟨a0, rfl, rfl, rfl, w0⟩ := open_int Try.underlying2 (hval 0 2 v0 rfl rfl) h0
  obtain ⟨a1, rfl, rfl, rfl, w1⟩ := open_string Try.underlying9 (hval 1 9 v1 rfl rfl) h1
  obtain ⟨a2, rfl, rfl, rfl, w2⟩ := open_int Try.underlying3 (hval 2 3 v2 rfl rfl) h2
  obtain ⟨a3, rfl, rfl, rfl, w3⟩ := open_int Try.underlying3 (hval 3 3 v3 rfl rfl) h3
  clear hA0 hval0
  simp only [List.append_nil] at hW'
  refine (walk a0 a1 a2 a3 w0 w1 w2 w3 W).mono fun e W' ⟨he, hg⟩ => ?_
  subst he
  exact ⟨_, rfl, _, _, _, [], _, [], hW', trodAll_mk1 (shut_bool Try.underlying4 _), (trodAll_cons_mk (shut_int Try.underlying2 w0) (trodAll_cons_mk (shut_string Try.underlying9 w1) (trodAll_cons_mk (shut_int Try.underlying3 w2) (trodAll_cons_mk (shut_int Try.underlying3 w3) trodAll_mk0)))), rfl, hg.frame _, fun h => by cases h⟩

theorem over : Rows.stampTellsRow.holds Try.pinned (OpenSpec.ofChange Rows.stampTellsSpec) :=
  OpenClaim.holds_of_wide 3 Try.f3 rfl rfl rfl rfl rfl rfl rfl ⟨rfl, rfl, rfl, rfl, rfl⟩ rfl rfl rfl rfl rfl (by kernel_rfl) Try.func3 (by kernel_rfl)
    (of_decide_eq_true (by kernel_rfl)) (by unfold Func.isWrapper; first | (rw [if_pos (by decide +kernel)]; kernel_rfl) | (rw [if_neg (by decide +kernel)]; exact ⟨rfl, rfl⟩))
    (fun os started H enc _ => lifted os started H enc)

end Go.Proofs.Ytmhabfokffecmaa.stampTells
namespace Go.Proofs.Ytmhabfokffecmaa
theorem stampTells_holds : Rows.StampTellsSaid := stampTells.over
end Go.Proofs.Ytmhabfokffecmaa
