/- For every time and every text: apostillelaw03.StampBack returns true, and each argument reads afterwards as it read before. No condition. -/
import Derived.Test.YtmhabfokffecmaaFrame
import Derived.Test.YtmhabfokffecmaaSAwk
import Derived.WalkKit
import Derived.ProofKit
import Derived.OpenShut
import Derived.ShutString
namespace Go.Proofs.Ytmhabfokffecmaa.stampBack
open Go.ChangeShapes Go.WideShapes Go.ChangeAt Go.RowKit
open Go.ChangeMaps (open_string shut_string)
set_option linter.unusedVariables false      -- a walk need not use every 'w<i>' (that an integer argument fits its kind)

set_option maxHeartbeats 2000000 in
theorem walk (a0 : Int) (a1 : ByteArray) (w0 : (Lit.int .i64 a0).wf = true) (w1 : a1.size ≤ maxLen) (w : World) :
    Calls Try.prog 4 #[.int .i64 a0, .string a1] w fun e w' => e = .returned (.bool true) ∧ Below w.heap.size w w' := by
  obtain ⟨s, rfl⟩ : ∃ t : List UInt8, a1 = ⟨t.toArray⟩ := ⟨a1.data.toList, by simp⟩
  by_cases h3 : (300 : Int) < (s.length : Int)
  · go_enter Try.func4, Try.ntmps4
    go_wp2_with (go_at_call 6; refine (awake_any _).mono ?_; rintro e w' ⟨rfl, hb⟩)
    go_ret
    exact ⟨rfl, by assumption⟩
  go_enter Try.func4, Try.ntmps4
  go_wp2_with fail
  refine (text_any a0 _).mono ?_
  rintro e w1 ⟨l, rfl, hT, b1⟩
  have hlen := hT.len_le
  go_wp2_with fail
  refine (read_any l _ (by omega)).mono ?_
  rintro e w2 ⟨⟨x, c, rfl, hR⟩, b2⟩
  have b2 := keep_trans b1 b2
  clear b1 hlen
  by_cases k1 : a0 < -62135596800
  · obtain ⟨rfl, rfl⟩ := back_out hT hR (.inl k1)
    clear hR
    go_wp2_with fail
    refine (text_any a0 _).mono ?_
    rintro e w3 ⟨l3, rfl, hT3, b3⟩
    obtain rfl := hT.same hT3
    clear hT hT3
    have b3 := keep_trans b2 b3
    clear b2
    go_wp2_with fail
    refine (read_any s _ (by omega)).mono ?_
    rintro e w4 ⟨⟨y, f, rfl, hS⟩, b4⟩
    have b4 := keep_trans b3 b4
    have hS2 := hS
    rcases hS2 with ⟨rfl, _⟩ | ⟨rfl, _⟩
    · go_wp2_with fail
      refine (text_any y _).mono ?_
      rintro e w5 ⟨l5, rfl, hT5, b5⟩
      obtain rfl := back_read hS hT5
      have b5 := keep_trans b4 b5
      clear hS hT5 b4
      go_wp2_with fail
      refine (awake_any _).mono ?_
      rintro e w6 ⟨rfl, b6⟩
      go_wp2
      go_ret
      exact ⟨rfl, keep_trans b5 b6⟩
    · clear hS
      go_wp2_with fail
      refine (awake_any _).mono ?_
      rintro e w6 ⟨rfl, b6⟩
      go_wp2
      go_ret
      exact ⟨rfl, keep_trans b4 b6⟩
  by_cases k2 : 253402300799 < a0
  · obtain ⟨rfl, rfl⟩ := back_out hT hR (.inr k2)
    clear hR
    go_wp2_with fail
    refine (text_any a0 _).mono ?_
    rintro e w3 ⟨l3, rfl, hT3, b3⟩
    obtain rfl := hT.same hT3
    clear hT hT3
    have b3 := keep_trans b2 b3
    clear b2
    go_wp2_with fail
    refine (read_any s _ (by omega)).mono ?_
    rintro e w4 ⟨⟨y, f, rfl, hS⟩, b4⟩
    have b4 := keep_trans b3 b4
    have hS2 := hS
    rcases hS2 with ⟨rfl, _⟩ | ⟨rfl, _⟩
    · go_wp2_with fail
      refine (text_any y _).mono ?_
      rintro e w5 ⟨l5, rfl, hT5, b5⟩
      obtain rfl := back_read hS hT5
      have b5 := keep_trans b4 b5
      clear hS hT5 b4
      go_wp2_with fail
      refine (awake_any _).mono ?_
      rintro e w6 ⟨rfl, b6⟩
      go_wp2
      go_ret
      exact ⟨rfl, keep_trans b5 b6⟩
    · clear hS
      go_wp2_with fail
      refine (awake_any _).mono ?_
      rintro e w6 ⟨rfl, b6⟩
      go_wp2
      go_ret
      exact ⟨rfl, keep_trans b4 b6⟩
  obtain ⟨rfl, rfl⟩ := back_in hT hR (by omega) (by omega)
  clear hR hT
  go_wp2_with fail
  refine (read_any s _ (by omega)).mono ?_
  rintro e w4 ⟨⟨y, f, rfl, hS⟩, b4⟩
  have b4 := keep_trans b2 b4
  have hS2 := hS
  rcases hS2 with ⟨rfl, _⟩ | ⟨rfl, _⟩
  · go_wp2_with fail
    refine (text_any y _).mono ?_
    rintro e w5 ⟨l5, rfl, hT5, b5⟩
    obtain rfl := back_read hS hT5
    have b5 := keep_trans b4 b5
    clear hS hT5 b4
    go_wp2_with fail
    refine (awake_any _).mono ?_
    rintro e w6 ⟨rfl, b6⟩
    go_wp2
    go_ret
    exact ⟨rfl, keep_trans b5 b6⟩
  · clear hS
    go_wp2_with fail
    refine (awake_any _).mono ?_
    rintro e w6 ⟨rfl, b6⟩
    go_wp2
    go_ret
    exact ⟨rfl, keep_trans b4 b6⟩

set_option maxRecDepth 100000 in
theorem lifted (os : Os) (started : os.Started) (H : Type) (enc : TypeId × Value → H) :
    ReturnsInHanded {} Try.checked os 4 .any (Rows.stampBackSpec.pre6 enc Try.prog Try.f4 Rows.stampBackRow.domain false) (Rows.stampBackSpec.post enc Try.prog Try.f4 false true false false) := by
  refine returnsInHanded_of_change (C := Try.checked) own started (by kernel_rfl) Try.func4
    (ChangeSpec.witness6 (enc := enc) (C := Try.checked) false ⟨#[], #[.int .i64 0, .string ByteArray.empty], []⟩ 8 (by kernel_rfl) (by kernel_rfl) (by kernel_rfl) (by kernel_rfl)) ?_
  intro W base args ds gs before hval0 hW hcnd _
  have hval : ∀ (j : Nat) t v, Try.f4.params[j]? = some t → args[j]? = some v → Value.okWide Try.prog W .any base t v := hval0
  have hW' := hW
  obtain ⟨p, q, hA0, hV, rfl, hfz, hnd⟩ := hW
  have hA : DataW.TrodAll enc Try.prog W 0 (fun _ => true) true Try.f4.params.toList args.toList ds p := hA0
  rw [Try.params4] at hA hval
  obtain ⟨v0, vs0, d0, ds0, p0, q0, hargs, rfl, rfl, h0, r0⟩ := trodAll_cons hA
  obtain ⟨v1, vs1, d1, ds1, p1, q1, rfl, rfl, rfl, h1, r1⟩ := trodAll_cons r0
  obtain ⟨rfl, rfl, rfl⟩ := trodAll_nil r1
  obtain rfl : args = #[v0, v1] := by cases args; simp_all
  obtain ⟨rfl, rfl⟩ := trodVars_none hV
  obtain ⟨a0, rfl, rfl, rfl, w0⟩ := open_int Try.underlying2 (hval 0 2 v0 rfl rfl) h0
  obtain ⟨a1, rfl, rfl, rfl, w1⟩ := open_string Try.underlying9 (hval 1 9 v1 rfl rfl) h1
  clear hA0 hval0
  simp only [List.append_nil] at hW'
  refine (walk a0 a1 w0 w1 W).mono fun e W' ⟨he, hg⟩ => ?_
  subst he
  exact ⟨_, rfl, _, _, _, [], _, [], hW', trodAll_mk1 (shut_bool Try.underlying4 _), (trodAll_cons_mk (shut_int Try.underlying2 w0) (trodAll_cons_mk (shut_string Try.underlying9 w1) trodAll_mk0)), rfl, hg.frame _, fun h => by cases h⟩

theorem over : Rows.stampBackRow.holds Try.pinned (OpenSpec.ofChange Rows.stampBackSpec) :=
  OpenClaim.holds_of_wide 4 Try.f4 rfl rfl rfl rfl rfl rfl rfl ⟨rfl, rfl, rfl, rfl, rfl⟩ rfl rfl rfl rfl rfl (by kernel_rfl) Try.func4 (by kernel_rfl)
    (of_decide_eq_true (by kernel_rfl)) (by unfold Func.isWrapper; first | (rw [if_pos (by decide +kernel)]; kernel_rfl) | (rw [if_neg (by decide +kernel)]; exact ⟨rfl, rfl⟩))
    (fun os started H enc _ => lifted os started H enc)

end Go.Proofs.Ytmhabfokffecmaa.stampBack
namespace Go.Proofs.Ytmhabfokffecmaa
theorem stampBack_holds : Rows.StampBackSaid := stampBack.over
end Go.Proofs.Ytmhabfokffecmaa
