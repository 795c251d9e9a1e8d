/- For every two times and every year: apostillelaw03.StampOrder returns true, and each argument reads afterwards as it read before. No condition. -/
import Derived.Test.YtmhabfokffecmaaFrame
import Derived.Test.YtmhabfokffecmaaSAwk
import Derived.WalkKit
import Derived.ProofKit
import Derived.OpenShut
import Derived.ShutString
namespace Go.Proofs.Ytmhabfokffecmaa.stampOrder
open Go.ChangeShapes Go.WideShapes Go.ChangeAt Go.RowKit
open Go.ChangeMaps (open_string shut_string)
set_option linter.unusedVariables false      -- a walk need not use every 'w<i>' (that an integer argument fits its kind)

set_option maxHeartbeats 2000000 in
theorem walk (a0 : Int) (a1 : Int) (a2 : Int) (w0 : (Lit.int .i64 a0).wf = true) (w1 : (Lit.int .i64 a1).wf = true) (w2 : (Lit.int .u16 a2).wf = true) (w : World) :
    Calls Try.prog 5 #[.int .i64 a0, .int .i64 a1, .int .u16 a2] w fun e w' => e = .returned (.bool true) ∧ Below w.heap.size w w' := by
  have hb16 := bounds_u16 w2
  obtain ⟨yy, rfl⟩ := Int.eq_ofNat_of_zero_le hb16.1
  by_cases h1 : a0 < -62135596800
  · go_enter Try.func5, Try.ntmps5
    go_wp2_with (go_at_call 6; refine (awake_any _).mono ?_; rintro e w' ⟨rfl, hb⟩)
    go_ret
    exact ⟨rfl, by assumption⟩
  by_cases h2 : 253402214399 < a0
  · go_enter Try.func5, Try.ntmps5
    go_wp2_with (go_at_call 6; refine (awake_any _).mono ?_; rintro e w' ⟨rfl, hb⟩)
    go_ret
    exact ⟨rfl, by assumption⟩
  by_cases h3 : a1 < -62135596800
  · go_enter Try.func5, Try.ntmps5
    go_wp2_with (go_at_call 6; refine (awake_any _).mono ?_; rintro e w' ⟨rfl, hb⟩)
    go_ret
    exact ⟨rfl, by assumption⟩
  by_cases h4 : 253402300799 < a1
  · go_enter Try.func5, Try.ntmps5
    go_wp2_with (go_at_call 6; refine (awake_any _).mono ?_; rintro e w' ⟨rfl, hb⟩)
    go_ret
    exact ⟨rfl, by assumption⟩
  go_enter Try.func5, Try.ntmps5
  go_wp2_with fail
  refine (text_any a0 _).mono ?_
  rintro e w1 ⟨la, rfl, hA, b1⟩
  go_wp2_with fail
  refine (text_any a1 _).mono ?_
  rintro e w2 ⟨lb, rfl, hB, b2⟩
  have b2 := keep_trans b1 b2
  clear b1
  go_wp2_with fail
  refine (text_any (a0 + 86400) _).mono ?_
  rintro e w3 ⟨lc, rfl, hC, b3⟩
  have b3 := keep_trans b2 b3
  clear b2
  have lA := hA.len (by omega) (by omega)
  have lB := hB.len (by omega) (by omega)
  have lC := hC.len (by omega) (by omega)
  have hless := hA.less hB (by omega) (by omega) (by omega) (by omega)
  obtain ⟨hn1, hn2⟩ := hA.next hC (by omega) (by omega)
  clear hA hB hC
  have tA : (⟨la.toArray⟩ : ByteArray).toList = la := by rw [Lib.toList_data]
  have tB : (⟨lb.toArray⟩ : ByteArray).toList = lb := by rw [Lib.toList_data]
  have e1 := sub_eq la 8 15
  have e2 := sub_eq lc 8 15
  have e3 := sub_eq la 6 8
  have e4 := sub_eq lc 6 8
  rw [List.take_of_length_le (by omega)] at e1 e2
  rw [← hn1] at e2
  have hne : ((la.take 8).drop 6 == (lc.take 8).drop 6) = false := beq_eq_false_iff_ne.2 hn2
  clear hn1 hn2
  generalize la.drop 8 = x8 at *
  generalize (la.take 8).drop 6 = x6 at *
  generalize (lc.take 8).drop 6 = z6 at *
  have n1 : ¬ la.length ≠ 15 := by omega
  go_wp2_with fail
  go_quiet (fail)
  go_wp2_with fail
  obtain ⟨y, HY, hy1, hy2⟩ : ∃ y : Nat, Hid (1 + (yy : Int) % 9999 = (y : Int)) ∧ 1 ≤ y ∧ y ≤ 9999 := ⟨1 + yy % 9999, hide (by omega), by omega, by omega⟩
  rw [HY.out]
  clear HY tA tB e1 e2 e3 e4 hne hless n1 lA lB lC
  generalize (yy : Int) % 9999 = q at *
  have b4 := below_drewN b3 nq
  generalize w3.drewN nq = W at *
  have hdk : ∀ k : Nat, k ≤ 13 → daysS (y : Int) (k : Int) = dimY y k := days_dim hy1 hy2
  have h366 : ∀ k : Nat, k ≤ 14 → mon y k ≤ 366 := fun k hk => by
    have e1 := mon_mono y hk
    have e2 := mon_14 y
    split at e2 <;> omega
  go_loop [11, 75] (fun u v => ∃ k n : Nat, k ≤ 14 ∧ v = .int .i64 k ∧ u = .int .i64 n ∧ Hid (mon y k = n)) (fun _ v => 14 - (intOf v).toNat)
  case atStart => exact ⟨0, 0, by omega, rfl, rfl, hide rfl⟩
  case round =>
    obtain ⟨k, n, hk, rfl, rfl, HN⟩ := hrel
    have hn := h366 k hk
    rw [HN.out] at hn
    by_cases hlt : k < 14
    · have hcall := fun w' => days_any (y : Int) (k : Int) w'
      rw [hdk k (by omega)] at hcall
      have hDk := dim_le y k
      have HN2 : Hid (mon y (k + 1) = n + dimY y k) := hide (by rw [← HN.out]; rfl)
      clear hdk h366
      generalize dimY y k = D at *
      have HV : Hid ((n : Int) + (D : Int) = ((n + D : Nat) : Int)) := hide (by omega)
      have i1 : (k : Int) < 14 := by omega
      go_wp2_with (first | (go_at_call 11; refine (hcall _).mono ?_; rintro e w' ⟨rfl, rfl⟩) | go_in)
      go_round
      case rel => exact ⟨k + 1, n + D, by omega, by go_num, by rw [HV.out], HN2⟩
      case measure => simp [intOf]; omega
    · obtain rfl : k = 14 := by omega
      have hN := HN.out
      rw [mon_14] at hN
      have hcall := fun w' => days_any (y : Int) 2 w'
      rw [show daysS (y : Int) 2 = dimY y 2 from hdk 2 (by omega), dim_two] at hcall
      clear HN hdk h366 hn
      cases hl : leapY y with
      | true =>
        rw [hl] at hN hcall
        simp only [if_true] at hN hcall
        subst hN
        go_wp2_with fail
        refine (hcall _).mono ?_
        rintro e w' ⟨rfl, rfl⟩
        go_wp2_with fail
        refine (awake_any _).mono ?_
        rintro e w6 ⟨rfl, b6⟩
        go_wp2
        go_ret
        exact ⟨rfl, keep_trans b4 b6⟩
      | false =>
        rw [hl] at hN hcall
        simp only [Bool.false_eq_true, if_false] at hN hcall
        subst hN
        go_wp2_with fail
        refine (hcall _).mono ?_
        rintro e w' ⟨rfl, rfl⟩
        go_wp2_with fail
        refine (awake_any _).mono ?_
        rintro e w6 ⟨rfl, b6⟩
        go_wp2
        go_ret
        exact ⟨rfl, keep_trans b4 b6⟩

set_option maxRecDepth 100000 in
theorem lifted (os : Os) (started : os.Started) (H : Type) (enc : TypeId × Value → H) :
    ReturnsInHanded {} Try.checked os 5 .any (Rows.stampOrderSpec.pre6 enc Try.prog Try.f5 Rows.stampOrderRow.domain false) (Rows.stampOrderSpec.post enc Try.prog Try.f5 false true false false) := by
  refine returnsInHanded_of_change (C := Try.checked) own started (by kernel_rfl) Try.func5
    (ChangeSpec.witness6 (enc := enc) (C := Try.checked) false ⟨#[], #[.int .i64 0, .int .i64 0, .int .u16 0], []⟩ 8 (by kernel_rfl) (by kernel_rfl) (by kernel_rfl) (by kernel_rfl)) ?_
  intro W base args ds gs before hval0 hW hcnd _
  have hval : ∀ (j : Nat) t v, Try.f5.params[j]? = some t → args[j]? = some v → Value.okWide Try.prog W .any base t v := hval0
  have hW' := hW
  obtain ⟨p, q, hA0, hV, rfl, hfz, hnd⟩ := hW
  have hA : DataW.TrodAll enc Try.prog W 0 (fun _ => true) true Try.f5.params.toList args.toList ds p := hA0
  rw [Try.params5] at hA hval
  obtain ⟨v0, vs0, d0, ds0, p0, q0, hargs, rfl, rfl, h0, r0⟩ := trodAll_cons hA
  obtain ⟨v1, vs1, d1, ds1, p1, q1, rfl, rfl, rfl, h1, r1⟩ := trodAll_cons r0
  obtain ⟨v2, vs2, d2, ds2, p2, q2, rfl, rfl, rfl, h2, r2⟩ := trodAll_cons r1
  obtain ⟨rfl, rfl, rfl⟩ := trodAll_nil r2
  obtain rfl : args = #[v0, v1, v2] := by cases args; simp_all
  obtain ⟨rfl, rfl⟩ := trodVars_none hV
  obtain ⟨a0, rfl, rfl, rfl, w0⟩ := open_int Try.underlying2 (hval 0 2 v0 rfl rfl) h0
  obtain ⟨a1, rfl, rfl, rfl, w1⟩ := open_int Try.underlying2 (hval 1 2 v1 rfl rfl) h1
  obtain ⟨a2, rfl, rfl, rfl, w2⟩ := open_int Try.underlying32 (hval 2 32 v2 rfl rfl) h2
  clear hA0 hval0
  simp only [List.append_nil] at hW'
  refine (walk a0 a1 a2 w0 w1 w2 W).mono fun e W' ⟨he, hg⟩ => ?_
  subst he
  exact ⟨_, rfl, _, _, _, [], _, [], hW', trodAll_mk1 (shut_bool Try.underlying4 _), (trodAll_cons_mk (shut_int Try.underlying2 w0) (trodAll_cons_mk (shut_int Try.underlying2 w1) (trodAll_cons_mk (shut_int Try.underlying32 w2) trodAll_mk0))), rfl, hg.frame _, fun h => by cases h⟩

theorem over : Rows.stampOrderRow.holds Try.pinned (OpenSpec.ofChange Rows.stampOrderSpec) :=
  OpenClaim.holds_of_wide 5 Try.f5 rfl rfl rfl rfl rfl rfl rfl ⟨rfl, rfl, rfl, rfl, rfl⟩ rfl rfl rfl rfl rfl (by kernel_rfl) Try.func5 (by kernel_rfl)
    (of_decide_eq_true (by kernel_rfl)) (by unfold Func.isWrapper; first | (rw [if_pos (by decide +kernel)]; kernel_rfl) | (rw [if_neg (by decide +kernel)]; exact ⟨rfl, rfl⟩))
    (fun os started H enc _ => lifted os started H enc)

end Go.Proofs.Ytmhabfokffecmaa.stampOrder
namespace Go.Proofs.Ytmhabfokffecmaa
theorem stampOrder_holds : Rows.StampOrderSaid := stampOrder.over
end Go.Proofs.Ytmhabfokffecmaa
