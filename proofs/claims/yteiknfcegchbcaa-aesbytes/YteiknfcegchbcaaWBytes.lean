/- For every three bytes: apostillelaw10.AesBytes returns true. No condition. -/
import Derived.Test.YteiknfcegchbcaaFrame
import Derived.Test.YteiknfcegchbcaaJFi
import Derived.WalkKit
import Derived.ProofKit
import Derived.OpenShut
import Derived.ShutString
namespace Go.Proofs.Yteiknfcegchbcaa.aesBytes
open Go.ChangeShapes Go.WideShapes Go.ChangeAt Go.RowKit
open Go.ChangeMaps (open_string shut_string)
set_option linter.unusedVariables false      -- a walk need not use every 'w<i>' (that an integer argument fits its kind)

set_option maxRecDepth 100000 in
set_option maxHeartbeats 4000000 in
theorem walk (a0 : Int) (a1 : Int) (a2 : Int) (w0 : (Lit.int .u8 a0).wf = true) (w1 : (Lit.int .u8 a1).wf = true) (w2 : (Lit.int .u8 a2).wf = true) (w : World) :
    Calls Try.prog 5 #[.int .u8 a0, .int .u8 a1, .int .u8 a2] w fun e w' => e = .returned (.bool true) ∧ Below w.heap.size w w' := by
  have hA0 := bounds_u8 w0
  have hA1 := bounds_u8 w1
  have hA2 := bounds_u8 w2
  obtain ⟨a, rfl⟩ := Int.eq_ofNat_of_zero_le hA0.1
  obtain ⟨b, rfl⟩ := Int.eq_ofNat_of_zero_le hA1.1
  obtain ⟨c, rfl⟩ := Int.eq_ofNat_of_zero_le hA2.1
  have ha : a < 256 := by omega
  have hb : b < 256 := by omega
  have hc : c < 256 := by omega
  clear hA0 hA1 hA2 w0 w1 w2
  have cb1 := fun y => cbox_any a ha y
  have cb2 := fun y => cbox_any a ha y
  have cb3 := fun y => cbox_any b hb y
  have rb := fun y => rbox_any a ha y
  have rm := fun y => rmul_any a b ha hb y
  have h1 := fun y => cmul_any a b ha hb y
  have h2 := fun y => cmul_any b a hb ha y
  have h3 := fun y => cmul_any b c hb hc y
  have h4 := fun y => cmul_any a (mulB b c) ha (mulB_lt hb) y
  have h5 := fun y => cmul_any (mulB a b) c (mulB_lt ha) hc y
  have h6 := fun y => cmul_any a (b ^^^ c) ha (xor_8 hb hc) y
  have h7 := fun y => cmul_any a c ha hc y
  have h8 := fun y => cmul_any a 1 ha (by decide) y
  have aw := fun y => aawake_any y
  have fx := u8_xor_nat b c hb hc
  have fy := u8_xor_nat (mulB a b) (mulB a c) (mulB_lt ha) (mulB_lt ha)
  rw [mul_comm8 hb ha] at h2
  rw [mul_assoc8 ha hb hc] at h4
  rw [mul_r] at h6
  rw [mul_one8 ha] at h8
  have hbx := boxB_inj ha hb
  generalize mulB a b ^^^ mulB a c = Q at *
  generalize mulB (mulB a b) c = P at *
  generalize mulB a b = AB at *
  generalize mulB b c = BC at *
  generalize mulB a c = AC at *
  generalize b ^^^ c = X at *
  generalize boxB a = BA at *
  generalize boxB b = BB at *
  by_cases hab : a = b
  · have hBB : BA = BB := hbx.2 hab
    subst hab
    subst hBB
    clear hbx
    go_enter Try.func5, Try.ntmps5
    go_wp2_with (first
      | (go_at_call 17; refine (cb1 _).mono ?_; rintro e v1 ⟨rfl, g1⟩; clear cb1)
      | (go_at_call 17; refine (cb2 _).mono ?_; rintro e v3 ⟨rfl, g3⟩; clear cb2)
      | (go_at_call 17; refine (cb3 _).mono ?_; rintro e v4 ⟨rfl, g4⟩; clear cb3)
      | (go_at_call 18; refine (rb _).mono ?_; rintro e v2 ⟨rfl, g2⟩)
      | (go_at_call 20; refine (rm _).mono ?_; rintro e yy ⟨rfl, hy⟩; obtain rfl := hy.symm)
      | (go_at_call_of 19 (#[Value.int .u8 (a : Int), Value.int .u8 (a : Int)]); refine (h1 _).mono ?_; rintro e yy ⟨rfl, hy⟩; obtain rfl := hy.symm)
      | (go_at_call_of 19 (#[Value.int .u8 (a : Int), Value.int .u8 (BC : Int)]); refine (h4 _).mono ?_; rintro e yy ⟨rfl, hy⟩; obtain rfl := hy.symm)
      | (go_at_call_of 19 (#[Value.int .u8 (AB : Int), Value.int .u8 (c : Int)]); refine (h5 _).mono ?_; rintro e yy ⟨rfl, hy⟩; obtain rfl := hy.symm)
      | (go_at_call_of 19 (#[Value.int .u8 (a : Int), Value.int .u8 (X : Int)]); refine (h6 _).mono ?_; rintro e yy ⟨rfl, hy⟩; obtain rfl := hy.symm)
      | (go_at_call_of 19 (#[Value.int .u8 (a : Int), Value.int .u8 (c : Int)]); first | (refine (h3 _).mono ?_; rintro e yy ⟨rfl, hy⟩; obtain rfl := hy.symm; clear h3) | (refine (h7 _).mono ?_; rintro e yy ⟨rfl, hy⟩; obtain rfl := hy.symm))
      | (go_at_call_of 19 (#[Value.int .u8 (a : Int), Value.int .u8 1]); refine (h8 _).mono ?_; rintro e yy ⟨rfl, hy⟩; obtain rfl := hy.symm)
      | (go_at_call 7; refine (aw _).mono ?_; rintro e v5 ⟨rfl, g5⟩)
      | fail)
    go_ret
    exact ⟨rfl, keep_trans (keep_trans (keep_trans (keep_trans g1 g2) g3) g4) g5⟩
  · have hBB : ¬ (BA = BB) := fun h => hab (hbx.1 h)
    have hBBi : ¬ ((BA : Int) = (BB : Int)) := by omega
    have habi : ¬ ((a : Int) = (b : Int)) := by omega
    have hBBb : ((BA : Int) == (BB : Int)) = false := beq_eq_false_iff_ne.2 hBBi
    have habb : ((a : Int) == (b : Int)) = false := beq_eq_false_iff_ne.2 habi
    clear hbx
    go_enter Try.func5, Try.ntmps5
    go_wp2_with (first
      | (go_at_call_of 17 (#[Value.int .u8 (a : Int)]); refine (cb1 _).mono ?_; rintro e v1 ⟨rfl, g1⟩; clear cb1)
      | (go_at_call_of 17 (#[Value.int .u8 (a : Int)]); refine (cb2 _).mono ?_; rintro e v3 ⟨rfl, g3⟩; clear cb2)
      | (go_at_call_of 17 (#[Value.int .u8 (b : Int)]); refine (cb3 _).mono ?_; rintro e v4 ⟨rfl, g4⟩; clear cb3)
      | (go_at_call 18; refine (rb _).mono ?_; rintro e v2 ⟨rfl, g2⟩)
      | (go_at_call 20; refine (rm _).mono ?_; rintro e yy ⟨rfl, hy⟩; obtain rfl := hy.symm)
      | (go_at_call_of 19 (#[Value.int .u8 (a : Int), Value.int .u8 (b : Int)]); refine (h1 _).mono ?_; rintro e yy ⟨rfl, hy⟩; obtain rfl := hy.symm)
      | (go_at_call_of 19 (#[Value.int .u8 (b : Int), Value.int .u8 (a : Int)]); refine (h2 _).mono ?_; rintro e yy ⟨rfl, hy⟩; obtain rfl := hy.symm)
      | (go_at_call_of 19 (#[Value.int .u8 (b : Int), Value.int .u8 (c : Int)]); refine (h3 _).mono ?_; rintro e yy ⟨rfl, hy⟩; obtain rfl := hy.symm)
      | (go_at_call_of 19 (#[Value.int .u8 (a : Int), Value.int .u8 (BC : Int)]); refine (h4 _).mono ?_; rintro e yy ⟨rfl, hy⟩; obtain rfl := hy.symm)
      | (go_at_call_of 19 (#[Value.int .u8 (AB : Int), Value.int .u8 (c : Int)]); refine (h5 _).mono ?_; rintro e yy ⟨rfl, hy⟩; obtain rfl := hy.symm)
      | (go_at_call_of 19 (#[Value.int .u8 (a : Int), Value.int .u8 (X : Int)]); refine (h6 _).mono ?_; rintro e yy ⟨rfl, hy⟩; obtain rfl := hy.symm)
      | (go_at_call_of 19 (#[Value.int .u8 (a : Int), Value.int .u8 (c : Int)]); refine (h7 _).mono ?_; rintro e yy ⟨rfl, hy⟩; obtain rfl := hy.symm)
      | (go_at_call_of 19 (#[Value.int .u8 (a : Int), Value.int .u8 1]); refine (h8 _).mono ?_; rintro e yy ⟨rfl, hy⟩; obtain rfl := hy.symm)
      | (go_at_call 7; refine (aw _).mono ?_; rintro e v5 ⟨rfl, g5⟩)
      | fail)
    go_ret
    exact ⟨rfl, keep_trans (keep_trans (keep_trans (keep_trans g1 g2) g3) g4) g5⟩

set_option maxRecDepth 100000 in
theorem lifted (os : Os) (started : os.Started) (H : Type) (enc : TypeId × Value → H) :
    ReturnsInHanded {} Try.checked os 5 .any (Rows.aesBytesSpec.pre6 enc Try.prog Try.f5 Rows.aesBytesRow.domain false) (Rows.aesBytesSpec.post enc Try.prog Try.f5 false true false false) := by
  refine returnsInHanded_of_change (C := Try.checked) own started (by kernel_rfl) Try.func5
    (ChangeSpec.witness6 (enc := enc) (C := Try.checked) false ⟨#[], #[.int .u8 0, .int .u8 0, .int .u8 0], []⟩ 8 (by kernel_rfl) (by kernel_rfl) (by kernel_rfl) (by kernel_rfl)) ?_
  intro W base args ds gs before hval0 hW hcnd _
  have hval : ∀ (j : Nat) t v, Try.f5.params[j]? = some t → args[j]? = some v → Value.okWide Try.prog W .any base t v := hval0
  have hW' := hW
  obtain ⟨p, q, hA0, hV, rfl, hfz, hnd⟩ := hW
  have hA : DataW.TrodAll enc Try.prog W 0 (fun _ => true) true Try.f5.params.toList args.toList ds p := hA0
  rw [Try.params5] at hA hval
  obtain ⟨v0, vs0, d0, ds0, p0, q0, hargs, rfl, rfl, h0, r0⟩ := trodAll_cons hA
  obtain ⟨v1, vs1, d1, ds1, p1, q1, rfl, rfl, rfl, h1, r1⟩ := trodAll_cons r0
  obtain ⟨v2, vs2, d2, ds2, p2, q2, rfl, rfl, rfl, h2, r2⟩ := trodAll_cons r1
  obtain ⟨rfl, rfl, rfl⟩ := trodAll_nil r2
  obtain rfl : args = #[v0, v1, v2] := by cases args; simp_all
  obtain ⟨rfl, rfl⟩ := trodVars_none hV
  obtain ⟨a0, rfl, rfl, rfl, w0⟩ := open_int Try.underlying5 (hval 0 5 v0 rfl rfl) h0
  obtain ⟨a1, rfl, rfl, rfl, w1⟩ := open_int Try.underlying5 (hval 1 5 v1 rfl rfl) h1
  obtain ⟨a2, rfl, rfl, rfl, w2⟩ := open_int Try.underlying5 (hval 2 5 v2 rfl rfl) h2
  clear hA0 hval0
  simp only [List.append_nil] at hW'
  refine (walk a0 a1 a2 w0 w1 w2 W).mono fun e W' ⟨he, hg⟩ => ?_
  subst he
  exact ⟨_, rfl, _, _, _, [], _, [], hW', trodAll_mk1 (shut_bool Try.underlying4 _), (trodAll_cons_mk (shut_int Try.underlying5 w0) (trodAll_cons_mk (shut_int Try.underlying5 w1) (trodAll_cons_mk (shut_int Try.underlying5 w2) trodAll_mk0))), rfl, hg.frame _, fun h => by cases h⟩

theorem over : Rows.aesBytesRow.holds Try.pinned (OpenSpec.ofChange Rows.aesBytesSpec) :=
  OpenClaim.holds_of_wide 5 Try.f5 rfl rfl rfl rfl rfl rfl rfl ⟨rfl, rfl, rfl, rfl, rfl⟩ rfl rfl rfl rfl rfl (by kernel_rfl) Try.func5 (by kernel_rfl)
    (of_decide_eq_true (by kernel_rfl)) (by unfold Func.isWrapper; first | (rw [if_pos (by decide +kernel)]; kernel_rfl) | (rw [if_neg (by decide +kernel)]; exact ⟨rfl, rfl⟩))
    (fun os started H enc _ => lifted os started H enc)

end Go.Proofs.Yteiknfcegchbcaa.aesBytes
namespace Go.Proofs.Yteiknfcegchbcaa
theorem aesBytes_holds : Rows.AesBytesSaid := aesBytes.over
end Go.Proofs.Yteiknfcegchbcaa
