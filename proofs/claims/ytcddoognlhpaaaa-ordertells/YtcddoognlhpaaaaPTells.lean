/- For every two lists of texts: apostillelaw04.OrderTells returns true, and each argument reads afterwards as it read before. No condition. -/
import Derived.Test.YtcddoognlhpaaaaFrameT
import Derived.Test.YtcddoognlhpaaaaPLaw
import Derived.WalkKit
import Derived.ProofKit
import Derived.OpenShut
import Derived.ShutString
import Derived.ChangeOld
import Derived.Below
namespace Go.Proofs.Ytcddoognlhpaaaa.orderTells
open Go.ChangeShapes Go.WideShapes Go.ChangeAt Go.RowKit
open Go.ChangeMaps (open_string shut_string)
set_option linter.unusedVariables false

set_option maxHeartbeats 2000000 in
theorem walk (a0 : Option Addr) (len0 cap0 : Nat) (ls0 : List (List Nat)) (a1 : Option Addr) (len1 cap1 : Nat) (ls1 : List (List Nat)) (w : World) (w0 : Rows2 w (.slice a0 len0 cap0) ls0) (w1 : Rows2 w (.slice a1 len1 cap1) ls1) :
    Calls Try.prog 3 #[.slice a0 len0 cap0, .slice a1 len1 cap1] w fun e w' => e = .returned (.bool true) ∧ Below w.heap.size w w' := by
  obtain rfl := w0.len
  obtain rfl := w1.len
  obtain ⟨_, _, he0, h01, h02, _⟩ := w0.opens
  obtain ⟨_, _, he1, h11, h12, _⟩ := w1.opens
  clear he0 he1
  have hf0 := few_any _ ls0 w w0
  go_enter Try.func3, Try.ntmps3
  go_wp2_with fail
  refine hf0.mono ?_
  rintro e wx ⟨b0, rfl, hfew0, rfl⟩
  cases b0 with
  | false =>
    go_wp2_with fail
    refine (awake_any _).mono ?_
    rintro e w2 ⟨rfl, hb2⟩
    go_wp2
    go_ret
    exact ⟨rfl, hb2⟩
  | true =>
    obtain ⟨hn0, hs0⟩ := hfew0 rfl
    go_wp2_with fail
    refine (few_any _ ls1 _ w1).mono ?_
    rintro e wx2 ⟨b1, rfl, hfew1, rfl⟩
    cases b1 with
    | false =>
      go_wp2_with fail
      refine (awake_any _).mono ?_
      rintro e w2 ⟨rfl, hb2⟩
      go_wp2
      go_ret
      exact ⟨rfl, hb2⟩
    | true =>
      obtain ⟨hn1, hs1⟩ := hfew1 rfl
      clear hfew0 hfew1 hf0
      go_wp2
      go_loopw [20] (fun i wr => ∃ k : Nat, k ≤ ls0.length ∧ i = .int .i64 k ∧ Hid (Drew wx2 wr)) (fun i _ => ls0.length - (intOf i).toNat)
      case atStart => exact ⟨0, Nat.zero_le _, rfl, hide (Drew.refl _)⟩
      case round =>
        obtain ⟨k, hk, rfl, HQ⟩ := hrel
        by_cases hlt : k < ls0.length
        · obtain ⟨ba, oa, rfl, hca⟩ := (HQ.out.rows w0).all (by omega)
          obtain ⟨u1, c1, r1, _⟩ := hca k hlt
          have R1 := hide r1
          clear hca r1
          go_wp2
          go_loopw [26] (fun i wq => ∃ j : Nat, j ≤ ls1.length ∧ i = .int .i64 j ∧ Hid (Drew wr wq)) (fun i _ => ls1.length - (intOf i).toNat)
          case atStart => exact ⟨0, Nat.zero_le _, rfl, hide (Drew.refl _)⟩
          case round =>
            obtain ⟨j, hj, rfl, HJ⟩ := hrel
            by_cases hlj : j < ls1.length
            · obtain ⟨bb, ob, rfl, hcb⟩ := (HJ.out.rows (HQ.out.rows w1)).all (by omega)
              obtain ⟨u2, c2, r2, _⟩ := hcb j hlj
              have hcall := less_any u1 u2 _ _ wr (HJ.out.row R1.out) r2
              have hcall2 := rless_any u1 u2 _ _ wr (HJ.out.row R1.out) r2
              clear hcb r2
              cases hd : lessL (tx ls0 k) (tx ls1 j) with
              | true =>
                rw [hd] at hcall hcall2
                clear hd
                go_wp2_with fail
                refine hcall.mono ?_
                rintro e wy ⟨rfl, rfl⟩
                go_wp2_with fail
                refine hcall2.mono ?_
                rintro e wz ⟨rfl, hq⟩
                go_wp2
                go_roundw
                case rel => exact ⟨j + 1, by omega, by go_num, hide (by obtain ⟨n, rfl⟩ := hq; exact HJ.out.more n)⟩
                case measure => simp [intOf]; omega
              | false =>
                rw [hd] at hcall hcall2
                clear hd
                go_wp2_with fail
                refine hcall.mono ?_
                rintro e wy ⟨rfl, rfl⟩
                go_wp2_with fail
                refine hcall2.mono ?_
                rintro e wz ⟨rfl, hq⟩
                go_wp2
                go_roundw
                case rel => exact ⟨j + 1, by omega, by go_num, hide (by obtain ⟨n, rfl⟩ := hq; exact HJ.out.more n)⟩
                case measure => simp [intOf]; omega
            · go_wp2
              go_roundw
              case rel => exact ⟨k + 1, by omega, by go_num, hide (by obtain ⟨n, rfl⟩ := HJ.out; exact HQ.out.more n)⟩
              case measure => simp [intOf]; omega
        · have hB := hide HQ.out.below
          have hr0 := HQ.out.rows w0
          have hr1 := HQ.out.rows w1
          have hS0 := short_of hs0
          have hS1 := short_of hs1
          clear HQ w0 w1
          go_wp2_with fail
          refine (sort_any _ ls0 _ hr0 (by omega) (fun t ht => by have := hS0 t ht; omega)).mono ?_
          rintro e w2 ⟨o2, rfl, q2, b2⟩
          go_wp2_with fail
          refine (rsort_any _ ls0 _ (hr0.below b2) (by omega)).mono ?_
          rintro e w3 ⟨o3, rfl, q3, b3⟩
          go_wp2_with fail
          refine (rsame2_true _ _ _ _ _ (q2.below b3) q3 rfl).mono ?_
          rintro e w4 ⟨rfl, b4⟩
          have b14 := keep_trans (keep_trans b2 b3) b4
          replace hB := hide (keep_trans hB.out b14)
          replace hr0 := hr0.below b14
          replace hr1 := hr1.below b14
          clear b14 b2 b3 b4 q2 q3
          go_wp2_with fail
          refine (sorted_any _ ls0 _ hr0).mono ?_
          rintro e w5 ⟨rfl, d5⟩
          go_wp2_with fail
          refine (rsorted_any _ ls0 _ (d5.rows hr0)).mono ?_
          rintro e w6 ⟨rfl, d6⟩
          go_wp2_with fail
          have b46 := keep_trans d5.below d6.below
          replace hB := hide (keep_trans hB.out b46)
          replace hr0 := hr0.below b46
          replace hr1 := hr1.below b46
          clear b46 d5 d6
          refine (strict_any _ ls0 _ hr0).mono ?_
          rintro e w7 ⟨rfl, d7⟩
          go_wp2_with fail
          refine (rstrict_any _ ls0 _ (d7.rows hr0)).mono ?_
          rintro e w8 ⟨rfl, d8⟩
          go_wp2_with fail
          have b68 := keep_trans d7.below d8.below
          replace hB := hide (keep_trans hB.out b68)
          replace hr0 := hr0.below b68
          replace hr1 := hr1.below b68
          clear b68 d7 d8
          refine (merge_any _ _ ls0 ls1 _ hr0 hr1 (by omega) (fun t ht => by have := hS0 t ht; omega) (fun t ht => by have := hS1 t ht; omega)).mono ?_
          rintro e w9 ⟨o9, rfl, q9, b9⟩
          go_wp2_with fail
          refine (rmerge_any _ _ ls0 ls1 _ (hr0.below b9) (hr1.below b9) (by omega)).mono ?_
          rintro e w10 ⟨o10, rfl, q10, b10⟩
          go_wp2_with fail
          refine (rsame2_true _ _ _ _ _ (q9.below b10) q10 rfl).mono ?_
          rintro e w11 ⟨rfl, b11⟩
          replace hB := hide (keep_trans hB.out (keep_trans (keep_trans b9 b10) b11))
          clear b9 b10 b11 q9 q10 hr0 hr1
          go_wp2_with fail
          refine (awake_any _).mono ?_
          rintro e w12 ⟨rfl, b12⟩
          go_wp2
          go_ret
          exact ⟨rfl, keep_trans hB.out b12⟩

set_option maxRecDepth 100000 in
theorem lifted (os : Os) (started : os.Started) (H : Type) (enc : TypeId × Value → H) :
    ReturnsInHanded {} Try.checked os 3 .any (Rows.orderTellsSpec.pre6 enc Try.prog Try.f3 Rows.orderTellsRow.domain false) (Rows.orderTellsSpec.post enc Try.prog Try.f3 false true false false) := by
  refine returnsInHanded_of_change (C := Try.checked) own started (by kernel_rfl) Try.func3
    (ChangeSpec.witness6 (enc := enc) (C := Try.checked) false ⟨#[], #[.slice none 0 0, .slice none 0 0], []⟩ 8 (by kernel_rfl) (by kernel_rfl) (by kernel_rfl) (by kernel_rfl)) ?_
  intro W base args ds gs before hval0 hW hcnd _
  have hval : ∀ (j : Nat) t v, Try.f3.params[j]? = some t → args[j]? = some v → Value.okWide Try.prog W .any base t v := hval0
  have hW' := hW
  obtain ⟨p, q, hA0, hV, rfl, hfz, hnd⟩ := hW
  have hA : DataW.TrodAll enc Try.prog W 0 (fun _ => true) true Try.f3.params.toList args.toList ds p := hA0
  rw [Try.params3] at hA hval
  obtain ⟨v0, vs0, d0, ds0, p0, q0, hargs, rfl, rfl, h0, r0⟩ := trodAll_cons hA
  obtain ⟨v1, vs1, d1, ds1, p1, q1, rfl, rfl, rfl, h1, r1⟩ := trodAll_cons r0
  obtain ⟨rfl, rfl, rfl⟩ := trodAll_nil r1
  obtain rfl : args = #[v0, v1] := by cases args; simp_all
  obtain ⟨rfl, rfl⟩ := trodVars_none hV
  obtain ⟨a0, len0, cap0, rfl⟩ := okWide_slice Try.underlying22 (hval 0 22 v0 rfl rfl)
  have k0 := h0
  have lt0 : ∀ x ∈ p0, x.block < W.heap.size := by obtain ⟨m, hm⟩ := k0; exact DataW.trod_lt m _ _ _ hm
  obtain ⟨ls0, w0⟩ : ∃ ls, Rows2 W (.slice a0 len0 cap0) ls := by
    obtain ⟨fuel, hf⟩ := h0
    exact read_texts (by simpa [Value.cells] using hf)
  obtain ⟨a1, len1, cap1, rfl⟩ := okWide_slice Try.underlying22 (hval 1 22 v1 rfl rfl)
  have k1 := h1
  have lt1 : ∀ x ∈ p1, x.block < W.heap.size := by obtain ⟨m, hm⟩ := k1; exact DataW.trod_lt m _ _ _ hm
  obtain ⟨ls1, w1⟩ : ∃ ls, Rows2 W (.slice a1 len1 cap1) ls := by
    obtain ⟨fuel, hf⟩ := h1
    exact read_texts (by simpa [Value.cells] using hf)
  clear hA0 hval0
  refine (walk a0 len0 cap0 ls0 a1 len1 cap1 ls1 W w0 w1).mono fun e W' ⟨he, bel⟩ => ?_
  subst he
  exact ⟨_, rfl, _, _, _, [], _, [], hW', trodAll_mk1 (shut_bool Try.underlying4 _), (trodAll_cons_mk (Below.trod laidOut (by kernel_rfl) (of_decide_eq_true (by kernel_rfl)) k0 bel lt0) (trodAll_cons_mk (Below.trod laidOut (by kernel_rfl) (of_decide_eq_true (by kernel_rfl)) k1 bel lt1) trodAll_mk0)), rfl, bel.frame _, fun h => by cases h⟩

theorem over : Rows.orderTellsRow.holds Try.pinned (OpenSpec.ofChange Rows.orderTellsSpec) :=
  OpenClaim.holds_of_wide 3 Try.f3 rfl rfl rfl rfl rfl rfl rfl ⟨rfl, rfl, rfl, rfl, rfl⟩ rfl rfl rfl rfl rfl (by kernel_rfl) Try.func3 (by kernel_rfl)
    (of_decide_eq_true (by kernel_rfl)) (by unfold Func.isWrapper; first | (rw [if_pos (by decide +kernel)]; kernel_rfl) | (rw [if_neg (by decide +kernel)]; exact ⟨rfl, rfl⟩))
    (fun os started H enc _ => lifted os started H enc)

end Go.Proofs.Ytcddoognlhpaaaa.orderTells
namespace Go.Proofs.Ytcddoognlhpaaaa
theorem orderTells_holds : Rows.OrderTellsSaid := orderTells.over
end Go.Proofs.Ytcddoognlhpaaaa
