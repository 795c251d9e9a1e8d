/- For every number, every size and every text: apostillelaw01.BitsTells returns true, and each argument reads afterwards as it read before. No condition. -/
import Derived.Test.YtbcgjbohhaihcaaFrame
import Derived.Test.YtbcgjbohhaihcaaAwake
import Derived.WalkKit
import Derived.ProofKit
import Derived.OpenShut
import Derived.ShutString
import Derived.ChangeOld
import Derived.Below
namespace Go.Proofs.Ytbcgjbohhaihcaa.bitsTells
open Go.ChangeShapes Go.WideShapes Go.ChangeAt Go.RowKit
open Go.ChangeMaps (open_string shut_string)
set_option linter.unusedVariables false

set_option maxHeartbeats 2000000 in
theorem walk (a0 : Int) (a1 : Int) (a2 : Option Addr) (len2 cap2 : Nat) (z2 : List Int) (w : World) (w0 : (Lit.int .u64 a0).wf = true) (w1 : (Lit.int .i64 a1).wf = true) (w2 : IsRow .u8 w a2 len2 cap2 z2) :
    Calls Try.prog 3 #[.int .u64 a0, .int .i64 a1, .slice a2 len2 cap2] w fun e w' => e = .returned (.bool true) ∧ Below w.heap.size w w' := by
  obtain ⟨n, rfl⟩ := Int.eq_ofNat_of_zero_le (wf_u64 _ w0).1
  have hn : n < 18446744073709551616 := by have := (wf_u64 _ w0).2; omega
  obtain ⟨hs0, hs1⟩ := wf_i64 _ w1
  obtain ⟨l, rfl, hrow⟩ := w2.row wf_u8
  clear w0 w1 w2
  by_cases hb : (1000 : Int) < (l.length : Int)
  · go_enter Try.func3, Try.ntmps3
    go_wp2_with (go_at_call 8; refine (awake_any _).mono ?_; rintro e w' ⟨rfl, hb⟩)
    go_ret
    exact ⟨rfl, by assumption⟩
  by_cases h1 : 1000 < a1 ∧ a1 ≤ 65536
  · obtain ⟨h1, h2⟩ := h1
    go_enter Try.func3, Try.ntmps3
    go_wp2_with (go_at_call 8; refine (awake_any _).mono ?_; rintro e w' ⟨rfl, hb⟩)
    go_ret
    exact ⟨rfl, by assumption⟩
  have hl : l.length ≤ 1000 := by omega
  have hrow' := hrow
  by_cases h2 : 1000 < a1
  · have h3 : ¬ a1 ≤ 65536 := by omega
    go_enter Try.func3, Try.ntmps3
    go_wp2_with fail
    refine (be_any n a1 _ hn hs0 hs1).mono ?_
    rintro e w1 ⟨v1, rfl, r1, b1⟩
    go_wp2_with fail
    refine (rbe_any n a1 _ hn hs0 hs1).mono ?_
    rintro e w2 ⟨v2, rfl, r2, b2⟩
    have r1 := r1.row.below b2
    have b2 := keep_trans b1 b2
    clear b1
    go_wp2_with fail
    refine (rsame_true _ _ _ _ r1 r2.row).mono ?_
    rintro e w3 ⟨rfl, b3⟩
    have b3 := keep_trans b2 b3
    clear b2 r1 r2
    go_wp2_with fail
    refine (le_any n a1 _ hn hs0 hs1).mono ?_
    rintro e w4 ⟨v4, rfl, r4, b4⟩
    have b4 := keep_trans b3 b4
    clear b3
    go_wp2_with fail
    refine (rle_any n a1 _ hn hs0 hs1).mono ?_
    rintro e w5 ⟨v5, rfl, r5, b5⟩
    have r4 := r4.row.below b5
    have b5 := keep_trans b4 b5
    clear b4
    go_wp2_with fail
    refine (rsame_true _ _ _ _ r4 r5.row).mono ?_
    rintro e w6 ⟨rfl, b6⟩
    have b6 := keep_trans b5 b6
    clear b5 r4 r5
    go_wp2_with fail
    refine (num_any _ _ _ (hrow.below b6)).mono ?_
    rintro e w7 ⟨rfl, hw7⟩
    rw [hw7]
    clear hw7
    go_wp2_with fail
    refine (rnum_any _ _ _ (hrow.below b6)).mono ?_
    rintro e w7 ⟨rfl, hw7⟩
    rw [hw7]
    clear hw7
    go_wp2_with fail
    refine (numLe_any _ _ _ (hrow.below b6)).mono ?_
    rintro e w7 ⟨rfl, hw7⟩
    rw [hw7]
    clear hw7
    go_wp2_with fail
    refine (rnumLe_any _ _ _ (hrow.below b6) (by omega)).mono ?_
    rintro e w7 ⟨rfl, b7⟩
    have b7 := keep_trans b6 b7
    clear b6
    go_wp2_with fail
    refine (awake_any _).mono ?_
    rintro e w8 ⟨rfl, b8⟩
    have b8 := keep_trans b7 b8
    go_wp2
    go_ret
    exact ⟨rfl, b8⟩
  · have h3 : ¬ 1000 < a1 := h2
    go_enter Try.func3, Try.ntmps3
    go_wp2_with fail
    refine (be_any n a1 _ hn hs0 hs1).mono ?_
    rintro e w1 ⟨v1, rfl, r1, b1⟩
    go_wp2_with fail
    refine (rbe_any n a1 _ hn hs0 hs1).mono ?_
    rintro e w2 ⟨v2, rfl, r2, b2⟩
    have r1 := r1.row.below b2
    have b2 := keep_trans b1 b2
    clear b1
    go_wp2_with fail
    refine (rsame_true _ _ _ _ r1 r2.row).mono ?_
    rintro e w3 ⟨rfl, b3⟩
    have b3 := keep_trans b2 b3
    clear b2 r1 r2
    go_wp2_with fail
    refine (le_any n a1 _ hn hs0 hs1).mono ?_
    rintro e w4 ⟨v4, rfl, r4, b4⟩
    have b4 := keep_trans b3 b4
    clear b3
    go_wp2_with fail
    refine (rle_any n a1 _ hn hs0 hs1).mono ?_
    rintro e w5 ⟨v5, rfl, r5, b5⟩
    have r4 := r4.row.below b5
    have b5 := keep_trans b4 b5
    clear b4
    go_wp2_with fail
    refine (rsame_true _ _ _ _ r4 r5.row).mono ?_
    rintro e w6 ⟨rfl, b6⟩
    have b6 := keep_trans b5 b6
    clear b5 r4 r5
    go_wp2_with fail
    refine (num_any _ _ _ (hrow.below b6)).mono ?_
    rintro e w7 ⟨rfl, hw7⟩
    rw [hw7]
    clear hw7
    go_wp2_with fail
    refine (rnum_any _ _ _ (hrow.below b6)).mono ?_
    rintro e w7 ⟨rfl, hw7⟩
    rw [hw7]
    clear hw7
    go_wp2_with fail
    refine (numLe_any _ _ _ (hrow.below b6)).mono ?_
    rintro e w7 ⟨rfl, hw7⟩
    rw [hw7]
    clear hw7
    go_wp2_with fail
    refine (rnumLe_any _ _ _ (hrow.below b6) (by omega)).mono ?_
    rintro e w7 ⟨rfl, b7⟩
    have b7 := keep_trans b6 b7
    clear b6
    go_wp2_with fail
    refine (awake_any _).mono ?_
    rintro e w8 ⟨rfl, b8⟩
    have b8 := keep_trans b7 b8
    go_wp2
    go_ret
    exact ⟨rfl, b8⟩

set_option maxRecDepth 100000 in
theorem lifted (os : Os) (started : os.Started) (H : Type) (enc : TypeId × Value → H) :
    ReturnsInHanded {} Try.checked os 3 .any (Rows.bitsTellsSpec.pre6 enc Try.prog Try.f3 Rows.bitsTellsRow.domain false) (Rows.bitsTellsSpec.post enc Try.prog Try.f3 false true false false) := by
  refine returnsInHanded_of_change (C := Try.checked) own started (by kernel_rfl) Try.func3
    (ChangeSpec.witness6 (enc := enc) (C := Try.checked) false ⟨#[], #[.int .u64 0, .int .i64 0, .slice none 0 0], []⟩ 8 (by kernel_rfl) (by kernel_rfl) (by kernel_rfl) (by kernel_rfl)) ?_
  intro W base args ds gs before hval0 hW hcnd _
  have hval : ∀ (j : Nat) t v, Try.f3.params[j]? = some t → args[j]? = some v → Value.okWide Try.prog W .any base t v := hval0
  have hW' := hW
  obtain ⟨p, q, hA0, hV, rfl, hfz, hnd⟩ := hW
  have hA : DataW.TrodAll enc Try.prog W 0 (fun _ => true) true Try.f3.params.toList args.toList ds p := hA0
  rw [Try.params3] at hA hval
  obtain ⟨v0, vs0, d0, ds0, p0, q0, hargs, rfl, rfl, h0, r0⟩ := trodAll_cons hA
  obtain ⟨v1, vs1, d1, ds1, p1, q1, rfl, rfl, rfl, h1, r1⟩ := trodAll_cons r0
  obtain ⟨v2, vs2, d2, ds2, p2, q2, rfl, rfl, rfl, h2, r2⟩ := trodAll_cons r1
  obtain ⟨rfl, rfl, rfl⟩ := trodAll_nil r2
  obtain rfl : args = #[v0, v1, v2] := by cases args; simp_all
  obtain ⟨rfl, rfl⟩ := trodVars_none hV
  obtain ⟨a0, rfl, rfl, rfl, w0⟩ := open_int Try.underlying22 (hval 0 22 v0 rfl rfl) h0
  obtain ⟨a1, rfl, rfl, rfl, w1⟩ := open_int Try.underlying3 (hval 1 3 v1 rfl rfl) h1
  obtain ⟨a2, len2, cap2, rfl⟩ := okWide_slice Try.underlying23 (hval 2 23 v2 rfl rfl)
  have k2 := h2
  have lt2 : ∀ x ∈ p2, x.block < W.heap.size := by obtain ⟨m, hm⟩ := k2; exact DataW.trod_lt m _ _ _ hm
  obtain ⟨z2, w2⟩ : ∃ zs, IsRow .u8 W a2 len2 cap2 zs := by
    obtain ⟨fuel, hf⟩ := h2
    rcases open_ints Try.underlying23 Try.underlying5 (by kernel_rfl) hf with ⟨hcs, _⟩ | ⟨x, l, c, zs, hcs, _, hl, hm, hz, _, hcell, hwz⟩
    · simp [Value.cells] at hcs
      obtain ⟨rfl, rfl, rfl⟩ := hcs
      exact ⟨[], .inl ⟨rfl, rfl, rfl, rfl⟩⟩
    · simp [Value.cells] at hcs
      obtain ⟨rfl, rfl, rfl⟩ := hcs
      exact ⟨zs, .inr ⟨_, rfl, hl, hm, by simpa using hz, hcell, hwz⟩⟩
  clear hA0 hval0
  refine (walk a0 a1 a2 len2 cap2 z2 W w0 w1 w2).mono fun e W' ⟨he, bel⟩ => ?_
  subst he
  exact ⟨_, rfl, _, _, _, [], _, [], hW', trodAll_mk1 (shut_bool Try.underlying4 _), (trodAll_cons_mk (shut_int Try.underlying22 w0) (trodAll_cons_mk (shut_int Try.underlying3 w1) (trodAll_cons_mk (Below.trod laidOut (by kernel_rfl) (of_decide_eq_true (by kernel_rfl)) k2 bel lt2) trodAll_mk0))), rfl, bel.frame _, fun h => by cases h⟩

theorem over : Rows.bitsTellsRow.holds Try.pinned (OpenSpec.ofChange Rows.bitsTellsSpec) :=
  OpenClaim.holds_of_wide 3 Try.f3 rfl rfl rfl rfl rfl rfl rfl ⟨rfl, rfl, rfl, rfl, rfl⟩ rfl rfl rfl rfl rfl (by kernel_rfl) Try.func3 (by kernel_rfl)
    (of_decide_eq_true (by kernel_rfl)) (by unfold Func.isWrapper; first | (rw [if_pos (by decide +kernel)]; kernel_rfl) | (rw [if_neg (by decide +kernel)]; exact ⟨rfl, rfl⟩))
    (fun os started H enc _ => lifted os started H enc)

end Go.Proofs.Ytbcgjbohhaihcaa.bitsTells
namespace Go.Proofs.Ytbcgjbohhaihcaa
theorem bitsTells_holds : Rows.BitsTellsSaid := bitsTells.over
end Go.Proofs.Ytbcgjbohhaihcaa
