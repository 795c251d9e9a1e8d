/- For every list of numbers, every text, every width and every count: apostillelaw01.BitsPacks returns true, and each argument reads afterwards as it read before. No condition. -/
import Derived.Test.YtbcgjbohhaihcaaFrame
import Derived.Test.YtbcgjbohhaihcaaAwake
import Derived.Test.YtbcgjbohhaihcaaRUnp
import Derived.Test.YtbcgjbohhaihcaaRPack
import Derived.WalkKit
import Derived.ProofKit
import Derived.OpenShut
import Derived.ShutString
import Derived.ChangeOld
import Derived.Below
namespace Go.Proofs.Ytbcgjbohhaihcaa.bitsPacks
open Go.ChangeShapes Go.WideShapes Go.ChangeAt Go.RowKit
open Go.ChangeMaps (open_string shut_string)
set_option linter.unusedVariables false

set_option maxHeartbeats 2000000 in
theorem walk (a0 : Option Addr) (len0 cap0 : Nat) (z0 : List Int) (a1 : Option Addr) (len1 cap1 : Nat) (z1 : List Int) (a2 : Int) (a3 : Int) (w : World) (w0 : IsRow .u32 w a0 len0 cap0 z0) (w1 : IsRow .u8 w a1 len1 cap1 z1) (w2 : (Lit.int .i64 a2).wf = true) (w3 : (Lit.int .i64 a3).wf = true) :
    Calls Try.prog 5 #[.slice a0 len0 cap0, .slice a1 len1 cap1, .int .i64 a2, .int .i64 a3] w fun e w' => e = .returned (.bool true) ∧ Below w.heap.size w w' := by
  obtain ⟨hx0, hx1⟩ := wf_i64 _ w2
  obtain ⟨hc0, hc1⟩ := wf_i64 _ w3
  obtain ⟨m, rfl, hm⟩ := w0.row wf_u32
  obtain ⟨l, rfl, hr⟩ := w1.row wf_u8
  clear w0 w1 w2 w3
  by_cases hb : (400 : Int) < (m.length : Int)
  · go_enter Try.func5, Try.ntmps5
    go_wp2_with (go_at_call 8; refine (awake_any _).mono ?_; rintro e w' ⟨rfl, hb⟩)
    go_ret
    exact ⟨rfl, by assumption⟩
  by_cases hb2 : (600 : Int) < (l.length : Int)
  · go_enter Try.func5, Try.ntmps5
    go_wp2_with (go_at_call 8; refine (awake_any _).mono ?_; rintro e w' ⟨rfl, hb⟩)
    go_ret
    exact ⟨rfl, by assumption⟩
  have hml : m.length ≤ 400 := by omega
  have hll : l.length ≤ 600 := by omega
  go_enter Try.func5, Try.ntmps5
  go_wp2_with fail
  refine (dig_any _ l a2 a3 _ hr (by omega) hc0 hc1).mono ?_
  rintro e w1 ⟨v1, rfl, r1, b1⟩
  go_wp2_with fail
  refine (rdig_any _ l a2 a3 _ (hr.below b1) (by omega)).mono ?_
  rintro e w2 ⟨v2, rfl, r2, b2⟩
  have r1 := r1.row.below b2
  have b2 := keep_trans b1 b2
  clear b1
  go_wp2_with fail
  refine (rsameNums_true _ _ _ _ r1 r2.row).mono ?_
  rintro e w3 ⟨rfl, b3⟩
  have b3 := keep_trans b2 b3
  clear b2 r1 r2
  go_wp2_with fail
  refine (pack_any _ m a2 _ (hm.below b3) (by omega)).mono ?_
  rintro e w4 ⟨v4, rfl, r4, b4⟩
  have b4 := keep_trans b3 b4
  clear b3
  go_wp2_with fail
  refine (rpack_any _ m a2 _ (hm.below b4) (by omega)).mono ?_
  rintro e w5 ⟨v5, rfl, r5, b5⟩
  have r4 := r4.row.below b5
  have b5 := keep_trans b4 b5
  clear b4
  go_wp2_with fail
  refine (rsame_true _ _ _ _ r4 r5.row).mono ?_
  rintro e w6 ⟨rfl, b6⟩
  have b6 := keep_trans b5 b6
  clear b5 r4 r5
  go_wp2_with fail
  refine (unp_any _ l a2 a3 _ (hr.below b6) (by omega) hc0 hc1).mono ?_
  rintro e w7 ⟨v7, rfl, r7, b7⟩
  have b7 := keep_trans b6 b7
  clear b6
  go_wp2_with fail
  refine (runp_any _ l a2 a3 _ (hr.below b7) (by omega)).mono ?_
  rintro e w8 ⟨v8, rfl, r8, b8⟩
  have r7 := r7.row.below b8
  have b8 := keep_trans b7 b8
  clear b7
  go_wp2_with fail
  refine (rsameNums_true _ _ _ _ r7 r8.row).mono ?_
  rintro e w9 ⟨rfl, b9⟩
  have b9 := keep_trans b8 b9
  clear b8 r7 r8
  go_wp2_with fail
  refine (awake_any _).mono ?_
  rintro e w10 ⟨rfl, b10⟩
  have b10 := keep_trans b9 b10
  go_wp2
  go_ret
  exact ⟨rfl, b10⟩

set_option maxRecDepth 100000 in
theorem lifted (os : Os) (started : os.Started) (H : Type) (enc : TypeId × Value → H) :
    ReturnsInHanded {} Try.checked os 5 .any (Rows.bitsPacksSpec.pre6 enc Try.prog Try.f5 Rows.bitsPacksRow.domain false) (Rows.bitsPacksSpec.post enc Try.prog Try.f5 false true false false) := by
  refine returnsInHanded_of_change (C := Try.checked) own started (by kernel_rfl) Try.func5
    (ChangeSpec.witness6 (enc := enc) (C := Try.checked) false ⟨#[], #[.slice none 0 0, .slice none 0 0, .int .i64 0, .int .i64 0], []⟩ 8 (by kernel_rfl) (by kernel_rfl) (by kernel_rfl) (by kernel_rfl)) ?_
  intro W base args ds gs before hval0 hW hcnd _
  have hval : ∀ (j : Nat) t v, Try.f5.params[j]? = some t → args[j]? = some v → Value.okWide Try.prog W .any base t v := hval0
  have hW' := hW
  obtain ⟨p, q, hA0, hV, rfl, hfz, hnd⟩ := hW
  have hA : DataW.TrodAll enc Try.prog W 0 (fun _ => true) true Try.f5.params.toList args.toList ds p := hA0
  rw [Try.params5] at hA hval
  obtain ⟨v0, vs0, d0, ds0, p0, q0, hargs, rfl, rfl, h0, r0⟩ := trodAll_cons hA
  obtain ⟨v1, vs1, d1, ds1, p1, q1, rfl, rfl, rfl, h1, r1⟩ := trodAll_cons r0
  obtain ⟨v2, vs2, d2, ds2, p2, q2, rfl, rfl, rfl, h2, r2⟩ := trodAll_cons r1
  obtain ⟨v3, vs3, d3, ds3, p3, q3, rfl, rfl, rfl, h3, r3⟩ := trodAll_cons r2
  obtain ⟨rfl, rfl, rfl⟩ := trodAll_nil r3
  obtain rfl : args = #[v0, v1, v2, v3] := by cases args; simp_all
  obtain ⟨rfl, rfl⟩ := trodVars_none hV
  obtain ⟨a0, len0, cap0, rfl⟩ := okWide_slice Try.underlying34 (hval 0 34 v0 rfl rfl)
  have k0 := h0
  have lt0 : ∀ x ∈ p0, x.block < W.heap.size := by obtain ⟨m, hm⟩ := k0; exact DataW.trod_lt m _ _ _ hm
  obtain ⟨z0, w0⟩ : ∃ zs, IsRow .u32 W a0 len0 cap0 zs := by
    obtain ⟨fuel, hf⟩ := h0
    rcases open_ints Try.underlying34 Try.underlying39 (by kernel_rfl) hf with ⟨hcs, _⟩ | ⟨x, l, c, zs, hcs, _, hl, hm, hz, _, hcell, hwz⟩
    · simp [Value.cells] at hcs
      obtain ⟨rfl, rfl, rfl⟩ := hcs
      exact ⟨[], .inl ⟨rfl, rfl, rfl, rfl⟩⟩
    · simp [Value.cells] at hcs
      obtain ⟨rfl, rfl, rfl⟩ := hcs
      exact ⟨zs, .inr ⟨_, rfl, hl, hm, by simpa using hz, hcell, hwz⟩⟩
  obtain ⟨a1, len1, cap1, rfl⟩ := okWide_slice Try.underlying23 (hval 1 23 v1 rfl rfl)
  have k1 := h1
  have lt1 : ∀ x ∈ p1, x.block < W.heap.size := by obtain ⟨m, hm⟩ := k1; exact DataW.trod_lt m _ _ _ hm
  obtain ⟨z1, w1⟩ : ∃ zs, IsRow .u8 W a1 len1 cap1 zs := by
    obtain ⟨fuel, hf⟩ := h1
    rcases open_ints Try.underlying23 Try.underlying5 (by kernel_rfl) hf with ⟨hcs, _⟩ | ⟨x, l, c, zs, hcs, _, hl, hm, hz, _, hcell, hwz⟩
    · simp [Value.cells] at hcs
      obtain ⟨rfl, rfl, rfl⟩ := hcs
      exact ⟨[], .inl ⟨rfl, rfl, rfl, rfl⟩⟩
    · simp [Value.cells] at hcs
      obtain ⟨rfl, rfl, rfl⟩ := hcs
      exact ⟨zs, .inr ⟨_, rfl, hl, hm, by simpa using hz, hcell, hwz⟩⟩
  obtain ⟨a2, rfl, rfl, rfl, w2⟩ := open_int Try.underlying3 (hval 2 3 v2 rfl rfl) h2
  obtain ⟨a3, rfl, rfl, rfl, w3⟩ := open_int Try.underlying3 (hval 3 3 v3 rfl rfl) h3
  clear hA0 hval0
  refine (walk a0 len0 cap0 z0 a1 len1 cap1 z1 a2 a3 W w0 w1 w2 w3).mono fun e W' ⟨he, bel⟩ => ?_
  subst he
  exact ⟨_, rfl, _, _, _, [], _, [], hW', trodAll_mk1 (shut_bool Try.underlying4 _), (trodAll_cons_mk (Below.trod laidOut (by kernel_rfl) (of_decide_eq_true (by kernel_rfl)) k0 bel lt0) (trodAll_cons_mk (Below.trod laidOut (by kernel_rfl) (of_decide_eq_true (by kernel_rfl)) k1 bel lt1) (trodAll_cons_mk (shut_int Try.underlying3 w2) (trodAll_cons_mk (shut_int Try.underlying3 w3) trodAll_mk0)))), rfl, bel.frame _, fun h => by cases h⟩

theorem over : Rows.bitsPacksRow.holds Try.pinned (OpenSpec.ofChange Rows.bitsPacksSpec) :=
  OpenClaim.holds_of_wide 5 Try.f5 rfl rfl rfl rfl rfl rfl rfl ⟨rfl, rfl, rfl, rfl, rfl⟩ rfl rfl rfl rfl rfl (by kernel_rfl) Try.func5 (by kernel_rfl)
    (of_decide_eq_true (by kernel_rfl)) (by unfold Func.isWrapper; first | (rw [if_pos (by decide +kernel)]; kernel_rfl) | (rw [if_neg (by decide +kernel)]; exact ⟨rfl, rfl⟩))
    (fun os started H enc _ => lifted os started H enc)

end Go.Proofs.Ytbcgjbohhaihcaa.bitsPacks
namespace Go.Proofs.Ytbcgjbohhaihcaa
theorem bitsPacks_holds : Rows.BitsPacksSaid := bitsPacks.over
end Go.Proofs.Ytbcgjbohhaihcaa
