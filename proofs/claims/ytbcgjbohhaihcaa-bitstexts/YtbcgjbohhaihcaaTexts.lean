/- For every two texts and every list of texts: apostillelaw01.BitsTexts returns true, and each argument reads afterwards as it read before. No condition. -/
import Derived.Test.YtbcgjbohhaihcaaFrameT
import Derived.Test.YtbcgjbohhaihcaaLawk
import Derived.Test.YtbcgjbohhaihcaaBSame
import Derived.WalkKit
import Derived.ProofKit
import Derived.OpenShut
import Derived.ShutString
import Derived.ChangeOld
import Derived.Below
import Derived.SizedLaws
namespace Go.Proofs.Ytbcgjbohhaihcaa.bitsTexts
open Go.ChangeShapes Go.WideShapes Go.ChangeAt Go.RowKit
open Go.ChangeMaps (open_string shut_string)
set_option linter.unusedVariables false

set_option maxHeartbeats 2000000 in
theorem walk (a0 : Option Addr) (len0 cap0 : Nat) (z0 : List Int) (a1 : Option Addr) (len1 cap1 : Nat) (z1 : List Int) (a2 : Option Addr) (len2 cap2 : Nat) (ls2 : List (List Nat)) (w : World) (w0 : IsRow .u8 w a0 len0 cap0 z0) (w1 : IsRow .u8 w a1 len1 cap1 z1) (w2 : Rows2 w (.slice a2 len2 cap2) ls2) (s0 : len0 ≤ 140737488351232) (s1 : len1 ≤ 140737488351232) :
    Calls Try.prog 4 #[.slice a0 len0 cap0, .slice a1 len1 cap1, .slice a2 len2 cap2] w fun e w' => e = .returned (.bool true) ∧ Below w.heap.size w w' := by
  obtain ⟨l, rfl, hr⟩ := w0.row wf_u8
  obtain ⟨b, rfl, hb⟩ := w1.row wf_u8
  have h2' := w2
  obtain ⟨_, _, he2, h21, h22, h23⟩ := w2
  simp at he2
  obtain ⟨rfl, rfl, rfl⟩ := he2
  unfold maxLen at h22
  clear w0 w1
  by_cases h1 : (2000 : Int) < (l.length : Int) + (b.length : Int)
  · go_enter Try.func4, Try.ntmps4
    go_wp2_with (go_at_call 8; refine (awake_any _).mono ?_; rintro e w' ⟨rfl, hb⟩)
    go_ret
    exact ⟨rfl, by assumption⟩
  by_cases h2 : (20 : Int) < (ls2.length : Int)
  · go_enter Try.func4, Try.ntmps4
    go_wp2_with (go_at_call 8; refine (awake_any _).mono ?_; rintro e w' ⟨rfl, hb⟩)
    go_ret
    exact ⟨rfl, by assumption⟩
  have hlb : l.length + b.length ≤ 2000 := by omega
  go_enter Try.func4, Try.ntmps4
  go_wp2
  go_loop [7, 24] (fun s i => ∃ k F : Nat, k ≤ ls2.length ∧ (ls2.take k).flatten.length = F ∧ F ≤ 2000 ∧ i = .int .i64 k ∧ s = .int .i64 (2000 - (F : Int))) (fun _ i => ls2.length - (intOf i).toNat)
  case atStart => exact ⟨0, 0, Nat.zero_le _, rfl, by decide, rfl, rfl⟩
  case round =>
    obtain ⟨k, F, hk, hF, hF2, rfl, rfl⟩ := hrel
    have HF := hide hF
    clear hF
    by_cases hlt : k < ls2.length
    · have hf := flat_succ hlt
      obtain ⟨b2, off, rfl, hc⟩ := h23 (by omega)
      obtain ⟨u, c1, ⟨au, cu, rfl, hu1, hu2, hu3, hu4⟩, htidy⟩ := hc k hlt
      clear hc h23
      have HFS := hide hf
      clear hf
      unfold maxLen at hu2
      generalize hT : (tx ls2 k).length = T at *
      have HT := hide hT
      clear hT
      by_cases hbig : (2001 : Int) < (T : Int)
      · go_wp2_with (go_at_call 8; refine (awake_any _).mono ?_; rintro e w' ⟨rfl, hb⟩)
        go_ret
        exact ⟨rfl, by assumption⟩
      by_cases hsum : F + T ≤ 2000
      · go_wp2
        go_round
        case rel => exact ⟨k + 1, F + T, by omega, by rw [HFS.out, List.length_append, HF.out, HT.out], hsum, by go_num, vint (by omega)⟩
        case measure => simp [intOf]; omega
      · have hneg : (2000 : Int) - (F : Int) - (T : Int) < 0 := by omega
        go_wp2_with (go_at_call 8; refine (awake_any _).mono ?_; rintro e w' ⟨rfl, hb⟩)
        go_ret
        exact ⟨rfl, by assumption⟩
    · have hfl : ls2.flatten.length ≤ 2000 := by
        have := HF.out
        rw [List.take_of_length_le (by omega)] at this
        omega
      go_wp2_with fail
      refine (xor_any _ _ l b _ hr hb (by omega)).mono ?_
      rintro e w1 ⟨v1, rfl, r1, b1⟩
      go_wp2_with fail
      refine (rxor_any _ _ l b _ (hr.below b1) (hb.below b1) (by omega)).mono ?_
      rintro e w2 ⟨v2, rfl, r2, b2⟩
      have r1 := r1.row.below b2
      have b2 := keep_trans b1 b2
      clear b1
      go_wp2_with fail
      refine (rsame_true _ _ _ _ r1 r2.row).mono ?_
      rintro e w3 ⟨rfl, b3⟩
      have b3 := keep_trans b2 b3
      clear b2 r1 r2
      go_wp2_with fail
      refine (bsame_any _ _ l b _ (hr.below b3) (hb.below b3)).mono ?_
      rintro e w4 ⟨rfl, b4⟩
      have b4 := keep_trans b3 b4
      clear b3
      go_wp2_with fail
      refine (rsame_b _ _ l b _ (hr.below b4) (hb.below b4)).mono ?_
      rintro e w5 ⟨rfl, b5⟩
      have b5 := keep_trans b4 b5
      clear b4
      go_wp2_with fail
      refine (bsame_any _ _ l l _ (hr.below b5) (hr.below b5)).mono ?_
      rintro e w6 ⟨rfl, b6⟩
      have b6 := keep_trans b5 b6
      clear b5
      go_wp2_with fail
      refine (join_any _ ls2 _ (h2'.below b6) (by omega)).mono ?_
      rintro e w7 ⟨v7, rfl, r7, b7⟩
      have b7 := keep_trans b6 b7
      clear b6
      go_wp2_with fail
      refine (rjoin_any _ ls2 _ (h2'.below b7) (by omega)).mono ?_
      rintro e w8 ⟨v8, rfl, r8, b8⟩
      have r7 := r7.row.below b8
      have b8 := keep_trans b7 b8
      clear b7
      go_wp2_with fail
      refine (rsame_true _ _ _ _ r7 r8.row).mono ?_
      rintro e w9 ⟨rfl, b9⟩
      have b9 := keep_trans b8 b9
      clear b8 r7 r8
      go_wp2_with fail
      refine (awake_any _).mono ?_
      rintro e w10 ⟨rfl, b10⟩
      have b10 := keep_trans b9 b10
      go_wp2
      go_ret
      exact ⟨rfl, b10⟩

set_option maxRecDepth 100000 in
theorem lifted (os : Os) (started : os.Started) (H : Type) (enc : TypeId × Value → H) :
    ReturnsInHanded {} Try.checked os 4 .any (Rows.bitsTextsSpec.pre6 enc Try.prog Try.f4 Rows.bitsTextsRow.domain false) (Rows.bitsTextsSpec.post enc Try.prog Try.f4 false true false false) := by
  refine returnsInHanded_of_change_sized (C := Try.checked) own started (by kernel_rfl) Try.func4
    (ChangeSpec.witness6 (enc := enc) (C := Try.checked) false ⟨#[], #[.slice none 0 0, .slice none 0 0, .slice none 0 0], []⟩ 8 (by kernel_rfl) (by kernel_rfl) (by kernel_rfl) (by kernel_rfl)) ?_
  intro W base args ds gs before hval0 hW hcnd hsz0 _
  have hsz : (DataW.weightsEach Try.prog (Try.f4.params.toList ++ Rows.bitsTextsSpec.plain.varTypes Try.prog) (ds ++ gs)).all (· ≤ reachBytes) = true := hsz0
  clear hsz0
  have hval : ∀ (j : Nat) t v, Try.f4.params[j]? = some t → args[j]? = some v → Value.okWide Try.prog W .any base t v := hval0
  have hW' := hW
  obtain ⟨p, q, hA0, hV, rfl, hfz, hnd⟩ := hW
  have hA : DataW.TrodAll enc Try.prog W 0 (fun _ => true) true Try.f4.params.toList args.toList ds p := hA0
  rw [Try.params4] at hA hval hsz
  obtain ⟨v0, vs0, d0, ds0, p0, q0, hargs, rfl, rfl, h0, r0⟩ := trodAll_cons hA
  obtain ⟨v1, vs1, d1, ds1, p1, q1, rfl, rfl, rfl, h1, r1⟩ := trodAll_cons r0
  obtain ⟨v2, vs2, d2, ds2, p2, q2, rfl, rfl, rfl, h2, r2⟩ := trodAll_cons r1
  obtain ⟨rfl, rfl, rfl⟩ := trodAll_nil r2
  obtain rfl : args = #[v0, v1, v2] := by cases args; simp_all
  obtain ⟨rfl, rfl⟩ := trodVars_none hV
  obtain ⟨a0, len0, cap0, rfl⟩ := okWide_slice Try.underlying23 (hval 0 23 v0 rfl rfl)
  have k0 := h0
  have lt0 : ∀ x ∈ p0, x.block < W.heap.size := by obtain ⟨m, hm⟩ := k0; exact DataW.trod_lt m _ _ _ hm
  obtain ⟨z0, w0, s0⟩ : ∃ zs, IsRow .u8 W a0 len0 cap0 zs ∧ len0 ≤ 140737488351232 := by
    obtain ⟨fuel, hf⟩ := h0
    rcases open_ints Try.underlying23 Try.underlying5 (by kernel_rfl) hf with ⟨hcs, _⟩ | ⟨x, l, c, zs, hcs, _, hl, hm, hz, hx, hcell, hwz⟩
    · simp [Value.cells] at hcs
      obtain ⟨rfl, rfl, rfl⟩ := hcs
      exact ⟨[], .inl ⟨rfl, rfl, rfl, rfl⟩, Nat.zero_le _⟩
    · simp [Value.cells] at hcs
      obtain ⟨rfl, rfl, rfl⟩ := hcs
      have hs := sized_slice hsz (j := 0) (t := 23) (e := 5) rfl (by rw [(Prod.mk.inj hx).1]; rfl) Try.underlying23
      rw [Try.bytes5] at hs
      simp only [lits, List.length_map, List.length_take, List.length_drop, reachBytes] at hs
      have hz' : zs.length = cap0 := by simpa using hz
      exact ⟨zs, .inr ⟨_, rfl, hl, hm, hz', hcell, hwz⟩, by omega⟩
  obtain ⟨a1, len1, cap1, rfl⟩ := okWide_slice Try.underlying23 (hval 1 23 v1 rfl rfl)
  have k1 := h1
  have lt1 : ∀ x ∈ p1, x.block < W.heap.size := by obtain ⟨m, hm⟩ := k1; exact DataW.trod_lt m _ _ _ hm
  obtain ⟨z1, w1, s1⟩ : ∃ zs, IsRow .u8 W a1 len1 cap1 zs ∧ len1 ≤ 140737488351232 := by
    obtain ⟨fuel, hf⟩ := h1
    rcases open_ints Try.underlying23 Try.underlying5 (by kernel_rfl) hf with ⟨hcs, _⟩ | ⟨x, l, c, zs, hcs, _, hl, hm, hz, hx, hcell, hwz⟩
    · simp [Value.cells] at hcs
      obtain ⟨rfl, rfl, rfl⟩ := hcs
      exact ⟨[], .inl ⟨rfl, rfl, rfl, rfl⟩, Nat.zero_le _⟩
    · simp [Value.cells] at hcs
      obtain ⟨rfl, rfl, rfl⟩ := hcs
      have hs := sized_slice hsz (j := 1) (t := 23) (e := 5) rfl (by rw [(Prod.mk.inj hx).1]; rfl) Try.underlying23
      rw [Try.bytes5] at hs
      simp only [lits, List.length_map, List.length_take, List.length_drop, reachBytes] at hs
      have hz' : zs.length = cap1 := by simpa using hz
      exact ⟨zs, .inr ⟨_, rfl, hl, hm, hz', hcell, hwz⟩, by omega⟩
  obtain ⟨a2, len2, cap2, rfl⟩ := okWide_slice Try.underlying29 (hval 2 29 v2 rfl rfl)
  have k2 := h2
  have lt2 : ∀ x ∈ p2, x.block < W.heap.size := by obtain ⟨m, hm⟩ := k2; exact DataW.trod_lt m _ _ _ hm
  obtain ⟨ls2, w2⟩ : ∃ ls, Rows2 W (.slice a2 len2 cap2) ls := by
    obtain ⟨fuel, hf⟩ := h2
    exact read_texts (by simpa [Value.cells] using hf)
  clear hA0 hval0
  refine (walk a0 len0 cap0 z0 a1 len1 cap1 z1 a2 len2 cap2 ls2 W w0 w1 w2 s0 s1).mono fun e W' ⟨he, bel⟩ => ?_
  subst he
  exact ⟨_, rfl, _, _, _, [], _, [], hW', trodAll_mk1 (shut_bool Try.underlying4 _), (trodAll_cons_mk (Below.trod laidOut (by kernel_rfl) (of_decide_eq_true (by kernel_rfl)) k0 bel lt0) (trodAll_cons_mk (Below.trod laidOut (by kernel_rfl) (of_decide_eq_true (by kernel_rfl)) k1 bel lt1) (trodAll_cons_mk (Below.trod laidOut (by kernel_rfl) (of_decide_eq_true (by kernel_rfl)) k2 bel lt2) trodAll_mk0))), rfl, bel.frame _, fun h => by cases h⟩

theorem over : Rows.bitsTextsRow.holds Try.pinned (OpenSpec.ofChange Rows.bitsTextsSpec) :=
  OpenClaim.holds_of_wide 4 Try.f4 rfl rfl rfl rfl rfl rfl rfl ⟨rfl, rfl, rfl, rfl, rfl⟩ rfl rfl rfl rfl rfl (by kernel_rfl) Try.func4 (by kernel_rfl)
    (of_decide_eq_true (by kernel_rfl)) (by unfold Func.isWrapper; first | (rw [if_pos (by decide +kernel)]; kernel_rfl) | (rw [if_neg (by decide +kernel)]; exact ⟨rfl, rfl⟩))
    (fun os started H enc _ => lifted os started H enc)

end Go.Proofs.Ytbcgjbohhaihcaa.bitsTexts
namespace Go.Proofs.Ytbcgjbohhaihcaa
theorem bitsTexts_holds : Rows.BitsTextsSaid := bitsTexts.over
end Go.Proofs.Ytbcgjbohhaihcaa
