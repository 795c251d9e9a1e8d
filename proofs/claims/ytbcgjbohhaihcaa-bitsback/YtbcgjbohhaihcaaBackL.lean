/- For every number, list of numbers, width and texts: apostillelaw01.BitsBack returns true, and each argument reads afterwards as it read before. No condition. -/
import Derived.Test.YtbcgjbohhaihcaaFrame
import Derived.Test.YtbcgjbohhaihcaaLawk
import Derived.WalkKit
import Derived.ProofKit
import Derived.OpenShut
import Derived.ShutString
import Derived.ChangeOld
import Derived.Below
import Derived.SizedLaws
namespace Go.Proofs.Ytbcgjbohhaihcaa.bitsBack
open Go.ChangeShapes Go.WideShapes Go.ChangeAt Go.RowKit
open Go.ChangeMaps (open_string shut_string)
set_option linter.unusedVariables false

set_option maxHeartbeats 2000000 in
theorem walk (a0 : Int) (a1 : Option Addr) (len1 cap1 : Nat) (z1 : List Int) (a2 : Int) (a3 : Option Addr) (len3 cap3 : Nat) (z3 : List Int) (a4 : Option Addr) (len4 cap4 : Nat) (z4 : List Int) (w : World) (w0 : (Lit.int .u64 a0).wf = true) (w1 : IsRow .u32 w a1 len1 cap1 z1) (w2 : (Lit.int .u8 a2).wf = true) (w3 : IsRow .u8 w a3 len3 cap3 z3) (w4 : IsRow .u8 w a4 len4 cap4 z4) (s1 : len1 ≤ 140737488351232) (s3 : len3 ≤ 140737488351232) (s4 : len4 ≤ 140737488351232) :
    Calls Try.prog 6 #[.int .u64 a0, .slice a1 len1 cap1, .int .u8 a2, .slice a3 len3 cap3, .slice a4 len4 cap4] w fun e w' => e = .returned (.bool true) ∧ Below w.heap.size w w' := by
  obtain ⟨n, rfl⟩ := Int.eq_ofNat_of_zero_le (wf_u64 _ w0).1
  have hn : n < 18446744073709551616 := by have := (wf_u64 _ w0).2; omega
  obtain ⟨x, rfl⟩ := Int.eq_ofNat_of_zero_le (wf_u8 _ w2).1
  have hx : x < 256 := by have := (wf_u8 _ w2).2; omega
  obtain ⟨m, rfl, hm⟩ := w1.row wf_u32
  obtain ⟨l, rfl, hr⟩ := w3.row wf_u8
  obtain ⟨b, rfl, hb⟩ := w4.row wf_u8
  clear w0 w1 w2 w3 w4
  have hlc := hr
  obtain ⟨_, _, hle, hl1, hl2, _, hlu⟩ := hlc
  obtain ⟨_, _, hbe, hb1, hb2, _, hbu⟩ := id hb
  simp at hle hbe
  obtain ⟨rfl, rfl⟩ := hle
  obtain ⟨rfl, rfl⟩ := hbe
  unfold maxLen at hl2 hb2
  by_cases h1 : (400 : Int) < (m.length : Int)
  · go_enter Try.func6, Try.ntmps6
    go_wp2_with (go_at_call 8; refine (awake_any _).mono ?_; rintro e w' ⟨rfl, hb⟩)
    go_ret
    exact ⟨rfl, by assumption⟩
  by_cases h2 : (1000 : Int) < (l.length : Int) + (b.length : Int)
  · go_enter Try.func6, Try.ntmps6
    go_wp2_with (go_at_call 8; refine (awake_any _).mono ?_; rintro e w' ⟨rfl, hb⟩)
    go_ret
    exact ⟨rfl, by assumption⟩
  have hml : m.length ≤ 400 := by omega
  have hlb : l.length + b.length ≤ 1000 := by omega
  obtain ⟨W, hW⟩ : ∃ W, 1 + x % 24 = W := ⟨_, rfl⟩
  have hW' : (1 + (x : Int) % 24) = (W : Int) := by omega
  have hW1 : 1 ≤ W := by omega
  have hW2 : W ≤ 24 := by omega
  have HW := hide hW'
  clear hW hW'
  go_enter Try.func6, Try.ntmps6
  go_wp2_with fail
  rw [HW.out]
  refine (be_any n 8 _ hn (by decide) (by decide)).mono ?_
  rintro e w1 ⟨v1, rfl, r1, b1⟩
  rw [leS8] at r1
  go_wp2_with fail
  refine (num_any _ _ _ r1.row).mono ?_
  rintro e w2 ⟨rfl, hw2⟩
  rw [hw2, num_be8 n hn]
  clear hw2 r1
  go_wp2_with fail
  refine (le_any n 8 _ hn (by decide) (by decide)).mono ?_
  rintro e w3 ⟨v3, rfl, r3, b3⟩
  rw [leS8] at r3
  have b3 := keep_trans b1 b3
  clear b1
  go_wp2_with fail
  refine (numLe_any _ _ _ r3.row).mono ?_
  rintro e w4 ⟨rfl, hw4⟩
  rw [hw4, num_be8 n hn]
  clear hw4 r3
  go_wp2_with fail
  refine (be_any n 3 _ hn (by decide) (by decide)).mono ?_
  rintro e w5 ⟨v5, rfl, r5, b5⟩
  rw [leS3] at r5
  have b5 := keep_trans b3 b5
  clear b3
  go_wp2_with fail
  refine (num_any _ _ _ r5.row).mono ?_
  rintro e w6 ⟨rfl, hw6⟩
  rw [hw6, num_be3 n]
  clear hw6 r5
  have hz3 : (((n % 16777216 : Nat) : Int) != (n : Int) % 16777216) = false := by simp
  go_wp2_with fail
  refine (pack_any _ m W _ (hm.below b5) (by omega)).mono ?_
  rintro e w7 ⟨v7, rfl, r7, b7⟩
  rw [packS_nat m W hW1 hW2] at r7
  have b7 := keep_trans b5 b7
  clear b5 hz3
  go_wp2_with fail
  refine (unp_any _ (packL m W) W m.length _ r7.row (by rw [packL_length]; have : m.length * W ≤ 400 * 24 := Nat.mul_le_mul hml hW2; omega) (by omega) (by omega)).mono ?_
  rintro e w8 ⟨v8, rfl, r8, b8⟩
  have hok : m.length * W ≤ 8 * (packL m W).length := by rw [packL_length]; omega
  rw [unpS_nat (packL m W) W m.length hW1 hW2 hok] at r8
  clear hok r7
  have r8 := r8.row
  have b8 := keep_trans b7 b8
  clear b7
  obtain ⟨au, cu, rfl, hu1, hu2, hu3⟩ := r8.opens (unpL_length _ W m.length)
  clear r8
  have hm8 := hm.below b8
  obtain ⟨am, cm, hme, hm1, hm2, hm3, hmu⟩ := hm8
  simp at hme
  obtain ⟨rfl, rfl⟩ := hme
  unfold maxLen at hm2
  go_wp2
  go_loopw [69] (fun i wr => ∃ k q : Nat, k ≤ m.length ∧ i = .int .i64 k ∧ wr = w8.drewN q) (fun i _ => m.length - (intOf i).toNat)
  case atStart => exact ⟨0, 0, Nat.zero_le _, rfl, rfl⟩
  case round =>
    obtain ⟨k, q, hk, rfl, rfl⟩ := hrel
    by_cases hlt : k < m.length
    · obtain ⟨bu, ou, rfl, hcu⟩ := hu3 (by omega)
      obtain ⟨bm, om, rfl, hcm⟩ := hm3 (by omega)
      have c1 := hcu k hlt
      have c2 := hcm k hlt
      rw [unpL_el _ _ _ _ hlt, unp_pack m W k hlt] at c1
      have hxm := el_lt hmu (by decide) k
      generalize hX : el m k = X at *
      clear hcu hcm hu3 hm3
      obtain ⟨P, hP⟩ : ∃ P, 2 ^ W = P := ⟨_, rfl⟩
      have hP1 : 1 ≤ P := by have := pp W; omega
      have hP2 : P ≤ 16777216 := by
        have := Nat.pow_le_pow_right (show 0 < 2 by decide) hW2
        have e : (2 : Nat) ^ 24 = 16777216 := by decide
        omega
      have hp : ((2 : Int) ^ W % 4294967296) = (P : Int) := by
        rw [show ((2 : Int) ^ W) = ((2 ^ W : Nat) : Int) from by simp, hP]; omega
      rw [hP] at c1
      clear hP
      go_wp2
      go_quiet (fail)
      go_wp2
      go_roundw
      case rel => exact ⟨k + 1, _, by omega, by go_num, rfl⟩
      case measure => simp [intOf]; omega
    · clear hu3 hm3 hm1 hm2 hmu
      have b9 : Below w.heap.size w (w8.drewN q) := below_drewN b8 q
      generalize w8.drewN q = W2 at *
      clear b8
      have hl9 := hr.below b9
      obtain ⟨_, _, hle, _, _, hl3, _⟩ := id hl9
      simp at hle
      obtain ⟨rfl, rfl⟩ := hle
      have hd0 : (0 : Int) ≤ (l.length : Int) / 3 * 3 := by omega
      have hd1 : (l.length : Int) / 3 * 3 ≤ (l.length : Int) := by omega
      have hd2 : (l.length : Int) / 3 * 3 ≤ (cap3 : Int) := by omega
      have hc : Row .u8 256 W2 (.slice a3 (l.length / 3 * 3) cap3) (l.take (l.length / 3 * 3)) := hl9.cut (by omega)
      have hcl : (l.take (l.length / 3 * 3)).length = l.length / 3 * 3 := List.length_take_of_le (by omega)
      have hcu : Under 256 (l.take (l.length / 3 * 3)) := hlu.take _
      obtain ⟨L3, hL3⟩ : ∃ L3, l.length / 3 = L3 := ⟨_, rfl⟩
      have hL3' : ((l.length : Int) / 3) = (L3 : Int) := by omega
      have h12 : ((l.length : Int) / 3 * 3 * 2 / 3) = ((2 * L3 : Nat) : Int) := by omega
      have HL3 := hide hL3
      have H12 := hide h12
      have hL3b : 2 * L3 ≤ 1000 := by omega
      clear hL3 hL3' h12
      generalize hC : l.take (l.length / 3 * 3) = C at *
      have HC := hide hC
      clear hC
      have HCL := hide hcl
      clear hcl
      go_wp2_with fail
      rw [H12.out]
      refine (unp_any _ C 12 _ _ hc (by rw [HCL.out]; omega) (by omega) (by omega)).mono ?_
      rintro e w10 ⟨v10, rfl, r10, b10⟩
      have e10 : unpS C 12 ((2 * L3 : Nat) : Int) = unpL C 12 (2 * L3) := unpS_nat C 12 (2 * L3) (by decide) (by decide) (by rw [HCL.out, HL3.out]; omega)
      rw [e10] at r10
      clear e10
      have hc := hc.below b10
      have b10 := keep_trans b9 b10
      clear b9
      go_wp2_with fail
      refine (pack_any _ _ 12 _ r10.row (by rw [unpL_length]; omega)).mono ?_
      rintro e w11 ⟨v11, rfl, r11, b11⟩
      have e11 : packS (unpL C 12 (2 * L3)) 12 = C := by
        have h5 := packS_nat (unpL C 12 (2 * L3)) 12 (by decide) (by decide)
        exact h5.trans (pack_unp C hcu 12 (2 * L3) (by rw [HCL.out, HL3.out]; omega))
      rw [e11] at r11
      clear e11 r10
      have hc := hc.below b11
      have b11 := keep_trans b10 b11
      clear b10
      go_wp2_with fail
      refine (rsame_true _ _ _ _ r11.row hc).mono ?_
      rintro e w12 ⟨rfl, b12⟩
      have b12 := keep_trans b11 b12
      clear b11 hc r11 hl3 hd0 hd1 hd2
      go_wp2_with fail
      refine (dig_any _ l 8 _ _ (hr.below b12) (by omega) (by omega) (by omega)).mono ?_
      rintro e w13 ⟨v13, rfl, r13, b13⟩
      have e13 : digS l 8 (l.length : Int) = l := (digS_nat l 8 l.length (by decide) (by decide) (by omega)).trans (digL_eight l hlu)
      rw [e13] at r13
      clear e13
      have r13 := r13.row
      have b13 := keep_trans b12 b13
      clear b12
      obtain ⟨ad, cd, rfl, hd1, hd2, hd3⟩ := r13.opens rfl
      clear r13
      have hl13 := hr.below b13
      obtain ⟨_, _, hle, _, _, hl3, _⟩ := id hl13
      simp at hle
      obtain ⟨rfl, rfl⟩ := hle
      go_wp2
      go_loop [106] (fun i => ∃ k : Nat, k ≤ l.length ∧ i = .int .i64 k) (fun i => l.length - (intOf i).toNat)
      case atStart => exact ⟨0, Nat.zero_le _, rfl⟩
      case round =>
        obtain ⟨k, hk, rfl⟩ := hrel
        by_cases hlt : k < l.length
        · obtain ⟨bd, od, rfl, hcd⟩ := hd3 (by omega)
          obtain ⟨bl, ol, rfl, hcl⟩ := hl3 (by omega)
          have c1 := hcd k hlt
          have c2 := hcl k hlt
          have hxl := el_lt hlu (by decide) k
          generalize el l k = X at *
          clear hcd hcl hd3 hl3
          go_wp2
          go_round
          case rel => exact ⟨k + 1, by omega, by go_num⟩
          case measure => simp [intOf]; omega
        · clear hd3 hl3
          have hS0 : Held w (.slice a3 l.length cap3) (.slice a4 b.length cap4) l b w13 := ⟨hl13, hb.below b13, b13⟩
          have hxl : (xorL l b).length ≤ 1000 := by unfold xorL; simp; omega
          have hxx := xor_twice l b
          clear hl13 b13 hm hr
          by_cases hmin : (b.length : Int) < (l.length : Int)
          · have hxx : xorL (xorL l b) b = l.take b.length := by rw [hxx, show min l.length b.length = b.length by omega]
            have i0 : (0 : Int) ≤ (b.length : Int) := by omega
            have i1 : (b.length : Int) ≤ (l.length : Int) := by omega
            have i2 : (b.length : Int) ≤ (cap3 : Int) := by omega
            have HXX := hide hxx
            clear hxx
            go_wp2
            go_region_held3 (fun w' => Held w (.slice a3 l.length cap3) (.slice a4 b.length cap4) l b w')
              (first | exact Held.keep (by assumption) b17 | exact Held.keep (by assumption) b16 | exact Held.keep (by assumption) b15 | exact Held.keep (by assumption) b14 | assumption | exact Held.drew (by assumption))
              (first
                | (go_at_call_of 18 (Value.slice a3 l.length cap3); refine (xor_any _ _ l b _ (by exact (‹Held w _ _ l b _›).1) (by exact (‹Held w _ _ l b _›).2.1) (by omega)).mono ?_; rintro e w14 ⟨v14, rfl, r14, b14⟩)
                | (go_at_call_of 18 (v14); refine (xor_any _ _ (xorL l b) b _ r14.row (by exact (‹Held w _ _ l b _›).2.1) (by omega)).mono ?_; rintro e w15 ⟨v15, rfl, r15, b15⟩)
                | (go_at_call 9; refine (rsame_true _ _ (l.take b.length) _ (by rw [← HXX.out]; exact r15.row) (by exact (‹Held w _ _ l b _›).1.cut (by omega))).mono ?_; rintro e w16 ⟨rfl, b16⟩)
                | (go_at_call 8; refine (awake_any _).mono ?_; rintro e w17 ⟨rfl, b17⟩))
            all_goals (go_wp2; go_ret; exact ⟨rfl, (‹Held w _ _ l b _›).2.2⟩)
          · have hxx : xorL (xorL l b) b = l.take l.length := by rw [hxx, show min l.length b.length = l.length by omega]
            have i0 : (0 : Int) ≤ (l.length : Int) := by omega
            have i1 : (l.length : Int) ≤ (b.length : Int) := by omega
            have i2 : (l.length : Int) ≤ (cap3 : Int) := by omega
            have hminN : ¬ b.length < l.length := by omega
            have hminL : (b.length < l.length) = False := by simp; omega
            clear s3
            have HXX := hide hxx
            clear hxx
            go_wp2
            go_region_held3 (fun w' => Held w (.slice a3 l.length cap3) (.slice a4 b.length cap4) l b w')
              (first | exact Held.keep (by assumption) b17 | exact Held.keep (by assumption) b16 | exact Held.keep (by assumption) b15 | exact Held.keep (by assumption) b14 | assumption | exact Held.drew (by assumption))
              (first
                | (go_at_call_of 18 (Value.slice a3 l.length cap3); refine (xor_any _ _ l b _ (by exact (‹Held w _ _ l b _›).1) (by exact (‹Held w _ _ l b _›).2.1) (by omega)).mono ?_; rintro e w14 ⟨v14, rfl, r14, b14⟩)
                | (go_at_call_of 18 (v14); refine (xor_any _ _ (xorL l b) b _ r14.row (by exact (‹Held w _ _ l b _›).2.1) (by omega)).mono ?_; rintro e w15 ⟨v15, rfl, r15, b15⟩)
                | (go_at_call 9; refine (rsame_true _ _ (l.take l.length) _ (by rw [← HXX.out]; exact r15.row) (by exact (‹Held w _ _ l b _›).1.cut (by omega))).mono ?_; rintro e w16 ⟨rfl, b16⟩)
                | (go_at_call 8; refine (awake_any _).mono ?_; rintro e w17 ⟨rfl, b17⟩))
            all_goals (go_wp2; go_ret; exact ⟨rfl, (‹Held w _ _ l b _›).2.2⟩)

set_option maxRecDepth 100000 in
theorem lifted (os : Os) (started : os.Started) (H : Type) (enc : TypeId × Value → H) :
    ReturnsInHanded {} Try.checked os 6 .any (Rows.bitsBackSpec.pre6 enc Try.prog Try.f6 Rows.bitsBackRow.domain false) (Rows.bitsBackSpec.post enc Try.prog Try.f6 false true false false) := by
  refine returnsInHanded_of_change_sized (C := Try.checked) own started (by kernel_rfl) Try.func6
    (ChangeSpec.witness6 (enc := enc) (C := Try.checked) false ⟨#[], #[.int .u64 0, .slice none 0 0, .int .u8 0, .slice none 0 0, .slice none 0 0], []⟩ 8 (by kernel_rfl) (by kernel_rfl) (by kernel_rfl) (by kernel_rfl)) ?_
  intro W base args ds gs before hval0 hW hcnd hsz0 _
  have hsz : (DataW.weightsEach Try.prog (Try.f6.params.toList ++ Rows.bitsBackSpec.plain.varTypes Try.prog) (ds ++ gs)).all (· ≤ reachBytes) = true := hsz0
  clear hsz0
  have hval : ∀ (j : Nat) t v, Try.f6.params[j]? = some t → args[j]? = some v → Value.okWide Try.prog W .any base t v := hval0
  have hW' := hW
  obtain ⟨p, q, hA0, hV, rfl, hfz, hnd⟩ := hW
  have hA : DataW.TrodAll enc Try.prog W 0 (fun _ => true) true Try.f6.params.toList args.toList ds p := hA0
  rw [Try.params6] at hA hval hsz
  obtain ⟨v0, vs0, d0, ds0, p0, q0, hargs, rfl, rfl, h0, r0⟩ := trodAll_cons hA
  obtain ⟨v1, vs1, d1, ds1, p1, q1, rfl, rfl, rfl, h1, r1⟩ := trodAll_cons r0
  obtain ⟨v2, vs2, d2, ds2, p2, q2, rfl, rfl, rfl, h2, r2⟩ := trodAll_cons r1
  obtain ⟨v3, vs3, d3, ds3, p3, q3, rfl, rfl, rfl, h3, r3⟩ := trodAll_cons r2
  obtain ⟨v4, vs4, d4, ds4, p4, q4, rfl, rfl, rfl, h4, r4⟩ := trodAll_cons r3
  obtain ⟨rfl, rfl, rfl⟩ := trodAll_nil r4
  obtain rfl : args = #[v0, v1, v2, v3, v4] := by cases args; simp_all
  obtain ⟨rfl, rfl⟩ := trodVars_none hV
  obtain ⟨a0, rfl, rfl, rfl, w0⟩ := open_int Try.underlying22 (hval 0 22 v0 rfl rfl) h0
  obtain ⟨a1, len1, cap1, rfl⟩ := okWide_slice Try.underlying34 (hval 1 34 v1 rfl rfl)
  have k1 := h1
  have lt1 : ∀ x ∈ p1, x.block < W.heap.size := by obtain ⟨m, hm⟩ := k1; exact DataW.trod_lt m _ _ _ hm
  obtain ⟨z1, w1, s1⟩ : ∃ zs, IsRow .u32 W a1 len1 cap1 zs ∧ len1 ≤ 140737488351232 := by
    obtain ⟨fuel, hf⟩ := h1
    rcases open_ints Try.underlying34 Try.underlying39 (by kernel_rfl) hf with ⟨hcs, _⟩ | ⟨x, l, c, zs, hcs, _, hl, hm, hz, hx, hcell, hwz⟩
    · simp [Value.cells] at hcs
      obtain ⟨rfl, rfl, rfl⟩ := hcs
      exact ⟨[], .inl ⟨rfl, rfl, rfl, rfl⟩, Nat.zero_le _⟩
    · simp [Value.cells] at hcs
      obtain ⟨rfl, rfl, rfl⟩ := hcs
      have hs := sized_slice hsz (j := 1) (t := 34) (e := 39) rfl (by rw [(Prod.mk.inj hx).1]; rfl) Try.underlying34
      rw [Try.bytes39] at hs
      simp only [lits, List.length_map, List.length_take, List.length_drop, reachBytes] at hs
      have hz' : zs.length = cap1 := by simpa using hz
      exact ⟨zs, .inr ⟨_, rfl, hl, hm, hz', hcell, hwz⟩, by omega⟩
  obtain ⟨a2, rfl, rfl, rfl, w2⟩ := open_int Try.underlying5 (hval 2 5 v2 rfl rfl) h2
  obtain ⟨a3, len3, cap3, rfl⟩ := okWide_slice Try.underlying23 (hval 3 23 v3 rfl rfl)
  have k3 := h3
  have lt3 : ∀ x ∈ p3, x.block < W.heap.size := by obtain ⟨m, hm⟩ := k3; exact DataW.trod_lt m _ _ _ hm
  obtain ⟨z3, w3, s3⟩ : ∃ zs, IsRow .u8 W a3 len3 cap3 zs ∧ len3 ≤ 140737488351232 := by
    obtain ⟨fuel, hf⟩ := h3
    rcases open_ints Try.underlying23 Try.underlying5 (by kernel_rfl) hf with ⟨hcs, _⟩ | ⟨x, l, c, zs, hcs, _, hl, hm, hz, hx, hcell, hwz⟩
    · simp [Value.cells] at hcs
      obtain ⟨rfl, rfl, rfl⟩ := hcs
      exact ⟨[], .inl ⟨rfl, rfl, rfl, rfl⟩, Nat.zero_le _⟩
    · simp [Value.cells] at hcs
      obtain ⟨rfl, rfl, rfl⟩ := hcs
      have hs := sized_slice hsz (j := 3) (t := 23) (e := 5) rfl (by rw [(Prod.mk.inj hx).1]; rfl) Try.underlying23
      rw [Try.bytes5] at hs
      simp only [lits, List.length_map, List.length_take, List.length_drop, reachBytes] at hs
      have hz' : zs.length = cap3 := by simpa using hz
      exact ⟨zs, .inr ⟨_, rfl, hl, hm, hz', hcell, hwz⟩, by omega⟩
  obtain ⟨a4, len4, cap4, rfl⟩ := okWide_slice Try.underlying23 (hval 4 23 v4 rfl rfl)
  have k4 := h4
  have lt4 : ∀ x ∈ p4, x.block < W.heap.size := by obtain ⟨m, hm⟩ := k4; exact DataW.trod_lt m _ _ _ hm
  obtain ⟨z4, w4, s4⟩ : ∃ zs, IsRow .u8 W a4 len4 cap4 zs ∧ len4 ≤ 140737488351232 := by
    obtain ⟨fuel, hf⟩ := h4
    rcases open_ints Try.underlying23 Try.underlying5 (by kernel_rfl) hf with ⟨hcs, _⟩ | ⟨x, l, c, zs, hcs, _, hl, hm, hz, hx, hcell, hwz⟩
    · simp [Value.cells] at hcs
      obtain ⟨rfl, rfl, rfl⟩ := hcs
      exact ⟨[], .inl ⟨rfl, rfl, rfl, rfl⟩, Nat.zero_le _⟩
    · simp [Value.cells] at hcs
      obtain ⟨rfl, rfl, rfl⟩ := hcs
      have hs := sized_slice hsz (j := 4) (t := 23) (e := 5) rfl (by rw [(Prod.mk.inj hx).1]; rfl) Try.underlying23
      rw [Try.bytes5] at hs
      simp only [lits, List.length_map, List.length_take, List.length_drop, reachBytes] at hs
      have hz' : zs.length = cap4 := by simpa using hz
      exact ⟨zs, .inr ⟨_, rfl, hl, hm, hz', hcell, hwz⟩, by omega⟩
  clear hA0 hval0
  refine (walk a0 a1 len1 cap1 z1 a2 a3 len3 cap3 z3 a4 len4 cap4 z4 W w0 w1 w2 w3 w4 s1 s3 s4).mono fun e W' ⟨he, bel⟩ => ?_
  subst he
  exact ⟨_, rfl, _, _, _, [], _, [], hW', trodAll_mk1 (shut_bool Try.underlying4 _), (trodAll_cons_mk (shut_int Try.underlying22 w0) (trodAll_cons_mk (Below.trod laidOut (by kernel_rfl) (of_decide_eq_true (by kernel_rfl)) k1 bel lt1) (trodAll_cons_mk (shut_int Try.underlying5 w2) (trodAll_cons_mk (Below.trod laidOut (by kernel_rfl) (of_decide_eq_true (by kernel_rfl)) k3 bel lt3) (trodAll_cons_mk (Below.trod laidOut (by kernel_rfl) (of_decide_eq_true (by kernel_rfl)) k4 bel lt4) trodAll_mk0))))), rfl, bel.frame _, fun h => by cases h⟩

theorem over : Rows.bitsBackRow.holds Try.pinned (OpenSpec.ofChange Rows.bitsBackSpec) :=
  OpenClaim.holds_of_wide 6 Try.f6 rfl rfl rfl rfl rfl rfl rfl ⟨rfl, rfl, rfl, rfl, rfl⟩ rfl rfl rfl rfl rfl (by kernel_rfl) Try.func6 (by kernel_rfl)
    (of_decide_eq_true (by kernel_rfl)) (by unfold Func.isWrapper; first | (rw [if_pos (by decide +kernel)]; kernel_rfl) | (rw [if_neg (by decide +kernel)]; exact ⟨rfl, rfl⟩))
    (fun os started H enc _ => lifted os started H enc)

end Go.Proofs.Ytbcgjbohhaihcaa.bitsBack
namespace Go.Proofs.Ytbcgjbohhaihcaa
theorem bitsBack_holds : Rows.BitsBackSaid := bitsBack.over
end Go.Proofs.Ytbcgjbohhaihcaa
