/- For every number and every text: apostillelaw01.BitsRounds returns true, and each argument reads afterwards as it read before. No condition. -/
import Derived.Test.YtbcgjbohhaihcaaFrame
import Derived.Test.YtbcgjbohhaihcaaLawk
import Derived.WalkKit
import Derived.ProofKit
import Derived.OpenShut
import Derived.ShutString
import Derived.ChangeOld
import Derived.Below
namespace Go.Proofs.Ytbcgjbohhaihcaa.bitsRounds
open Go.ChangeShapes Go.WideShapes Go.ChangeAt Go.RowKit
open Go.ChangeMaps (open_string shut_string)
set_option linter.unusedVariables false

set_option maxHeartbeats 2000000 in
theorem walk (a0 : Int) (a1 : Option Addr) (len1 cap1 : Nat) (z1 : List Int) (w : World) (w0 : (Lit.int .u64 a0).wf = true) (w1 : IsRow .u8 w a1 len1 cap1 z1) :
    Calls Try.prog 7 #[.int .u64 a0, .slice a1 len1 cap1] w fun e w' => e = .returned (.bool true) ∧ Below w.heap.size w w' := by
  obtain ⟨n, rfl⟩ := Int.eq_ofNat_of_zero_le (wf_u64 _ w0).1
  have hn : n < 18446744073709551616 := by have := (wf_u64 _ w0).2; omega
  have tid : Tidy (.slice a1 len1 cap1) := w1.tidy
  obtain ⟨l, rfl, hrow⟩ := w1.row wf_u8
  clear w0 w1
  by_cases hb : (1000 : Int) < (l.length : Int)
  · go_enter Try.func7, Try.ntmps7
    go_wp2_with (go_at_call 8; refine (awake_any _).mono ?_; rintro e w' ⟨rfl, hb⟩)
    go_ret
    exact ⟨rfl, by assumption⟩
  have hl : l.length ≤ 1000 := by omega
  go_enter Try.func7, Try.ntmps7
  go_wp2_with fail
  refine (be_any n 8 _ hn (by decide) (by decide)).mono ?_
  rintro e w1 ⟨v1, rfl, r1, b1⟩
  rw [leS8] at r1
  go_wp2_with fail
  refine (le_any n 8 _ hn (by decide) (by decide)).mono ?_
  rintro e w2 ⟨v2, rfl, r2, b2⟩
  rw [leS8] at r2
  have t1 := r1.tidy
  have t2 := r2.tidy
  have r1 := r1.row.below b2
  have r2 := r2.row
  have b2 := keep_trans b1 b2
  clear b1
  obtain ⟨ax, cx, rfl, hx1, hx2, hx3⟩ := r1.opens (show ((leL n 8).reverse).length = 8 by rw [List.length_reverse, leL_length])
  obtain ⟨ay, cy, rfl, hy1, hy2, hy3⟩ := r2.opens (leL_length n 8)
  obtain ⟨bx, ox, rfl, hcx⟩ := hx3 (by decide)
  obtain ⟨by', oy, rfl, hcy⟩ := hy3 (by decide)
  clear hx3 hy3
  go_wp2
  go_loopw [27] (fun i wr => ∃ k q : Nat, k ≤ 8 ∧ i = .int .i64 k ∧ wr = w2.drewN q) (fun i _ => 8 - (intOf i).toNat)
  case atStart => exact ⟨0, 0, by decide, rfl, rfl⟩
  case round =>
    obtain ⟨k, q, hk, rfl, rfl⟩ := hrel
    by_cases hlt : k < 8
    · have c1 := hcx k hlt
      have c2 := hcy (7 - k) (by omega)
      have he : el (leL n 8).reverse k = el (leL n 8) (7 - k) := by rw [rev_el _ _ (by rw [leL_length]; exact hlt), leL_length]
      rw [he] at c1
      generalize hX : el (leL n 8) (7 - k) = X at *
      clear hX he hcx hcy
      go_wp2
      go_quiet (fail)
      go_wp2
      go_roundw
      case rel => exact ⟨k + 1, _, by omega, by go_num, rfl⟩
      case measure => simp [intOf]; omega
    · clear hcx hcy
      have b3 : Below w.heap.size w (w2.drewN q) := below_drewN b2 q
      have r1 := r1.drewN q
      have r2 := r2.drewN q
      generalize w2.drewN q = W at *
      clear b2
      go_wp2_with fail
      refine (dig_any _ l 4 _ _ (hrow.below b3) (by omega) (by omega) (by omega)).mono ?_
      rintro e w4 ⟨v4, rfl, r4, b4⟩
      have e4 : digS l 4 (2 * (l.length : Int)) = digL l 4 (2 * l.length) := by
        rw [show (2 * (l.length : Int)) = ((2 * l.length : Nat) : Int) from by simp]
        exact digS_nat l 4 (2 * l.length) (by decide) (by decide) (by omega)
      rw [e4] at r4
      clear e4
      have r1 := r1.below b4
      have r2 := r2.below b4
      have b4 := keep_trans b3 b4
      clear b3
      go_wp2_with fail
      refine (dig_any _ l 8 _ _ (hrow.below b4) (by omega) (by omega) (by omega)).mono ?_
      rintro e w5 ⟨v5, rfl, r5, b5⟩
      have e5 : digS l 8 (l.length : Int) = digL l 8 l.length := digS_nat l 8 l.length (by decide) (by decide) (by omega)
      rw [e5] at r5
      clear e5
      have r1 := r1.below b5
      have r2 := r2.below b5
      have r4 := r4.row.below b5
      have r5 := r5.row
      have b5 := keep_trans b4 b5
      clear b4
      obtain ⟨ao, co, rfl, ho1, ho2, ho3⟩ := r4.opens (digL_length l 4 (2 * l.length))
      obtain ⟨at', ct, rfl, ht1, ht2, ht3⟩ := r5.opens (digL_length l 8 l.length)
      clear r4 r5
      go_wp2
      go_loopw [65] (fun i wr => ∃ k q : Nat, k ≤ l.length ∧ i = .int .i64 k ∧ wr = w5.drewN q) (fun i _ => l.length - (intOf i).toNat)
      case atStart => exact ⟨0, 0, Nat.zero_le _, rfl, rfl⟩
      case round =>
        obtain ⟨k, q, hk, rfl, rfl⟩ := hrel
        by_cases hlt : k < l.length
        · obtain ⟨bo, oo, rfl, hco⟩ := ho3 (by omega)
          obtain ⟨bt, ot, rfl, hct⟩ := ht3 (by omega)
          have c1 := hct k hlt
          have c2 := hco (2 * k) (by omega)
          have c3 := hco (2 * k + 1) (by omega)
          rw [digL_el _ _ _ _ hlt, dig_two l k hlt] at c1
          rw [digL_el _ _ _ _ (by omega)] at c2 c3
          have hd0 := dig_lt l 4 (2 * k)
          have hd1 := dig_lt l 4 (2 * k + 1)
          generalize hX : dig l 4 (2 * k) = X at *
          generalize hY : dig l 4 (2 * k + 1) = Y at *
          have hX16 : X < 16 := hd0
          have hY16 : Y < 16 := hd1
          have hor : (((X * 16 + Y : Nat) : Int) != bits .or .u32 ((X : Int) * 16) (Y : Int)) = false := by rw [or_digits X Y hX16 hY16]; simp
          have ik0 : (0 : Int) ≤ (k : Int) := Int.natCast_nonneg _
          have ik1 : (k : Int) < (l.length : Int) := by omega
          generalize hZ : X * 16 + Y = Z at *
          clear hX hY hZ hco hct hd0 hd1 ho3 ht3
          go_wp2
          go_quiet (fail)
          go_wp2
          go_roundw
          case rel => exact ⟨k + 1, _, by omega, by go_num, rfl⟩
          case measure => simp [intOf]; omega
        · clear ho3 ht3
          have b6 : Below w.heap.size w (w5.drewN q) := below_drewN b5 q
          have r1 := r1.drewN q
          have r2 := r2.drewN q
          generalize w5.drewN q = W2 at *
          clear b5
          go_wp2_with fail
          refine (join_any _ _ _ (rows2_two W2 _ _ _ _ (hrow.below b6) r1 tid t1) (by simp [leL_length]; omega)).mono ?_
          rintro e w7 ⟨v7, rfl, r7, b7⟩
          have b7 := keep_trans (keep_alloc W2 _) b7
          have r2 := r2.below b7
          have b7 := keep_trans b6 b7
          clear b6 r1
          go_wp2_with fail
          refine (num_any _ _ _ r7.row).mono ?_
          rintro e w8 ⟨rfl, hw8⟩
          rw [hw8]
          clear hw8
          have e7 : numL [l, (leL n 8).reverse].flatten = n := by
            rw [show [l, (leL n 8).reverse].flatten = l ++ (leL n 8).reverse from by simp]; exact num_join n l hn
          rw [e7]
          clear e7 r7
          go_wp2_with fail
          refine (join_any _ _ _ (rows2_two w7 _ _ _ _ r2 (hrow.below b7) t2 tid) (by simp [leL_length]; omega)).mono ?_
          rintro e w9 ⟨v9, rfl, r9, b9⟩
          have b9 := keep_trans (keep_trans b7 (keep_alloc w7 _)) b9
          clear b7 r2
          go_wp2_with fail
          refine (numLe_any _ _ _ r9.row).mono ?_
          rintro e w10 ⟨rfl, hw10⟩
          rw [hw10]
          clear hw10
          have e9 : numL [leL n 8, l].flatten.reverse = n := by
            rw [show [leL n 8, l].flatten = leL n 8 ++ l from by simp]; exact num_joinLe n l hn
          rw [e9]
          clear e9 r9
          go_wp2_with fail
          refine (awake_any _).mono ?_
          rintro e w11 ⟨rfl, b11⟩
          have b11 := keep_trans b9 b11
          go_wp2
          go_ret
          exact ⟨rfl, b11⟩

set_option maxRecDepth 100000 in
theorem lifted (os : Os) (started : os.Started) (H : Type) (enc : TypeId × Value → H) :
    ReturnsInHanded {} Try.checked os 7 .any (Rows.bitsRoundsSpec.pre6 enc Try.prog Try.f7 Rows.bitsRoundsRow.domain false) (Rows.bitsRoundsSpec.post enc Try.prog Try.f7 false true false false) := by
  refine returnsInHanded_of_change (C := Try.checked) own started (by kernel_rfl) Try.func7
    (ChangeSpec.witness6 (enc := enc) (C := Try.checked) false ⟨#[], #[.int .u64 0, .slice none 0 0], []⟩ 8 (by kernel_rfl) (by kernel_rfl) (by kernel_rfl) (by kernel_rfl)) ?_
  intro W base args ds gs before hval0 hW hcnd _
  have hval : ∀ (j : Nat) t v, Try.f7.params[j]? = some t → args[j]? = some v → Value.okWide Try.prog W .any base t v := hval0
  have hW' := hW
  obtain ⟨p, q, hA0, hV, rfl, hfz, hnd⟩ := hW
  have hA : DataW.TrodAll enc Try.prog W 0 (fun _ => true) true Try.f7.params.toList args.toList ds p := hA0
  rw [Try.params7] at hA hval
  obtain ⟨v0, vs0, d0, ds0, p0, q0, hargs, rfl, rfl, h0, r0⟩ := trodAll_cons hA
  obtain ⟨v1, vs1, d1, ds1, p1, q1, rfl, rfl, rfl, h1, r1⟩ := trodAll_cons r0
  obtain ⟨rfl, rfl, rfl⟩ := trodAll_nil r1
  obtain rfl : args = #[v0, v1] := by cases args; simp_all
  obtain ⟨rfl, rfl⟩ := trodVars_none hV
  obtain ⟨a0, rfl, rfl, rfl, w0⟩ := open_int Try.underlying22 (hval 0 22 v0 rfl rfl) h0
  obtain ⟨a1, len1, cap1, rfl⟩ := okWide_slice Try.underlying23 (hval 1 23 v1 rfl rfl)
  have k1 := h1
  have lt1 : ∀ x ∈ p1, x.block < W.heap.size := by obtain ⟨m, hm⟩ := k1; exact DataW.trod_lt m _ _ _ hm
  obtain ⟨z1, w1⟩ : ∃ zs, IsRow .u8 W a1 len1 cap1 zs := by
    obtain ⟨fuel, hf⟩ := h1
    rcases open_ints Try.underlying23 Try.underlying5 (by kernel_rfl) hf with ⟨hcs, _⟩ | ⟨x, l, c, zs, hcs, _, hl, hm, hz, _, hcell, hwz⟩
    · simp [Value.cells] at hcs
      obtain ⟨rfl, rfl, rfl⟩ := hcs
      exact ⟨[], .inl ⟨rfl, rfl, rfl, rfl⟩⟩
    · simp [Value.cells] at hcs
      obtain ⟨rfl, rfl, rfl⟩ := hcs
      exact ⟨zs, .inr ⟨_, rfl, hl, hm, by simpa using hz, hcell, hwz⟩⟩
  clear hA0 hval0
  refine (walk a0 a1 len1 cap1 z1 W w0 w1).mono fun e W' ⟨he, bel⟩ => ?_
  subst he
  exact ⟨_, rfl, _, _, _, [], _, [], hW', trodAll_mk1 (shut_bool Try.underlying4 _), (trodAll_cons_mk (shut_int Try.underlying22 w0) (trodAll_cons_mk (Below.trod laidOut (by kernel_rfl) (of_decide_eq_true (by kernel_rfl)) k1 bel lt1) trodAll_mk0)), rfl, bel.frame _, fun h => by cases h⟩

theorem over : Rows.bitsRoundsRow.holds Try.pinned (OpenSpec.ofChange Rows.bitsRoundsSpec) :=
  OpenClaim.holds_of_wide 7 Try.f7 rfl rfl rfl rfl rfl rfl rfl ⟨rfl, rfl, rfl, rfl, rfl⟩ rfl rfl rfl rfl rfl (by kernel_rfl) Try.func7 (by kernel_rfl)
    (of_decide_eq_true (by kernel_rfl)) (by unfold Func.isWrapper; first | (rw [if_pos (by decide +kernel)]; kernel_rfl) | (rw [if_neg (by decide +kernel)]; exact ⟨rfl, rfl⟩))
    (fun os started H enc _ => lifted os started H enc)

end Go.Proofs.Ytbcgjbohhaihcaa.bitsRounds
namespace Go.Proofs.Ytbcgjbohhaihcaa
theorem bitsRounds_holds : Rows.BitsRoundsSaid := bitsRounds.over
end Go.Proofs.Ytbcgjbohhaihcaa
