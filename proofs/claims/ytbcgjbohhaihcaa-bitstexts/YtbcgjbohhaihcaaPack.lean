/- Contract of bits.Pack. -/
import Derived.Test.YtbcgjbohhaihcaaSmall
import Derived.Test.YtbcgjbohhaihcaaBitp
import Derived.Test.YtbcgjbohhaihcaaDig
namespace Go.Proofs.Ytbcgjbohhaihcaa
open Go.RowKit
set_option linter.unusedVariables false

def packL (l : List Nat) (w : Nat) : List Nat := leL (valP w l) ((l.length * w + 7) / 8)
/-- what Pack tells -/
def packS (l : List Nat) (x : Int) : List Nat := if 1 ≤ x ∧ x ≤ 24 then packL l x.toNat else []

set_option maxHeartbeats 1000000 in
theorem pack_any (va : Value) (l : List Nat) (x : Int) (w : World) (ha : Row .u32 4294967296 w va l) (hl : l.length ≤ 1000000) :
    Calls Try.prog 26 #[va, .int .i64 x] w fun e w' => ∃ v, e = .returned v ∧ Own 5 .u8 256 w' w.heap.size v (packS l x) ∧ Below w.heap.size w w' := by
  obtain ⟨a, ca, rfl, ha1, ha2, ha3, ha4⟩ := ha
  unfold maxLen at ha2
  by_cases hok : 1 ≤ x ∧ x ≤ 24
  case neg =>
    have hS : packS l x = [] := by unfold packS; rw [if_neg hok]
    rw [hS]; clear hS
    have hd : decide (1 ≤ x ∧ x ≤ 24) = false := decide_eq_false hok
    go_enter Try.func26, Try.ntmps26
    go_wp2_with (go_at_call 37; refine (isWidth_any _ _).mono ?_; rintro e w' ⟨rfl, rfl⟩)
    go_ret
    exact ⟨_, rfl, own_nil _ _ _ _ _, Below.refl _ _⟩
  case pos =>
    have hS : packS l x = packL l x.toNat := by unfold packS; rw [if_pos hok]
    rw [hS]; clear hS
    have hd : decide (1 ≤ x ∧ x ≤ 24) = true := decide_eq_true hok
    obtain ⟨hx1, hx2⟩ := hok
    obtain ⟨W, rfl⟩ := Int.eq_ofNat_of_zero_le (show 0 ≤ x by omega)
    rw [Int.toNat_natCast]
    have hW1 : 1 ≤ W := by omega
    have hW2 : W ≤ 24 := by omega
    have hlW : l.length * W ≤ 1000000 * 24 := Nat.mul_le_mul hl hW2
    have HLW := hide hlW
    clear hlW
    obtain ⟨i0, hi, hz0, hz1, hz2⟩ := info_parts Try.info5
    go_enter Try.func26, Try.ntmps26
    go_wp2_with fail
    refine (isWidth_any _ _).mono ?_
    rintro e w' ⟨rfl, hw'⟩
    rw [hw', hd]
    clear hw' hd
    go_wp2_with fail
    refine (packedSize_any l.length W _ hl hW2).mono ?_
    rintro e w'' ⟨rfl, hw'⟩
    rw [hw']
    clear hw'
    go_wp2_with fail
    refine (room8_any ((l.length * W + 7) / 8) _ (by have := HLW.out; omega)).mono ?_
    rintro e w1 ⟨v, rfl, ⟨ho, _⟩, hb⟩
    go_wp2
    go_loopw [5, 6, 7, 20] (fun v left have_ i wr => ∃ k o : Nat, k ≤ l.length ∧ 8 * o ≤ k * W ∧ k * W - 8 * o < 8 ∧ i = .int .i64 k ∧ have_ = .int .i64 ((k * W - 8 * o : Nat) : Int) ∧ left = .int .u32 ((valP W (l.take k) / 256 ^ o : Nat) : Int) ∧
        wr.ownsRow w.heap.size 5 1 v o (vals .u8 (leL (valP W (l.take k)) o)) ∧ Below w.heap.size w wr) (fun _ _ _ i _ => l.length - (intOf i).toNat)
    case atStart => exact ⟨0, 0, Nat.zero_le _, by omega, by omega, rfl, by simp, by simp [valP], ho, hb⟩
    case round =>
      obtain ⟨k, o, hk, hok, hh8, rfl, rfl, rfl, how, hbr⟩ := hrel
      clear ho hb
      by_cases hlt : k < l.length
      · have hq : (k + 1) * W ≤ l.length * W := Nat.mul_le_mul_right W (by omega)
        rw [Nat.add_mul, Nat.one_mul] at hq
        have hPl : k * W + W ≤ 24000000 := by have := HLW.out; omega
        clear hq
        have hVlt := valP_lt W (l.take k)
        rw [List.length_take_of_le hk] at hVlt
        have hsn := valP_snoc W (l.take k) (el l k)
        rw [← take_snoc hlt, List.length_take_of_le hk] at hsn
        generalize hP : k * W = P at *
        have HP := hide hP
        clear hP
        generalize hV : valP W (l.take k) = V at *
        have HV := hide hV
        have HSN := hide hsn
        have HVL := hide hVlt
        clear hV hsn hVlt
        have hLl := left_lt V P o hok HVL.out
        have hL31 := pow31 (P - 8 * o) (by omega)
        generalize hLq : V / 256 ^ o = L at *
        have HL := hide hLq
        have HLL := hide hLl
        clear hLq hLl
        obtain ⟨h, hh⟩ : ∃ h, P - 8 * o = h := ⟨_, rfl⟩
        have hh' : h < 8 := by omega
        rw [hh]
        have HH := hide hh
        clear hh
        have hLs : L < 4294967296 := by have := HLL.out; omega
        clear hL31
        obtain ⟨ba, oa, rfl, hca⟩ := ha3.below hbr (Nat.le_refl _) (by omega)
        have c1 := hca k hlt
        have hx := el_lt ha4 (by decide) k
        clear hca
        go_wp2_with fail
        refine (lowest_any _ W _ hx hW2).mono ?_
        rintro e w2 ⟨rfl, hw2⟩
        rw [hw2]
        clear hw2
        have hgl := group_lt (el l k) W h (by omega)
        generalize hX : el l k % 2 ^ W = X at *
        have HX := hide hX
        have HGL := hide hgl
        clear hX hgl
        go_wp2_with fail
        rw [step_or' L X h (by rw [← HH.out]; exact HLL.out) HGL.out hLs]
        have hV1 : valP W (l.take (k + 1)) = V + 2 ^ P * X := by rw [HSN.out]
        have hL1 : L + 2 ^ h * X = (V + 2 ^ P * X) / 256 ^ o := by rw [left_step V X P o hok, HL.out, HH.out]
        have hleL : leL V o = leL (V + 2 ^ P * X) o := (leL_high V X P o hok).symm
        rw [hleL] at how
        rw [hL1]
        have HV1 := hide hV1
        have hV1lt : valP W (l.take (k + 1)) < 2 ^ (P + W) := by
          have := valP_lt W (l.take (k + 1))
          rw [List.length_take_of_le (by omega), Nat.add_mul, Nat.one_mul, HP.out] at this
          exact this
        rw [hV1] at hV1lt
        have HV1L := hide hV1lt
        clear hV1 hL1 hleL hV1lt
        generalize hVV : V + 2 ^ P * X = V1 at *
        clear hVV HL HLL HV HSN HVL HGL HX
        generalize hLq : V1 / 256 ^ o = L1
        have HL1 := hide hLq
        clear hLq
        rw [show ((h : Int) + (W : Int)) = ((P + W - 8 * o : Nat) : Int) from by have := HH.out; omega]
        go_loopw [5, 6, 7] (fun v left have_ wr => ∃ o : Nat, 8 * o ≤ P + W ∧ P + W - 8 * o ≤ 31 ∧ have_ = .int .i64 ((P + W - 8 * o : Nat) : Int) ∧ left = .int .u32 ((V1 / 256 ^ o : Nat) : Int) ∧
          wr.ownsRow w.heap.size 5 1 v o (vals .u8 (leL V1 o)) ∧ Below w.heap.size w wr) (fun _ _ h _ => (intOf h).toNat)
        case atStart => exact ⟨o, by omega, by omega, rfl, by rw [HL1.out], how, hbr⟩
        case round =>
          clear how hbr hok hh8 c1 HH hLs HL1
          obtain ⟨o, hok, hh31, rfl, rfl, how, hbr⟩ := hrel
          have hsz := hbr.size
          have hLl := left_lt V1 (P + W) o hok HV1L.out
          have hL31 := pow31 (P + W - 8 * o) hh31
          have hLs : V1 / 256 ^ o < 4294967296 := by omega
          clear hLl hL31
          generalize hLq : V1 / 256 ^ o = L at *
          have HL := hide hLq
          clear hLq
          by_cases hlt2 : 8 ≤ P + W - 8 * o
          · go_wp2_with (first | (at_builtin; refine wpList_append_own _ rfl _ _ 23 rfl w.heap.size 5 i0 (.int .u8 0) 1 1 Try.underlying23 hi hz0 hz1 hz2 rfl (by decide) _ _ _ rfl (how.alloc _) ⟨wr.heap.size, 0, none⟩ 1 1 [.int .u8 ((L : Int) % 256)] rfl rfl (cells_new _ _ _) (one_new _ _) (by unfold maxLen; omega) (by omega) (by simp; omega) ?_; intro v' w3 how' hgrow _) | fail)
            have hb3 := below_append hbr hsz how _ hgrow
            clear how hgrow hbr
            go_roundw
            case rel =>
              refine ⟨o + 1, by omega, by omega, vint (by omega), vint ?_, ?_, hb3⟩
              · rw [left_byte, HL.out]; simp
              · rw [leL_snoc, vals_append, HL.out]; exact how'
            case measure => simp [intOf]; omega
          · go_wp2
            go_roundw
            case rel =>
              refine ⟨k + 1, o, by omega, ?_, ?_, by go_num, vint ?_, vint ?_, ?_, hbr⟩
              · rw [Nat.add_mul, Nat.one_mul, HP.out]; omega
              · rw [Nat.add_mul, Nat.one_mul, HP.out]; omega
              · rw [Nat.add_mul, Nat.one_mul, HP.out]
              · rw [HV1.out, HL.out]
              · rw [HV1.out]; exact how
            case measure => simp [intOf]; omega
      · have hkl : k = l.length := by omega
        subst hkl
        have hbd := HLW.out
        rw [List.take_of_length_le (Nat.le_refl _)] at how ⊢
        have hsz := hbr.size
        generalize hV : valP W l = V at *
        have HV := hide hV
        clear hV
        generalize hP : l.length * W = P at *
        have HP := hide hP
        clear hP HLW
        by_cases hz : 8 * o < P
        · have hz' : (0 : Int) < ((P - 8 * o : Nat) : Int) := by omega
          generalize hLq : V / 256 ^ o = L at *
          have HL := hide hLq
          clear hLq
          go_wp2_with (first | (at_builtin; refine wpList_append_own _ rfl _ _ 23 rfl w.heap.size 5 i0 (.int .u8 0) 1 1 Try.underlying23 hi hz0 hz1 hz2 rfl (by decide) _ _ _ rfl (how.alloc _) ⟨wr.heap.size, 0, none⟩ 1 1 [.int .u8 ((L : Int) % 256)] rfl rfl (cells_new _ _ _) (one_new _ _) (by unfold maxLen; omega) (by omega) (by simp; omega) ?_; intro v' w3 how' hgrow _) | fail)
          have hb3 := below_append hbr hsz how _ hgrow
          go_ret
          have e : packL l W = leL V (o + 1) := by unfold packL; rw [HV.out, HP.out]; congr 1; omega
          rw [e]
          refine ⟨_, rfl, ⟨?_, leL_under _ _⟩, hb3⟩
          rw [leL_length, leL_snoc, vals_append, HL.out]
          exact how'
        · have hz' : ¬ (0 : Int) < ((P - 8 * o : Nat) : Int) := by omega
          go_wp2
          go_ret
          have e : packL l W = leL V o := by unfold packL; rw [HV.out, HP.out]; congr 1; omega
          rw [e]
          exact ⟨_, rfl, ⟨by rw [leL_length]; exact how, leL_under _ _⟩, hbr⟩
end Go.Proofs.Ytbcgjbohhaihcaa
