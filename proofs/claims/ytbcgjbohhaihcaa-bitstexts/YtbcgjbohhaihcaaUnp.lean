/- Contract of bits.Unpack. -/
import Derived.Test.YtbcgjbohhaihcaaDig
import Derived.Test.YtbcgjbohhaihcaaBitu
namespace Go.Proofs.Ytbcgjbohhaihcaa
open Go.RowKit
set_option linter.unusedVariables false

/-- what Unpack tells -/
def unpS (l : List Nat) (x c : Int) : List Nat := if okB l.length x c = true then unpL l x.toNat c.toNat else []

set_option maxHeartbeats 1000000 in
theorem unp_any (va : Value) (l : List Nat) (x c : Int) (w : World) (ha : Row .u8 256 w va l) (hl : l.length ≤ 1000000)
    (hc0 : -9223372036854775808 ≤ c) (hc1 : c ≤ 9223372036854775807) :
    Calls Try.prog 28 #[va, .int .i64 x, .int .i64 c] w fun e w' => ∃ v, e = .returned v ∧ Own 39 .u32 4294967296 w' w.heap.size v (unpS l x c) ∧ Below w.heap.size w w' := by
  have ha' := ha
  obtain ⟨a, ca, rfl, ha1, ha2, ha3, ha4⟩ := ha
  unfold maxLen at ha2
  cases hok : okB l.length x c with
  | false =>
    have hS : unpS l x c = [] := by unfold unpS; rw [if_neg (by rw [hok]; decide)]
    rw [hS]; clear hS
    go_enter Try.func28, Try.ntmps28
    go_wp2_with (go_at_call 33; refine (holds_any _ l x c _ ha' (by omega) hc0 hc1).mono ?_; rintro e w' ⟨rfl, rfl⟩)
    go_ret
    exact ⟨_, rfl, own_nil _ _ _ _ _, Below.refl _ _⟩
  | true =>
    have hS : unpS l x c = unpL l x.toNat c.toNat := by unfold unpS; rw [if_pos hok]
    rw [hS]; clear hS
    obtain ⟨W, C, rfl, rfl, hW1, hW2, hCW⟩ := okB_of hok
    rw [Int.toNat_natCast, Int.toNat_natCast]
    have hC : C ≤ 8000000 := by
      have : C * 1 ≤ C * W := Nat.mul_le_mul_left C hW1
      omega
    obtain ⟨i0, hi, hz0, hz1, hz2⟩ := info_parts Try.info39
    go_enter Try.func28, Try.ntmps28
    go_wp2_with fail
    refine (holds_any _ l W C _ ha' (by omega) hc0 hc1).mono ?_
    rintro e w' ⟨rfl, rfl⟩
    rw [hok]
    clear hok
    go_wp2_with fail
    refine (room32_any C _ (by omega)).mono ?_
    rintro e w1 ⟨v, rfl, ⟨ho, _⟩, hb⟩
    go_wp2
    go_loopw [7, 8, 9, 10, 19] (fun v left have_ at_ i wr => ∃ k t : Nat, k ≤ C ∧ t ≤ l.length ∧ k * W ≤ 8 * t ∧ 8 * t - k * W < 8 ∧ i = .int .i64 k ∧ at_ = .int .i64 t ∧ have_ = .int .i64 ((8 * t - k * W : Nat) : Int) ∧ left = .int .u32 ((valLe (l.take t) / 2 ^ (k * W) : Nat) : Int) ∧
        wr.ownsRow w'.heap.size 39 1 v k (vals .u32 (unpL l W k)) ∧ Below w'.heap.size w' wr) (fun _ _ _ _ i _ => C - (intOf i).toNat)
    case atStart => exact ⟨0, 0, Nat.zero_le _, Nat.zero_le _, by omega, by omega, rfl, rfl, by simp, by simp [valLe], ho, hb⟩
    case round =>
      obtain ⟨k, t, hk, ht, hkt, hh8, rfl, rfl, rfl, rfl, how, hbr⟩ := hrel
      clear ho hb
      by_cases hlt : k < C
      · have hq : (k + 1) * W ≤ C * W := Nat.mul_le_mul_right W (by omega)
        rw [Nat.add_mul, Nat.one_mul] at hq
        have hPl : k * W + W ≤ 8 * l.length := by omega
        clear hq hCW
        generalize hP : k * W = P at *
        have HP := hide hP
        clear hP
        have hc0' := ha3.below hbr (Nat.le_refl _)
        have hLt0 : valLe (l.take t) < 2 ^ (8 * t) := valLe_take_lt l ha4 t ht
        generalize hLq : valLe (l.take t) / 2 ^ P = L0
        have HL0 := hide hLq
        clear hLq hLt0
        go_wp2
        go_loop [8, 9, 10] (fun left have_ at_ => ∃ t : Nat, t ≤ l.length ∧ P ≤ 8 * t ∧ 8 * t - P < W + 8 ∧ at_ = .int .i64 t ∧ have_ = .int .i64 ((8 * t - P : Nat) : Int) ∧ left = .int .u32 ((valLe (l.take t) / 2 ^ P : Nat) : Int)) (fun _ h _ => (24 - intOf h).toNat)
        case atStart => exact ⟨t, ht, hkt, by omega, rfl, rfl, by rw [HL0.out]⟩
        case round =>
          clear ht hkt hh8 HL0
          obtain ⟨t, ht, hkt, hh8, rfl, rfl, rfl⟩ := hrel
          have hLl : valLe (l.take t) / 2 ^ P < 2 ^ (8 * t - P) := div_lt_pow _ P (8 * t - P) (by rw [show P + (8 * t - P) = 8 * t by omega]; exact valLe_take_lt l ha4 t ht)
          have hL31 := pow31 (8 * t - P) (by omega)
          have hLs : valLe (l.take t) / 2 ^ P < 4294967296 := by omega
          have HLL := hide hLl
          clear hLl hL31
          by_cases hlt2 : 8 * t - P < W
          · have htl : t < l.length := by omega
            have hsn := valLe_snoc l t htl
            have HSN := hide hsn
            clear hsn
            obtain ⟨ba, oa, rfl, hca⟩ := hc0' (by omega)
            have c1 := hca t htl
            have hx := el_lt ha4 (by decide) t
            clear hca
            generalize hLq : valLe (l.take t) / 2 ^ P = L at *
            have HL := hide hLq
            clear hLq
            obtain ⟨h, hh⟩ : ∃ h, 8 * t - P = h := ⟨_, rfl⟩
            have hh' : h ≤ 23 := by omega
            have hlt3 : h < W := by omega
            rw [hh]
            have HH := hide hh
            clear hh
            go_wp2
            go_round
            case rel =>
              refine ⟨t + 1, by omega, by omega, ?_, by go_num, vint ?_, vint ?_⟩
              · have := HH.out; omega
              · have := HH.out; omega
              · have hg : 2 ^ h * el l t < 4294967296 := by
                  have h1 : 2 ^ h ≤ 2 ^ 23 := Nat.pow_le_pow_right (by decide) hh'
                  have h2 : (2 : Nat) ^ 23 = 8388608 := by decide
                  have h3 : 2 ^ h * el l t ≤ 8388608 * 255 := Nat.mul_le_mul (by omega) (by omega)
                  omega
                rw [step_or' L _ h (by rw [← HH.out]; exact HLL.out) hg hLs, HSN.out, add_high_div _ _ _ _ (by omega), HL.out, HH.out]
            case measure => simp [intOf]; have := HH.out; omega
          · have hrd := unp_read l W k t ht (by rw [HP.out]; omega)
            rw [HP.out] at hrd
            have hdd := div_div_pow (valLe (l.take t)) P W
            generalize hLq : valLe (l.take t) / 2 ^ P = L at *
            have HL := hide hLq
            have HRD := hide hrd
            have HDD := hide hdd
            clear hLq hrd hdd
            obtain ⟨h, hh⟩ : ∃ h, 8 * t - P = h + W := ⟨8 * t - P - W, by omega⟩
            have hh' : h < 8 := by omega
            rw [hh]
            have HH := hide hh
            clear hh
            go_wp2_with fail
            refine (lowest_any _ W _ hLs hW2).mono ?_
            rintro e w2 ⟨rfl, hw2⟩
            rw [hw2, HRD.out]
            clear hw2
            have hsz := hbr.size
            generalize hD : unp l W k = D at *
            have HD := hide hD
            clear hD
            go_wp2_with (first | (at_builtin; refine wpList_append_own _ rfl _ _ 34 rfl w'.heap.size 39 i0 (.int .u32 0) 1 4 Try.underlying34 hi hz0 hz1 hz2 rfl (by decide) _ _ _ rfl (how.alloc _) ⟨wr.heap.size, 0, none⟩ 1 1 [.int .u32 D] rfl rfl (cells_new _ _ _) (one_new _ _) (by unfold maxLen; omega) (by omega) (by simp; omega) ?_; intro v' w3 how' hgrow _) | fail)
            have hb3 := below_append hbr hsz how _ hgrow
            clear how hgrow hbr
            go_roundw
            case rel =>
              refine ⟨k + 1, t, by omega, ht, ?_, ?_, by go_num, rfl, vint ?_, vint ?_, ?_, hb3⟩
              · rw [Nat.add_mul, Nat.one_mul, HP.out]; have := HH.out; omega
              · rw [Nat.add_mul, Nat.one_mul, HP.out]; have := HH.out; omega
              · rw [Nat.add_mul, Nat.one_mul, HP.out]; have := HH.out; omega
              · rw [Nat.add_mul, Nat.one_mul, HP.out, ← HDD.out]; simp
              · rw [unpL_succ, vals_append, HD.out]; exact how'
            case measure => simp [intOf]; omega
      · go_wp2
        go_ret
        have e : k = C := by omega
        subst e
        exact ⟨_, rfl, ⟨by rw [unpL_length]; exact how, unpL_under _ _ _ hW2⟩, hbr⟩
end Go.Proofs.Ytbcgjbohhaihcaa
