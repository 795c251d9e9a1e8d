/- Contract of bits.Digits. -/
import Derived.Test.YtpmobjfhhkglbaaSmall
namespace Go.Proofs.Ytpmobjfhhkglbaa
open Go.RowKit
set_option linter.unusedVariables false

/-- what Digits tells -/
def digS (l : List Nat) (x c : Int) : List Nat := if okB l.length x c = true then digL l x.toNat c.toNat else []

theorem dig_nil (e : TypeId) (k : IntKind) (m : Nat) (w : World) (B : Nat) : Own e k m w B (.slice none 0 0) [] := ⟨World.ownsRow_nil _ _ _ _, fun x hx => by simp at hx⟩

theorem step_left (V x : Nat) (hx : x < 256) : bits .or .u32 (IntKind.u32.wrap ((V % 2 ^ 32 : Nat) * 256 : Int)) (x : Int) = (((V * 256 + x) % 2 ^ 32 : Nat) : Int) := by
  have e : IntKind.u32.wrap (((V % 2 ^ 32 : Nat) : Int) * 256) = ((V % 2 ^ 32 * 256 % 4294967296 : Nat) : Int) := by
    rw [IntKind.wrap_u32']; omega
  rw [e, u32_or_nat _ _ (Nat.mod_lt _ (by decide)) (by omega), nat_join 8 _ _ (by omega) (by omega)]
  congr 1
  omega

set_option maxHeartbeats 1000000 in
set_option maxRecDepth 100000 in
theorem dig_any (va : Value) (l : List Nat) (x c : Int) (w : World) (ha : Row .u8 256 w va l) (hl : l.length ≤ 1000000)
    (hc0 : -9223372036854775808 ≤ c) (hc1 : c ≤ 9223372036854775807) :
    Calls Try.prog 8 #[va, .int .i64 x, .int .i64 c] w fun e w' => ∃ v, e = .returned v ∧ Own 26 .u32 4294967296 w' w.heap.size v (digS l x c) ∧ Below w.heap.size w w' := by
  have ha' := ha
  obtain ⟨a, ca, rfl, ha1, ha2, ha3, ha4⟩ := ha
  unfold maxLen at ha2
  cases hok : okB l.length x c with
  | false =>
    have hS : digS l x c = [] := by unfold digS; rw [if_neg (by rw [hok]; decide)]
    rw [hS]; clear hS
    go_enter Try.func8, Try.ntmps8
    go_wp2_with (go_at_call 13; refine (holds_any _ l x c _ ha' (by omega) hc0 hc1).mono ?_; rintro e w' ⟨rfl, rfl⟩)
    go_ret
    exact ⟨_, rfl, dig_nil _ _ _ _ _, Below.refl _ _⟩
  | true =>
    have hS : digS l x c = digL l x.toNat c.toNat := by unfold digS; rw [if_pos hok]
    rw [hS]; clear hS
    obtain ⟨W, C, rfl, rfl, hW1, hW2, hCW⟩ := okB_of hok
    rw [Int.toNat_natCast, Int.toNat_natCast]
    have hC : C ≤ 8000000 := by
      have : C * 1 ≤ C * W := Nat.mul_le_mul_left C hW1
      omega
    obtain ⟨i0, hi, hz0, hz1, hz2⟩ := info_parts Try.info26
    go_enter Try.func8, Try.ntmps8
    go_wp2_with fail
    refine (holds_any _ l W C _ ha' (by omega) hc0 hc1).mono ?_
    rintro e w' ⟨rfl, rfl⟩
    rw [hok]
    clear hok
    go_wp2_with fail
    refine (room32_any C _ (by omega)).mono ?_
    rintro e w1 ⟨v, rfl, ⟨ho, _⟩, hb⟩
    go_wp2
    go_loopw [7, 8, 9, 10, 19] (fun v left have_ at_ i wr => ∃ k t : Nat, k ≤ C ∧ t ≤ l.length ∧ k * W ≤ 8 * t ∧ 8 * t - k * W < 8 ∧ i = .int .i64 k ∧ at_ = .int .i64 t ∧ have_ = .int .i64 ((8 * t - k * W : Nat) : Int) ∧ left = .int .u32 ((valBe (l.take t) % 2 ^ 32 : Nat) : Int) ∧
        wr.ownsRow w'.heap.size 26 1 v k (vals .u32 (digL l W k)) ∧ Below w'.heap.size w' wr) (fun _ _ _ _ i _ => C - (intOf i).toNat)
    case atStart => exact ⟨0, 0, Nat.zero_le _, Nat.zero_le _, by omega, by omega, rfl, rfl, by simp, rfl, ho, hb⟩
    case round =>
      obtain ⟨k, t, hk, ht, hkt, hh8, rfl, rfl, rfl, rfl, how, hbr⟩ := hrel
      clear ho hb
      by_cases hlt : k < C
      · have hq : (k + 1) * W ≤ C * W := Nat.mul_le_mul_right W (by omega)
        rw [Nat.add_mul, Nat.one_mul] at hq
        have hPl : k * W + W ≤ 8 * l.length := by omega
        clear hq hCW
        generalize hP : k * W = P at *
        have HP := hide hP
        clear hP
        have hc0' := ha3.below hbr (Nat.le_refl _)
        go_wp2
        go_loop [8, 9, 10] (fun left have_ at_ => ∃ t : Nat, t ≤ l.length ∧ P ≤ 8 * t ∧ 8 * t - P < W + 8 ∧ at_ = .int .i64 t ∧ have_ = .int .i64 ((8 * t - P : Nat) : Int) ∧ left = .int .u32 ((valBe (l.take t) % 2 ^ 32 : Nat) : Int)) (fun _ h _ => (24 - intOf h).toNat)
        case atStart => exact ⟨t, ht, hkt, by omega, rfl, rfl, rfl⟩
        case round =>
          clear ht hkt hh8
          obtain ⟨t, ht, hkt, hh8, rfl, rfl, rfl⟩ := hrel
          by_cases hlt2 : 8 * t - P < W
          · have htl : t < l.length := by omega
            obtain ⟨ba, oa, rfl, hca⟩ := hc0' (by omega)
            have c1 := hca t htl
            have hx := el_lt ha4 (by decide) t
            clear hca
            have hL : valBe (l.take t) % 2 ^ 32 < 4294967296 := Nat.mod_lt _ (by decide)
            generalize hV : valBe (l.take t) % 2 ^ 32 = L at *
            have HV := hide hV
            clear hV
            go_wp2
            go_round
            case rel => exact ⟨t + 1, by omega, by omega, by omega, by go_num, vint (by omega), vint (by rw [take_snoc htl, valBe_snoc, ← step_left _ _ hx, HV.out, IntKind.wrap_u32'])⟩
            case measure => simp [intOf]; omega
          · have hL : valBe (l.take t) % 2 ^ 32 < 4294967296 := Nat.mod_lt _ (by decide)
            generalize hV : valBe (l.take t) % 2 ^ 32 = L at *
            have HV := hide hV
            clear hV
            obtain ⟨h, hh⟩ : ∃ h, 8 * t - P = h + W := ⟨8 * t - P - W, by omega⟩
            have hh' : h < 8 := by omega
            have hd : L / 2 ^ h < 4294967296 := Nat.lt_of_le_of_lt (Nat.div_le_self _ _) hL
            rw [hh]
            have HH := hide hh
            clear hh
            go_wp2_with fail
            rw [show ((L : Int) / 2 ^ h) = ((L / 2 ^ h : Nat) : Int) from by simp]
            refine (lowest_any _ W _ hd hW2).mono ?_
            rintro e w2 ⟨rfl, hw2⟩
            rw [hw2]
            clear hw2
            have hD : L / 2 ^ h % 2 ^ W = dig l W k := by
              have e1 := dig_read l ha4 W k t ht (by rw [Nat.add_mul, Nat.one_mul, HP.out]; have := HH.out; omega) (by rw [Nat.add_mul, Nat.one_mul, HP.out]; have := HH.out; omega)
              rw [← e1, HV.out, Nat.add_mul, Nat.one_mul, HP.out]
              congr 3
              have := HH.out; omega
            rw [hD]
            clear hD
            have hsz := hbr.size
            go_wp2_with (first | (at_builtin; refine wpList_append_own _ rfl _ _ 23 rfl w'.heap.size 26 i0 (.int .u32 0) 1 4 Try.underlying23 hi hz0 hz1 hz2 rfl (by decide) _ _ _ rfl (how.alloc _) ⟨wr.heap.size, 0, none⟩ 1 1 [.int .u32 (dig l W k)] rfl rfl (cells_new _ _ _) (one_new _ _) (by unfold maxLen; omega) (by omega) (by simp; omega) ?_; intro v' w3 how' hgrow _) | fail)
            have hb3 := below_append hbr hsz how _ hgrow
            clear how hgrow hbr
            go_roundw
            case rel =>
              refine ⟨k + 1, t, by omega, ht, ?_, ?_, by go_num, rfl, vint ?_, vint ?_, ?_, hb3⟩
              · rw [Nat.add_mul, Nat.one_mul, HP.out]; have := HH.out; omega
              · rw [Nat.add_mul, Nat.one_mul, HP.out]; have := HH.out; omega
              · rw [Nat.add_mul, Nat.one_mul, HP.out]; have := HH.out; omega
              · rw [HV.out]
              · rw [digL_succ, vals_append]; exact how'
            case measure => simp [intOf]; omega
      · go_wp2
        go_ret
        have e : k = C := by omega
        subst e
        exact ⟨_, rfl, ⟨by rw [digL_length]; exact how, digL_under _ _ _ hW2⟩, hbr⟩
end Go.Proofs.Ytpmobjfhhkglbaa
