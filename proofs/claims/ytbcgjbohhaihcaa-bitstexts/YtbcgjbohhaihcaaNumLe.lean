/- Contracts of bits.NumLe. -/
import Derived.Test.YtbcgjbohhaihcaaNum
namespace Go.Proofs.Ytbcgjbohhaihcaa
open Go.RowKit
set_option linter.unusedVariables false

/-- the number of bytes, the lowest first (unbounded) -/
def valLe : List Nat → Nat
  | [] => 0
  | x :: r => x + 256 * valLe r

theorem valLe_append (a b : List Nat) : valLe (a ++ b) = valLe a + 256 ^ a.length * valLe b := by
  induction a with
  | nil => simp [valLe]
  | cons x r ih => simp only [List.cons_append, valLe, ih, List.length_cons, Nat.pow_succ]; rw [Nat.mul_add]; rw [show 256 ^ r.length * 256 * valLe b = 256 * (256 ^ r.length * valLe b) from by rw [Nat.mul_comm (256 ^ r.length) 256, Nat.mul_assoc]]; omega

theorem valLe_lt (a : List Nat) (h : Under 256 a) : valLe a < 256 ^ a.length := by
  induction a with
  | nil => simp [valLe]
  | cons x r ih =>
    have hx := h x (by simp)
    have := ih (fun y hy => h y (by simp [hy]))
    simp only [valLe, List.length_cons, Nat.pow_succ]
    omega

theorem numL_rev (l : List Nat) : numL l.reverse = valLe l % 18446744073709551616 := by
  induction l with
  | nil => rfl
  | cons x r ih => rw [List.reverse_cons, numL_snoc, ih]; simp only [valLe]; omega

theorem Under.take {m : Nat} {l : List Nat} (h : Under m l) (k : Nat) : Under m (l.take k) := fun x hx => h x (List.mem_of_mem_take hx)
theorem Under.drop {m : Nat} {l : List Nat} (h : Under m l) (k : Nat) : Under m (l.drop k) := fun x hx => h x (List.mem_of_mem_drop hx)

/-- a number's lowest eight bytes tell it modulo 2^64 -/
theorem valLe_min (l : List Nat) : valLe (l.take (min l.length 8)) % 18446744073709551616 = valLe l % 18446744073709551616 := by
  by_cases h : l.length ≤ 8
  · rw [List.take_of_length_le (by omega)]
  · have e := valLe_append (l.take 8) (l.drop 8)
    rw [List.take_append_drop] at e
    have hl : (l.take 8).length = 8 := by simp; omega
    rw [hl] at e
    rw [show min l.length 8 = 8 by omega, e]
    omega

theorem step_numLe (N x k : Nat) (hk : k < 8) (hN : N < 256 ^ k) (hx : x < 256) :
    bits .or .u64 (N : Int) (IntKind.u64.wrap ((x : Int) * 2 ^ (8 * k))) = ((N + 256 ^ k * x : Nat) : Int) := by
  have e2 : (256 : Nat) ^ k = 2 ^ (8 * k) := by rw [Nat.pow_mul]
  have hb : 256 ^ k * x < 18446744073709551616 := by
    have h1 : 256 ^ k * x < 256 ^ k * 256 := Nat.mul_lt_mul_of_pos_left hx (Nat.pow_pos (by decide))
    have h2 : 256 ^ k * 256 = 256 ^ (k + 1) := by rw [Nat.pow_succ]
    have h3 : 256 ^ (k + 1) ≤ 256 ^ 8 := Nat.pow_le_pow_right (by decide) (by omega)
    have h4 : (256 : Nat) ^ 8 = 18446744073709551616 := by decide
    omega
  have hN' : N < 18446744073709551616 := by
    have h3 : 256 ^ k ≤ 256 ^ 8 := Nat.pow_le_pow_right (by decide) (by omega)
    have h4 : (256 : Nat) ^ 8 = 18446744073709551616 := by decide
    omega
  have e : IntKind.u64.wrap ((x : Int) * 2 ^ (8 * k)) = ((256 ^ k * x : Nat) : Int) := by
    have e3 : ((x : Int) * 2 ^ (8 * k)) = ((256 ^ k * x : Nat) : Int) := by
      rw [e2, Int.natCast_mul, Int.mul_comm, Int.natCast_pow]; rfl
    rw [e3, IntKind.wrap_u64]; omega
  rw [e, u64_or_nat _ _ hN' hb, Nat.or_comm, nat_join (8 * k) _ _ (by rw [← e2]; exact Nat.mul_mod_right _ _) (by rw [← e2]; exact hN), Nat.add_comm]

theorem valLe_lt8 (a : List Nat) (h : Under 256 a) (h8 : a.length ≤ 8) : valLe a < 18446744073709551616 := by
  have h1 := valLe_lt a h
  have h3 : 256 ^ a.length ≤ 256 ^ 8 := Nat.pow_le_pow_right (by decide) h8
  have h4 : (256 : Nat) ^ 8 = 18446744073709551616 := by decide
  omega

set_option maxHeartbeats 400000 in
theorem numLe_any (va : Value) (l : List Nat) (w : World) (ha : Row .u8 256 w va l) :
    Calls Try.prog 16 #[va] w fun e w' => e = .returned (.int .u64 (numL l.reverse)) ∧ w' = w := by
  obtain ⟨a, ca, rfl, ha1, ha2, ha3, ha4⟩ := ha
  unfold maxLen at ha2
  by_cases h8 : (8 : Int) < (l.length : Int)
  all_goals
    go_enter Try.func16, Try.ntmps16
    go_wp2
    go_loop [3, 8] (fun n i => ∃ k : Nat, k ≤ l.length ∧ k ≤ 8 ∧ i = .int .i64 k ∧ n = .int .u64 (valLe (l.take k))) (fun _ i => 8 - (intOf i).toNat)
    case atStart => exact ⟨0, Nat.zero_le _, by omega, rfl, rfl⟩
    case round =>
      obtain ⟨k, hk, hk8, rfl, rfl⟩ := hrel
      by_cases hlt : k < l.length ∧ k < 8
      · obtain ⟨hlt, hlt8⟩ := hlt
        have hn := valLe_lt (l.take k) (ha4.take k)
        rw [List.length_take_of_le hk] at hn
        have HNN : Hid (valLe (l.take k) < 256 ^ k) := hn
        clear hn
        obtain ⟨ba, oa, rfl, hca⟩ := ha3 (by omega)
        have c1 := hca k hlt
        have hx := el_lt ha4 (by decide) k
        clear hca
        generalize hN : valLe (l.take k) = N at *
        have HN : Hid (valLe (l.take k) = N) := hN
        clear hN
        go_wp2
        go_round
        case rel => exact ⟨k + 1, by omega, by omega, by go_num, vint (by
          rw [take_snoc hlt, valLe_append, List.length_take_of_le hk, HN.out]
          simp only [valLe, Nat.mul_zero, Nat.add_zero]
          exact step_numLe N _ k hlt8 HNN.out hx)⟩
        case measure => simp [intOf]; omega
      · go_wp2
        go_ret
        exact ⟨ret_int (by rw [numL_rev, ← valLe_min, show min l.length 8 = k by omega, Nat.mod_eq_of_lt (valLe_lt8 _ (ha4.take k) (by simp; omega))]), rfl⟩
end Go.Proofs.Ytbcgjbohhaihcaa
