/- Contract of bits.Same. -/
import Derived.Test.YtbcgjbohhaihcaaSame
namespace Go.Proofs.Ytbcgjbohhaihcaa
open Go.RowKit
set_option linter.unusedVariables false

theorem xor_zero (x y : Nat) : x ^^^ y = 0 ↔ x = y := by
  constructor
  · intro h
    have h1 : x ^^^ y ^^^ y = 0 ^^^ y := by rw [h]
    rw [Nat.xor_assoc, Nat.xor_self, Nat.xor_zero, Nat.zero_xor] at h1
    exact h1
  · rintro rfl; exact Nat.xor_self _
theorem or_zero (x y : Nat) : x ||| y = 0 ↔ x = 0 ∧ y = 0 := by
  constructor
  · intro h
    have h1 : x ≤ x ||| y := Nat.left_le_or
    have h2 : y ≤ x ||| y := Nat.right_le_or
    omega
  · rintro ⟨rfl, rfl⟩; rfl

theorem step_differ (d x y : Nat) (hd : d < 256) (hx : x < 256) (hy : y < 256) : bits .or .u8 (d : Int) (bits .xor .u8 (x : Int) (y : Int)) = ((d ||| (x ^^^ y) : Nat) : Int) := by
  rw [u8_xor_nat x y hx hy, u8_or_nat d _ hd (Nat.xor_lt_two_pow (n := 8) hx hy)]

set_option maxHeartbeats 400000 in
theorem bsame_any (va vb : Value) (l m : List Nat) (w : World) (ha : Row .u8 256 w va l) (hb : Row .u8 256 w vb m) :
    Calls Try.prog 20 #[va, vb] w fun e w' => e = .returned (.bool (decide (l = m))) ∧ Below w.heap.size w w' := by
  obtain ⟨a, ca, rfl, ha1, ha2, ha3, ha4⟩ := ha
  obtain ⟨b, cb, rfl, hb1, hb2, hb3, hb4⟩ := hb
  unfold maxLen at ha2 hb2
  by_cases hlen : l.length = m.length
  · have hne : ((l.length : Int) != (m.length : Int)) = false := by simp [hlen]
    have H : Hid (l.length = m.length) := hlen
    have hle1 : l.length ≤ m.length := by omega
    have hle2 : m.length ≤ l.length := by omega
    clear hlen
    go_enter Try.func20, Try.ntmps20
    go_wp2
    go_loopw [5, 14] (fun d i wr => ∃ k n D : Nat, k ≤ l.length ∧ i = .int .i64 k ∧ d = .int .u8 D ∧ D < 256 ∧ wr = w.drewN n ∧ (D = 0 ↔ ∀ j, j < k → el l j = el m j)) (fun _ i _ => l.length - (intOf i).toNat)
    case atStart => exact ⟨0, 0, 0, Nat.zero_le _, rfl, rfl, by decide, rfl, ⟨fun _ j hj => by omega, fun _ => rfl⟩⟩
    case round =>
      obtain ⟨k, n, D, hk, rfl, rfl, hD, rfl, hall⟩ := hrel
      have HA := hide hall
      clear hall
      by_cases hlt : k < l.length
      · obtain ⟨ba, oa, rfl, hca⟩ := ha3 (by omega)
        obtain ⟨bb, ob, rfl, hcb⟩ := hb3 (by omega)
        have c1 := hca k hlt
        have c2 := hcb k (by omega)
        clear hca hcb
        have hlt2 : k < m.length := by omega
        have hx := el_lt ha4 (by decide) k
        have hy := el_lt hb4 (by decide) k
        go_wp2
        go_quiet (fail)
        go_wp2
        go_roundw
        case rel =>
          refine ⟨k + 1, _, D ||| (el l k ^^^ el m k), by omega, by go_num, vint (step_differ D _ _ hD hx hy), ?_, rfl, ?_⟩
          · exact Nat.or_lt_two_pow (n := 8) hD (Nat.xor_lt_two_pow (n := 8) hx hy)
          · rw [or_zero, xor_zero, HA.out]
            constructor
            · rintro ⟨h1, h2⟩ j hj
              by_cases hjk : j = k
              · subst hjk; exact h2
              · exact h1 j (by omega)
            · intro h
              exact ⟨fun j hj => h j (by omega), h k (by omega)⟩
        case measure => simp [intOf]; omega
      · go_wp2
        go_ret
        refine ⟨ret_bool ?_, below_drewN (Below.refl _ _) _⟩
        have hiff : D = 0 ↔ l = m := by
          rw [HA.out]
          constructor
          · intro h
            exact el_ext H.out (fun i hi => h i (by omega))
          · rintro rfl j _; rfl
        by_cases hz : l = m
        · have : D = 0 := hiff.2 hz
          simp [hz, this]
        · have : ¬ D = 0 := fun h => hz (hiff.1 h)
          simp [hz]
          omega
  · have hne : ((l.length : Int) != (m.length : Int)) = true := by simp; omega
    have hd : decide (l = m) = false := by simp; intro h; exact hlen (by rw [h])
    go_enter Try.func20, Try.ntmps20
    go_wp2
    go_ret
    exact ⟨ret_bool hd.symm, Below.refl _ _⟩
end Go.Proofs.Ytbcgjbohhaihcaa
