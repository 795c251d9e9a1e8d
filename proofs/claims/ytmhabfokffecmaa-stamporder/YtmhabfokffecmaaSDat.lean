/- Contracts of dateOf's closure, sort.Search at it, dateOf. -/
import Derived.Test.YtmhabfokffecmaaSDay
import Derived.Test.YtmhabfokffecmaaSTwo
namespace Go.Proofs.Ytmhabfokffecmaa
open Go.RowKit
set_option linter.unusedVariables false

set_option maxHeartbeats 1000000 in
theorem clo_any (z n k : Nat) (w : World) (hc : w.cell? ⟨k, 0, none⟩ = some (.int .i64 n)) (hz : z + 2 ≤ 10000) :
    Calls Try.prog 25 #[.int .i64 z, .pointer (some ⟨k, 0, none⟩)] w fun e w' => e = .returned (.bool (decide (n < yrs (z + 2)))) ∧ ∃ q, w' = w.drewN q := by
  have hcall := fun w => ahead_any (z + 2) w (by omega) hz
  have HZ : Hid ((z : Int) + 2 = ((z + 2 : Nat) : Int)) := hide (by omega)
  generalize yrs (z + 2) = Y at *
  go_enter Try.func25, Try.ntmps25
  go_wp2
  go_quiet (first | (go_at_call 23; rw [HZ.out]; exact (hcall _).mono (by rintro e w' ⟨rfl, rfl⟩; exact ⟨rfl, _, rfl⟩)) | fail)
  go_wp2
  go_ret
  exact ⟨ret_bool (by simp), _, rfl⟩

theorem cell_drewN {w : World} {k : Nat} {v : Value} (h : w.cell? ⟨k, 0, none⟩ = some v) (q : Nat) : (w.drewN q).cell? ⟨k, 0, none⟩ = some v := by simpa using h

set_option maxHeartbeats 2000000 in
theorem search_any (n k : Nat) (w : World) (hc : w.cell? ⟨k, 0, none⟩ = some (.int .i64 n)) (hn : n ≤ 3652058) :
    Calls Try.prog 24 #[.int .i64 9998, .func (.func 25) #[] #[.pointer (some ⟨k, 0, none⟩)]] w
      fun e w' => ∃ z : Nat, e = .returned (.int .i64 z) ∧ z ≤ 9998 ∧ yrs (z + 1) ≤ n ∧ n < yrs (z + 2) ∧ ∃ q, w' = w.drewN q := by
  have HN0 : Hid (yrs (0 + 1) ≤ n) := hide (by rw [show yrs (0 + 1) = 0 by decide]; omega)
  have HN1 : Hid (n < yrs (9998 + 2)) := hide (by rw [show yrs (9998 + 2) = 3652059 by decide]; omega)
  go_enter Try.func24, Try.ntmps24
  go_wp2
  go_loopw [5, 6] (fun i j wr => ∃ a b q : Nat, i = .int .i64 a ∧ j = .int .i64 b ∧ a ≤ b ∧ b ≤ 9998 ∧ Hid (yrs (a + 1) ≤ n) ∧ Hid (n < yrs (b + 2)) ∧ wr = w.drewN q) (fun i j _ => (intOf j).toNat - (intOf i).toNat)
  case atStart => exact ⟨0, 9998, 0, rfl, rfl, by omega, by omega, HN0, HN1, rfl⟩
  case round =>
    obtain ⟨a, b, q, rfl, rfl, hab, hb, HA, HB, rfl⟩ := hrel
    by_cases hlt : a < b
    · have hcall := fun (m : Nat) (hm : m + 2 ≤ 10000) => clo_any m n k (w.drewN q) (cell_drewN hc q) hm
      have g1 : (a : Int) < (b : Int) := by omega
      obtain ⟨m, HM, hm1, hm2⟩ : ∃ m : Nat, Hid (((a : Int) + (b : Int)) / 2 = (m : Int)) ∧ a ≤ m ∧ m < b := ⟨(a + b) / 2, hide (by omega), by omega, by omega⟩
      have hcall := hcall m (by omega)
      by_cases hd : n < yrs (m + 2)
      · rw [decide_eq_true hd] at hcall
        have HD := hide hd
        clear hd
        go_wp2_with fail
        rw [HM.out]
        refine hcall.mono ?_
        rintro e w1 ⟨rfl, q1, rfl⟩
        go_wp2
        go_roundw
        case rel => exact ⟨a, m, q + q1, rfl, rfl, hm1, by omega, HA, HD, rfl⟩
        case measure => simp [intOf]; omega
      · rw [decide_eq_false hd] at hcall
        have HD : Hid (yrs (m + 1 + 1) ≤ n) := hide (Nat.le_of_not_lt hd)
        clear hd
        go_wp2_with fail
        rw [HM.out]
        refine hcall.mono ?_
        rintro e w1 ⟨rfl, q1, rfl⟩
        go_wp2
        go_roundw
        case rel => exact ⟨m + 1, b, q + q1, by simp, rfl, by omega, hb, HD, HB, rfl⟩
        case measure => simp [intOf]; omega
    · obtain rfl : a = b := by omega
      go_wp2
      go_ret
      exact ⟨a, rfl, hb, HA.out, HB.out, q, rfl⟩
end Go.Proofs.Ytmhabfokffecmaa
