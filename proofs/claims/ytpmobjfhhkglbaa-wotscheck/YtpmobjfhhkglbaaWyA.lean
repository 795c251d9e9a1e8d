/- Keys of chains, the program's own: which kinds can be, how many digits there are, where a place's parts lie. -/
import Derived.Test.YtpmobjfhhkglbaaWtM
import Derived.Test.YtpmobjfhhkglbaaKit
import Derived.Test.YtpmobjfhhkglbaaPgF
import Derived.Deep.DeepCutAuto
namespace Go.Proofs.Ytpmobjfhhkglbaa
open Go.RowKit
set_option linter.unusedVariables false
set_option linter.unusedSimpArgs false

set_option maxHeartbeats 4000000 in
set_option maxRecDepth 100000 in
theorem wisz_any (N : Int) (w : World) : Calls Try.prog 7 #[.int .i64 N] w fun e w' => e = .returned (.bool (decide (N = 16 ∨ N = 24 ∨ N = 32))) ∧ w' = w := by
  by_cases h16 : N = 16
  · subst h16
    rw [decide_eq_true (.inl rfl)]
    go_enter Try.func7, Try.ntmps7
    go_wp2
    go_ret
    exact ⟨rfl, rfl⟩
  by_cases h24 : N = 24
  · subst h24
    rw [decide_eq_true (.inr (.inl rfl))]
    go_enter Try.func7, Try.ntmps7
    go_wp2
    go_ret
    exact ⟨rfl, rfl⟩
  by_cases h32 : N = 32
  · subst h32
    rw [decide_eq_true (.inr (.inr rfl))]
    go_enter Try.func7, Try.ntmps7
    go_wp2
    go_ret
    exact ⟨rfl, rfl⟩
  have e0 : decide (N = 16 ∨ N = 24 ∨ N = 32) = false := decide_eq_false (by omega)
  rw [e0]
  have b1 : (N == 16) = false := by simp [h16]
  have b2 : (N == 24) = false := by simp [h24]
  have b3 : (N == 32) = false := by simp [h32]
  clear e0
  go_enter Try.func7, Try.ntmps7
  go_wp2
  go_ret
  exact ⟨rfl, rfl⟩
set_option maxHeartbeats 4000000 in
set_option maxRecDepth 100000 in
theorem wdct_any (n : Nat) (w : World) (hn : n ≤ 1000) : Calls Try.prog 11 #[.int .i64 (n : Int)] w fun e w' => e = .returned (.int .i64 ((2 * n + 3 : Nat) : Int)) ∧ w' = w := by
  obtain ⟨P, hP⟩ : ∃ P : Nat, 2 * n + 3 = P := ⟨_, rfl⟩
  obtain ⟨E, hE⟩ : ∃ E : Nat, 8 * n = E := ⟨_, rfl⟩
  obtain ⟨Q, hQ⟩ : ∃ Q : Nat, 2 * n = Q := ⟨_, rfl⟩
  have e_E : 8 * (n : Int) = (E : Int) := by omega
  have s_E : IntKind.i64.wrap (E : Int) = (E : Int) := by rw [IntKind.wrap_i64]; omega
  have e_Q : (E : Int) / 4 = (Q : Int) := by omega
  have t_Q : (E : Int).tdiv 4 = (Q : Int) := by rw [Int.tdiv_eq_ediv_of_nonneg (by omega)]; omega
  have s_Q : IntKind.i64.wrap (Q : Int) = (Q : Int) := by rw [IntKind.wrap_i64]; omega
  have e_P : (Q : Int) + 3 = (P : Int) := by omega
  have s_P : IntKind.i64.wrap (P : Int) = (P : Int) := by rw [IntKind.wrap_i64]; omega
  rw [hP]
  clear hP hE hQ
  go_enter Try.func11, Try.ntmps11
  go_wp2
  go_ret
  exact ⟨rfl, rfl⟩
end Go.Proofs.Ytpmobjfhhkglbaa
