/- Contracts of oid.Fit, apostilleref02.Fit. -/
import Derived.Test.YtpmdbbmichncmaaDoorOidM
import Derived.Test.YtpmdbbmichncmaaDoorKit
namespace Go.Proofs.YtpmdbbmichncmaaDoor
open Go.RowKit
set_option linter.unusedVariables false

theorem fit_short {l : List Nat} (h : l.length < 2) : fitB l = false := by unfold fitB; simp; omega
theorem fit_long {l : List Nat} (h : 20 < l.length) : fitB l = false := by unfold fitB; simp; omega
theorem fit_low {l : List Nat} (h1 : 2 ≤ l.length) (h2 : l.length ≤ 20) (h : el l 0 < 2) : fitB l = decide (el l 1 < 40) := by
  unfold fitB; rw [decide_eq_decide]; omega
theorem fit_two' {l : List Nat} (h1 : 2 ≤ l.length) (h2 : l.length ≤ 20) (h : el l 0 = 2) : fitB l = decide (el l 1 ≤ 4294967215) := by
  unfold fitB; rw [decide_eq_decide]; omega
theorem fit_high {l : List Nat} (h : 2 < el l 0) : fitB l = false := by
  unfold fitB; rw [decide_eq_false_iff_not]; omega

set_option maxHeartbeats 400000 in
theorem fit_any (v : Value) (l : List Nat) (w : World) (h : Row .u32 4294967296 w v l) :
    Calls Tryd.prog 10 #[v] w fun e w' => e = .returned (.bool (fitB l)) ∧ w' = w := by
  obtain ⟨a, cap, rfl, h1, h2, h3, h4⟩ := h
  unfold maxLen at h2
  by_cases hs : l.length < 2
  · rw [fit_short hs]
    go_enter Tryd.func10, Tryd.ntmps10
    go_wp2
    go_ret
    exact ⟨rfl, rfl⟩
  by_cases hl : 20 < l.length
  · rw [fit_long hl]
    go_enter Tryd.func10, Tryd.ntmps10
    go_wp2
    go_ret
    exact ⟨rfl, rfl⟩
  obtain ⟨b, off, rfl, hc⟩ := h3 (by omega)
  have c0 : w.cell? ⟨b, off, none⟩ = some (.int .u32 (el l 0)) := hc 0 (by omega)
  have c1 : w.cell? ⟨b, off + 1, none⟩ = some (.int .u32 (el l 1)) := hc 1 (by omega)
  have u1 := el_lt h4 (by decide) 1
  clear hc h3
  by_cases hlow : el l 0 < 2
  · rw [fit_low (by omega) (by omega) hlow]
    go_enter Tryd.func10, Tryd.ntmps10
    go_wp2
    go_ret
    exact ⟨ret_bool (by rw [decide_eq_decide]; omega), rfl⟩
  by_cases h22 : el l 0 = 2
  · have e2 : ((el l 0 : Int) == 2) = true := by simp [h22]
    rw [fit_two' (by omega) (by omega) h22]
    have H22 := hide h22
    clear h22
    go_enter Tryd.func10, Tryd.ntmps10
    go_wp2
    go_ret
    exact ⟨ret_bool (by rw [decide_eq_decide]; omega), rfl⟩
  · have e2 : ((el l 0 : Int) == 2) = false := by simp; omega
    rw [fit_high (by omega)]
    go_enter Tryd.func10, Tryd.ntmps10
    go_wp2
    go_ret
    exact ⟨rfl, rfl⟩

set_option maxHeartbeats 400000 in
theorem rfit_any (v : Value) (l : List Nat) (w : World) (h : Row .u32 4294967296 w v l) :
    Calls Tryd.prog 11 #[v] w fun e w' => e = .returned (.bool (fitB l)) ∧ w' = w := by
  obtain ⟨a, cap, rfl, h1, h2, h3, h4⟩ := h
  unfold maxLen at h2
  by_cases hs : l.length < 2
  · rw [fit_short hs]
    go_enter Tryd.func11, Tryd.ntmps11
    go_wp2
    go_ret
    exact ⟨rfl, rfl⟩
  by_cases hl : 20 < l.length
  · rw [fit_long hl]
    go_enter Tryd.func11, Tryd.ntmps11
    go_wp2
    go_ret
    exact ⟨rfl, rfl⟩
  obtain ⟨b, off, rfl, hc⟩ := h3 (by omega)
  have c0 : w.cell? ⟨b, off, none⟩ = some (.int .u32 (el l 0)) := hc 0 (by omega)
  have c1 : w.cell? ⟨b, off + 1, none⟩ = some (.int .u32 (el l 1)) := hc 1 (by omega)
  have u1 := el_lt h4 (by decide) 1
  clear hc h3
  by_cases hlow : el l 0 < 2
  · have e2 : ((el l 0 : Int) == 2) = false := by simp; omega
    rw [fit_low (by omega) (by omega) hlow]
    by_cases hx : el l 1 < 40
    · go_enter Tryd.func11, Tryd.ntmps11
      go_wp2
      go_ret
      exact ⟨ret_bool (by simp), rfl⟩
    · go_enter Tryd.func11, Tryd.ntmps11
      go_wp2
      go_ret
      exact ⟨ret_bool (by simp; omega), rfl⟩
  by_cases h22 : el l 0 = 2
  · have e2 : ((el l 0 : Int) == 2) = true := by simp [h22]
    rw [fit_two' (by omega) (by omega) h22]
    have g1 : ¬ (2 : Int) < (el l 0 : Int) := by omega
    have H22 := hide h22
    clear h22
    go_enter Tryd.func11, Tryd.ntmps11
    go_wp2
    go_ret
    exact ⟨ret_bool (by rw [decide_eq_decide]; omega), rfl⟩
  · have g1 : (2 : Int) < (el l 0 : Int) := by omega
    rw [fit_high (by omega)]
    go_enter Tryd.func11, Tryd.ntmps11
    go_wp2
    go_ret
    exact ⟨rfl, rfl⟩
end Go.Proofs.YtpmdbbmichncmaaDoor
