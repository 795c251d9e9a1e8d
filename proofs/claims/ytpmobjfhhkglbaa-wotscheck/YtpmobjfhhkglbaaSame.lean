/- Contract of apostilleref01.Same. -/
import Derived.Test.YtpmobjfhhkglbaaBase
namespace Go.Proofs.Ytpmobjfhhkglbaa
open Go.RowKit
set_option linter.unusedVariables false

theorem el_ext {l m : List Nat} (h : l.length = m.length) (he : ∀ i, i < l.length → el l i = el m i) : l = m := by
  apply List.ext_getElem h
  intro i h1 h2
  have := he i h1
  rwa [el_at h1, el_at h2] at this

set_option maxHeartbeats 400000 in
theorem rsame_any (va vb : Value) (l m : List Nat) (w : World) (ha : Row .u8 256 w va l) (hb : Row .u8 256 w vb m) :
    Calls Try.prog 5 #[va, vb] w fun e w' => e = .returned (.bool (decide (l = m))) ∧ ∃ n, w' = w.drewN n := by
  obtain ⟨a, ca, rfl, ha1, ha2, ha3, ha4⟩ := ha
  obtain ⟨b, cb, rfl, hb1, hb2, hb3, hb4⟩ := hb
  unfold maxLen at ha2 hb2
  by_cases hlen : l.length = m.length
  · have hne : ((l.length : Int) != (m.length : Int)) = false := by simp [hlen]
    have H : Hid (l.length = m.length) := hlen
    have hle1 : l.length ≤ m.length := by omega
    have hle2 : m.length ≤ l.length := by omega
    clear hlen
    go_enter Try.func5, Try.ntmps5
    go_wp2
    go_loopw [5] (fun i wr => ∃ k n : Nat, k ≤ l.length ∧ i = .int .i64 k ∧ wr = w.drewN n ∧ ∀ j, j < k → el l j = el m j) (fun i _ => l.length - (intOf i).toNat)
    case atStart => exact ⟨0, 0, Nat.zero_le _, rfl, rfl, fun j hj => by omega⟩
    case round =>
      obtain ⟨k, n, hk, rfl, rfl, hall⟩ := hrel
      have HA : Hid (∀ j, j < k → el l j = el m j) := hall
      clear hall
      by_cases hlt : k < l.length
      · obtain ⟨ba, oa, rfl, hca⟩ := ha3 (by omega)
        obtain ⟨bb, ob, rfl, hcb⟩ := hb3 (by omega)
        have c1 := hca k hlt
        have c2 := hcb k (by omega)
        clear hca hcb
        have hlt2 : k < m.length := by omega
        by_cases he : el l k = el m k
        · have hd : ((el l k : Int) != (el m k : Int)) = false := by simp [he]
          have HE : Hid (el l k = el m k) := he
          clear he
          go_wp2
          go_quiet (fail)
          go_wp2
          go_roundw
          case rel => exact ⟨k + 1, _, by omega, by go_num, rfl, fun j hj => by
            by_cases hjk : j = k
            · subst hjk; exact HE.out
            · exact HA.out j (by omega)⟩
          case measure => simp [intOf]; omega
        · have hd : ((el l k : Int) != (el m k : Int)) = true := by simp; omega
          go_wp2
          go_quiet (fail)
          go_wp2
          go_ret
          exact ⟨ret_bool (by symm; simp; intro h; exact he (by rw [h])), _, World.drewN_drewN _ _ _⟩
      · go_wp2
        go_ret
        exact ⟨ret_bool (by symm; simp; exact el_ext H.out (fun i hi => HA.out i (by omega))), _, rfl⟩
  · have hne : ((l.length : Int) != (m.length : Int)) = true := by simp; omega
    have hd : decide (l = m) = false := by simp; intro h; exact hlen (by rw [h])
    go_enter Try.func5, Try.ntmps5
    go_wp2
    go_ret
    exact ⟨ret_bool hd.symm, 0, rfl⟩

end Go.Proofs.Ytpmobjfhhkglbaa
