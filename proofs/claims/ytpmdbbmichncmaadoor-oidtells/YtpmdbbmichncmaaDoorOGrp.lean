/- Contracts of apostilleref02.groups, oid.appendNumber. -/
import Derived.Test.YtpmdbbmichncmaaDoorOFit
import Derived.Test.YtpmdbbmichncmaaDoorRevAt
namespace Go.Proofs.YtpmdbbmichncmaaDoor
open Go.RowKit
set_option linter.unusedVariables false

theorem or128 (q : Nat) : bits .or .u8 128 ((q % 128 : Nat) : Int) = ((128 + q % 128 : Nat) : Int) := by
  rw [show (128 : Int) = ((128 : Nat) : Int) from rfl, u8_or_nat _ _ (by decide) (by omega), nat_join 7 128 (q % 128) (by decide) (by omega)]

theorem hib_step {n : Nat} (h : 0 < n) : hib n = hib (n / 128) ++ [128 + n % 128] := hi_pos h
theorem hib_zero : hib 0 = [] := hi_zero

set_option maxHeartbeats 1000000 in
theorem rgrp_any (n : Nat) (w : World) (hn : n < 4294967296) :
    Calls Tryd.prog 25 #[.int .u32 n] w fun e w' => ∃ v, e = .returned v ∧ Own 5 .u8 256 w' w.heap.size v (grp n) ∧ Below w.heap.size w w' := by
  obtain ⟨i0, hi, hz0, hz1, hz2⟩ := info_parts Tryd.info5
  go_enter Tryd.func25, Tryd.ntmps25
  go_wp2
  have st := one_own 5 .u8 256 (n % 128) w w.heap.size (Nat.le_refl _)
  have hlen := grp_len hn
  have hgu := grp_under n
  have e1 : (n : Int) / 128 = ((n / 128 : Nat) : Int) := nat_quo n 128
  have e2 : (n : Int) % 128 = ((n % 128 : Nat) : Int) := nat_rem n 128
  rw [e1, e2]
  have hg : hib (n / 128) ++ [n % 128] = grp n := rfl
  have hq0 : n / 128 < 4294967296 := by omega
  clear e1 e2
  generalize n / 128 = q0 at *
  generalize n % 128 = r0 at *
  go_loopw [0, 3] (fun u v wr => ∃ (q g cap : Nat) (acc : List Nat), u = .int .u32 q ∧ q < 4294967296 ∧ 0 < acc.length ∧ acc.length ≤ 5 ∧ v = .slice (some ⟨g, 0, none⟩) acc.length cap ∧ Hid (hib q ++ acc = grp n) ∧ wr.ownsRow w.heap.size 5 1 v acc.length (vals .u8 acc) ∧ Below w.heap.size w wr) (fun u _ _ => (intOf u).toNat)
  case atStart => exact ⟨q0, w.heap.size, 1, [r0], rfl, hq0, by simp, by simp, rfl, hide hg, st, keep_alloc _ _⟩
  case round =>
    obtain ⟨q, g, cap, acc, rfl, hq, hal, hal5, rfl, HG, how, hbr⟩ := hrel
    have hsz := hbr.size
    by_cases h0 : 0 < q
    · have hrow := (how.alloc (.cells #[.int .u8 (128 + (q : Int) % 128)] 5)).cells (g := g) rfl
      have how1 : (wr.alloc (.cells #[.int .u8 (128 + (q : Int) % 128)] 5)).ownsRow w.heap.size 5 1 (.slice (some ⟨wr.heap.size, 0, none⟩) 1 1) 1 (vals .u8 [128 + q % 128]) := one_own 5 .u8 256 (128 + q % 128) wr w.heap.size hsz
      go_wp2_with (first | (at_builtin; refine wpList_append_own _ rfl _ _ 24 rfl w.heap.size 5 i0 (.int .u8 0) 1 1 Tryd.underlying24 hi hz0 hz1 hz2 rfl (by decide) _ _ _ rfl how1 ⟨g, 0, none⟩ acc.length cap (vals .u8 acc) rfl (by rw [vals_length, Nat.mul_one]) hrow (vals_one _ _) (by unfold maxLen; omega) (by omega) (by simp; omega) ?_; intro v' w3 how' hgrow _) | fail)
      have hb3 : Below w.heap.size w w3 := (hbr.alloc hsz _).grown hgrow (by simp; omega) (fun k h => by cases h; exact hsz)
      obtain ⟨g3, cap3, rfl, _⟩ := row_form how' (by omega)
      rw [← vals_append] at how'
      have HG2 : Hid (hib (q / 128) ++ ([128 + q % 128] ++ acc) = grp n) := by
        have := HG.out
        rw [hib_step h0, List.append_assoc] at this
        exact this
      have hl5 : ([128 + q % 128] ++ acc).length ≤ 5 := by
        have := congrArg List.length HG2.out
        rw [List.length_append] at this
        omega
      go_wp2
      go_roundw
      case rel => exact ⟨q / 128, g3, cap3, [128 + q % 128] ++ acc, by simp, by omega, by simp, hl5, by simp [Nat.add_comm], HG2, by rw [List.length_append]; exact how', hb3⟩
      case measure => simp [intOf]; omega
    · have hq0 : q = 0 := by omega
      subst hq0
      have hG := HG.out
      rw [hib_zero, List.nil_append] at hG
      go_wp2
      go_ret
      exact ⟨_, rfl, ⟨by rw [← hG]; exact how, hgu⟩, hbr⟩
end Go.Proofs.YtpmdbbmichncmaaDoor
