/- Contract of apostilleref01.Back. -/
import Derived.Test.YtbcgjbohhaihcaaOwn
namespace Go.Proofs.Ytbcgjbohhaihcaa
open Go.RowKit
set_option linter.unusedVariables false

/-- the last k elements, the last one first -/
theorem rev_take_succ (l : List Nat) (k j : Nat) (h : j + 1 + k = l.length) : l.reverse.take (k + 1) = l.reverse.take k ++ [el l j] := by
  have hk : k < l.reverse.length := by simp; omega
  rw [List.take_succ_eq_append_getElem hk]
  congr 2
  rw [List.getElem_reverse, el_at (by omega)]
  congr 1
  omega

theorem Under.rev {m : Nat} {l : List Nat} (h : Under m l) : Under m l.reverse := fun x hx => h x (List.mem_reverse.1 hx)
theorem Under.take' {m : Nat} {l : List Nat} (h : Under m l) (k : Nat) : Under m (l.take k) := fun x hx => h x (List.mem_of_mem_take hx)

set_option maxHeartbeats 400000 in
theorem rback_any (va : Value) (l : List Nat) (w : World) (ha : Row .u8 256 w va l) (hl : l.length ≤ 140737488355328) :
    Calls Try.prog 31 #[va] w fun e w' => ∃ v, e = .returned v ∧ Own 5 .u8 256 w' w.heap.size v l.reverse ∧ Below w.heap.size w w' := by
  obtain ⟨a, ca, rfl, ha1, ha2, ha3, ha4⟩ := ha
  unfold maxLen at ha2
  obtain ⟨i0, hi, hz0, hz1, hz2⟩ := info_parts Try.info5
  generalize hN : l.length = N at *
  have HN := hide hN
  clear hN
  go_enter Try.func31, Try.ntmps31
  go_wp2
  go_loopw [3, 4] (fun v i wr => ∃ k jn : Nat, jn + k = N ∧ i = .int .i64 ((jn : Int) - 1) ∧ wr.ownsRow w.heap.size 5 1 v k (vals .u8 (l.reverse.take k)) ∧ Below w.heap.size w wr) (fun _ i _ => (intOf i + 1).toNat)
  case atStart => exact ⟨0, N, by omega, rfl, World.ownsRow_nil _ _ _ _, Below.refl _ _⟩
  case round =>
    obtain ⟨k, jn, hkj, rfl, how, hbr⟩ := hrel
    have HKJ := hide hkj
    have hle : jn ≤ N := by omega
    have hle2 : k ≤ N := by omega
    clear hkj
    by_cases hlt : 0 < jn
    · obtain ⟨j, rfl⟩ : ∃ j, jn = j + 1 := ⟨jn - 1, by omega⟩
      rw [show (((j + 1 : Nat) : Int) - 1) = (j : Int) from by omega]
      have hk1 : k + 1 ≤ N := by have := HKJ.out; omega
      have c0 := ha3.below hbr (Nat.le_refl _)
      obtain ⟨ba, oa, rfl, hca⟩ := c0 (by rw [HN.out]; omega)
      have c1 := hca j (by rw [HN.out]; omega)
      clear hca c0 ha3
      have hsz := hbr.size
      go_wp2_with (first | (at_builtin; refine wpList_append_own _ rfl _ _ 23 rfl w.heap.size 5 i0 (.int .u8 0) 1 1 Try.underlying23 hi hz0 hz1 hz2 rfl (by decide) _ _ _ rfl (how.alloc _) ⟨wr.heap.size, 0, none⟩ 1 1 [.int .u8 (el l j)] rfl rfl (cells_new _ _ _) (one_new _ _) (by unfold maxLen; omega) (by omega) (by simp; omega) ?_; intro v' w1 how' hgrow _) | go_in)
      have hb1 := below_append hbr hsz how _ hgrow
      clear how hgrow hbr
      go_roundw
      case rel =>
        have e := rev_take_succ l k j (by rw [HN.out]; exact HKJ.out)
        exact ⟨k + 1, j, by have := HKJ.out; omega, rfl, by rw [e, vals_append]; exact how', hb1⟩
      case measure => simp [intOf]
    · go_wp2
      go_ret
      have e : k = N := by have := HKJ.out; omega
      subst e
      have e2 : l.reverse.take k = l.reverse := List.take_of_length_le (by simp; rw [HN.out]; exact Nat.le_refl _)
      rw [e2] at how
      refine ⟨_, rfl, ⟨?_, ha4.rev⟩, hbr⟩
      rw [List.length_reverse, HN.out]
      exact how
end Go.Proofs.Ytbcgjbohhaihcaa
