/- Contracts of apostilleref01.Le, apostilleref01.NumLe. -/
import Derived.Test.YtbcgjbohhaihcaaBe
import Derived.Test.YtbcgjbohhaihcaaBack
import Derived.Test.YtbcgjbohhaihcaaNumLe
namespace Go.Proofs.Ytbcgjbohhaihcaa
open Go.RowKit
set_option linter.unusedVariables false

theorem leS_length (n : Nat) (size : Int) : (leS n size).length ≤ 65536 := by
  unfold leS; split
  · simp
  · rw [leL_length]; omega

set_option maxHeartbeats 400000 in
theorem rle_any (n : Nat) (size : Int) (w : World) (hn : n < 18446744073709551616) (hs0 : -9223372036854775808 ≤ size) (hs1 : size ≤ 9223372036854775807) :
    Calls Try.prog 13 #[.int .u64 n, .int .i64 size] w fun e w' => ∃ v, e = .returned v ∧ Own 5 .u8 256 w' w.heap.size v (leS n size) ∧ Below w.heap.size w w' := by
  go_enter Try.func13, Try.ntmps13
  go_wp2_with fail
  refine (rbe_any n size _ hn hs0 hs1).mono ?_
  rintro e w1 ⟨v, rfl, ho, hb⟩
  go_wp2_with fail
  refine (rback_any v _ _ ho.row (by have := leS_length n size; rw [List.length_reverse]; omega)).mono ?_
  rintro e w2 ⟨v2, rfl, ho2, hb2⟩
  rw [List.reverse_reverse] at ho2
  go_wp2
  go_ret
  exact ⟨_, rfl, ho2.mono hb.size, hb.trans (hb2.mono hb.size)⟩

set_option maxHeartbeats 400000 in
theorem rnumLe_any (va : Value) (l : List Nat) (w : World) (ha : Row .u8 256 w va l) (hl : l.length ≤ 140737488355328) :
    Calls Try.prog 17 #[va] w fun e w' => e = .returned (.int .u64 (numL l.reverse)) ∧ Below w.heap.size w w' := by
  have ha' := ha
  obtain ⟨a, ca, rfl, ha1, ha2, ha3, ha4⟩ := ha
  go_enter Try.func17, Try.ntmps17
  go_wp2_with fail
  refine (rback_any _ _ _ ha' hl).mono ?_
  rintro e w1 ⟨v, rfl, ho, hb⟩
  go_wp2_with fail
  refine (rnum_any v _ _ ho.row).mono ?_
  rintro e w2 ⟨rfl, hw⟩
  go_wp2
  go_ret
  exact ⟨rfl, hb⟩
end Go.Proofs.Ytbcgjbohhaihcaa
