/- Contracts of bits.Join, apostilleref01.Join. -/
import Derived.Test.YtpmobjfhhkglbaaSmall
import Derived.Test.YtpmobjfhhkglbaaDig
import Derived.Test.YtpmobjfhhkglbaaTex
import Derived.Test.YtpmobjfhhkglbaaKit
import Derived.Laws.AppendOwnNone
namespace Go.Proofs.Ytpmobjfhhkglbaa
open Go.RowKit
set_option linter.unusedVariables false

set_option maxHeartbeats 1000000 in
theorem join_any (va : Value) (ls : List (List Nat)) (w : World) (ha : Rows2 w va ls) (hs : ls.flatten.length ≤ 1000000) :
    Calls Try.prog 9 #[va] w fun e w' => ∃ v, e = .returned v ∧ Own 5 .u8 256 w' w.heap.size v ls.flatten ∧ Below w.heap.size w w' := by
  have hu := ha.under
  have ha' := ha
  obtain ⟨a, ca, rfl, ha1, ha2, ha3⟩ := ha
  unfold maxLen at ha2
  obtain ⟨i0, hi, hz0, hz1, hz2⟩ := info_parts Try.info5
  go_enter Try.func9, Try.ntmps9
  go_wp2
  go_loop [3, 11] (fun s i => ∃ k : Nat, k ≤ ls.length ∧ i = .int .i64 k ∧ s = .int .i64 ((ls.take k).flatten.length : Nat)) (fun _ i => ls.length - (intOf i).toNat)
  case atStart => exact ⟨0, Nat.zero_le _, rfl, rfl⟩
  case round =>
    obtain ⟨k, hk, rfl, rfl⟩ := hrel
    by_cases hlt : k < ls.length
    · have hf := flat_succ hlt
      have hle := flat_le ls (k + 1)
      rw [hf, List.length_append] at hle
      obtain ⟨b, off, rfl, hc⟩ := ha3 (by omega)
      obtain ⟨u, c1, ⟨au, cu, rfl, hu1, hu2, hu3, hu4⟩, htidy⟩ := hc k hlt
      clear hc ha3
      have HF := hide hf
      clear hf
      generalize hM : (ls.take k).flatten.length = M at *
      have HM := hide hM
      clear hM
      generalize hT : (tx ls k).length = T at *
      have HT := hide hT
      clear hT
      go_wp2
      go_round
      case rel => exact ⟨k + 1, by omega, by go_num, vint (by rw [HF.out, List.length_append, HM.out, HT.out]; simp)⟩
      case measure => simp [intOf]; omega
    · have hkl : k = ls.length := by omega
      subst hkl
      rw [List.take_of_length_le (Nat.le_refl _)]
      generalize hM : ls.flatten.length = M at *
      have HM := hide hM
      clear hM
      go_wp2_with fail
      refine (room8_any M _ (by omega)).mono ?_
      rintro e w1 ⟨v, rfl, ⟨ho, _⟩, hb⟩
      go_wp2
      go_loopw [6, 24] (fun v i wr => ∃ k : Nat, k ≤ ls.length ∧ i = .int .i64 k ∧ wr.ownsRow w.heap.size 5 1 v (ls.take k).flatten.length (vals .u8 (ls.take k).flatten) ∧ Below w.heap.size w wr) (fun _ i _ => ls.length - (intOf i).toNat)
      case atStart => exact ⟨0, Nat.zero_le _, rfl, ho, hb⟩
      case round =>
        obtain ⟨k, hk, rfl, how, hbr⟩ := hrel
        clear ho hb
        by_cases hlt : k < ls.length
        · have hf := flat_succ hlt
          have hle := flat_le ls (k + 1)
          rw [hf, List.length_append, HM.out] at hle
          obtain ⟨a2, ca2, he, _, _, h3⟩ := ha'.below hbr
          obtain ⟨rfl, rfl⟩ : a = a2 ∧ ca = ca2 := by simpa using he
          obtain ⟨b, off, rfl, hc⟩ := h3 (by omega)
          obtain ⟨u, c1, ⟨au, cu, rfl, hu1, hu2, hu3, hu4⟩, htidy⟩ := hc k hlt
          clear hc h3 he ha3
          have hsz := hbr.size
          have HF := hide hf
          clear hf
          generalize hM2 : (ls.take k).flatten = M2 at *
          have HM2 := hide hM2
          clear hM2
          generalize hT : tx ls k = T at *
          have HT := hide hT
          clear hT
          cases au with
          | none =>
            obtain ⟨h0, rfl⟩ := htidy _ _ rfl
            have hT0 : T = [] := List.eq_nil_of_length_eq_zero h0
            subst hT0
            go_wp2_with (first | (at_builtin; refine wpList_append_own_none rfl _ _ 25 rfl w.heap.size 5 i0 1 Try.underlying25 hi _ _ _ rfl how rfl ?_) | fail)
            go_roundw
            case rel => exact ⟨k + 1, by omega, by go_num, by rw [HF.out, List.append_nil]; exact how, hbr⟩
            case measure => simp [intOf]; omega
          | some x =>
            go_wp2_with (first | (at_builtin; refine wpList_append_own _ rfl _ _ 25 rfl w.heap.size 5 i0 (.int .u8 0) 1 1 Try.underlying25 hi hz0 hz1 hz2 rfl (by decide) _ _ _ rfl how x T.length cu (vals .u8 T) rfl (by rw [vals_length, Nat.mul_one]) (cells_news hu3) (vals_one _ _) (by unfold maxLen; omega) (by omega) hsz ?_; intro v' w3 how' hgrow _) | fail)
            have hb3 := below_append' hbr hsz how hgrow
            clear how hgrow hbr
            go_roundw
            case rel => exact ⟨k + 1, by omega, by go_num, by rw [HF.out, List.length_append, vals_append]; exact how', hb3⟩
            case measure => simp [intOf]; omega
        · go_wp2
          go_ret
          rw [List.take_of_length_le (by omega)] at how
          exact ⟨_, rfl, ⟨how, hu⟩, hbr⟩
end Go.Proofs.Ytpmobjfhhkglbaa
