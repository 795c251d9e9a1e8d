/- Contract of bits.Digits. -/
import Derived.Test.YtnjiilnkobhibaaBitm
import Derived.Test.YtnjiilnkobhibaaBase
import Derived.Test.YtnjiilnkobhibaaRJoin
import Derived.Laws.AppendOwnNone
import Derived.Test.YtnjiilnkobhibaaGWd32
import Derived.Test.YtnjiilnkobhibaaLcFrm
import Derived.Test.YtnjiilnkobhibaaGEnM
import Derived.Test.YtnjiilnkobhibaaHTur64
namespace Go.Proofs.Ytnjiilnkobhibaa
open Go.RowKit
set_option linter.unusedVariables false

/-- what Digits tells -/
def digS (l : List Nat) (x c : Int) : List Nat := if okB l.length x c = true then digL l x.toNat c.toNat else []

theorem dig_nil (e : TypeId) (k : IntKind) (m : Nat) (w : World) (B : Nat) : Own e k m w B (.slice none 0 0) [] := ⟨World.ownsRow_nil _ _ _ _, fun x hx => by simp at hx⟩

theorem step_left (V x : Nat) (hx : x < 256) : bits .or .u32 (IntKind.u32.wrap ((V % 2 ^ 32 : Nat) * 256 : Int)) (x : Int) = (((V * 256 + x) % 2 ^ 32 : Nat) : Int) := by
  have e : IntKind.u32.wrap (((V % 2 ^ 32 : Nat) : Int) * 256) = ((V % 2 ^ 32 * 256 % 4294967296 : Nat) : Int) := by
    rw [IntKind.wrap_u32']; omega
  rw [e, u32_or_nat _ _ (Nat.mod_lt _ (by decide)) (by omega), nat_join 8 _ _ (by omega) (by omega)]
  congr 1
  omega

set_option maxHeartbeats 1000000 in
set_option maxRecDepth 100000 in
theorem dig_any (va : Value) (l : List Nat) (x c : Int) (w : World) (ha : Row .u8 256 w va l) (hl : l.length ≤ 1000000)
    (hc0 : -9223372036854775808 ≤ c) (hc1 : c ≤ 9223372036854775807) :
    Calls Try.prog 19 #[va, .int .i64 x, .int .i64 c] w fun e w' => ∃ v, e = .returned v ∧ Own 36 .u32 4294967296 w' w.heap.size v (digS l x c) ∧ Below w.heap.size w w' := by
  have ha' := ha
  obtain ⟨a, ca, rfl, ha1, ha2, ha3, ha4⟩ := ha
  unfold maxLen at ha2
  cases hok : okB l.length x c with
  | false =>
    have hS : digS l x c = [] := by unfold digS; rw [if_neg (by rw [hok]; decide)]
    rw [hS]; clear hS
    go_enter Try.func19, Try.ntmps19
    go_wp2_with (go_at_call 24; refine (holds_any _ l x c _ ha' (by omega) hc0 hc1).mono ?_; rintro e w' ⟨rfl, rfl⟩)
    go_ret
    exact ⟨_, rfl, dig_nil _ _ _ _ _, Below.refl _ _⟩
  | true =>
    have hS : digS l x c = digL l x.toNat c.toNat := by unfold digS; rw [if_pos hok]
    rw [hS]; clear hS
    obtain ⟨W, C, rfl, rfl, hW1, hW2, hCW⟩ := okB_of hok
    rw [Int.toNat_natCast, Int.toNat_natCast]
    have hC : C ≤ 8000000 := by
      have : C * 1 ≤ C * W := Nat.mul_le_mul_left C hW1
      omega
    obtain ⟨i0, hi, hz0, hz1, hz2⟩ := info_parts Try.info36
    go_enter Try.func19, Try.ntmps19
    go_wp2_with fail
    refine (holds_any _ l W C _ ha' (by omega) hc0 hc1).mono ?_
    rintro e w' ⟨rfl, rfl⟩
    rw [hok]
    clear hok
    go_wp2_with fail
    refine (room32_any C _ (by omega)).mono ?_
    rintro e w1 ⟨v, rfl, ⟨ho, _⟩, hb⟩
    go_wp2
    go_loopw [7, 8, 9, 10, 19] (fun v left have_ at_ i wr => ∃ k t : Nat, k ≤ C ∧ t ≤ l.length ∧ k * W ≤ 8 * t ∧ 8 * t - k * W < 8 ∧ i = .int .i64 k ∧ at_ = .int .i64 t ∧ have_ = .int .i64 ((8 * t - k * W : Nat) : Int) ∧ left = .int .u32 ((valBe (l.take t) % 2 ^ 32 : Nat) : Int) ∧
        wr.ownsRow w'.heap.size 36 1 v k (vals .u32 (digL l W k)) ∧ Below w'.heap.size w' wr) (fun _ _ _ _ i _ => C - (intOf i).toNat)
    case atStart => exact ⟨0, 0, Nat.zero_le _, Nat.zero_le _, by omega, by omega, rfl, rfl, by simp, rfl, ho, hb⟩
    case round =>
      obtain ⟨k, t, hk, ht, hkt, hh8, rfl, rfl, rfl, rfl, how, hbr⟩ := hrel
      clear ho hb
      by_cases hlt : k < C
      · have hq : (k + 1) * W ≤ C * W := Nat.mul_le_mul_right W (by omega)
        rw [Nat.add_mul, Nat.one_mul] at hq
        have hPl : k * W + W ≤ 8 * l.length := by omega
        clear hq hCW
        generalize hP : k * W = P at *
        have HP := hide hP
        clear hP
        have hc0' := ha3.below hbr (Nat.le_refl _)
        go_wp2
        go_loop [8, 9, 10] (fun left have_ at_ => ∃ t : Nat, t ≤ l.length ∧ P ≤ 8 * t ∧ 8 * t - P < W + 8 ∧ at_ = .int .i64 t ∧ have_ = .int .i64 ((8 * t - P : Nat) : Int) ∧ left = .int .u32 ((valBe (l.take t) % 2 ^ 32 : Nat) : Int)) (fun _ h _ => (24 - intOf h).toNat)
        case atStart => exact ⟨t, ht, hkt, by omega, rfl, rfl, rfl⟩
        case round =>
          clear ht hkt hh8
          obtain ⟨t, ht, hkt, hh8, rfl, rfl, rfl⟩ := hrel
          by_cases hlt2 : 8 * t - P < W
          · have htl : t < l.length := by omega
            obtain ⟨ba, oa, rfl, hca⟩ := hc0' (by omega)
            have c1 := hca t htl
            have hx := el_lt ha4 (by decide) t
            clear hca
            have hL : valBe (l.take t) % 2 ^ 32 < 4294967296 := Nat.mod_lt _ (by decide)
            generalize hV : valBe (l.take t) % 2 ^ 32 = L at *
            have HV := hide hV
            clear hV
            go_wp2
            go_round
            case rel => exact ⟨t + 1, by omega, by omega, by omega, by go_num, vint (by omega), vint (by rw [take_snoc htl, valBe_snoc, ← step_left _ _ hx, HV.out, IntKind.wrap_u32'])⟩
            case measure => simp [intOf]; omega
          · have hL : valBe (l.take t) % 2 ^ 32 < 4294967296 := Nat.mod_lt _ (by decide)
            generalize hV : valBe (l.take t) % 2 ^ 32 = L at *
            have HV := hide hV
            clear hV
            obtain ⟨h, hh⟩ : ∃ h, 8 * t - P = h + W := ⟨8 * t - P - W, by omega⟩
            have hh' : h < 8 := by omega
            have hd : L / 2 ^ h < 4294967296 := Nat.lt_of_le_of_lt (Nat.div_le_self _ _) hL
            rw [hh]
            have HH := hide hh
            clear hh
            go_wp2_with fail
            rw [show ((L : Int) / 2 ^ h) = ((L / 2 ^ h : Nat) : Int) from by simp]
            refine (lowest_any _ W _ hd hW2).mono ?_
            rintro e w2 ⟨rfl, hw2⟩
            rw [hw2]
            clear hw2
            have hD : L / 2 ^ h % 2 ^ W = dig l W k := by
              have e1 := dig_read l ha4 W k t ht (by rw [Nat.add_mul, Nat.one_mul, HP.out]; have := HH.out; omega) (by rw [Nat.add_mul, Nat.one_mul, HP.out]; have := HH.out; omega)
              rw [← e1, HV.out, Nat.add_mul, Nat.one_mul, HP.out]
              congr 3
              have := HH.out; omega
            rw [hD]
            clear hD
            have hsz := hbr.size
            go_wp2_with (first | (at_builtin; refine wpList_append_own _ rfl _ _ 25 rfl w'.heap.size 36 i0 (.int .u32 0) 1 4 Try.underlying25 hi hz0 hz1 hz2 rfl (by decide) _ _ _ rfl (how.alloc _) ⟨wr.heap.size, 0, none⟩ 1 1 [.int .u32 (dig l W k)] rfl rfl (cells_new _ _ _) (one_new _ _) (by unfold maxLen; omega) (by omega) (by simp; omega) ?_; intro v' w3 how' hgrow _) | fail)
            have hb3 := below_append hbr hsz how _ hgrow
            clear how hgrow hbr
            go_roundw
            case rel =>
              refine ⟨k + 1, t, by omega, ht, ?_, ?_, by go_num, rfl, vint ?_, vint ?_, ?_, hb3⟩
              · rw [Nat.add_mul, Nat.one_mul, HP.out]; have := HH.out; omega
              · rw [Nat.add_mul, Nat.one_mul, HP.out]; have := HH.out; omega
              · rw [Nat.add_mul, Nat.one_mul, HP.out]; have := HH.out; omega
              · rw [HV.out]
              · rw [digL_succ, vals_append]; exact how'
            case measure => simp [intOf]; omega
      · go_wp2
        go_ret
        have e : k = C := by omega
        subst e
        exact ⟨_, rfl, ⟨by rw [digL_length]; exact how, digL_under _ _ _ hW2⟩, hbr⟩
end Go.Proofs.Ytnjiilnkobhibaa

/- Contracts of bits.Join, apostilleref01.Join. -/
namespace Go.Proofs.Ytnjiilnkobhibaa
open Go.RowKit
set_option linter.unusedVariables false

set_option maxHeartbeats 1000000 in
theorem join_any (va : Value) (ls : List (List Nat)) (w : World) (ha : Rows2 w va ls) (hs : ls.flatten.length ≤ 1000000) :
    Calls Try.prog 21 #[va] w fun e w' => ∃ v, e = .returned v ∧ Own 5 .u8 256 w' w.heap.size v ls.flatten ∧ Below w.heap.size w w' := by
  have hu := ha.under
  have ha' := ha
  obtain ⟨a, ca, rfl, ha1, ha2, ha3⟩ := ha
  unfold maxLen at ha2
  obtain ⟨i0, hi, hz0, hz1, hz2⟩ := info_parts Try.info5
  go_enter Try.func21, Try.ntmps21
  go_wp2
  go_loop [3, 11] (fun s i => ∃ k : Nat, k ≤ ls.length ∧ i = .int .i64 k ∧ s = .int .i64 ((ls.take k).flatten.length : Nat)) (fun _ i => ls.length - (intOf i).toNat)
  case atStart => exact ⟨0, Nat.zero_le _, rfl, rfl⟩
  case round =>
    obtain ⟨k, hk, rfl, rfl⟩ := hrel
    by_cases hlt : k < ls.length
    · have hf := flat_succ hlt
      have hle := flat_le ls (k + 1)
      rw [hf, List.length_append] at hle
      obtain ⟨b, off, rfl, hc⟩ := ha3 (by omega)
      obtain ⟨u, c1, ⟨au, cu, rfl, hu1, hu2, hu3, hu4⟩, htidy⟩ := hc k hlt
      clear hc ha3
      have HF := hide hf
      clear hf
      generalize hM : (ls.take k).flatten.length = M at *
      have HM := hide hM
      clear hM
      generalize hT : (tx ls k).length = T at *
      have HT := hide hT
      clear hT
      go_wp2
      go_round
      case rel => exact ⟨k + 1, by omega, by go_num, vint (by rw [HF.out, List.length_append, HM.out, HT.out]; simp)⟩
      case measure => simp [intOf]; omega
    · have hkl : k = ls.length := by omega
      subst hkl
      rw [List.take_of_length_le (Nat.le_refl _)]
      generalize hM : ls.flatten.length = M at *
      have HM := hide hM
      clear hM
      go_wp2_with fail
      refine (room8_any M _ (by omega)).mono ?_
      rintro e w1 ⟨v, rfl, ⟨ho, _⟩, hb⟩
      go_wp2
      go_loopw [6, 24] (fun v i wr => ∃ k : Nat, k ≤ ls.length ∧ i = .int .i64 k ∧ wr.ownsRow w.heap.size 5 1 v (ls.take k).flatten.length (vals .u8 (ls.take k).flatten) ∧ Below w.heap.size w wr) (fun _ i _ => ls.length - (intOf i).toNat)
      case atStart => exact ⟨0, Nat.zero_le _, rfl, ho, hb⟩
      case round =>
        obtain ⟨k, hk, rfl, how, hbr⟩ := hrel
        clear ho hb
        by_cases hlt : k < ls.length
        · have hf := flat_succ hlt
          have hle := flat_le ls (k + 1)
          rw [hf, List.length_append, HM.out] at hle
          obtain ⟨a2, ca2, he, _, _, h3⟩ := ha'.below hbr
          obtain ⟨rfl, rfl⟩ : a = a2 ∧ ca = ca2 := by simpa using he
          obtain ⟨b, off, rfl, hc⟩ := h3 (by omega)
          obtain ⟨u, c1, ⟨au, cu, rfl, hu1, hu2, hu3, hu4⟩, htidy⟩ := hc k hlt
          clear hc h3 he ha3
          have hsz := hbr.size
          have HF := hide hf
          clear hf
          generalize hM2 : (ls.take k).flatten = M2 at *
          have HM2 := hide hM2
          clear hM2
          generalize hT : tx ls k = T at *
          have HT := hide hT
          clear hT
          cases au with
          | none =>
            obtain ⟨h0, rfl⟩ := htidy _ _ rfl
            have hT0 : T = [] := List.eq_nil_of_length_eq_zero h0
            subst hT0
            go_wp2_with (first | (at_builtin; refine wpList_append_own_none rfl _ _ 22 rfl w.heap.size 5 i0 1 Try.underlying22 hi _ _ _ rfl how rfl ?_) | fail)
            go_roundw
            case rel => exact ⟨k + 1, by omega, by go_num, by rw [HF.out, List.append_nil]; exact how, hbr⟩
            case measure => simp [intOf]; omega
          | some x =>
            go_wp2_with (first | (at_builtin; refine wpList_append_own _ rfl _ _ 22 rfl w.heap.size 5 i0 (.int .u8 0) 1 1 Try.underlying22 hi hz0 hz1 hz2 rfl (by decide) _ _ _ rfl how x T.length cu (vals .u8 T) rfl (by rw [vals_length, Nat.mul_one]) (cells_news hu3) (vals_one _ _) (by unfold maxLen; omega) (by omega) hsz ?_; intro v' w3 how' hgrow _) | fail)
            have hb3 := below_append' hbr hsz how hgrow
            clear how hgrow hbr
            go_roundw
            case rel => exact ⟨k + 1, by omega, by go_num, by rw [HF.out, List.length_append, vals_append]; exact how', hb3⟩
            case measure => simp [intOf]; omega
        · go_wp2
          go_ret
          rw [List.take_of_length_le (by omega)] at how
          exact ⟨_, rfl, ⟨how, hu⟩, hbr⟩
end Go.Proofs.Ytnjiilnkobhibaa

/- Contract of sha.state.bytes at words of 32 bits. -/
namespace Go.Proofs.Ytnjiilnkobhibaa
open Go.RowKit
set_option linter.unusedVariables false
set_option linter.unusedSimpArgs false

end Go.Proofs.Ytnjiilnkobhibaa

/- sha.resume, of the words as a sum holds them. -/
namespace Go.Proofs.Ytnjiilnkobhibaa
open Go.RowKit
set_option linter.unusedVariables false
set_option linter.unusedSimpArgs false

theorem head_range32 {k : IntKind} {t : TypeId} {w : World} {g : Nat} {l c : List Nat} (h : Lies k t w g (l ++ c)) : w.rangeAt g 0 (vals k l) := fun j v hv => by
  have hj : j < l.length := by have := (List.getElem?_eq_some_iff.1 hv).1; rwa [vals_length] at this
  rw [Nat.zero_add, h.cell (by rw [List.length_append]; omega), el_app_left hj, ← vals_get k l j hj]; exact hv
end Go.Proofs.Ytnjiilnkobhibaa

/- Contract of sha.finish at words of 32 bits. -/
namespace Go.Proofs.Ytnjiilnkobhibaa
open Go.RowKit
set_option linter.unusedVariables false
set_option linter.unusedSimpArgs false

theorem room_le32 (n : Nat) : 8 ≤ room false n ∧ room false n ≤ 128 := by
  unfold room
  have e : bz false = 64 := rfl
  rw [e]
  split <;> omega
theorem room_mod32 (n : Nat) : room false (n % 64) = room false n := by
  unfold room
  have e : bz false = 64 := rfl
  rw [e, Nat.mod_mod]
theorem endS_is32 (ws l : List Nat) (size n : Nat) : (bytesW false (eat false (eat false ws l) (left false l ++ fill false l.length size))).take n = endS false ws l size n := by
  unfold endS
  rw [eat_parts false ws l (fill false l.length size)]
end Go.Proofs.Ytnjiilnkobhibaa

/- Contract of sha.sum.mix at words of 64 bits. -/
namespace Go.Proofs.Ytnjiilnkobhibaa
open Go.RowKit
set_option linter.unusedVariables false
set_option linter.unusedSimpArgs false

end Go.Proofs.Ytnjiilnkobhibaa
