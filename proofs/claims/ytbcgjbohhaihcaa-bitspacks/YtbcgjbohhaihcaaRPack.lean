/- Contract of apostilleref01.Pack. -/
import Derived.Test.YtbcgjbohhaihcaaPack
import Derived.RegionTactic
import Derived.BigRegion
namespace Go.Proofs.Ytbcgjbohhaihcaa
open Go.RowKit
set_option linter.unusedVariables false

theorem leL_el (V N i : Nat) (h : i < N) : el (leL V N) i = V / 256 ^ i % 256 := by
  rw [el_at (by rw [leL_length]; exact h)]; simp [leL]

/-- the byte at which the next bit goes holds no bit from there on -/
theorem low_byte (V p N : Nat) (h : p / 8 < N) : el (leL (V % 2 ^ p) N) (p / 8) < 2 ^ (p % 8) ∧ el (leL (V % 2 ^ p) N) (p / 8) = V % 2 ^ p / 2 ^ (8 * (p / 8)) := by
  rw [leL_el _ _ _ h, p256]
  have h1 : V % 2 ^ p / 2 ^ (8 * (p / 8)) < 2 ^ (p % 8) :=
    div_lt_pow _ _ _ (by rw [show 8 * (p / 8) + p % 8 = p by omega]; exact Nat.mod_lt _ (pp p))
  have h2 : 2 ^ (p % 8) ≤ 2 ^ 7 := Nat.pow_le_pow_right (by decide) (by omega)
  have h3 : (2 : Nat) ^ 7 = 128 := by decide
  rw [Nat.mod_eq_of_lt (by omega)]
  exact ⟨h1, rfl⟩

theorem set_bit (V p N : Nat) (h : p / 8 < N) :
    (leL (V % 2 ^ p) N).set (p / 8) (el (leL (V % 2 ^ p) N) (p / 8) + 2 ^ (p % 8) * (V / 2 ^ p % 2)) = leL (V % 2 ^ (p + 1)) N := by
  obtain ⟨hlt, hel⟩ := low_byte V p N h
  have hb : V / 2 ^ p % 2 < 2 := Nat.mod_lt _ (by decide)
  have hA : V % 2 ^ p < 2 ^ p := Nat.mod_lt _ (pp p)
  have hmt := mod_top V p
  generalize hB : V / 2 ^ p % 2 = B at *
  generalize V % 2 ^ p = A at *
  apply List.ext_getElem
  · simp [leL]
  · intro i h1 h2
    have hi : i < N := by simpa [leL] using h2
    simp only [List.getElem_set]
    have e2 : (leL (V % 2 ^ (p + 1)) N)[i] = (A + 2 ^ p * B) / 2 ^ (8 * i) % 256 := by simp [leL, hmt, p256]
    have e3 : (leL A N)[i]'(by rw [leL_length]; exact hi) = A / 2 ^ (8 * i) % 256 := by simp [leL, p256]
    rw [e2]
    by_cases e : p / 8 = i
    · rw [if_pos e, hel]
      subst e
      rw [add_high_div A B p (8 * (p / 8)) (by omega), show p - 8 * (p / 8) = p % 8 by omega]
      have h5 : 2 ^ (p % 8) ≤ 2 ^ 7 := Nat.pow_le_pow_right (by decide) (by omega)
      have h6 : (2 : Nat) ^ 7 = 128 := by decide
      have h7 : 2 ^ (p % 8) * B ≤ 2 ^ (p % 8) * 1 := Nat.mul_le_mul_left _ (by omega)
      rw [hel] at hlt
      exact (Nat.mod_eq_of_lt (by omega)).symm
    · rw [if_neg e, e3]
      by_cases e4 : i < p / 8
      · exact (add_high_mod A B p (8 * i) 8 (by omega)).symm
      · have h8 : A + 2 ^ p * B < 2 ^ (p + 1) := by
          have h7 : 2 ^ p * B ≤ 2 ^ p * 1 := Nat.mul_le_mul_left _ (by omega)
          rw [Nat.pow_succ]; omega
        have h9 : 2 ^ (p + 1) ≤ 2 ^ (8 * i) := Nat.pow_le_pow_right (by decide) (by omega)
        rw [Nat.div_eq_of_lt (by omega), Nat.div_eq_of_lt (by omega)]

theorem valP_bit (W : Nat) (l : List Nat) (k t : Nat) (hk : k < l.length) (ht : t < W) : valP W l / 2 ^ (k * W + t) % 2 = el l k / 2 ^ t % 2 := by
  have e := valP_append W (l.take k) (l.drop k)
  rw [List.take_append_drop, List.length_take_of_le (by omega)] at e
  have hd : l.drop k = el l k :: l.drop (k + 1) := by rw [el_at hk]; exact List.drop_eq_getElem_cons hk
  rw [e, hd]
  have hlt := valP_lt W (l.take k)
  rw [List.length_take_of_le (by omega)] at hlt
  rw [← div_div_pow, Nat.add_mul_div_left _ _ (pp _), Nat.div_eq_of_lt hlt, Nat.zero_add]
  simp only [valP]
  have h1 := add_high_mod (el l k % 2 ^ W) (valP W (l.drop (k + 1))) W t 1 (by omega)
  have h2 := mod_div_mod (el l k) W t 1 (by omega)
  rw [show (2 : Nat) ^ 1 = 2 from rfl] at h1 h2
  rw [h1, h2]

theorem bit_and32 (x s : Nat) (hx : x < 4294967296) : bits .and .u32 ((x : Int) / 2 ^ s) 1 = ((x / 2 ^ s % 2 : Nat) : Int) := by
  have h1 : x / 2 ^ s < 4294967296 := Nat.lt_of_le_of_lt (Nat.div_le_self _ _) hx
  rw [show ((x : Int) / 2 ^ s) = ((x / 2 ^ s : Nat) : Int) from by simp, show (1 : Int) = ((1 : Nat) : Int) from rfl, u32_and_nat _ 1 h1 (by decide), nat_mask1]

theorem or_bit (a b s : Nat) (ha : a < 2 ^ s) (hb : b < 2) (hs : s < 8) : bits .or .u8 (a : Int) ((b : Int) * 2 ^ s % 256) = ((a + 2 ^ s * b : Nat) : Int) := by
  have h5 : 2 ^ s ≤ 2 ^ 7 := Nat.pow_le_pow_right (by decide) (by omega)
  have h6 : (2 : Nat) ^ 7 = 128 := by decide
  have h7 : 2 ^ s * b ≤ 2 ^ s * 1 := Nat.mul_le_mul_left _ (by omega)
  have e : ((b : Int) * 2 ^ s % 256) = ((2 ^ s * b : Nat) : Int) := by
    have e3 : ((b : Int) * 2 ^ s) = ((2 ^ s * b : Nat) : Int) := by
      rw [Int.natCast_mul, Int.mul_comm, Int.natCast_pow]; rfl
    rw [e3]; omega
  rw [e, u8_or_nat _ _ (by omega) (by omega), Nat.or_comm, nat_join s _ _ (Nat.mul_mod_right _ _) ha, Nat.add_comm]

theorem or_bit' (a x t s : Nat) (hx : x < 4294967296) (ha : a < 2 ^ s) (hs : s < 8) :
    bits .or .u8 (a : Int) (bits .and .u32 ((x : Int) / 2 ^ t) 1 % 256 * 2 ^ s % 256) = ((a + 2 ^ s * (x / 2 ^ t % 2) : Nat) : Int) := by
  have hb : x / 2 ^ t % 2 < 2 := Nat.mod_lt _ (by decide)
  rw [bit_and32 x t hx, ← or_bit a _ s ha hb hs]
  congr 3
  omega

set_option maxHeartbeats 2000000 in
theorem rpack_any (va : Value) (l : List Nat) (x : Int) (w : World) (ha : Row .u32 4294967296 w va l) (hl : l.length ≤ 1000000) :
    Calls Try.prog 27 #[va, .int .i64 x] w fun e w' => ∃ v, e = .returned v ∧ Own 5 .u8 256 w' w.heap.size v (packS l x) ∧ Below w.heap.size w w' := by
  obtain ⟨a, ca, rfl, ha1, ha2, ha3, ha4⟩ := ha
  unfold maxLen at ha2
  by_cases h1 : x < 1
  · have hS : packS l x = [] := by unfold packS; rw [if_neg (by omega)]
    rw [hS]; clear hS
    go_enter Try.func27, Try.ntmps27
    go_wp2
    go_ret
    exact ⟨_, rfl, own_nil _ _ _ _ _, Below.refl _ _⟩
  by_cases h2 : 24 < x
  · have hS : packS l x = [] := by unfold packS; rw [if_neg (by omega)]
    rw [hS]; clear hS
    go_enter Try.func27, Try.ntmps27
    go_wp2
    go_ret
    exact ⟨_, rfl, own_nil _ _ _ _ _, Below.refl _ _⟩
  have hS : packS l x = packL l x.toNat := by unfold packS; rw [if_pos (by omega)]
  rw [hS]; clear hS
  obtain ⟨W, rfl⟩ := Int.eq_ofNat_of_zero_le (show 0 ≤ x by omega)
  rw [Int.toNat_natCast]
  have hW1 : 1 ≤ W := by omega
  have hW2 : W ≤ 24 := by omega
  clear h1 h2
  have hlW : l.length * W ≤ 1000000 * 24 := Nat.mul_le_mul hl hW2
  have hI0 : 0 ≤ (l.length : Int) * (W : Int) := Int.mul_nonneg (by omega) (by omega)
  have hI1 : (l.length : Int) * (W : Int) ≤ 24000000 := by
    have : ((l.length * W : Nat) : Int) = (l.length : Int) * W := by simp
    omega
  obtain ⟨N, hN⟩ : ∃ N, (l.length * W + 7) / 8 = N := ⟨_, rfl⟩
  have hN' : ((l.length : Int) * W + 7) / 8 = (N : Int) := by rw [← hN]; simp
  have hpk : packL l W = leL (valP W l) N := by unfold packL; rw [hN]
  rw [hpk]
  have HN := hide hN
  have HN' := hide hN'
  have hNb : N ≤ 3000001 := by omega
  clear hN hN' hpk
  obtain ⟨i0, hi, hz0, hz1, hz2⟩ := info_parts Try.info5
  go_enter Try.func27, Try.ntmps27
  have hW1' : ¬ (W : Int) < 1 := by omega
  have hW2' : ¬ (24 : Int) < (W : Int) := by omega
  go_wp2_with (first | (at_make; refine wpList_make_full _ rfl _ _ 23 rfl w.heap.size 5 i0 (.int .u8 0) 1 Try.underlying23 hi hz0 hz1 _ _ _ _ N rfl rfl HN'.out HN'.out (by rw [hz2]; omega) (by unfold maxLen; omega) (Nat.le_refl _) ?_; intro w1 hown hgrow) | fail)
  rw [made_u8] at hown
  have hb := (Below.refl w.heap.size w).grown hgrow (Nat.le_refl _) (fun k h => by cases h)
  clear hgrow
  have hzero : leL (valP W l % 2 ^ (0 * W)) N = List.replicate N 0 := by
    apply List.ext_getElem
    · simp [leL]
    · intro i h1 h2
      simp [leL, Nat.mod_one]
  rw [← hzero] at hown
  clear hzero
  generalize hV : valP W l = V at *
  have HV := hide hV
  clear hV
  go_loopw [6] (fun i wr => ∃ k : Nat, k ≤ l.length ∧ i = .int .i64 k ∧ wr.ownsRow w.heap.size 5 1 (.slice (some ⟨w.heap.size, 0, none⟩) N N) N (vals .u8 (leL (V % 2 ^ (k * W)) N)) ∧ Below w.heap.size w wr) (fun i _ => l.length - (intOf i).toNat)
  case atStart => exact ⟨0, Nat.zero_le _, rfl, hown, hb⟩
  case round =>
    obtain ⟨k, hk, rfl, how, hbr⟩ := hrel
    clear hown hb
    by_cases hlt : k < l.length
    · have hq : (k + 1) * W ≤ l.length * W := Nat.mul_le_mul_right W (by omega)
      rw [Nat.add_mul, Nat.one_mul] at hq
      have hPl : k * W + W ≤ 8 * N := by have := HN.out; omega
      clear hq
      have hPl' : (k : Int) * (W : Int) + W ≤ 24000010 := by
        have : ((k * W : Nat) : Int) = (k : Int) * W := by simp
        omega
      have hP0 : 0 ≤ (k : Int) * (W : Int) := Int.mul_nonneg (by omega) (by omega)
      go_wp2
      go_loopw [7] (fun j wr => ∃ t : Nat, t ≤ W ∧ j = .int .i64 t ∧ wr.ownsRow w.heap.size 5 1 (.slice (some ⟨w.heap.size, 0, none⟩) N N) N (vals .u8 (leL (V % 2 ^ (k * W + t)) N)) ∧ Below w.heap.size w wr) (fun j _ => W - (intOf j).toNat)
      case atStart => exact ⟨0, Nat.zero_le _, rfl, how, hbr⟩
      case round =>
        clear how hbr
        obtain ⟨t, ht, rfl, how, hbr⟩ := hrel
        by_cases hlt2 : t < W
        · obtain ⟨p, hp⟩ : ∃ p, k * W + t = p := ⟨_, rfl⟩
          have hp' : (k : Int) * (W : Int) + (t : Int) = (p : Int) := by rw [← hp]; simp
          have hp8 : p / 8 < N := by omega
          have hpb : p ≤ 24000010 := by omega
          have hvb := valP_bit W l k t hlt hlt2
          rw [HV.out, hp] at hvb
          rw [hp] at how
          have HP := hide hp
          have HP' := hide hp'
          have HVB := hide hvb
          clear hp hp' hvb
          obtain ⟨ba, oa, rfl, hca⟩ := ha3.below hbr (Nat.le_refl _) (by omega)
          have c1 := hca k hlt
          have hx := el_lt ha4 (by decide) k
          clear hca
          have c2 := how.cellAt (p / 8) (by omega)
          rw [vals_get _ _ _ (by rw [leL_length]; exact hp8)] at c2
          have f2 := how.frozenAt (p / 8)
          have hlow := (low_byte V p N hp8).1
          have hst := set_bit V p N hp8
          have hold := el_lt (leL_under (V % 2 ^ p) N) (by decide) (p / 8)
          generalize hO : el (leL (V % 2 ^ p) N) (p / 8) = O at *
          have HLOW := hide hlow
          have HST := hide hst
          clear hlow hst hO
          go_wp2
          rw [HP'.out]
          go_region
          rw [or_bit' O (el l k) t (p % 8) hx HLOW.out (by omega), ← HVB.out]
          have st := (how.stored (p / 8) (.int .u8 ((O + 2 ^ (p % 8) * (V / 2 ^ p % 2) : Nat) : Int))).1
          rw [vals_set, HST.out] at st
          have b2 := (hbr.setCell (p := ⟨w.heap.size, p / 8, none⟩) (by simp) (.int .u8 ((O + 2 ^ (p % 8) * (V / 2 ^ p % 2) : Nat) : Int))).drew
          clear how hbr c1 c2 f2
          generalize hnb : O + 2 ^ (p % 8) * (V / 2 ^ p % 2) = nb at *
          clear hnb
          go_wp2
          go_roundw
          case rel => exact ⟨t + 1, by omega, by go_num, by rw [← Nat.add_assoc, HP.out]; exact st, b2⟩
          case measure => simp [intOf]; omega
        · go_wp2
          go_roundw
          case rel => exact ⟨k + 1, by omega, by go_num, by rw [Nat.add_mul, Nat.one_mul, show W = t by omega]; rw [show W = t by omega] at how; exact how, hbr⟩
          case measure => simp [intOf]; omega
    · go_wp2
      go_ret
      have e : V % 2 ^ (k * W) = V := by
        have hv := valP_lt W l
        rw [HV.out] at hv
        rw [show k = l.length by omega]
        exact Nat.mod_eq_of_lt hv
      rw [e] at how
      exact ⟨_, rfl, ⟨by rw [leL_length, HV.out]; exact how, leL_under _ _⟩, hbr⟩
end Go.Proofs.Ytbcgjbohhaihcaa
