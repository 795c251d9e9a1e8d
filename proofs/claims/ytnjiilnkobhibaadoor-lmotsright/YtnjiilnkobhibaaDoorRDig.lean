/- Contract of apostilleref01.Digits. -/
import Derived.Test.YtnjiilnkobhibaaDoorBitm
namespace Go.Proofs.YtnjiilnkobhibaaDoor
open Go.RowKit
set_option linter.unusedVariables false

/-- a bit of a byte -/
theorem bit_and (x s : Nat) (hx : x < 256) : bits .and .u8 ((x : Int) / 2 ^ s) 1 = ((x / 2 ^ s % 2 : Nat) : Int) := by
  have h1 : x / 2 ^ s < 256 := Nat.lt_of_le_of_lt (Nat.div_le_self _ _) hx
  rw [show ((x : Int) / 2 ^ s) = ((x / 2 ^ s : Nat) : Int) from by simp, show (1 : Int) = ((1 : Nat) : Int) from rfl, u8_and_nat _ 1 h1 (by decide), nat_mask1]

set_option maxHeartbeats 1000000 in
theorem rdig_any (va : Value) (l : List Nat) (x c : Int) (w : World) (ha : Row .u8 256 w va l) (hl : l.length ≤ 1000000) :
    Calls Tryd.prog 44 #[va, .int .i64 x, .int .i64 c] w fun e w' => ∃ v, e = .returned v ∧ Own 23 .u32 4294967296 w' w.heap.size v (digS l x c) ∧ Below w.heap.size w w' := by
  have ha' := ha
  obtain ⟨a, ca, rfl, ha1, ha2, ha3, ha4⟩ := ha
  unfold maxLen at ha2
  cases hok : okB l.length x c with
  | false =>
    have hS : digS l x c = [] := by unfold digS; rw [if_neg (by rw [hok]; decide)]
    rw [hS]; clear hS
    go_enter Tryd.func44, Tryd.ntmps44
    go_wp2_with (go_at_call 53; refine (such_any _ l x c _ ha' (by omega)).mono ?_; rintro e w' ⟨rfl, rfl⟩)
    go_ret
    exact ⟨_, rfl, dig_nil _ _ _ _ _, Below.refl _ _⟩
  | true =>
    have hS : digS l x c = digL l x.toNat c.toNat := by unfold digS; rw [if_pos hok]
    rw [hS]; clear hS
    obtain ⟨W, C, rfl, rfl, hW1, hW2, hCW⟩ := okB_of hok
    rw [Int.toNat_natCast, Int.toNat_natCast]
    have hC : C ≤ 8000000 := by
      have : C * 1 ≤ C * W := Nat.mul_le_mul_left C hW1
      omega
    obtain ⟨i0, hi, hz0, hz1, hz2⟩ := info_parts Tryd.info23
    go_enter Tryd.func44, Tryd.ntmps44
    go_wp2_with fail
    refine (such_any _ l W C _ ha' (by omega)).mono ?_
    rintro e w' ⟨rfl, hw'⟩
    rw [hw', hok]
    clear hok hw'
    go_wp2
    go_loopw [7, 8] (fun v i wr => ∃ k : Nat, k ≤ C ∧ i = .int .i64 k ∧
        wr.ownsRow w.heap.size 23 1 v k (vals .u32 (digL l W k)) ∧ Below w.heap.size w wr) (fun _ i _ => C - (intOf i).toNat)
    case atStart => exact ⟨0, Nat.zero_le _, rfl, World.ownsRow_nil _ _ _ _, Below.refl _ _⟩
    case round =>
      obtain ⟨k, hk, rfl, how, hbr⟩ := hrel
      by_cases hlt : k < C
      · have hq : (k + 1) * W ≤ C * W := Nat.mul_le_mul_right W (by omega)
        rw [Nat.add_mul, Nat.one_mul] at hq
        have hPl : k * W + W ≤ 8 * l.length := by omega
        clear hq hCW
        have hPl' : (k : Int) * (W : Int) + W ≤ 8 * l.length := by
          have : ((k * W : Nat) : Int) = (k : Int) * W := by simp
          omega
        have hP0 : 0 ≤ (k : Int) * (W : Int) := Int.mul_nonneg (by omega) (by omega)
        have hc0' := ha3.below hbr (Nat.le_refl _)
        go_wp2
        go_loop [9, 10] (fun n j => ∃ t : Nat, t ≤ W ∧ j = .int .i64 t ∧ n = .int .u32 (digTo l W k t : Nat)) (fun _ j => W - (intOf j).toNat)
        case atStart => exact ⟨0, Nat.zero_le _, rfl, by rw [digTo_zero]; rfl⟩
        case round =>
          obtain ⟨t, ht, rfl, rfl⟩ := hrel
          by_cases hlt2 : t < W
          · have hpl : k * W + t < 8 * l.length := by omega
            obtain ⟨ba, oa, rfl, hca⟩ := hc0' (by omega)
            have c1 := hca ((k * W + t) / 8) (by omega)
            have hx := el_lt ha4 (by decide) ((k * W + t) / 8)
            clear hca
            have hN := digTo_lt l W k t
            have hN2 : digTo l W k t < 16777216 := by
              have := Nat.pow_le_pow_right (show 0 < 2 by decide) (show t ≤ 24 by omega)
              have e : (2 : Nat) ^ 24 = 16777216 := by decide
              omega
            clear hN
            go_wp2
            go_round
            case rel =>
              refine ⟨t + 1, by omega, by go_num, vint ?_⟩
              have hs := digTo_succ l ha4 W k t hpl
              rw [bit_and _ _ hx, ← hs]
              have h2 : el l ((k * W + t) / 8) / 2 ^ (7 - (k * W + t) % 8) % 2 < 2 := Nat.mod_lt _ (by decide)
              generalize el l ((k * W + t) / 8) / 2 ^ (7 - (k * W + t) % 8) % 2 = b at *
              omega
            case measure => simp [intOf]; omega
          · have e : t = W := by omega
            subst e
            rw [digTo_full]
            have hsz := hbr.size
            generalize hD : dig l t k = D at *
            have HD := hide hD
            clear hD
            go_wp2_with (first | (at_builtin; refine wpList_append_own _ rfl _ _ 41 rfl w.heap.size 23 i0 (.int .u32 0) 1 4 Tryd.underlying41 hi hz0 hz1 hz2 rfl (by decide) _ _ _ rfl (how.alloc _) ⟨wr.heap.size, 0, none⟩ 1 1 [.int .u32 D] rfl rfl (cells_new _ _ _) (one_new _ _) (by unfold maxLen; omega) (by omega) (by simp; omega) ?_; intro v' w3 how' hgrow _) | fail)
            have hb3 := below_append hbr hsz how _ hgrow
            clear how hgrow hbr
            go_roundw
            case rel => exact ⟨k + 1, by omega, by go_num, by rw [digL_succ, vals_append, HD.out]; exact how', hb3⟩
            case measure => simp [intOf]; omega
      · go_wp2
        go_ret
        have e : k = C := by omega
        subst e
        exact ⟨_, rfl, ⟨by rw [digL_length]; exact how, digL_under _ _ _ hW2⟩, hbr⟩
end Go.Proofs.YtnjiilnkobhibaaDoor
