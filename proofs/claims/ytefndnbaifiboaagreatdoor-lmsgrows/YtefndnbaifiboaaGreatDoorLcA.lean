/- Leaves that sign once, the program's own: kindOf, and a kind's code, size, top. -/
import Derived.Test.YtefndnbaifiboaaGreatDoorLmR
import Derived.Test.YtefndnbaifiboaaGreatDoorApO
import Derived.Test.YtefndnbaifiboaaGreatDoorPgF
import Derived.Test.YtefndnbaifiboaaGreatDoorBitm
namespace Go.Proofs.YtefndnbaifiboaaGreatDoor
open Go.RowKit
set_option linter.unusedVariables false
set_option linter.unusedSimpArgs false

set_option maxHeartbeats 2000000 in
set_option maxRecDepth 100000 in
theorem ckind_no (x : Int) (w : World) (h : NoK x) : Calls Tryz.prog 91 #[.int .i64 x] w fun e w' => e = .returned (.tuple #[.agg #[.int .i64 0, .int .i64 0, .int .i64 0, .int .u64 0], .int .i64 9]) ∧ Below w.heap.size w w' := by
  obtain ⟨h1, h2, h4, h8⟩ := h
  go_enter Tryz.func91, Tryz.ntmps91
  go_wp2
  refine bodyPost_ret (v := .tuple #[.agg #[.int .i64 0, .int .i64 0, .int .i64 0, .int .u64 0], .int .i64 9]) (by simp [results, Tryz.results91, go_sem]) rfl ⟨rfl, ?_⟩
  exact keep_alloc _ _
set_option maxHeartbeats 2000000 in
set_option maxRecDepth 100000 in
theorem ckind_1 (w : World) : Calls Tryz.prog 91 #[.int .i64 1] w fun e w' => e = .returned (.tuple #[.agg #[.int .i64 1, .int .i64 265, .int .i64 7, .int .u64 1], .int .i64 0]) ∧ Below w.heap.size w w' := by
  go_enter Tryz.func91, Tryz.ntmps91
  go_wp2
  refine bodyPost_ret (v := .tuple #[.agg #[.int .i64 1, .int .i64 265, .int .i64 7, .int .u64 1], .int .i64 0]) (by simp [results, Tryz.results91, go_sem]) rfl ⟨rfl, ?_⟩
  exact keep_alloc _ _
set_option maxHeartbeats 2000000 in
set_option maxRecDepth 100000 in
theorem ckind_2 (w : World) : Calls Tryz.prog 91 #[.int .i64 2] w fun e w' => e = .returned (.tuple #[.agg #[.int .i64 2, .int .i64 133, .int .i64 6, .int .u64 2], .int .i64 0]) ∧ Below w.heap.size w w' := by
  go_enter Tryz.func91, Tryz.ntmps91
  go_wp2
  refine bodyPost_ret (v := .tuple #[.agg #[.int .i64 2, .int .i64 133, .int .i64 6, .int .u64 2], .int .i64 0]) (by simp [results, Tryz.results91, go_sem]) rfl ⟨rfl, ?_⟩
  exact keep_alloc _ _
set_option maxHeartbeats 2000000 in
set_option maxRecDepth 100000 in
theorem ckind_4 (w : World) : Calls Tryz.prog 91 #[.int .i64 4] w fun e w' => e = .returned (.tuple #[.agg #[.int .i64 4, .int .i64 67, .int .i64 4, .int .u64 3], .int .i64 0]) ∧ Below w.heap.size w w' := by
  go_enter Tryz.func91, Tryz.ntmps91
  go_wp2
  refine bodyPost_ret (v := .tuple #[.agg #[.int .i64 4, .int .i64 67, .int .i64 4, .int .u64 3], .int .i64 0]) (by simp [results, Tryz.results91, go_sem]) rfl ⟨rfl, ?_⟩
  exact keep_alloc _ _
set_option maxHeartbeats 2000000 in
set_option maxRecDepth 100000 in
theorem ckind_8 (w : World) : Calls Tryz.prog 91 #[.int .i64 8] w fun e w' => e = .returned (.tuple #[.agg #[.int .i64 8, .int .i64 34, .int .i64 0, .int .u64 4], .int .i64 0]) ∧ Below w.heap.size w w' := by
  go_enter Tryz.func91, Tryz.ntmps91
  go_wp2
  refine bodyPost_ret (v := .tuple #[.agg #[.int .i64 8, .int .i64 34, .int .i64 0, .int .u64 4], .int .i64 0]) (by simp [results, Tryz.results91, go_sem]) rfl ⟨rfl, ?_⟩
  exact keep_alloc _ _
theorem ckind_ok {k n m s c P : Nat} (h : Kd k n m s c) (hP : P = n + m) (w : World) : Calls Tryz.prog 91 #[.int .i64 (k : Int)] w fun e w' => e = .returned (.tuple #[.agg #[.int .i64 (k : Int), .int .i64 (P : Int), .int .i64 (s : Int), .int .u64 (c : Int)], .int .i64 0]) ∧ Below w.heap.size w w' := by
  subst hP
  cases h
  · exact ckind_1 w
  · exact ckind_2 w
  · exact ckind_4 w
  · exact ckind_8 w
set_option maxHeartbeats 2000000 in
set_option maxRecDepth 100000 in
theorem ksize_any (k P s c : Nat) (w : World) (hP : P ≤ 1000) : Calls Tryz.prog 77 #[.agg #[.int .i64 (k : Int), .int .i64 (P : Int), .int .i64 (s : Int), .int .u64 (c : Int)]] w fun e w' => e = .returned (.int .i64 ((36 + 32 * P : Nat) : Int)) ∧ Below w.heap.size w w' := by
  obtain ⟨A, hA⟩ : ∃ A : Nat, A = 32 * P := ⟨_, rfl⟩
  obtain ⟨B, hB⟩ : ∃ B : Nat, B = 36 + A := ⟨_, rfl⟩
  have e_A : (P : Int) * 32 = (A : Int) := by omega
  have s_A : IntKind.i64.wrap (A : Int) = (A : Int) := by rw [IntKind.wrap_i64]; omega
  have e_B : (36 : Int) + (A : Int) = (B : Int) := by omega
  have s_B : IntKind.i64.wrap (B : Int) = (B : Int) := by rw [IntKind.wrap_i64]; omega
  rw [← hA, ← hB]
  clear hA hB hP
  go_enter Tryz.func77, Tryz.ntmps77
  go_wp2
  go_ret
  exact ⟨rfl, keep_alloc _ _⟩
theorem cbe2 (a : Nat) (w : World) (ha : a < 18446744073709551616) : Calls Tryz.prog 31 #[.int .u64 (a : Int), .int .i64 2] w fun e w' => ∃ v, e = .returned v ∧ Own 5 .u8 256 w' w.heap.size v (be2 a) ∧ Below w.heap.size w w' := by
  have := be_any a 2 w ha (by decide) (by decide)
  rw [leS_2] at this
  exact this
theorem cbe4 (a : Nat) (w : World) (ha : a < 18446744073709551616) : Calls Tryz.prog 31 #[.int .u64 (a : Int), .int .i64 4] w fun e w' => ∃ v, e = .returned v ∧ Own 5 .u8 256 w' w.heap.size v (be4 a) ∧ Below w.heap.size w w' := by
  have := be_any a 4 w ha (by decide) (by decide)
  rw [leS_4] at this
  exact this
theorem leS_1b (n : Nat) (h : n < 256) : (leS n 1).reverse = [n] := by
  unfold leS
  rw [if_neg (by decide)]
  show (leL n 1).reverse = [n]
  simp [leL]
  omega
theorem cbe1 (a : Nat) (w : World) (ha : a < 256) : Calls Tryz.prog 31 #[.int .u64 (a : Int), .int .i64 1] w fun e w' => ∃ v, e = .returned v ∧ Own 5 .u8 256 w' w.heap.size v [a] ∧ Below w.heap.size w w' := by
  have := be_any a 1 w (by omega) (by decide) (by decide)
  rw [leS_1b a ha] at this
  exact this
set_option maxHeartbeats 2000000 in
set_option maxRecDepth 100000 in
theorem kcode_any (k P s c : Nat) (w : World) (hc : c < 18446744073709551616) : Calls Tryz.prog 65 #[.agg #[.int .i64 (k : Int), .int .i64 (P : Int), .int .i64 (s : Int), .int .u64 (c : Int)]] w fun e w' => ∃ v, e = .returned v ∧ Own 5 .u8 256 w' w.heap.size v (be4 c) ∧ Below w.heap.size w w' := by
  have h4 := fun y => cbe4 c y hc
  go_enter Tryz.func65, Tryz.ntmps65
  go_wp2_with (first
    | (go_at_call 31; refine (h4 _).mono ?_; rintro e w1 ⟨v1, rfl, o1, hb1⟩)
    | fail)
  go_ret
  exact ⟨_, rfl, o1.mono (keep_alloc _ _).size, keep_trans (keep_alloc _ _) hb1⟩
set_option maxHeartbeats 2000000 in
set_option maxRecDepth 100000 in
theorem ktop_1 (P s c : Nat) (w : World) : Calls Tryz.prog 78 #[.agg #[.int .i64 1, .int .i64 (P : Int), .int .i64 (s : Int), .int .u64 (c : Int)]] w fun e w' => e = .returned (.int .u32 1) ∧ Below w.heap.size w w' := by
  go_enter Tryz.func78, Tryz.ntmps78
  go_wp2
  go_ret
  exact ⟨rfl, keep_alloc _ _⟩
set_option maxHeartbeats 2000000 in
set_option maxRecDepth 100000 in
theorem ktop_2 (P s c : Nat) (w : World) : Calls Tryz.prog 78 #[.agg #[.int .i64 2, .int .i64 (P : Int), .int .i64 (s : Int), .int .u64 (c : Int)]] w fun e w' => e = .returned (.int .u32 3) ∧ Below w.heap.size w w' := by
  go_enter Tryz.func78, Tryz.ntmps78
  go_wp2
  go_ret
  exact ⟨rfl, keep_alloc _ _⟩
set_option maxHeartbeats 2000000 in
set_option maxRecDepth 100000 in
theorem ktop_4 (P s c : Nat) (w : World) : Calls Tryz.prog 78 #[.agg #[.int .i64 4, .int .i64 (P : Int), .int .i64 (s : Int), .int .u64 (c : Int)]] w fun e w' => e = .returned (.int .u32 15) ∧ Below w.heap.size w w' := by
  go_enter Tryz.func78, Tryz.ntmps78
  go_wp2
  go_ret
  exact ⟨rfl, keep_alloc _ _⟩
set_option maxHeartbeats 2000000 in
set_option maxRecDepth 100000 in
theorem ktop_8 (P s c : Nat) (w : World) : Calls Tryz.prog 78 #[.agg #[.int .i64 8, .int .i64 (P : Int), .int .i64 (s : Int), .int .u64 (c : Int)]] w fun e w' => e = .returned (.int .u32 255) ∧ Below w.heap.size w w' := by
  go_enter Tryz.func78, Tryz.ntmps78
  go_wp2
  go_ret
  exact ⟨rfl, keep_alloc _ _⟩
theorem ktop_ok {k n m s c P : Nat} (h : Kd k n m s c) (hP : P = n + m) (w : World) : Calls Tryz.prog 78 #[.agg #[.int .i64 (k : Int), .int .i64 (P : Int), .int .i64 (s : Int), .int .u64 (c : Int)]] w fun e w' => e = .returned (.int .u32 ((2 ^ k - 1 : Nat) : Int)) ∧ Below w.heap.size w w' := by
  cases h
  · exact ktop_1 P 7 1 w
  · exact ktop_2 P 6 2 w
  · exact ktop_4 P 4 3 w
  · exact ktop_8 P 0 4 w
end Go.Proofs.YtefndnbaifiboaaGreatDoor

/- Contract of apostilleref01.Digits. -/
namespace Go.Proofs.YtefndnbaifiboaaGreatDoor
open Go.RowKit
set_option linter.unusedVariables false

/-- a bit of a byte -/
theorem bit_and (x s : Nat) (hx : x < 256) : bits .and .u8 ((x : Int) / 2 ^ s) 1 = ((x / 2 ^ s % 2 : Nat) : Int) := by
  have h1 : x / 2 ^ s < 256 := Nat.lt_of_le_of_lt (Nat.div_le_self _ _) hx
  rw [show ((x : Int) / 2 ^ s) = ((x / 2 ^ s : Nat) : Int) from by simp, show (1 : Int) = ((1 : Nat) : Int) from rfl, u8_and_nat _ 1 h1 (by decide), nat_mask1]

set_option maxHeartbeats 1000000 in
theorem rdig_any (va : Value) (l : List Nat) (x c : Int) (w : World) (ha : Row .u8 256 w va l) (hl : l.length ≤ 1000000) :
    Calls Tryz.prog 89 #[va, .int .i64 x, .int .i64 c] w fun e w' => ∃ v, e = .returned v ∧ Own 25 .u32 4294967296 w' w.heap.size v (digS l x c) ∧ Below w.heap.size w w' := by
  have ha' := ha
  obtain ⟨a, ca, rfl, ha1, ha2, ha3, ha4⟩ := ha
  unfold maxLen at ha2
  cases hok : okB l.length x c with
  | false =>
    have hS : digS l x c = [] := by unfold digS; rw [if_neg (by rw [hok]; decide)]
    rw [hS]; clear hS
    go_enter Tryz.func89, Tryz.ntmps89
    go_wp2_with (go_at_call 99; refine (such_any _ l x c _ ha' (by omega)).mono ?_; rintro e w' ⟨rfl, rfl⟩)
    go_ret
    exact ⟨_, rfl, dig_nil _ _ _ _ _, Below.refl _ _⟩
  | true =>
    have hS : digS l x c = digL l x.toNat c.toNat := by unfold digS; rw [if_pos hok]
    rw [hS]; clear hS
    obtain ⟨W, C, rfl, rfl, hW1, hW2, hCW⟩ := okB_of hok
    rw [Int.toNat_natCast, Int.toNat_natCast]
    have hC : C ≤ 8000000 := by
      have : C * 1 ≤ C * W := Nat.mul_le_mul_left C hW1
      omega
    obtain ⟨i0, hi, hz0, hz1, hz2⟩ := info_parts Tryz.info25
    go_enter Tryz.func89, Tryz.ntmps89
    go_wp2_with fail
    refine (such_any _ l W C _ ha' (by omega)).mono ?_
    rintro e w' ⟨rfl, hw'⟩
    rw [hw', hok]
    clear hok hw'
    go_wp2
    go_loopw [7, 8] (fun v i wr => ∃ k : Nat, k ≤ C ∧ i = .int .i64 k ∧
        wr.ownsRow w.heap.size 25 1 v k (vals .u32 (digL l W k)) ∧ Below w.heap.size w wr) (fun _ i _ => C - (intOf i).toNat)
    case atStart => exact ⟨0, Nat.zero_le _, rfl, World.ownsRow_nil _ _ _ _, Below.refl _ _⟩
    case round =>
      obtain ⟨k, hk, rfl, how, hbr⟩ := hrel
      by_cases hlt : k < C
      · have hq : (k + 1) * W ≤ C * W := Nat.mul_le_mul_right W (by omega)
        rw [Nat.add_mul, Nat.one_mul] at hq
        have hPl : k * W + W ≤ 8 * l.length := by omega
        clear hq hCW
        have hPl' : (k : Int) * (W : Int) + W ≤ 8 * l.length := by
          have : ((k * W : Nat) : Int) = (k : Int) * W := by simp
          omega
        have hP0 : 0 ≤ (k : Int) * (W : Int) := Int.mul_nonneg (by omega) (by omega)
        have hc0' := ha3.below hbr (Nat.le_refl _)
        go_wp2
        go_loop [9, 10] (fun n j => ∃ t : Nat, t ≤ W ∧ j = .int .i64 t ∧ n = .int .u32 (digTo l W k t : Nat)) (fun _ j => W - (intOf j).toNat)
        case atStart => exact ⟨0, Nat.zero_le _, rfl, by rw [digTo_zero]; rfl⟩
        case round =>
          obtain ⟨t, ht, rfl, rfl⟩ := hrel
          by_cases hlt2 : t < W
          · have hpl : k * W + t < 8 * l.length := by omega
            obtain ⟨ba, oa, rfl, hca⟩ := hc0' (by omega)
            have c1 := hca ((k * W + t) / 8) (by omega)
            have hx := el_lt ha4 (by decide) ((k * W + t) / 8)
            clear hca
            have hN := digTo_lt l W k t
            have hN2 : digTo l W k t < 16777216 := by
              have := Nat.pow_le_pow_right (show 0 < 2 by decide) (show t ≤ 24 by omega)
              have e : (2 : Nat) ^ 24 = 16777216 := by decide
              omega
            clear hN
            go_wp2
            go_round
            case rel =>
              refine ⟨t + 1, by omega, by go_num, vint ?_⟩
              have hs := digTo_succ l ha4 W k t hpl
              rw [bit_and _ _ hx, ← hs]
              have h2 : el l ((k * W + t) / 8) / 2 ^ (7 - (k * W + t) % 8) % 2 < 2 := Nat.mod_lt _ (by decide)
              generalize el l ((k * W + t) / 8) / 2 ^ (7 - (k * W + t) % 8) % 2 = b at *
              omega
            case measure => simp [intOf]; omega
          · have e : t = W := by omega
            subst e
            rw [digTo_full]
            have hsz := hbr.size
            generalize hD : dig l t k = D at *
            have HD := hide hD
            clear hD
            go_wp2_with (first | (at_builtin; refine wpList_append_own _ rfl _ _ 88 rfl w.heap.size 25 i0 (.int .u32 0) 1 4 Tryz.underlying88 hi hz0 hz1 hz2 rfl (by decide) _ _ _ rfl (how.alloc _) ⟨wr.heap.size, 0, none⟩ 1 1 [.int .u32 D] rfl rfl (cells_new _ _ _) (one_new _ _) (by unfold maxLen; omega) (by omega) (by simp; omega) ?_; intro v' w3 how' hgrow _) | fail)
            have hb3 := below_append hbr hsz how _ hgrow
            clear how hgrow hbr
            go_roundw
            case rel => exact ⟨k + 1, by omega, by go_num, by rw [digL_succ, vals_append, HD.out]; exact how', hb3⟩
            case measure => simp [intOf]; omega
      · go_wp2
        go_ret
        have e : k = C := by omega
        subst e
        exact ⟨_, rfl, ⟨by rw [digL_length]; exact how, digL_under _ _ _ hW2⟩, hbr⟩
end Go.Proofs.YtefndnbaifiboaaGreatDoor
