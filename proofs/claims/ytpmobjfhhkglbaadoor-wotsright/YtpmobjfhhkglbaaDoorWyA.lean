/- Keys of chains, the program's own: which kinds can be, how many digits there are, where a place's parts lie. -/
import Derived.Test.YtpmobjfhhkglbaaDoorWyP
import Derived.Test.YtpmobjfhhkglbaaDoorWtM
import Derived.Test.YtpmobjfhhkglbaaDoorHKit
import Derived.Laws.ShiftsVarLaws
import Derived.BigRegion
import Derived.StillTailTactics
import Derived.Deep.AppendLies
import Derived.Deep.Onto
import Derived.Deep.RegionHeld3
import Derived.Test.YtpmobjfhhkglbaaDoorPlan2
namespace Go.Proofs.YtpmobjfhhkglbaaDoor
open Go.RowKit
set_option linter.unusedVariables false
set_option linter.unusedSimpArgs false

set_option maxHeartbeats 4000000 in
set_option maxRecDepth 100000 in
theorem wisz_any (N : Int) (w : World) : Calls Tryd.prog 20 #[.int .i64 N] w fun e w' => e = .returned (.bool (decide (N = 16 ∨ N = 24 ∨ N = 32))) ∧ w' = w := by
  by_cases h16 : N = 16
  · subst h16
    rw [decide_eq_true (.inl rfl)]
    go_enter Tryd.func20, Tryd.ntmps20
    go_wp2
    go_ret
    exact ⟨rfl, rfl⟩
  by_cases h24 : N = 24
  · subst h24
    rw [decide_eq_true (.inr (.inl rfl))]
    go_enter Tryd.func20, Tryd.ntmps20
    go_wp2
    go_ret
    exact ⟨rfl, rfl⟩
  by_cases h32 : N = 32
  · subst h32
    rw [decide_eq_true (.inr (.inr rfl))]
    go_enter Tryd.func20, Tryd.ntmps20
    go_wp2
    go_ret
    exact ⟨rfl, rfl⟩
  have e0 : decide (N = 16 ∨ N = 24 ∨ N = 32) = false := decide_eq_false (by omega)
  rw [e0]
  have b1 : (N == 16) = false := by simp [h16]
  have b2 : (N == 24) = false := by simp [h24]
  have b3 : (N == 32) = false := by simp [h32]
  clear e0
  go_enter Tryd.func20, Tryd.ntmps20
  go_wp2
  go_ret
  exact ⟨rfl, rfl⟩
set_option maxHeartbeats 4000000 in
set_option maxRecDepth 100000 in
theorem wwin_any (n m : Int) (w : World) : Calls Tryd.prog 33 #[.int .i64 n, .int .i64 m] w fun e w' => e = .returned (.bool (decide (1 ≤ n ∧ n ≤ m))) ∧ w' = w := by
  by_cases h1 : 1 ≤ n
  · by_cases h2 : n ≤ m
    · rw [decide_eq_true ⟨h1, h2⟩]
      go_enter Tryd.func33, Tryd.ntmps33
      go_wp2
      go_ret
      exact ⟨rfl, rfl⟩
    · rw [decide_eq_false (fun h => h2 h.2)]
      go_enter Tryd.func33, Tryd.ntmps33
      go_wp2
      go_ret
      exact ⟨rfl, rfl⟩
  · rw [decide_eq_false (fun h => h1 h.1)]
    go_enter Tryd.func33, Tryd.ntmps33
    go_wp2
    go_ret
    exact ⟨rfl, rfl⟩
set_option maxHeartbeats 4000000 in
set_option maxRecDepth 100000 in
theorem wdct_any (n : Nat) (w : World) (hn : n ≤ 1000) : Calls Tryd.prog 18 #[.int .i64 (n : Int)] w fun e w' => e = .returned (.int .i64 ((2 * n + 3 : Nat) : Int)) ∧ w' = w := by
  obtain ⟨P, hP⟩ : ∃ P : Nat, 2 * n + 3 = P := ⟨_, rfl⟩
  obtain ⟨E, hE⟩ : ∃ E : Nat, 8 * n = E := ⟨_, rfl⟩
  obtain ⟨Q, hQ⟩ : ∃ Q : Nat, 2 * n = Q := ⟨_, rfl⟩
  have e_E : 8 * (n : Int) = (E : Int) := by omega
  have s_E : IntKind.i64.wrap (E : Int) = (E : Int) := by rw [IntKind.wrap_i64]; omega
  have e_Q : (E : Int) / 4 = (Q : Int) := by omega
  have t_Q : (E : Int).tdiv 4 = (Q : Int) := by rw [Int.tdiv_eq_ediv_of_nonneg (by omega)]; omega
  have s_Q : IntKind.i64.wrap (Q : Int) = (Q : Int) := by rw [IntKind.wrap_i64]; omega
  have e_P : (Q : Int) + 3 = (P : Int) := by omega
  have s_P : IntKind.i64.wrap (P : Int) = (P : Int) := by rw [IntKind.wrap_i64]; omega
  rw [hP]
  clear hP hE hQ
  go_enter Tryd.func18, Tryd.ntmps18
  go_wp2
  go_ret
  exact ⟨rfl, rfl⟩
theorem fit_sums {H D : Int} (hH : -9223372036854775808 ≤ H ∧ H ≤ 9223372036854775807) (hD : 1 ≤ D) : ∃ R Q : Int, H.tmod D = R ∧ H.tdiv D = Q ∧ IntKind.i64.wrap R = R ∧ IntKind.i64.wrap Q = Q ∧ ((R = 0 ∧ 1 ≤ Q ∧ Q ≤ 9) ↔ (D ≤ H ∧ H % D = 0 ∧ H / D ≤ 9)) ∧ (0 ≤ H → H % D = R ∧ H / D = Q) := by
  obtain ⟨d, rfl⟩ : ∃ d : Nat, D = (d : Int) := ⟨D.toNat, by omega⟩
  by_cases h0 : 0 ≤ H
  · obtain ⟨h, rfl⟩ : ∃ h : Nat, H = (h : Int) := ⟨H.toNat, by omega⟩
    have e1 : (h : Int).tmod (d : Int) = ((h % d : Nat) : Int) := rfl
    have e2 : (h : Int).tdiv (d : Int) = ((h / d : Nat) : Int) := rfl
    have l1 : h % d ≤ h := Nat.mod_le _ _
    have l2 : h / d ≤ h := Nat.div_le_self _ _
    have l3 : 1 ≤ h / d ↔ d ≤ h := by rw [Nat.le_div_iff_mul_le (by omega), Nat.one_mul]
    have e3 : (h : Int) % (d : Int) = ((h % d : Nat) : Int) := (Int.natCast_emod h d).symm
    have e4 : (h : Int) / (d : Int) = ((h / d : Nat) : Int) := (Int.natCast_ediv h d).symm
    generalize h / d = q at *
    generalize h % d = r at *
    refine ⟨_, _, e1, e2, by rw [IntKind.wrap_i64]; omega, by rw [IntKind.wrap_i64]; omega, ?_, fun _ => ⟨e3, e4⟩⟩
    rw [e3, e4]
    constructor
    · rintro ⟨a, b, c⟩; exact ⟨by omega, by omega, by omega⟩
    · rintro ⟨a, b, c⟩; exact ⟨by omega, by omega, by omega⟩
  · obtain ⟨h, rfl⟩ : ∃ h : Nat, H = -(h : Int) := ⟨(-H).toNat, by omega⟩
    have e1 : (-(h : Int)).tmod (d : Int) = -((h % d : Nat) : Int) := by rw [Int.neg_tmod]; rfl
    have e2 : (-(h : Int)).tdiv (d : Int) = -((h / d : Nat) : Int) := by rw [Int.neg_tdiv]; rfl
    have l1 : h % d ≤ h := Nat.mod_le _ _
    have l2 : h / d ≤ h := Nat.div_le_self _ _
    generalize h / d = q at *
    generalize h % d = r at *
    refine ⟨_, _, e1, e2, by rw [IntKind.wrap_i64]; omega, by rw [IntKind.wrap_i64]; omega, ?_, fun h => absurd h h0⟩
    constructor
    · rintro ⟨a, b, c⟩; omega
    · rintro ⟨a, b, c⟩; omega
set_option maxHeartbeats 4000000 in
set_option maxRecDepth 100000 in
theorem wfit_any (N H D A K : Int) (sh : Bool) (w : World) (hH : -9223372036854775808 ≤ H ∧ H ≤ 9223372036854775807) :
    Calls Tryd.prog 24 #[slV N H D A K sh] w fun e w' => e = .returned (.bool (decide (FitX N H D A K))) ∧ Below w.heap.size w w' := by
  have hz := fun y => wisz_any N y
  unfold slV
  have bx := BxSW.new w N H D A K sh
  have c0 := bx.c0
  have c1 := bx.c1
  have c2 := bx.c2
  have c3 := bx.c3
  have c4 := bx.c4
  have k0 := keep_alloc w (.cells #[.int .i64 N, .int .i64 H, .int .i64 D, .int .i64 A, .int .i64 K, .bool sh] 25)
  clear bx
  by_cases hN : N = 16 ∨ N = 24 ∨ N = 32
  case neg =>
    rw [decide_eq_false hN] at hz
    rw [decide_eq_false (fun h => hN h.1)]
    clear hN
    go_enter Tryd.func24, Tryd.ntmps24
    go_wp2_with (first
      | (go_at_call 20; refine (hz _).mono ?_; rintro e w1 ⟨rfl, hx⟩; obtain rfl := hx.symm)
      | fail)
    go_ret
    exact ⟨rfl, k0⟩
  rw [decide_eq_true hN] at hz
  by_cases hD : 1 ≤ D
  case neg =>
    rw [decide_eq_false (fun h => hD h.2.1)]
    have hD' : D < 1 := by omega
    clear hN hD
    go_enter Tryd.func24, Tryd.ntmps24
    go_wp2_with (first
      | (go_at_call 20; refine (hz _).mono ?_; rintro e w1 ⟨rfl, hx⟩; obtain rfl := hx.symm)
      | fail)
    go_ret
    exact ⟨rfl, k0⟩
  have hD1 : ¬ D < 1 := by omega
  have hD0 : ¬ D = 0 := by omega
  obtain ⟨R, Q, hR, hQ, sR, sQ, hiff, hpos⟩ := fit_sums hH hD
  have hX : decide (FitX N H D A K) = decide (R = 0 ∧ H ≤ 68 ∧ (1 ≤ Q ∧ Q ≤ 9) ∧ (1 ≤ A ∧ A ≤ 14) ∧ (1 ≤ K ∧ K ≤ 40)) := by
    refine decide_eq_decide.2 ⟨fun h => ?_, fun h => ?_⟩
    · obtain ⟨_, _, a3, a4, a5, a6, a7, a8, a9, a10⟩ := h
      obtain ⟨b1, b2, b3⟩ := hiff.2 ⟨a4, a5, a6⟩
      exact ⟨b1, a3, ⟨b2, b3⟩, ⟨a7, a8⟩, a9, a10⟩
    · obtain ⟨b1, a3, ⟨b2, b3⟩, ⟨a7, a8⟩, a9, a10⟩ := h
      obtain ⟨a4, a5, a6⟩ := hiff.1 ⟨b1, b2, b3⟩
      exact ⟨hN, hD, a3, a4, a5, a6, a7, a8, a9, a10⟩
  rw [hX]
  have h1 := fun y => wwin_any Q 9 y
  have h2 := fun y => wwin_any A 14 y
  have h3 := fun y => wwin_any K 40 y
  clear hX hiff hpos hN hH
  by_cases hR0 : R = 0
  case neg =>
    rw [decide_eq_false (fun h => hR0 h.1)]
    have b1 : (R == 0) = false := by simp [hR0]
    have b2 : (R != 0) = true := by simp [hR0]
    go_enter Tryd.func24, Tryd.ntmps24
    go_wp2_with (first
      | (go_at_call 20; refine (hz _).mono ?_; rintro e w1 ⟨rfl, hx⟩; obtain rfl := hx.symm)
      | fail)
    go_ret
    exact ⟨rfl, k0⟩
  subst hR0
  by_cases hH : H ≤ 68
  case neg =>
    rw [decide_eq_false (fun h => hH h.2.1)]
    have hH2 : 68 < H := by omega
    go_enter Tryd.func24, Tryd.ntmps24
    go_wp2_with (first
      | (go_at_call 20; refine (hz _).mono ?_; rintro e w1 ⟨rfl, hx⟩; obtain rfl := hx.symm)
      | fail)
    go_ret
    exact ⟨rfl, k0⟩
  have hH2 : ¬ 68 < H := by omega
  by_cases hq : 1 ≤ Q ∧ Q ≤ 9
  case neg =>
    rw [decide_eq_false hq] at h1
    rw [decide_eq_false (fun h => hq h.2.2.1)]
    clear hq
    go_enter Tryd.func24, Tryd.ntmps24
    go_wp2_with (first
      | (go_at_call 20; refine (hz _).mono ?_; rintro e w1 ⟨rfl, hx⟩; obtain rfl := hx.symm)
      | (go_at_call 33; refine (h1 _).mono ?_; rintro e w2 ⟨rfl, hx⟩; obtain rfl := hx.symm; clear h1)
      | fail)
    go_ret
    exact ⟨rfl, k0⟩
  rw [decide_eq_true hq] at h1
  by_cases ha : 1 ≤ A ∧ A ≤ 14
  case neg =>
    rw [decide_eq_false ha] at h2
    rw [decide_eq_false (fun h => ha h.2.2.2.1)]
    clear ha hq
    go_enter Tryd.func24, Tryd.ntmps24
    go_wp2_with (first
      | (go_at_call 20; refine (hz _).mono ?_; rintro e w1 ⟨rfl, hx⟩; obtain rfl := hx.symm)
      | (go_at_call 33; refine (h1 _).mono ?_; rintro e w2 ⟨rfl, hx⟩; obtain rfl := hx.symm; clear h1)
      | (go_at_call 33; refine (h2 _).mono ?_; rintro e w3 ⟨rfl, hx⟩; obtain rfl := hx.symm; clear h2)
      | fail)
    go_ret
    exact ⟨rfl, k0⟩
  rw [decide_eq_true ha] at h2
  by_cases hk : 1 ≤ K ∧ K ≤ 40
  case neg =>
    rw [decide_eq_false hk] at h3
    rw [decide_eq_false (fun h => hk h.2.2.2.2)]
    clear ha hq hk
    go_enter Tryd.func24, Tryd.ntmps24
    go_wp2_with (first
      | (go_at_call 20; refine (hz _).mono ?_; rintro e w1 ⟨rfl, hx⟩; obtain rfl := hx.symm)
      | (go_at_call 33; refine (h1 _).mono ?_; rintro e w2 ⟨rfl, hx⟩; obtain rfl := hx.symm; clear h1)
      | (go_at_call 33; refine (h2 _).mono ?_; rintro e w3 ⟨rfl, hx⟩; obtain rfl := hx.symm; clear h2)
      | (go_at_call 33; refine (h3 _).mono ?_; rintro e w4 ⟨rfl, hx⟩; obtain rfl := hx.symm; clear h3)
      | fail)
    go_ret
    exact ⟨rfl, k0⟩
  rw [decide_eq_true hk] at h3
  rw [decide_eq_true ⟨rfl, hH, hq, ha, hk⟩]
  clear ha hq hk
  go_enter Tryd.func24, Tryd.ntmps24
  go_wp2_with (first
    | (go_at_call 20; refine (hz _).mono ?_; rintro e w1 ⟨rfl, hx⟩; obtain rfl := hx.symm)
    | (go_at_call 33; refine (h1 _).mono ?_; rintro e w2 ⟨rfl, hx⟩; obtain rfl := hx.symm; clear h1)
    | (go_at_call 33; refine (h2 _).mono ?_; rintro e w3 ⟨rfl, hx⟩; obtain rfl := hx.symm; clear h2)
    | (go_at_call 33; refine (h3 _).mono ?_; rintro e w4 ⟨rfl, hx⟩; obtain rfl := hx.symm; clear h3)
    | fail)
  go_ret
  exact ⟨rfl, k0⟩
end Go.Proofs.YtpmobjfhhkglbaaDoor

/- Plain facts on the sums of SHA-3: words, rounds, bytes in and out. No walk. -/
namespace Go.Proofs.YtpmobjfhhkglbaaDoor
set_option linter.unusedVariables false
set_option linter.unusedSimpArgs false

/-- a word turned to the left -/
def rotl (x n : Nat) : Nat := x * 2 ^ (n % 64) % 18446744073709551616 ||| x / 2 ^ (64 - n % 64)
theorem w64 : (18446744073709551616 : Nat) = 2 ^ 64 := by decide
theorem rotl_lt {x : Nat} (hx : x < 18446744073709551616) (n : Nat) : rotl x n < 18446744073709551616 := by
  unfold rotl
  rw [w64] at *
  exact Nat.or_lt_two_pow (Nat.mod_lt _ (Nat.two_pow_pos _)) (Nat.lt_of_le_of_lt (Nat.div_le_self _ _) hx)
theorem xor_w {x y : Nat} (hx : x < 18446744073709551616) (hy : y < 18446744073709551616) : x ^^^ y < 18446744073709551616 := by rw [w64] at *; exact Nat.xor_lt_two_pow hx hy
theorem and_w {x y : Nat} (hx : x < 18446744073709551616) : x &&& y < 18446744073709551616 := Nat.lt_of_le_of_lt Nat.and_le_left hx
theorem or_w {x y : Nat} (hx : x < 18446744073709551616) (hy : y < 18446744073709551616) : x ||| y < 18446744073709551616 := by rw [w64] at *; exact Nat.or_lt_two_pow hx hy

/-- 25 words -/
def W25 (a : List Nat) : Prop := a.length = 25 ∧ Under 18446744073709551616 a
theorem W25.el {a : List Nat} (h : W25 a) (i : Nat) : el a i < 18446744073709551616 := el_lt h.2 (by decide) i
theorem W25.set {a : List Nat} (h : W25 a) (i x : Nat) (hx : x < 18446744073709551616) : W25 (a.set i x) := ⟨by rw [List.length_set]; exact h.1, h.2.set i x hx⟩
theorem W25.zero : W25 (List.replicate 25 0) := ⟨by decide, Under.replicate _ _ (by decide)⟩

/-- the parities of columns, of so many words -/
def colN (a : List Nat) : Nat → List Nat
  | 0 => List.replicate 5 0
  | n + 1 => (colN a n).set (n % 5) (el (colN a n) (n % 5) ^^^ el a n)
theorem colN_under {a : List Nat} (h : W25 a) : ∀ n, Under 18446744073709551616 (colN a n)
  | 0 => Under.replicate _ _ (by decide)
  | n + 1 => (colN_under h n).set _ _ (xor_w (el_lt (colN_under h n) (by decide) _) (h.el _))
/-- so many words xored with their neighbours' columns -/
def sprN (a c : List Nat) : Nat → List Nat
  | 0 => a
  | n + 1 => (sprN a c n).set n (el (sprN a c n) n ^^^ el c ((n + 4) % 5) ^^^ rotl (el c ((n + 1) % 5)) 1)
theorem sprN_w {a c : List Nat} (h : W25 a) (hc : Under 18446744073709551616 c) : ∀ n, W25 (sprN a c n)
  | 0 => h
  | n + 1 => (sprN_w h hc n).set _ _ (xor_w (xor_w ((sprN_w h hc n).el _) (el_lt hc (by decide) _)) (rotl_lt (el_lt hc (by decide) _) 1))
def spreadK (a : List Nat) : List Nat := sprN a (colN a 25) 25
theorem spreadK_w {a : List Nat} (h : W25 a) : W25 (spreadK a) := sprN_w h (colN_under h 25) 25
/-- the t-th place -/
def plc : Nat → Nat × Nat
  | 0 => (1, 0)
  | t + 1 => ((plc t).2, (2 * (plc t).1 + 3 * (plc t).2) % 5)
/-- so many words turned, at their new places -/
def movN (a : List Nat) : Nat → List Nat
  | 0 => (List.replicate 25 0).set 0 (el a 0)
  | t + 1 => (movN a t).set ((plc (t + 1)).1 + 5 * (plc (t + 1)).2) (rotl (el a ((plc t).1 + 5 * (plc t).2)) ((t + 1) * (t + 2) / 2))
theorem movN_w {a : List Nat} (h : W25 a) : ∀ t, W25 (movN a t)
  | 0 => W25.zero.set _ _ (h.el 0)
  | t + 1 => (movN_w h t).set _ _ (rotl_lt (h.el _) _)
def moveK (a : List Nat) : List Nat := movN a 24
theorem moveK_w {a : List Nat} (h : W25 a) : W25 (moveK a) := movN_w h 24
/-- so many words xored with what stands behind them in their row -/
def chiV (b : List Nat) (n : Nat) : Nat := el b n ^^^ ((18446744073709551615 - el b (n / 5 * 5 + (n + 1) % 5)) &&& el b (n / 5 * 5 + (n + 2) % 5))
theorem chiV_lt {b : List Nat} (h : W25 b) (n : Nat) : chiV b n < 18446744073709551616 := xor_w (h.el _) (and_w (by omega))
def chiN (a b : List Nat) : Nat → List Nat
  | 0 => a
  | n + 1 => (chiN a b n).set n (chiV b n)
theorem chiN_w {a b : List Nat} (h : W25 a) (hb : W25 b) : ∀ n, W25 (chiN a b n)
  | 0 => h
  | n + 1 => (chiN_w h hb n).set _ _ (chiV_lt hb n)
/-- the register, and the constants, behind so many steps -/
def reg : Nat → Nat
  | 0 => 1
  | n + 1 => if 256 ≤ reg n * 2 then (reg n * 2 % 256) ^^^ 113 else reg n * 2
def cstN : Nat → List Nat
  | 0 => List.replicate 24 0
  | n + 1 => if reg n % 2 = 1 then (cstN n).set (n / 7) (el (cstN n) (n / 7) ||| 2 ^ (2 ^ (n % 7) - 1)) else cstN n
theorem cstN_length : ∀ n, (cstN n).length = 24
  | 0 => rfl
  | n + 1 => by unfold cstN; split <;> simp [cstN_length n]
theorem bit_lt (n : Nat) : 2 ^ (2 ^ (n % 7) - 1) < 18446744073709551616 := by
  have h : n % 7 < 7 := Nat.mod_lt _ (by decide)
  generalize n % 7 = k at h
  match k, h with
  | 0, _ => decide
  | 1, _ => decide
  | 2, _ => decide
  | 3, _ => decide
  | 4, _ => decide
  | 5, _ => decide
  | 6, _ => decide
theorem cstN_under : ∀ n, Under 18446744073709551616 (cstN n)
  | 0 => Under.replicate _ _ (by decide)
  | n + 1 => by
    unfold cstN
    split
    · exact (cstN_under n).set _ _ (or_w (el_lt (cstN_under n) (by decide) _) (bit_lt n))
    · exact cstN_under n
def csts : List Nat := cstN 168
theorem csts_length : csts.length = 24 := cstN_length 168
theorem csts_under : Under 18446744073709551616 csts := cstN_under 168
/-- so many rounds -/
def rndK (a : List Nat) (c : Nat) : List Nat := (chiN a (moveK (spreadK a)) 25).set 0 (el (chiN a (moveK (spreadK a)) 25) 0 ^^^ c)
theorem rndK_w {a : List Nat} (h : W25 a) {c : Nat} (hc : c < 18446744073709551616) : W25 (rndK a c) := by
  have hw := chiN_w h (moveK_w (spreadK_w h)) 25
  exact hw.set _ _ (xor_w (hw.el 0) hc)
def rdsK (a : List Nat) : Nat → List Nat
  | 0 => a
  | r + 1 => rndK (rdsK a r) (el csts r)
theorem rdsK_w {a : List Nat} (h : W25 a) : ∀ r, W25 (rdsK a r)
  | 0 => h
  | r + 1 => rndK_w (rdsK_w h r) (el_lt csts_under (by decide) _)
def perm (a : List Nat) : List Nat := rdsK a 24
theorem perm_w {a : List Nat} (h : W25 a) : W25 (perm a) := rdsK_w h 24

/-- a byte into the words -/
def putK (a : List Nat) (p c : Nat) : List Nat := a.set (p / 8) (el a (p / 8) ^^^ c * 2 ^ (8 * (p % 8)) % 18446744073709551616)
theorem putK_w {a : List Nat} (h : W25 a) (p c : Nat) : W25 (putK a p c) := h.set _ _ (xor_w (h.el _) (Nat.mod_lt _ (by decide)))
/-- words, and the place in the block -/
def inK (rate : Nat) (s : List Nat × Nat) (c : Nat) : List Nat × Nat := if s.2 + 1 = rate then (perm (putK s.1 s.2 c), 0) else (putK s.1 s.2 c, s.2 + 1)
def absK (rate : Nat) (s : List Nat × Nat) (b : List Nat) : List Nat × Nat := b.foldl (inK rate) s
theorem absK_parts (rate : Nat) (s : List Nat × Nat) (a b : List Nat) : absK rate s (a ++ b) = absK rate (absK rate s a) b := List.foldl_append ..
theorem absK_snoc (rate : Nat) (s : List Nat × Nat) (a : List Nat) (c : Nat) : absK rate s (a ++ [c]) = inK rate (absK rate s a) c := by rw [absK_parts]; rfl
theorem inK_w {rate : Nat} {s : List Nat × Nat} (h : W25 s.1) (c : Nat) : W25 (inK rate s c).1 := by
  unfold inK
  split
  · dsimp only; exact perm_w (putK_w h _ _)
  · dsimp only; exact putK_w h _ _
theorem inK_at {rate : Nat} {s : List Nat × Nat} (h : s.2 < rate) (c : Nat) : (inK rate s c).2 < rate := by
  unfold inK
  split
  · show 0 < rate; omega
  · show s.2 + 1 < rate; omega
theorem absK_w {rate : Nat} : ∀ (b : List Nat) (s : List Nat × Nat), W25 s.1 → W25 (absK rate s b).1
  | [], _, h => h
  | c :: b, s, h => absK_w b (inK rate s c) (inK_w h c)
theorem absK_at {rate : Nat} : ∀ (b : List Nat) (s : List Nat × Nat), s.2 < rate → (absK rate s b).2 < rate
  | [], _, h => h
  | c :: b, s, h => absK_at b (inK rate s c) (inK_at h c)
/-- the mark, and the last byte: all rounds -/
def endK (rate mark : Nat) (s : List Nat × Nat) : List Nat := perm (putK (putK s.1 s.2 mark) (rate - 1) 128)
theorem endK_w {rate mark : Nat} {s : List Nat × Nat} (h : W25 s.1) : W25 (endK rate mark s) := perm_w (putK_w (putK_w h _ _) _ _)
/-- all rounds, where a block is used up; a byte out of the words; so many bytes -/
def fresh (rate : Nat) (s : List Nat × Nat) : List Nat × Nat := if s.2 = rate then (perm s.1, 0) else s
def outB (s : List Nat × Nat) : Nat := el s.1 (s.2 / 8) / 2 ^ (8 * (s.2 % 8)) % 256
def sqzS (rate : Nat) (s : List Nat × Nat) : Nat → List Nat × Nat
  | 0 => s
  | n + 1 => ((fresh rate (sqzS rate s n)).1, (fresh rate (sqzS rate s n)).2 + 1)
def sqzB (rate : Nat) (s : List Nat × Nat) : Nat → List Nat
  | 0 => []
  | n + 1 => sqzB rate s n ++ [outB (fresh rate (sqzS rate s n))]
theorem sqzB_length (rate : Nat) (s : List Nat × Nat) : ∀ n, (sqzB rate s n).length = n
  | 0 => rfl
  | n + 1 => by simp [sqzB, sqzB_length rate s n]
theorem sqzB_under (rate : Nat) (s : List Nat × Nat) : ∀ n, Under 256 (sqzB rate s n)
  | 0 => fun x hx => by simp [sqzB] at hx
  | n + 1 => (sqzB_under rate s n).append (Under.one (Nat.mod_lt _ (by decide)))
theorem fresh_w {rate : Nat} {s : List Nat × Nat} (h : W25 s.1) : W25 (fresh rate s).1 := by
  unfold fresh
  split
  · dsimp only; exact perm_w h
  · exact h
theorem fresh_at {rate : Nat} {s : List Nat × Nat} (hr : 0 < rate) (h : s.2 ≤ rate) : (fresh rate s).2 < rate := by
  unfold fresh
  split
  · exact hr
  · omega
theorem sqzS_w {rate : Nat} {s : List Nat × Nat} (h : W25 s.1) : ∀ n, W25 (sqzS rate s n).1
  | 0 => h
  | n + 1 => fresh_w (sqzS_w h n)
theorem sqzS_at {rate : Nat} {s : List Nat × Nat} (hr : 0 < rate) (h : s.2 ≤ rate) : ∀ n, (sqzS rate s n).2 ≤ rate
  | 0 => h
  | n + 1 => fresh_at hr (sqzS_at hr h n)
/-- PARTS -/
theorem sqzS_parts (rate : Nat) (s : List Nat × Nat) (n : Nat) : ∀ m, sqzS rate s (n + m) = sqzS rate (sqzS rate s n) m
  | 0 => rfl
  | m + 1 => by rw [← Nat.add_assoc]; show _ = (_, _); simp only [sqzS]; rw [sqzS_parts rate s n m]
/-- a kind's block; its mark -/
def rateK (kind : Int) : Nat := if kind = 4 ∨ kind = 7 then 136 else if kind = 5 then 72 else if kind = 6 then 168 else 0
def markK (kind : Int) : Nat := if kind = 4 ∨ kind = 5 then 6 else 31
end Go.Proofs.YtpmobjfhhkglbaaDoor

/- Contract of the document's left: a word turned to the left. -/
namespace Go.Proofs.YtpmobjfhhkglbaaDoor
open Go.RowKit
set_option linter.unusedVariables false
set_option linter.unusedSimpArgs false

theorem rotl_is (x k : Nat) (hx : x < 18446744073709551616) (hk : k < 64) : bits .or .u64 (IntKind.u64.wrap ((x : Int) * 2 ^ k)) ((x : Int) / 2 ^ (64 - k)) = ((rotl x k : Nat) : Int) := by
  have e1 : (x : Int) / 2 ^ (64 - k) = ((x / 2 ^ (64 - k) : Nat) : Int) := by simp
  have e2 : IntKind.u64.wrap ((x : Int) * 2 ^ k) = ((x * 2 ^ k % 18446744073709551616 : Nat) : Int) := by rw [IntKind.wrap_u64]; simp
  rw [e1, e2, u64_or_nat _ _ (Nat.mod_lt _ (by decide)) (Nat.lt_of_le_of_lt (Nat.div_le_self _ _) hx)]
  unfold rotl
  rw [Nat.mod_eq_of_lt hk]
end Go.Proofs.YtpmobjfhhkglbaaDoor

/- Contract of the document's spread. -/
namespace Go.Proofs.YtpmobjfhhkglbaaDoor
open Go.RowKit
set_option linter.unusedVariables false
set_option linter.unusedSimpArgs false

/-- so many zeros, under a name of their own -/
def zs (n : Nat) : List Nat := List.replicate n 0
theorem zs_len (n : Nat) : (zs n).length = n := List.length_replicate
theorem zero25 : ∀ w, (zeroValue 68).run Tryd.prog w = .ok (.agg (arr .u64 (zs 25))) w := zero_arr (by kernel_rfl)
theorem xor_k (x y : Nat) (hx : x < 18446744073709551616) (hy : y < 18446744073709551616) : bits .xor .u64 (x : Int) (y : Int) = ((x ^^^ y : Nat) : Int) := u64_xor_nat x y hx hy
end Go.Proofs.YtpmobjfhhkglbaaDoor

/- A sponge that lies in memory: its cells. -/
namespace Go.Proofs.YtpmobjfhhkglbaaDoor
open Go.RowKit
set_option linter.unusedVariables false
set_option linter.unusedSimpArgs false

/-- its cells, as one list -/
def sl (kind : Int) (ws : List Nat) (p : Int) (o : Bool) : List Value := .int .i64 kind :: (vals .u64 ws ++ [.int .i64 p, .bool o])
theorem sl_len {kind : Int} {ws : List Nat} {p : Int} {o : Bool} (h : ws.length = 25) : (sl kind ws p o).length = 28 := by simp [sl, vals_length, h]
theorem sl_one (kind : Int) (ws : List Nat) (p : Int) (o : Bool) : ∀ v ∈ sl kind ws p o, v.oneCell' = true := by
  intro v hv
  simp only [sl, List.mem_cons, List.mem_append, List.not_mem_nil, or_false] at hv
  rcases hv with rfl | hv | rfl | rfl
  · rfl
  · exact vals_one _ _ _ hv
  · rfl
  · rfl
/-- it lies in block q -/
structure Sg (w : World) (q : Nat) (kind : Int) (ws : List Nat) (p : Int) (o : Bool) : Prop where
  all : w.rangeAt q 0 (sl kind ws p o)
  th : w.there q 0 28
  len : ws.length = 25
theorem Sg.kind {w : World} {q : Nat} {kind : Int} {ws : List Nat} {p : Int} {o : Bool} (h : Sg w q kind ws p o) : w.cell? ⟨q, 0, none⟩ = some (.int .i64 kind) := h.all 0 _ rfl
theorem Sg.words {w : World} {q : Nat} {kind : Int} {ws : List Nat} {p : Int} {o : Bool} (h : Sg w q kind ws p o) : w.rangeAt q 1 (vals .u64 ws) := fun j v hv => by
  have hj : j < (vals .u64 ws).length := (List.getElem?_eq_some_iff.1 hv).1
  have := h.all (1 + j) v (by
    show (sl kind ws p o)[1 + j]? = some v
    rw [Nat.add_comm, sl, List.getElem?_cons_succ, List.getElem?_append_left hj]; exact hv)
  rw [Nat.zero_add] at this
  exact this
theorem Sg.at {w : World} {q : Nat} {kind : Int} {ws : List Nat} {p : Int} {o : Bool} (h : Sg w q kind ws p o) : w.cell? ⟨q, 26, none⟩ = some (.int .i64 p) := by
  have hl := h.len
  exact h.all 26 _ (by
    show (sl kind ws p o)[26]? = _
    rw [sl, show 26 = 25 + 1 from rfl, List.getElem?_cons_succ, List.getElem?_append_right (by rw [vals_length]; omega), vals_length, hl]; rfl)
theorem Sg.out {w : World} {q : Nat} {kind : Int} {ws : List Nat} {p : Int} {o : Bool} (h : Sg w q kind ws p o) : w.cell? ⟨q, 27, none⟩ = some (.bool o) := by
  have hl := h.len
  exact h.all 27 _ (by
    show (sl kind ws p o)[27]? = _
    rw [sl, show 27 = 26 + 1 from rfl, List.getElem?_cons_succ, List.getElem?_append_right (by rw [vals_length]; omega), vals_length, hl]; rfl)
theorem Sg.frozen {w : World} {q : Nat} {kind : Int} {ws : List Nat} {p : Int} {o : Bool} (h : Sg w q kind ws p o) (i : Nat) (hi : i < 28) : w.frozen? ⟨q, i, none⟩ = false := by
  have := (h.th i hi).2
  rw [Nat.zero_add] at this
  exact this
/-- out of its three parts -/
theorem Sg.mk' {w : World} {q : Nat} {kind : Int} {ws : List Nat} {p : Int} {o : Bool} (h0 : w.cell? ⟨q, 0, none⟩ = some (.int .i64 kind)) (h1 : w.rangeAt q 1 (vals .u64 ws)) (h2 : w.cell? ⟨q, 26, none⟩ = some (.int .i64 p)) (h3 : w.cell? ⟨q, 27, none⟩ = some (.bool o)) (th : w.there q 0 28) (hl : ws.length = 25) : Sg w q kind ws p o := by
  refine ⟨fun j v hv => ?_, th, hl⟩
  rw [Nat.zero_add]
  match j, hv with
  | 0, hv => have e : some (.int .i64 kind) = some v := hv; rw [h0, e]
  | j + 1, hv =>
    rw [sl, List.getElem?_cons_succ] at hv
    by_cases hj : j < (vals .u64 ws).length
    · rw [List.getElem?_append_left hj] at hv
      have := h1 j v hv
      rw [Nat.add_comm] at this
      exact this
    · rw [List.getElem?_append_right (by omega), vals_length, hl] at hv
      rw [vals_length, hl] at hj
      have hk : j - 25 < 2 := by
        have := (List.getElem?_eq_some_iff.1 hv).1
        simpa using this
      have : j = 25 ∨ j = 26 := by omega
      rcases this with rfl | rfl
      · have e : some (.int .i64 p) = some v := hv; rw [h2, e]
      · have e : some (.bool o) = some v := hv; rw [h3, e]
theorem Sg.lt {w : World} {q : Nat} {kind : Int} {ws : List Nat} {p : Int} {o : Bool} (h : Sg w q kind ws p o) : q < w.heap.size := World.block_lt_of_cell? w _ h.kind
theorem there_below {w w' : World} {q o n : Nat} (h : w.there q o n) (hq : q < w.heap.size) (hb : Below w.heap.size w w') : w'.there q o n := fun j hj => by
  have hbk := hb.block q hq
  exact ⟨by rw [World.cell?_of_block (a := ⟨q, o + j, none⟩) hbk]; exact (h j hj).1, by rw [World.frozen?_of_block (a := ⟨q, o + j, none⟩) hbk]; exact (h j hj).2⟩
theorem range_bel {w w' : World} {b o : Nat} {cs : List Value} (h : w.rangeAt b o cs) (hb : Below w.heap.size w w') : w'.rangeAt b o cs := fun j v hv => keep_cell (h j v hv) hb
theorem Sg.below {w w' : World} {q : Nat} {kind : Int} {ws : List Nat} {p : Int} {o : Bool} (h : Sg w q kind ws p o) (hb : Below w.heap.size w w') : Sg w' q kind ws p o := ⟨range_bel h.all hb, there_below h.th h.lt hb, h.len⟩
theorem frozen_row {w : World} {b i : Nat} {cs : Array Value} {t : TypeId} (h : w.heap[b]? = some (.cells cs t (0, 0))) : w.frozen? ⟨b, i, none⟩ = false := by simp [World.frozen?, h]
theorem Sg.new (w : World) (t : TypeId) (kind : Int) (ws : List Nat) (p : Int) (o : Bool) (hl : ws.length = 25) : Sg (w.alloc (.cells (sl kind ws p o).toArray t)) w.heap.size kind ws p o := by
  have hb : (w.alloc (.cells (sl kind ws p o).toArray t)).heap[w.heap.size]? = some (.cells (sl kind ws p o).toArray t (0, 0)) := heap_alloc_last w _
  refine ⟨fun j v hv => ?_, fun j hj => ?_, hl⟩
  · rw [Nat.zero_add, cell_of_row _ _ j _ _ _ hb]; simpa using hv
  · rw [Nat.zero_add]
    refine ⟨?_, frozen_row hb⟩
    rw [cell_of_row _ _ j _ _ _ hb]
    simp [sl_len hl, hj]
theorem Sg.setWords {w : World} {q : Nat} {kind : Int} {ws : List Nat} {p : Int} {o : Bool} (h : Sg w q kind ws p o) (l : List Nat) (hl : l.length = 25) : Sg (w.setCells q 1 (vals .u64 l)) q kind l p o := by
  have ht : w.there q 1 (vals .u64 l).length := fun j hj => by
    rw [vals_length, hl] at hj
    have := h.th (1 + j) (by omega)
    rw [Nat.zero_add] at this
    exact this
  have away : ∀ i, i < 1 ∨ 26 ≤ i → (w.setCells q 1 (vals .u64 l)).cell? ⟨q, i, none⟩ = w.cell? ⟨q, i, none⟩ := fun i hi =>
    World.cell?_setCells_out q _ _ w ⟨q, i, none⟩ (fun _ _ => by show i < 1 ∨ 1 + (vals .u64 l).length ≤ i; rw [vals_length, hl]; omega)
  exact Sg.mk' ((away 0 (by omega)).trans h.kind) (World.rangeAt_setCells_same w q 1 _ ht) ((away 26 (by omega)).trans h.at) ((away 27 (by omega)).trans h.out) (World.there_setCells h.th _ _ _) hl
theorem Sg.setAt {w : World} {q : Nat} {kind : Int} {ws : List Nat} {p : Int} {o : Bool} (h : Sg w q kind ws p o) (x : Int) : Sg (w.setCell ⟨q, 26, none⟩ (.int .i64 x)) q kind ws x o := by
  have hl := h.len
  have e : w.setCell ⟨q, 26, none⟩ (.int .i64 x) = w.setCells q 26 [.int .i64 x] := rfl
  rw [e]
  have ht : w.there q 26 [Value.int .i64 x].length := fun j hj => by
    have hj' : j = 0 := by simpa using hj
    subst hj'
    have := h.th 26 (by decide)
    rw [Nat.zero_add] at this
    exact this
  have away : ∀ i, i < 26 ∨ 27 ≤ i → (w.setCells q 26 [.int .i64 x]).cell? ⟨q, i, none⟩ = w.cell? ⟨q, i, none⟩ := fun i hi =>
    World.cell?_setCells_out q _ _ w ⟨q, i, none⟩ (fun _ _ => by show i < 26 ∨ 26 + 1 ≤ i; omega)
  refine Sg.mk' ((away 0 (by omega)).trans h.kind) (World.rangeAt_setCells_apart h.words q 26 _ (.inr (.inl (by rw [vals_length, hl]; decide)))) ?_ ((away 27 (by omega)).trans h.out) (World.there_setCells h.th _ _ _) hl
  have := World.rangeAt_setCells_same w q 26 _ ht 0 _ rfl
  exact this
theorem But.setCells {g : Nat} {a w : World} (h : But g a w) : ∀ (vs : List Value) (o : Nat), But g a (w.setCells g o vs) := by
  intro vs
  induction vs generalizing w with
  | nil => intro o; exact h
  | cons v vs ih => intro o; exact ih (h.setCell o v) (o + 1)
theorem infoS : (Tryd.prog.info? 70).map (fun i => (i.zero, i.size)) = some (some (.agg (sl 0 (zs 25) 0 false).toArray), 28) := by kernel_rfl
theorem zero28 : ∀ w, (zeroValue 70).run Tryd.prog w = .ok (.agg (sl 0 (zs 25) 0 false).toArray) w := (zero_of_info infoS).1
/-- a load of many cells, at a step of a region's head -/
theorem still_load_mid {P : Program} {ops : Array Oper} {op : Oper} {a : Act} {w : World} {K : Act → Prop} (hgd : op.guard = none) (ty : TypeId) (x : Operand) (ho : op.op = .load ty x)
    (b o : Nat) (hx : a.eval x = .pointer (some ⟨b, o, none⟩)) (cs : List Value) (d : TypeDesc) (hc : w.rangeAt b o cs)
    (hu : P.underlying ty = some d) (hd : d.isRow = true) (hi : (P.info? ty).map (·.size) = some cs.length)
    (h : K (a.put op.dst (.agg cs.toArray))) : if Region.wanted op (yielded ops a.tmps) = true then op.still P a w K else K (a.put op.dst undef) := by
  have hw : Region.wanted op (yielded ops a.tmps) = true := by simp [Region.wanted, hgd]
  rw [if_pos hw]
  unfold Oper.still execOp
  simp only [ho, hx, Instr.loadAt, Instr.sureAddr, Sem.run_bind, Sem.run_pure, Result.andThen_ok, run_loadVar_mid w b o ty cs d hc hu hd hi]
  exact ⟨rfl, h⟩
end Go.Proofs.YtpmobjfhhkglbaaDoor

/- Contract of the document's Absorb. -/
namespace Go.Proofs.YtpmobjfhhkglbaaDoor
open Go.RowKit
set_option linter.unusedVariables false
set_option linter.unusedSimpArgs false

theorem rateK_le (kind : Int) : rateK kind ≤ 168 := by
  unfold rateK
  split
  · decide
  · split
    · decide
    · split <;> decide

end Go.Proofs.YtpmobjfhhkglbaaDoor

/- Contract of the document's Squeeze. -/
namespace Go.Proofs.YtpmobjfhhkglbaaDoor
open Go.RowKit
set_option linter.unusedVariables false
set_option linter.unusedSimpArgs false

/-- where squeezing begins -/
def begK (kind : Int) (ws : List Nat) (p : Nat) (o : Bool) : List Nat × Nat := bif o then (ws, p) else (endK (rateK kind) (markK kind) (ws, p), 0)
theorem heap_lt {w : World} {b : Nat} {o : Obj} (h : w.heap[b]? = some o) : b < w.heap.size := by
  rcases Nat.lt_or_ge b w.heap.size with h' | h'
  · exact h'
  · rw [Array.getElem?_eq_none h'] at h; cases h
theorem own_but {w w' : World} {base g : Nat} {e : TypeId} {size : Nat} {v : Value} {n : Nat} {xs : List Value} (h : w.ownsRow base e size v n xs) (hb : But g w w') (hg : g < base) : w'.ownsRow base e size v n xs := by
  obtain ⟨h1, h2⟩ := h
  refine ⟨h1, ?_⟩
  rcases h2 with h2 | ⟨q, cap, cur, rfl, h3, h4, h5⟩
  · exact .inl h2
  · exact .inr ⟨q, cap, cur, rfl, h3, by rw [hb.block q (heap_lt h4) (by omega)]; exact h4, h5⟩
end Go.Proofs.YtpmobjfhhkglbaaDoor

/- Contracts of the document's New and Fit of sponges; Squeeze of less than no bytes. -/
namespace Go.Proofs.YtpmobjfhhkglbaaDoor
open Go.RowKit
set_option linter.unusedVariables false
set_option linter.unusedSimpArgs false

/-- what is fit -/
def fitK (kind p : Int) (o : Bool) : Bool := decide (0 < rateK kind) && (decide (0 ≤ p) && (decide (p < (rateK kind : Nat)) || (o && decide (p = (rateK kind : Nat)))))
end Go.Proofs.YtpmobjfhhkglbaaDoor

/- Contract of the document's Sum of sponges. -/
namespace Go.Proofs.YtpmobjfhhkglbaaDoor
open Go.RowKit
set_option linter.unusedVariables false
set_option linter.unusedSimpArgs false

theorem zs_w : W25 (zs 25) := W25.zero
theorem begK_w {kind : Int} {ws : List Nat} {p : Nat} {o : Bool} (h : W25 ws) : W25 (begK kind ws p o).1 := by
  cases o with
  | false => unfold begK; dsimp only [cond_false]; exact endK_w (s := (ws, p)) h
  | true => unfold begK; dsimp only [cond_true]; exact h
/-- the bytes of a sum -/
def sumK (kind : Int) (b : List Nat) (n : Nat) : List Nat := sqzB (rateK kind) (begK kind (absK (rateK kind) (zs 25, 0) b).1 (absK (rateK kind) (zs 25, 0) b).2 false) n

end Go.Proofs.YtpmobjfhhkglbaaDoor
