/- Trees of leaves that sign once: words for the laws. -/
import Derived.Test.YtefndnbaifiboaaDoorLsG
import Derived.Test.YtefndnbaifiboaaDoorLcD
namespace Go.Proofs.YtefndnbaifiboaaDoor
open Go.RowKit
set_option linter.unusedVariables false
set_option linter.unusedSimpArgs false

set_option maxHeartbeats 2000000 in
set_option maxRecDepth 100000 in
theorem fewM (g N : Nat) (len cp : Nat → Nat) (ad : Nat → Option Addr) (w : World) (hN : N ≤ 10) (hc : ∀ i, i < N → w.cell? ⟨g, i, none⟩ = some (.slice (ad i) (len i) (cp i))) :
    Calls Tryd.prog 4 #[.slice (some ⟨g, 0, none⟩) N N] w fun e w' => e = .returned (.bool (decide (∀ i, i < N → len i ≤ 300))) ∧ w' = w := by
  go_enter Tryd.func4, Tryd.ntmps4
  go_wp2
  go_loop [7] (fun i => ∃ k : Nat, k ≤ N ∧ i = .int .i64 k ∧ Hid (∀ j, j < k → len j ≤ 300)) (fun i => N - (intOf i).toNat)
  case atStart => exact ⟨0, Nat.zero_le _, rfl, hide (fun j hj => by omega)⟩
  case round =>
    obtain ⟨k, hk, rfl, HA⟩ := hrel
    by_cases hlt : k < N
    · have hcell := hc k hlt
      have hkN : (k : Int) < (N : Int) := by omega
      have z_k : (0 : Int) ≤ (k : Int) := Int.natCast_nonneg _
      obtain ⟨Q, hQ⟩ : ∃ x : Nat, x = k + 1 := ⟨_, rfl⟩
      have e_Q : (k : Int) + 1 = (Q : Int) := by omega
      have s_Q : IntKind.i64.wrap (Q : Int) = (Q : Int) := by rw [IntKind.wrap_i64]; omega
      by_cases hl : 300 < len k
      · have g1 : (300 : Int) < (len k : Int) := by omega
        have g2 : (len k : Int) > 300 := by omega
        have hd : decide (∀ i, i < N → len i ≤ 300) = false := decide_eq_false fun h => by have := h k hlt; omega
        have HD := hide hd
        clear hc hd hQ
        obtain ⟨n, hn⟩ : ∃ n, n = len k := ⟨_, rfl⟩
        rw [← hn] at hcell g1 g2
        generalize ad k = aa at *
        generalize cp k = cc at *
        go_wp2
        go_ret
        exact ⟨by rw [HD.out]; rfl, rfl⟩
      · have g1 : ¬ (300 : Int) < (len k : Int) := by omega
        have g2 : ¬ (len k : Int) > 300 := by omega
        have HB : Hid (∀ j, j < k + 1 → len j ≤ 300) := hide fun j hj => by
          by_cases e : j = k
          · rw [e]; omega
          · exact HA.out j (by omega)
        have HQ := hide hQ
        clear hc hQ
        obtain ⟨n, hn⟩ : ∃ n, n = len k := ⟨_, rfl⟩
        rw [← hn] at hcell g1 g2
        generalize ad k = aa at *
        generalize cp k = cc at *
        go_wp2
        go_round
        case rel => exact ⟨k + 1, by omega, vint (by have := HQ.out; omega), HB⟩
        case measure => have := HQ.out; simp [intOf]; omega
    · obtain rfl : k = N := by omega
      have hd : decide (∀ i, i < k → len i ≤ 300) = true := decide_eq_true HA.out
      have hge : ¬ ((k : Int) < (k : Int)) := by omega
      have HD := hide hd
      clear hc hd
      go_wp2
      go_ret
      exact ⟨by rw [HD.out]; rfl, rfl⟩
theorem few1M (a0 : Option Addr) (n0 c0 : Nat) (w : World) :
    Calls Tryd.prog 4 #[.slice (some ⟨w.heap.size, 0, none⟩) 1 1] (w.alloc (.cells #[.slice a0 n0 c0] 25)) fun e w' => e = .returned (.bool (decide (n0 ≤ 300))) ∧ Below w.heap.size w w' := by
  have h := fewM w.heap.size 1 (fun i => n0) (fun i => c0) (fun i => a0) (w.alloc (.cells #[.slice a0 n0 c0] 25)) (by decide) (fun i hi => by
    match i, hi with
    | 0, _ => exact cell_row0 _ _ _ _ _ rfl)
  refine h.mono fun e w' hh => ⟨?_, by rw [hh.2]; exact keep_alloc _ _⟩
  rw [hh.1]
  congr 2
  exact decide_eq_decide.2 ⟨fun h => h 0 (by decide), fun h i _ => h⟩
theorem few3M (a0 a1 a2 : Option Addr) (n0 n1 n2 c0 c1 c2 : Nat) (w : World) :
    Calls Tryd.prog 4 #[.slice (some ⟨w.heap.size, 0, none⟩) 3 3] (w.alloc (.cells #[.slice a0 n0 c0, .slice a1 n1 c1, .slice a2 n2 c2] 25)) fun e w' => e = .returned (.bool (decide (n0 ≤ 300 ∧ n1 ≤ 300 ∧ n2 ≤ 300))) ∧ Below w.heap.size w w' := by
  have h := fewM w.heap.size 3 (fun i => if i = 0 then n0 else if i = 1 then n1 else n2) (fun i => if i = 0 then c0 else if i = 1 then c1 else c2) (fun i => if i = 0 then a0 else if i = 1 then a1 else a2) (w.alloc (.cells #[.slice a0 n0 c0, .slice a1 n1 c1, .slice a2 n2 c2] 25)) (by decide) (fun i hi => by
    match i, hi with
    | 0, _ => exact cell_row0 _ _ _ _ _ rfl
    | 1, _ => exact cell_row0 _ _ _ _ _ rfl
    | 2, _ => exact cell_row0 _ _ _ _ _ rfl)
  refine h.mono fun e w' hh => ⟨?_, by rw [hh.2]; exact keep_alloc _ _⟩
  rw [hh.1]
  congr 2
  refine decide_eq_decide.2 ⟨fun h => ⟨h 0 (by decide), h 1 (by decide), h 2 (by decide)⟩, ?_⟩
  rintro ⟨h0, h1, h2⟩ i hi
  match i, hi with
  | 0, _ => exact h0
  | 1, _ => exact h1
  | 2, _ => exact h2
theorem few2M (a0 a1 : Option Addr) (n0 n1 c0 c1 : Nat) (w : World) :
    Calls Tryd.prog 4 #[.slice (some ⟨w.heap.size, 0, none⟩) 2 2] (w.alloc (.cells #[.slice a0 n0 c0, .slice a1 n1 c1] 25)) fun e w' => e = .returned (.bool (decide (n0 ≤ 300 ∧ n1 ≤ 300))) ∧ Below w.heap.size w w' := by
  have h := fewM w.heap.size 2 (fun i => if i = 0 then n0 else n1) (fun i => if i = 0 then c0 else c1) (fun i => if i = 0 then a0 else a1) (w.alloc (.cells #[.slice a0 n0 c0, .slice a1 n1 c1] 25)) (by decide) (fun i hi => by
    match i, hi with
    | 0, _ => exact cell_row0 _ _ _ _ _ rfl
    | 1, _ => exact cell_row0 _ _ _ _ _ rfl)
  refine h.mono fun e w' hh => ⟨?_, by rw [hh.2]; exact keep_alloc _ _⟩
  rw [hh.1]
  congr 2
  refine decide_eq_decide.2 ⟨fun h => ⟨h 0 (by decide), h 1 (by decide)⟩, ?_⟩
  rintro ⟨h0, h1⟩ i hi
  match i, hi with
  | 0, _ => exact h0
  | 1, _ => exact h1
set_option maxHeartbeats 4000000 in
set_option maxRecDepth 100000 in
theorem awakeM_any (w : World) : Calls Tryd.prog 5 #[] w fun e w' => e = .returned (.bool true) ∧ Below w.heap.size w w' := by
  have hs := fun y => csizeT_any 5 8 y
  rw [show szT 5 8 = 1292 by decide] at hs
  have h6 := fun y => cfitT_any 6 8 y
  rw [show decide (FitL 6 8) = false by decide] at h6
  have h5 := fun y => cfitT_any 5 8 y
  rw [show decide (FitL 5 8) = true by decide] at h5
  have hv := fun y => cver_nil y
  go_enter Tryd.func5, Tryd.ntmps5
  go_wp2_with (first
    | (go_at_call 9; refine (hs _).mono ?_; rintro e w1 ⟨rfl, g1⟩)
    | (go_at_call 10; refine (hv _).mono ?_; rintro e w2 ⟨rfl, g2⟩)
    | (go_at_call_of 12 (Value.agg #[.int .i64 6, .int .i64 8]); refine (h6 _).mono ?_; rintro e w3 ⟨rfl, g3⟩)
    | (go_at_call_of 12 (Value.agg #[.int .i64 5, .int .i64 8]); refine (h5 _).mono ?_; rintro e w4 ⟨rfl, g4⟩)
    | fail)
  go_ret
  exact ⟨rfl, keep_trans g1 (keep_trans g2 (keep_trans g3 g4))⟩
end Go.Proofs.YtefndnbaifiboaaDoor
