/- Which sums that go on can be, the document's; whether two are the same. -/
import Derived.Test.YtgdcpdbmacmheaaDoorHFit0
namespace Go.Proofs.YtgdcpdbmacmheaaDoor
open Go.RowKit
set_option linter.unusedVariables false
set_option linter.unusedSimpArgs false


set_option maxHeartbeats 4000000 in
set_option maxRecDepth 100000 in
theorem rfit_1 (ws : List Nat) (tv : Value) (tl : List Nat) (size : Nat) (w : World) (h8 : ws.length = 8) (hu : Under 18446744073709551616 ws) (hR : Row .u8 256 w tv tl) (hs : size < 18446744073709551616) :
    Calls Tryd.prog 15 #[.agg (hv 1 ws tv size)] w fun e w' => e = .returned (.bool (hfit 1 ws tl.length size)) ∧ Below w.heap.size w w' := by
  obtain ⟨ta, tc, rfl, ht1, ht2, ht3, ht4⟩ := hR
  unfold maxLen at ht2
  have hbo : ∀ w, Calls Tryd.prog 31 #[.int .i64 1] w fun e w' => e = .returned (.int .i64 64) ∧ w' = w := rBlock_any 1
  by_cases hsz : size < 1152921504606846976
  · have hD : decide ((1152921504606846976 : Int) ≤ (size : Int)) = false := decide_eq_false (by omega)
    by_cases hl : tl.length = size % 64
    · have hf : hfit 1 ws tl.length size = wfit 1 ws := by
        have : tl.length = size % bz (wide 1) := hl
        simp [hfit, hsz, this]
      rw [hf]
      have hl2 : (IntKind.u64.wrap ((tl.length : Nat) : Int) != (size : Int).tmod 64) = false := by
        have e1 : (size : Int).tmod 64 = ((size % 64 : Nat) : Int) := rfl
        rw [e1, ← hl, IntKind.wrap_u64, bne_eq_false_iff_eq]; omega
      have hl3 : (((tl.length : Nat) : Int) != (size : Int) % 64) = false := by
        rw [bne_eq_false_iff_eq]; omega
      clear hl hf hsz hs
      generalize hn : tl.length = n at *
      clear hn
      have hB0 := Hb.new w 1 ws (.slice ta n tc) size
      have hb0 := keep_alloc w (.cells (hv 1 ws (.slice ta n tc) size) 26)
      unfold hv at *
      go_enter Tryd.func15, Tryd.ntmps15
      go_wp2
      go_quiet (exact (hbo _).mono (by rintro e w' ⟨rfl, rfl⟩; exact ⟨rfl, _, rfl⟩))
      go_wp2
      generalize w.alloc (.cells #[.int .i64 1, .int .u64 (el ws 0), .int .u64 (el ws 1), .int .u64 (el ws 2), .int .u64 (el ws 3), .int .u64 (el ws 4), .int .u64 (el ws 5), .int .u64 (el ws 6), .int .u64 (el ws 7), .slice ta n tc, .int .u64 size] 26) = w1 at *
      go_loopw [3] (fun i wr => ∃ (j q : Nat), j ≤ 8 ∧ i = .int .i64 j ∧ wr = w1.drewN q ∧ ∀ t, t < j → el ws t < 4294967296) (fun i _ => 8 - (intOf i).toNat)
      case atStart => exact ⟨0, _, Nat.zero_le _, rfl, rfl, fun t ht => by omega⟩
      case round =>
        obtain ⟨j, qq, hj, rfl, rfl, hall⟩ := hrel
        have HA := hide hall
        clear hall
        have cK : (w1.drewN qq).cell? ⟨w.heap.size, 0, none⟩ = some (.int .i64 1) := Hb.kind (w := w1.drewN qq) hB0
        by_cases hlt : j < 8
        · have cj : (w1.drewN qq).cell? ⟨w.heap.size, 1 + j, none⟩ = some (.int .u64 (el ws j)) := Hb.word (w := w1.drewN qq) hB0 hlt
          have ij0 : (0 : Int) ≤ (j : Int) := Int.natCast_nonneg _
          have ij1 : (j : Int) < 8 := by omega
          by_cases hx : el ws j < 4294967296
          · have hx2 : decide ((4294967296 : Int) ≤ (el ws j : Int)) = false := decide_eq_false (by omega)
            go_wp2
            skip
            exact ⟨⟨j + 1, _, by omega, by go_num, rfl, fun t ht => by
              by_cases e : t = j
              · subst e; exact hx
              · exact HA.out t (by omega)⟩, by simp [intOf]; omega⟩
          · have hx2 : decide ((4294967296 : Int) ≤ (el ws j : Int)) = true := decide_eq_true (by omega)
            have hw : wfit 1 ws = false := by
              cases hq : wfit 1 ws with
              | false => rfl
              | true => exact absurd ((wfit_one h8).1 hq j hlt) hx
            go_wp2
            go_ret
            exact ⟨by rw [hw]; rfl, bel_drewN hb0 _⟩
        · have hw : wfit 1 ws = true := by
            exact (wfit_one h8).2 (fun t ht => HA.out t (by omega))
          go_wp2
          go_ret
          exact ⟨by rw [hw]; rfl, bel_drewN hb0 _⟩
    · have hf : hfit 1 ws tl.length size = false := by
        have : ¬ tl.length = size % bz (wide 1) := hl
        simp [hfit, hsz, this]
      rw [hf]
      have hl2 : (IntKind.u64.wrap ((tl.length : Nat) : Int) != (size : Int).tmod 64) = true := by
        have e1 : (size : Int).tmod 64 = ((size % 64 : Nat) : Int) := rfl
        rw [e1, IntKind.wrap_u64, bne_iff_ne]; omega
      have hl3 : (((tl.length : Nat) : Int) != (size : Int) % 64) = true := by
        rw [bne_iff_ne]; omega
      clear hl hf hsz hs
      generalize hn : tl.length = n at *
      clear hn
      unfold hv
      go_enter Tryd.func15, Tryd.ntmps15
      go_wp2
      go_quiet (exact (hbo _).mono (by rintro e w' ⟨rfl, rfl⟩; exact ⟨rfl, _, rfl⟩))
      go_wp2
      go_ret
      exact ⟨rfl, bel_drewN (keep_alloc _ _) _⟩
  · have hf : hfit 1 ws tl.length size = false := by simp [hfit, hsz]
    rw [hf]
    have hD : decide ((1152921504606846976 : Int) ≤ (size : Int)) = true := decide_eq_true (by omega)
    clear hf hsz hs
    unfold hv
    go_enter Tryd.func15, Tryd.ntmps15
    go_wp2
    go_quiet (fail)
    go_wp2
    go_ret
    exact ⟨rfl, bel_drewN (keep_alloc _ _) _⟩

end Go.Proofs.YtgdcpdbmacmheaaDoor

/- Which sums that go on can be, the document's; whether two are the same. -/
namespace Go.Proofs.YtgdcpdbmacmheaaDoor
open Go.RowKit
set_option linter.unusedVariables false
set_option linter.unusedSimpArgs false


set_option maxHeartbeats 4000000 in
set_option maxRecDepth 100000 in
theorem rfit_2 (ws : List Nat) (tv : Value) (tl : List Nat) (size : Nat) (w : World) (h8 : ws.length = 8) (hu : Under 18446744073709551616 ws) (hR : Row .u8 256 w tv tl) (hs : size < 18446744073709551616) :
    Calls Tryd.prog 15 #[.agg (hv 2 ws tv size)] w fun e w' => e = .returned (.bool (hfit 2 ws tl.length size)) ∧ Below w.heap.size w w' := by
  obtain ⟨ta, tc, rfl, ht1, ht2, ht3, ht4⟩ := hR
  unfold maxLen at ht2
  have hbo : ∀ w, Calls Tryd.prog 31 #[.int .i64 2] w fun e w' => e = .returned (.int .i64 128) ∧ w' = w := rBlock_any 2
  by_cases hsz : size < 1152921504606846976
  · have hD : decide ((1152921504606846976 : Int) ≤ (size : Int)) = false := decide_eq_false (by omega)
    by_cases hl : tl.length = size % 128
    · have hf : hfit 2 ws tl.length size = wfit 2 ws := by
        have : tl.length = size % bz (wide 2) := hl
        simp [hfit, hsz, this]
      rw [hf]
      have hl2 : (IntKind.u64.wrap ((tl.length : Nat) : Int) != (size : Int).tmod 128) = false := by
        have e1 : (size : Int).tmod 128 = ((size % 128 : Nat) : Int) := rfl
        rw [e1, ← hl, IntKind.wrap_u64, bne_eq_false_iff_eq]; omega
      have hl3 : (((tl.length : Nat) : Int) != (size : Int) % 128) = false := by
        rw [bne_eq_false_iff_eq]; omega
      clear hl hf hsz hs
      generalize hn : tl.length = n at *
      clear hn
      have hB0 := Hb.new w 2 ws (.slice ta n tc) size
      have hb0 := keep_alloc w (.cells (hv 2 ws (.slice ta n tc) size) 26)
      unfold hv at *
      go_enter Tryd.func15, Tryd.ntmps15
      go_wp2
      go_quiet (exact (hbo _).mono (by rintro e w' ⟨rfl, rfl⟩; exact ⟨rfl, _, rfl⟩))
      go_wp2
      generalize w.alloc (.cells #[.int .i64 2, .int .u64 (el ws 0), .int .u64 (el ws 1), .int .u64 (el ws 2), .int .u64 (el ws 3), .int .u64 (el ws 4), .int .u64 (el ws 5), .int .u64 (el ws 6), .int .u64 (el ws 7), .slice ta n tc, .int .u64 size] 26) = w1 at *
      go_loopw [3] (fun i wr => ∃ (j q : Nat), j ≤ 8 ∧ i = .int .i64 j ∧ wr = w1.drewN q) (fun i _ => 8 - (intOf i).toNat)
      case atStart => exact ⟨0, _, Nat.zero_le _, rfl, rfl⟩
      case round =>
        obtain ⟨j, qq, hj, rfl, rfl⟩ := hrel
        have cK : (w1.drewN qq).cell? ⟨w.heap.size, 0, none⟩ = some (.int .i64 2) := Hb.kind (w := w1.drewN qq) hB0
        by_cases hlt : j < 8
        · have cj : (w1.drewN qq).cell? ⟨w.heap.size, 1 + j, none⟩ = some (.int .u64 (el ws j)) := Hb.word (w := w1.drewN qq) hB0 hlt
          have ij0 : (0 : Int) ≤ (j : Int) := Int.natCast_nonneg _
          have ij1 : (j : Int) < 8 := by omega
          by_cases hx : el ws j < 4294967296
          · have hx2 : decide ((4294967296 : Int) ≤ (el ws j : Int)) = false := decide_eq_false (by omega)
            go_wp2
            skip
            exact ⟨⟨j + 1, _, by omega, by go_num, rfl⟩, by simp [intOf]; omega⟩
          · have hx2 : decide ((4294967296 : Int) ≤ (el ws j : Int)) = true := decide_eq_true (by omega)
            go_wp2
            exact ⟨⟨j + 1, _, by omega, by go_num, rfl⟩, by simp [intOf]; omega⟩
        · have hw : wfit 2 ws = true := by
            simp [wfit]
          go_wp2
          go_ret
          exact ⟨by rw [hw]; rfl, bel_drewN hb0 _⟩
    · have hf : hfit 2 ws tl.length size = false := by
        have : ¬ tl.length = size % bz (wide 2) := hl
        simp [hfit, hsz, this]
      rw [hf]
      have hl2 : (IntKind.u64.wrap ((tl.length : Nat) : Int) != (size : Int).tmod 128) = true := by
        have e1 : (size : Int).tmod 128 = ((size % 128 : Nat) : Int) := rfl
        rw [e1, IntKind.wrap_u64, bne_iff_ne]; omega
      have hl3 : (((tl.length : Nat) : Int) != (size : Int) % 128) = true := by
        rw [bne_iff_ne]; omega
      clear hl hf hsz hs
      generalize hn : tl.length = n at *
      clear hn
      unfold hv
      go_enter Tryd.func15, Tryd.ntmps15
      go_wp2
      go_quiet (exact (hbo _).mono (by rintro e w' ⟨rfl, rfl⟩; exact ⟨rfl, _, rfl⟩))
      go_wp2
      go_ret
      exact ⟨rfl, bel_drewN (keep_alloc _ _) _⟩
  · have hf : hfit 2 ws tl.length size = false := by simp [hfit, hsz]
    rw [hf]
    have hD : decide ((1152921504606846976 : Int) ≤ (size : Int)) = true := decide_eq_true (by omega)
    clear hf hsz hs
    unfold hv
    go_enter Tryd.func15, Tryd.ntmps15
    go_wp2
    go_quiet (fail)
    go_wp2
    go_ret
    exact ⟨rfl, bel_drewN (keep_alloc _ _) _⟩

end Go.Proofs.YtgdcpdbmacmheaaDoor
