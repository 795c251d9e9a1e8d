/- Which sums that go on can be, the document's; whether two are the same. -/
import Derived.Test.YtgdcpdbmacmheaaDoorHFit0
import Derived.Test.YtgdcpdbmacmheaaDoorHTop
import Derived.Test.YtgdcpdbmacmheaaDoorFrameT
import Derived.Test.YtgdcpdbmacmheaaDoorGNew
import Derived.Test.YtgdcpdbmacmheaaDoorHSam
import Derived.Test.YtgdcpdbmacmheaaDoorHF1
namespace Go.Proofs.YtgdcpdbmacmheaaDoor
open Go.RowKit
set_option linter.unusedVariables false
set_option linter.unusedSimpArgs false


set_option maxHeartbeats 4000000 in
set_option maxRecDepth 100000 in
theorem rfit_3 (ws : List Nat) (tv : Value) (tl : List Nat) (size : Nat) (w : World) (h8 : ws.length = 8) (hu : Under 18446744073709551616 ws) (hR : Row .u8 256 w tv tl) (hs : size < 18446744073709551616) :
    Calls Tryd.prog 15 #[.agg (hv 3 ws tv size)] w fun e w' => e = .returned (.bool (hfit 3 ws tl.length size)) ∧ Below w.heap.size w w' := by
  obtain ⟨ta, tc, rfl, ht1, ht2, ht3, ht4⟩ := hR
  unfold maxLen at ht2
  have hbo : ∀ w, Calls Tryd.prog 31 #[.int .i64 3] w fun e w' => e = .returned (.int .i64 128) ∧ w' = w := rBlock_any 3
  by_cases hsz : size < 1152921504606846976
  · have hD : decide ((1152921504606846976 : Int) ≤ (size : Int)) = false := decide_eq_false (by omega)
    by_cases hl : tl.length = size % 128
    · have hf : hfit 3 ws tl.length size = wfit 3 ws := by
        have : tl.length = size % bz (wide 3) := hl
        simp [hfit, hsz, this]
      rw [hf]
      have hl2 : (IntKind.u64.wrap ((tl.length : Nat) : Int) != (size : Int).tmod 128) = false := by
        have e1 : (size : Int).tmod 128 = ((size % 128 : Nat) : Int) := rfl
        rw [e1, ← hl, IntKind.wrap_u64, bne_eq_false_iff_eq]; omega
      have hl3 : (((tl.length : Nat) : Int) != (size : Int) % 128) = false := by
        rw [bne_eq_false_iff_eq]; omega
      clear hl hf hsz hs
      generalize hn : tl.length = n at *
      clear hn
      have hB0 := Hb.new w 3 ws (.slice ta n tc) size
      have hb0 := keep_alloc w (.cells (hv 3 ws (.slice ta n tc) size) 26)
      unfold hv at *
      go_enter Tryd.func15, Tryd.ntmps15
      go_wp2
      go_quiet (exact (hbo _).mono (by rintro e w' ⟨rfl, rfl⟩; exact ⟨rfl, _, rfl⟩))
      go_wp2
      generalize w.alloc (.cells #[.int .i64 3, .int .u64 (el ws 0), .int .u64 (el ws 1), .int .u64 (el ws 2), .int .u64 (el ws 3), .int .u64 (el ws 4), .int .u64 (el ws 5), .int .u64 (el ws 6), .int .u64 (el ws 7), .slice ta n tc, .int .u64 size] 26) = w1 at *
      go_loopw [3] (fun i wr => ∃ (j q : Nat), j ≤ 8 ∧ i = .int .i64 j ∧ wr = w1.drewN q) (fun i _ => 8 - (intOf i).toNat)
      case atStart => exact ⟨0, _, Nat.zero_le _, rfl, rfl⟩
      case round =>
        obtain ⟨j, qq, hj, rfl, rfl⟩ := hrel
        have cK : (w1.drewN qq).cell? ⟨w.heap.size, 0, none⟩ = some (.int .i64 3) := Hb.kind (w := w1.drewN qq) hB0
        by_cases hlt : j < 8
        · have cj : (w1.drewN qq).cell? ⟨w.heap.size, 1 + j, none⟩ = some (.int .u64 (el ws j)) := Hb.word (w := w1.drewN qq) hB0 hlt
          have ij0 : (0 : Int) ≤ (j : Int) := Int.natCast_nonneg _
          have ij1 : (j : Int) < 8 := by omega
          by_cases hx : el ws j < 4294967296
          · have hx2 : decide ((4294967296 : Int) ≤ (el ws j : Int)) = false := decide_eq_false (by omega)
            go_wp2
            skip
            exact ⟨⟨j + 1, _, by omega, by go_num, rfl⟩, by simp [intOf]; omega⟩
          · have hx2 : decide ((4294967296 : Int) ≤ (el ws j : Int)) = true := decide_eq_true (by omega)
            go_wp2
            exact ⟨⟨j + 1, _, by omega, by go_num, rfl⟩, by simp [intOf]; omega⟩
        · have hw : wfit 3 ws = true := by
            simp [wfit]
          go_wp2
          go_ret
          exact ⟨by rw [hw]; rfl, bel_drewN hb0 _⟩
    · have hf : hfit 3 ws tl.length size = false := by
        have : ¬ tl.length = size % bz (wide 3) := hl
        simp [hfit, hsz, this]
      rw [hf]
      have hl2 : (IntKind.u64.wrap ((tl.length : Nat) : Int) != (size : Int).tmod 128) = true := by
        have e1 : (size : Int).tmod 128 = ((size % 128 : Nat) : Int) := rfl
        rw [e1, IntKind.wrap_u64, bne_iff_ne]; omega
      have hl3 : (((tl.length : Nat) : Int) != (size : Int) % 128) = true := by
        rw [bne_iff_ne]; omega
      clear hl hf hsz hs
      generalize hn : tl.length = n at *
      clear hn
      unfold hv
      go_enter Tryd.func15, Tryd.ntmps15
      go_wp2
      go_quiet (exact (hbo _).mono (by rintro e w' ⟨rfl, rfl⟩; exact ⟨rfl, _, rfl⟩))
      go_wp2
      go_ret
      exact ⟨rfl, bel_drewN (keep_alloc _ _) _⟩
  · have hf : hfit 3 ws tl.length size = false := by simp [hfit, hsz]
    rw [hf]
    have hD : decide ((1152921504606846976 : Int) ≤ (size : Int)) = true := decide_eq_true (by omega)
    clear hf hsz hs
    unfold hv
    go_enter Tryd.func15, Tryd.ntmps15
    go_wp2
    go_quiet (fail)
    go_wp2
    go_ret
    exact ⟨rfl, bel_drewN (keep_alloc _ _) _⟩
end Go.Proofs.YtgdcpdbmacmheaaDoor

/- Which sums that go on can be, the document's; whether two are the same. -/
namespace Go.Proofs.YtgdcpdbmacmheaaDoor
open Go.RowKit
set_option linter.unusedVariables false
set_option linter.unusedSimpArgs false

set_option maxHeartbeats 4000000 in
set_option maxRecDepth 100000 in
theorem rfit_out (kind : Int) (ws : List Nat) (ta : Option Addr) (n tc : Nat) (size : Nat) (w : World) (hk : kind < 1 ∨ 3 < kind) :
    Calls Tryd.prog 15 #[.agg (hv kind ws (.slice ta n tc) size)] w fun e w' => e = .returned (.bool false) ∧ Below w.heap.size w w' := by
  unfold hv
  by_cases h1 : kind < 1
  · have d1 : decide (kind < 1) = true := decide_eq_true h1
    clear hk h1
    go_enter Tryd.func15, Tryd.ntmps15
    go_wp2
    go_quiet (fail)
    go_wp2
    go_ret
    exact ⟨rfl, bel_drewN (keep_alloc _ _) _⟩
  · have d1 : decide (kind < 1) = false := decide_eq_false h1
    have d2 : decide (3 < kind) = true := decide_eq_true (by omega)
    clear hk h1
    go_enter Tryd.func15, Tryd.ntmps15
    go_wp2
    go_quiet (fail)
    go_wp2
    go_ret
    exact ⟨rfl, bel_drewN (keep_alloc _ _) _⟩
end Go.Proofs.YtgdcpdbmacmheaaDoor

/- Words for the laws of sums: Fit and Same of whatever sums; two sums that lie in memory over calls. -/
namespace Go.Proofs.YtgdcpdbmacmheaaDoor
open Go.RowKit
set_option linter.unusedVariables false
set_option linter.unusedSimpArgs false

theorem rFit_any (kind : Int) (ws : List Nat) (tv : Value) (tl : List Nat) (size : Nat) (w : World) (h8 : ws.length = 8) (hu : Under 18446744073709551616 ws) (hR : Row .u8 256 w tv tl) (hs : size < 18446744073709551616) :
    Calls Tryd.prog 15 #[.agg (hv kind ws tv size)] w fun e w' => e = .returned (.bool (hfit kind ws tl.length size)) ∧ Below w.heap.size w w' := by
  by_cases h1 : kind = 1
  · subst h1; exact rfit_1 ws tv tl size w h8 hu hR hs
  · by_cases h2 : kind = 2
    · subst h2; exact rfit_2 ws tv tl size w h8 hu hR hs
    · by_cases h3 : kind = 3
      · subst h3; exact rfit_3 ws tv tl size w h8 hu hR hs
      · have hf : hfit kind ws tl.length size = false := by simp [hfit, h1, h2, h3]
        obtain ⟨ta, tc, rfl⟩ := hR.form
        rw [hf]
        exact rfit_out kind ws ta tl.length tc size w (by omega)
theorem hsame_refl (k : Int) (ws l : List Nat) (s : Nat) : hsame k ws l s k ws l s = true := by simp [hsame]
/-- a sum with more bytes is fit, where it is not too long -/
theorem hfit_add {kind : Int} {ws tl b : List Nat} {size : Nat} (h8 : ws.length = 8) (hu : Under 18446744073709551616 ws) (hf : hfit kind ws tl.length size = true) (hs : size + b.length < 1152921504606846976) :
    hfit kind (eat (wide kind) ws (tl ++ b)) (left (wide kind) (tl ++ b)).length (size + b.length) = true := by
  obtain ⟨hk, _, hn, hu'⟩ := hfit_true h8 hu hf
  refine hfit_mk (eat_len _ h8) hk hs ?_ (eat_under _ hu')
  rw [left_length, List.length_append, hn, Nat.mod_add_mod]
theorem under_all {c : Bool} {l : List Nat} (h : Under (wm c) l) : Under 18446744073709551616 l := fun x hx => Nat.lt_of_lt_of_le (h x hx) (wm_le c)
/-- two sums that lie in memory, over calls -/
structure HsT (w : World) (q p : Nat) (ka : Int) (wa : List Nat) (ta : Value) (sa : Nat) (kb : Int) (wb : List Nat) (tb : Value) (lb : List Nat) (sb : Nat) (w' : World) : Prop where
  a : Hb w' q ka wa ta sa
  b : Hb w' p kb wb tb sb
  r : Row .u8 256 w' tb lb
  bel : Below w.heap.size w w'
theorem HsT.keep {w w' w'' : World} {q p : Nat} {ka : Int} {wa : List Nat} {ta : Value} {sa : Nat} {kb : Int} {wb : List Nat} {tb : Value} {lb : List Nat} {sb : Nat} (h : HsT w q p ka wa ta sa kb wb tb lb sb w') (hb : Below w'.heap.size w' w'') : HsT w q p ka wa ta sa kb wb tb lb sb w'' :=
  ⟨h.a.below hb, h.b.below hb, h.r.below hb, keep_trans h.bel hb⟩
theorem HsT.drew {w w' : World} {q p : Nat} {ka : Int} {wa : List Nat} {ta : Value} {sa : Nat} {kb : Int} {wb : List Nat} {tb : Value} {lb : List Nat} {sb : Nat} (h : HsT w q p ka wa ta sa kb wb tb lb sb w') : HsT w q p ka wa ta sa kb wb tb lb sb w'.drew := h.keep (Below.refl _ _).drew
theorem HsT.out {w w' : World} {q p : Nat} {ka : Int} {wa : List Nat} {ta : Value} {sa : Nat} {kb : Int} {wb : List Nat} {tb : Value} {lb : List Nat} {sb : Nat} (h : w'.cell? ⟨q, 0, none⟩ = some (.int .i64 ka) ∧ w'.cell? ⟨q, 1, none⟩ = some (.int .u64 (el wa 0)) ∧ w'.cell? ⟨q, 2, none⟩ = some (.int .u64 (el wa 1)) ∧ w'.cell? ⟨q, 3, none⟩ = some (.int .u64 (el wa 2)) ∧ w'.cell? ⟨q, 4, none⟩ = some (.int .u64 (el wa 3)) ∧ w'.cell? ⟨q, 5, none⟩ = some (.int .u64 (el wa 4)) ∧ w'.cell? ⟨q, 6, none⟩ = some (.int .u64 (el wa 5)) ∧ w'.cell? ⟨q, 7, none⟩ = some (.int .u64 (el wa 6)) ∧ w'.cell? ⟨q, 8, none⟩ = some (.int .u64 (el wa 7)) ∧ w'.cell? ⟨q, 9, none⟩ = some ta ∧ w'.cell? ⟨q, 10, none⟩ = some (.int .u64 sa) ∧ w'.cell? ⟨p, 0, none⟩ = some (.int .i64 kb) ∧ w'.cell? ⟨p, 1, none⟩ = some (.int .u64 (el wb 0)) ∧ w'.cell? ⟨p, 2, none⟩ = some (.int .u64 (el wb 1)) ∧ w'.cell? ⟨p, 3, none⟩ = some (.int .u64 (el wb 2)) ∧ w'.cell? ⟨p, 4, none⟩ = some (.int .u64 (el wb 3)) ∧ w'.cell? ⟨p, 5, none⟩ = some (.int .u64 (el wb 4)) ∧ w'.cell? ⟨p, 6, none⟩ = some (.int .u64 (el wb 5)) ∧ w'.cell? ⟨p, 7, none⟩ = some (.int .u64 (el wb 6)) ∧ w'.cell? ⟨p, 8, none⟩ = some (.int .u64 (el wb 7)) ∧ w'.cell? ⟨p, 9, none⟩ = some tb ∧ w'.cell? ⟨p, 10, none⟩ = some (.int .u64 sb) ∧ HsT w q p ka wa ta sa kb wb tb lb sb w') : HsT w q p ka wa ta sa kb wb tb lb sb w' := h.2.2.2.2.2.2.2.2.2.2.2.2.2.2.2.2.2.2.2.2.2.2
theorem HsT.all {w w' : World} {q p : Nat} {ka : Int} {wa : List Nat} {ta : Value} {sa : Nat} {kb : Int} {wb : List Nat} {tb : Value} {lb : List Nat} {sb : Nat} (h : HsT w q p ka wa ta sa kb wb tb lb sb w') : w'.cell? ⟨q, 0, none⟩ = some (.int .i64 ka) ∧ w'.cell? ⟨q, 1, none⟩ = some (.int .u64 (el wa 0)) ∧ w'.cell? ⟨q, 2, none⟩ = some (.int .u64 (el wa 1)) ∧ w'.cell? ⟨q, 3, none⟩ = some (.int .u64 (el wa 2)) ∧ w'.cell? ⟨q, 4, none⟩ = some (.int .u64 (el wa 3)) ∧ w'.cell? ⟨q, 5, none⟩ = some (.int .u64 (el wa 4)) ∧ w'.cell? ⟨q, 6, none⟩ = some (.int .u64 (el wa 5)) ∧ w'.cell? ⟨q, 7, none⟩ = some (.int .u64 (el wa 6)) ∧ w'.cell? ⟨q, 8, none⟩ = some (.int .u64 (el wa 7)) ∧ w'.cell? ⟨q, 9, none⟩ = some ta ∧ w'.cell? ⟨q, 10, none⟩ = some (.int .u64 sa) ∧ w'.cell? ⟨p, 0, none⟩ = some (.int .i64 kb) ∧ w'.cell? ⟨p, 1, none⟩ = some (.int .u64 (el wb 0)) ∧ w'.cell? ⟨p, 2, none⟩ = some (.int .u64 (el wb 1)) ∧ w'.cell? ⟨p, 3, none⟩ = some (.int .u64 (el wb 2)) ∧ w'.cell? ⟨p, 4, none⟩ = some (.int .u64 (el wb 3)) ∧ w'.cell? ⟨p, 5, none⟩ = some (.int .u64 (el wb 4)) ∧ w'.cell? ⟨p, 6, none⟩ = some (.int .u64 (el wb 5)) ∧ w'.cell? ⟨p, 7, none⟩ = some (.int .u64 (el wb 6)) ∧ w'.cell? ⟨p, 8, none⟩ = some (.int .u64 (el wb 7)) ∧ w'.cell? ⟨p, 9, none⟩ = some tb ∧ w'.cell? ⟨p, 10, none⟩ = some (.int .u64 sb) ∧ HsT w q p ka wa ta sa kb wb tb lb sb w' := by
  obtain ⟨a0, a1, a2, a3, a4, a5, a6, a7, a8, a9, a10⟩ := h.a.all
  obtain ⟨b0, b1, b2, b3, b4, b5, b6, b7, b8, b9, b10⟩ := h.b.all
  exact ⟨a0, a1, a2, a3, a4, a5, a6, a7, a8, a9, a10, b0, b1, b2, b3, b4, b5, b6, b7, b8, b9, b10, h⟩
end Go.Proofs.YtgdcpdbmacmheaaDoor
