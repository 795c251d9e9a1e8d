/- Which sums that go on can be: the code's, and the document's. -/
import Derived.Test.YtgdcpdbmacmheaaDoorTex
import Derived.Test.YtgdcpdbmacmheaaDoorHFin64
import Derived.Test.YtgdcpdbmacmheaaDoorOwn
namespace Go.Proofs.YtgdcpdbmacmheaaDoor
open Go.RowKit
set_option linter.unusedVariables false
set_option linter.unusedSimpArgs false

/-- whether a kind has words of 64 bits -/
def wide (kind : Int) : Bool := decide (kind ≠ 1)
def wfit (kind : Int) (ws : List Nat) : Bool := decide (kind ≠ 1) || ws.all (fun x => decide (x < 4294967296))
def hfit (kind : Int) (ws : List Nat) (n size : Nat) : Bool := decide ((kind = 1 ∨ kind = 2 ∨ kind = 3) ∧ size < 1152921504606846976 ∧ n = size % bz (wide kind)) && wfit kind ws
theorem all8 {ws : List Nat} (h8 : ws.length = 8) : ws.all (fun x => decide (x < 4294967296)) = true ↔ ∀ j, j < 8 → el ws j < 4294967296 := by
  rw [List.all_eq_true]
  constructor
  · intro h j hj
    rw [el_at (by omega)]
    exact of_decide_eq_true (h _ (List.getElem_mem _))
  · intro h x hx
    obtain ⟨i, hi, rfl⟩ := List.getElem_of_mem hx
    have := h i (by omega)
    rw [el_at hi] at this
    exact decide_eq_true this
theorem wfit_one {ws : List Nat} (h8 : ws.length = 8) : wfit 1 ws = true ↔ ∀ j, j < 8 → el ws j < 4294967296 := by
  rw [← all8 h8]; simp [wfit]

def bk (kind : Int) : Nat := if kind = 1 then 64 else if kind = 2 ∨ kind = 3 then 128 else 0
theorem blockOf_any (kind : Int) (w : World) : Calls Tryd.prog 29 #[.int .i64 kind] w fun e w' => e = .returned (.int .u64 (bk kind : Nat)) ∧ w' = w := by
  by_cases h1 : kind = 1
  · subst h1
    go_enter Tryd.func29, Tryd.ntmps29
    go_wp2
    go_ret
    exact ⟨rfl, rfl⟩
  by_cases h2 : kind = 2
  · subst h2
    go_enter Tryd.func29, Tryd.ntmps29
    go_wp2
    go_ret
    exact ⟨rfl, rfl⟩
  by_cases h3 : kind = 3
  · subst h3
    go_enter Tryd.func29, Tryd.ntmps29
    go_wp2
    go_ret
    exact ⟨rfl, rfl⟩
  have hb : bk kind = 0 := by simp [bk, h1, h2, h3]
  rw [hb]
  go_enter Tryd.func29, Tryd.ntmps29
  go_wp2
  go_ret
  exact ⟨rfl, rfl⟩
theorem rBlock_any (kind : Int) (w : World) : Calls Tryd.prog 31 #[.int .i64 kind] w fun e w' => e = .returned (.int .i64 (bz (wide kind) : Nat)) ∧ w' = w := by
  by_cases h1 : kind = 1
  · subst h1
    go_enter Tryd.func31, Tryd.ntmps31
    go_wp2
    go_ret
    exact ⟨rfl, rfl⟩
  have hb : bz (wide kind) = 128 := by simp [wide, h1, bz]
  rw [hb]
  go_enter Tryd.func31, Tryd.ntmps31
  go_wp2
  go_ret
  exact ⟨rfl, rfl⟩

set_option maxHeartbeats 2000000 in
set_option maxRecDepth 100000 in
theorem wordsFit_any (kind : Int) (ws : List Nat) (tv : Value) (size : Nat) (w : World) (h8 : ws.length = 8) (hu : Under 18446744073709551616 ws) :
    Calls Tryd.prog 30 #[.agg (hv kind ws tv size)] w fun e w' => e = .returned (.bool (wfit kind ws)) ∧ Below w.heap.size w w' := by
  unfold hv
  by_cases h1 : kind = 1
  · subst h1
    go_enter Tryd.func30, Tryd.ntmps30
    go_wp2
    have hb := keep_alloc w (.cells #[.int .i64 1, .int .u64 (el ws 0), .int .u64 (el ws 1), .int .u64 (el ws 2), .int .u64 (el ws 3), .int .u64 (el ws 4), .int .u64 (el ws 5), .int .u64 (el ws 6), .int .u64 (el ws 7), tv, .int .u64 size] 26)
    generalize w.alloc (.cells #[.int .i64 1, .int .u64 (el ws 0), .int .u64 (el ws 1), .int .u64 (el ws 2), .int .u64 (el ws 3), .int .u64 (el ws 4), .int .u64 (el ws 5), .int .u64 (el ws 6), .int .u64 (el ws 7), tv, .int .u64 size] 26) = w1 at *
    go_loopw [10] (fun i wr => ∃ j : Nat, j ≤ 8 ∧ i = .int .i64 j ∧ wr = w1 ∧ ∀ t, t < j → el ws t < 4294967296) (fun i _ => 8 - (intOf i).toNat)
    case atStart => exact ⟨0, Nat.zero_le _, rfl, rfl, fun t ht => by omega⟩
    case round =>
      obtain ⟨j, hj, rfl, rfl, hall⟩ := hrel
      have HA := hide hall
      clear hall
      by_cases hlt : j < 8
      · have hix : ∀ w : World, (Instr.index 24 (.agg #[.int .u64 (el ws 0), .int .u64 (el ws 1), .int .u64 (el ws 2), .int .u64 (el ws 3), .int .u64 (el ws 4), .int .u64 (el ws 5), .int .u64 (el ws 6), .int .u64 (el ws 7)]) (.int .i64 (j : Int))).run Tryd.prog w = .ok (.int .u64 (el ws j)) w := fun w => by
          rw [← arr8 .u64 ws h8]; exact index_arr _ 23 8 .u64 ws (by kernel_rfl) (by kernel_rfl) (by kernel_rfl) h8 j hlt w
        have ij0 : (0 : Int) ≤ (j : Int) := Int.natCast_nonneg _
        have ij1 : (j : Int) < 8 := by omega
        by_cases hx : el ws j < 4294967296
        · have hx2 : (el ws j : Int) ≤ 4294967295 := by omega
          go_wp2
          exact ⟨⟨j + 1, by omega, by go_num, trivial, fun t ht => by
            by_cases e : t = j
            · subst e; exact hx
            · exact HA.out t (by omega)⟩, by simp [intOf]; omega⟩
        · have hx2 : 4294967295 < (el ws j : Int) := by omega
          have hw : wfit 1 ws = false := by
            cases hq : wfit 1 ws with
            | false => rfl
            | true => exact absurd ((wfit_one h8).1 hq j hlt) hx
          go_wp2
          go_ret
          exact ⟨by rw [hw]; rfl, hb⟩
      · have hw : wfit 1 ws = true := (wfit_one h8).2 (fun t ht => HA.out t (by omega))
        go_wp2
        go_ret
        exact ⟨by rw [hw]; rfl, hb⟩
  · have hw : wfit kind ws = true := by simp [wfit, h1]
    rw [hw]
    go_enter Tryd.func30, Tryd.ntmps30
    go_wp2
    go_ret
    exact ⟨rfl, keep_alloc _ _⟩

end Go.Proofs.YtgdcpdbmacmheaaDoor

/- Which sums that go on can be: the code's, and the document's. -/
namespace Go.Proofs.YtgdcpdbmacmheaaDoor
open Go.RowKit
set_option linter.unusedVariables false
set_option linter.unusedSimpArgs false

theorem and_tail {a b c d e f g h i j k l : Prop} (x : a ∧ b ∧ c ∧ d ∧ e ∧ f ∧ g ∧ h ∧ i ∧ j ∧ k) (y : l) : a ∧ b ∧ c ∧ d ∧ e ∧ f ∧ g ∧ h ∧ i ∧ j ∧ k ∧ l := by
  obtain ⟨a, b, c, d, e, f, g, h, i, j, k⟩ := x
  exact ⟨a, b, c, d, e, f, g, h, i, j, k, y⟩
set_option maxHeartbeats 4000000 in
set_option maxRecDepth 100000 in
theorem fit_any (kind : Int) (ws : List Nat) (tv : Value) (tl : List Nat) (size : Nat) (w : World) (h8 : ws.length = 8) (hu : Under 18446744073709551616 ws) (hR : Row .u8 256 w tv tl) (hs : size < 18446744073709551616) :
    Calls Tryd.prog 14 #[.agg (hv kind ws tv size)] w fun e w' => e = .returned (.bool (hfit kind ws tl.length size)) ∧ Below w.heap.size w w' := by
  obtain ⟨ta, tc, rfl, ht1, ht2, ht3, ht4⟩ := hR
  unfold maxLen at ht2
  have hbo := blockOf_any kind
  by_cases hk : bk kind = 0
  · have hf : hfit kind ws tl.length size = false := by
      have : ¬ (kind = 1 ∨ kind = 2 ∨ kind = 3) := by
        intro h
        rcases h with rfl | rfl | rfl <;> simp [bk] at hk
      simp [hfit, this]
    rw [hf]
    rw [hk] at hbo
    unfold hv
    go_enter Tryd.func14, Tryd.ntmps14
    go_wp2_with (first | (go_at_call 29; refine (hbo _).mono ?_; rintro e w1 ⟨rfl, rfl⟩) | fail)
    go_ret
    exact ⟨rfl, keep_alloc _ _⟩
  have hkk : (kind = 1 ∨ kind = 2 ∨ kind = 3) := by
    unfold bk at hk
    by_cases h1 : kind = 1
    · exact .inl h1
    · rw [if_neg h1] at hk
      by_cases h2 : kind = 2 ∨ kind = 3
      · exact .inr h2
      · rw [if_neg h2] at hk; exact absurd rfl hk
  have hbb : bk kind = bz (wide kind) := by rcases hkk with rfl | rfl | rfl <;> rfl
  have hbp : 0 < bz (wide kind) := bz_pos _
  rw [hbb] at hbo
  have hpos : ((bz (wide kind) : Nat) : Int) ≠ 0 := by omega
  have hne : ¬ bz (wide kind) = 0 := by omega
  by_cases hsz : size < 1152921504606846976
  · have hsz2 : ¬ (1152921504606846976 : Int) ≤ (size : Int) := by omega
    have htl : tl.length < 18446744073709551616 := by omega
    by_cases hl : tl.length = size % bz (wide kind)
    · have hf : hfit kind ws tl.length size = wfit kind ws := by simp [hfit, hkk, hsz, hl]
      rw [hf]
      have hwf := wordsFit_any kind ws (.slice ta tl.length tc) size
      have hl2 : (IntKind.u64.wrap ((tl.length : Nat) : Int) == (size : Int).tmod ((bz (wide kind) : Nat) : Int)) = true := by
        have e1 : (size : Int).tmod ((bz (wide kind) : Nat) : Int) = ((size % bz (wide kind) : Nat) : Int) := rfl
        rw [e1, ← hl, IntKind.wrap_u64, beq_iff_eq]; omega
      have hB := Hb.new w kind ws (.slice ta tl.length tc) size
      have hmk : ∀ w', Below (w.heap.size + 1) (w.alloc (.cells #[.int .i64 kind, .int .u64 (el ws 0), .int .u64 (el ws 1), .int .u64 (el ws 2), .int .u64 (el ws 3), .int .u64 (el ws 4), .int .u64 (el ws 5), .int .u64 (el ws 6), .int .u64 (el ws 7), .slice ta tl.length tc, .int .u64 size] 26)) w' → (w'.cell? ⟨w.heap.size, 0, none⟩ = some (.int .i64 kind) ∧ w'.cell? ⟨w.heap.size, 1, none⟩ = some (.int .u64 (el ws 0)) ∧ w'.cell? ⟨w.heap.size, 2, none⟩ = some (.int .u64 (el ws 1)) ∧ w'.cell? ⟨w.heap.size, 3, none⟩ = some (.int .u64 (el ws 2)) ∧ w'.cell? ⟨w.heap.size, 4, none⟩ = some (.int .u64 (el ws 3)) ∧ w'.cell? ⟨w.heap.size, 5, none⟩ = some (.int .u64 (el ws 4)) ∧ w'.cell? ⟨w.heap.size, 6, none⟩ = some (.int .u64 (el ws 5)) ∧ w'.cell? ⟨w.heap.size, 7, none⟩ = some (.int .u64 (el ws 6)) ∧ w'.cell? ⟨w.heap.size, 8, none⟩ = some (.int .u64 (el ws 7)) ∧ w'.cell? ⟨w.heap.size, 9, none⟩ = some (.slice ta tl.length tc) ∧ w'.cell? ⟨w.heap.size, 10, none⟩ = some (.int .u64 size)) := fun w' hb => by
        have hB' : Hb w' w.heap.size kind ws (.slice ta tl.length tc) size := Hb.below hB (by rw [World.size_alloc]; exact hb)
        exact ⟨hB'.kind, hB'.word (i := 0) (by decide), hB'.word (i := 1) (by decide), hB'.word (i := 2) (by decide), hB'.word (i := 3) (by decide), hB'.word (i := 4) (by decide), hB'.word (i := 5) (by decide), hB'.word (i := 6) (by decide), hB'.word (i := 7) (by decide), hB'.tail, hB'.size⟩
      have HMK := hide hmk
      unfold hv at *
      have hmk2 := fun w' hb => and_tail (HMK.out w' hb) hb
      have hb0 : Below w.heap.size w (w.alloc (.cells #[.int .i64 kind, .int .u64 (el ws 0), .int .u64 (el ws 1), .int .u64 (el ws 2), .int .u64 (el ws 3), .int .u64 (el ws 4), .int .u64 (el ws 5), .int .u64 (el ws 6), .int .u64 (el ws 7), .slice ta tl.length tc, .int .u64 size] 26)) := keep_alloc w _
      clear hmk hB
      have hD : decide ((1152921504606846976 : Int) ≤ (size : Int)) = false := decide_eq_false hsz2
      have hB0 : (((bz (wide kind) : Nat) : Int) == 0) = false := by simp [hne]
      clear hl hf hkk hk hbb hsz hsz2 hs htl
      generalize bz (wide kind) = B at *
      generalize hn : tl.length = n at *
      clear hn
      go_enter Tryd.func14, Tryd.ntmps14
      go_wp2_with (first | (go_at_call 29; refine (hbo _).mono ?_; rintro e w1 ⟨rfl, rfl⟩) | fail)
      go_region_held3 (fun w' => w'.cell? ⟨w.heap.size, 0, none⟩ = some (.int .i64 kind) ∧ w'.cell? ⟨w.heap.size, 1, none⟩ = some (.int .u64 (el ws 0)) ∧ w'.cell? ⟨w.heap.size, 2, none⟩ = some (.int .u64 (el ws 1)) ∧ w'.cell? ⟨w.heap.size, 3, none⟩ = some (.int .u64 (el ws 2)) ∧ w'.cell? ⟨w.heap.size, 4, none⟩ = some (.int .u64 (el ws 3)) ∧ w'.cell? ⟨w.heap.size, 5, none⟩ = some (.int .u64 (el ws 4)) ∧ w'.cell? ⟨w.heap.size, 6, none⟩ = some (.int .u64 (el ws 5)) ∧ w'.cell? ⟨w.heap.size, 7, none⟩ = some (.int .u64 (el ws 6)) ∧ w'.cell? ⟨w.heap.size, 8, none⟩ = some (.int .u64 (el ws 7)) ∧ w'.cell? ⟨w.heap.size, 9, none⟩ = some (.slice ta n tc) ∧ w'.cell? ⟨w.heap.size, 10, none⟩ = some (.int .u64 size) ∧ Below (w.heap.size + 1) (w.alloc (.cells #[.int .i64 kind, .int .u64 (el ws 0), .int .u64 (el ws 1), .int .u64 (el ws 2), .int .u64 (el ws 3), .int .u64 (el ws 4), .int .u64 (el ws 5), .int .u64 (el ws 6), .int .u64 (el ws 7), .slice ta n tc, .int .u64 size] 26)) w')
        (first
          | exact hmk2 _ (Below.refl _ _)
          | exact hmk2 _ (Below.refl _ _).drew
          | (go_split_ands; exact hmk2 _ (Below.drew (by assumption)))
          | exact hmk2 _ (((Below.refl _ _).drew).trans (hb7.mono (by simp)))
          | exact hmk2 _ ((Below.refl _ _).trans (hb7.mono (by simp))))
        (first
          | (go_at_call 30; refine (hwf _ h8 hu).mono ?_; rintro e w7 ⟨rfl, hb7⟩))
      go_wp2
      go_ret
      exact ⟨rfl, hb0.trans (((Below.refl _ _).drew).trans (hb7.mono (by simp)))⟩
    · have hf : hfit kind ws tl.length size = false := by simp [hfit, hkk, hsz, hl]
      rw [hf]
      have hl2 : (IntKind.u64.wrap ((tl.length : Nat) : Int) == (size : Int).tmod ((bz (wide kind) : Nat) : Int)) = false := by
        have e1 : (size : Int).tmod ((bz (wide kind) : Nat) : Int) = ((size % bz (wide kind) : Nat) : Int) := rfl
        rw [e1, IntKind.wrap_u64, beq_eq_false_iff_ne]; omega
      have hl3 : (((tl.length : Nat) : Int) == (size : Int) % ((bz (wide kind) : Nat) : Int)) = false := by
        rw [beq_eq_false_iff_ne]; omega
      have hD : decide ((1152921504606846976 : Int) ≤ (size : Int)) = false := decide_eq_false hsz2
      have hB0 : (((bz (wide kind) : Nat) : Int) == 0) = false := by simp [hne]
      clear hl hf hkk hk hbb hsz hsz2 hs
      generalize bz (wide kind) = B at *
      generalize hn : tl.length = n at *
      clear hn
      unfold hv
      go_enter Tryd.func14, Tryd.ntmps14
      go_wp2_with (first | (go_at_call 29; refine (hbo _).mono ?_; rintro e w1 ⟨rfl, rfl⟩) | fail)
      go_quiet (fail)
      go_wp2
      go_ret
      exact ⟨rfl, bel_drewN (keep_alloc _ _) _⟩
  · have hf : hfit kind ws tl.length size = false := by simp [hfit, hsz]
    rw [hf]
    have hD : decide ((1152921504606846976 : Int) ≤ (size : Int)) = true := decide_eq_true (by omega)
    have hB0 : (((bz (wide kind) : Nat) : Int) == 0) = false := by simp [hne]
    clear hf hkk hk hbb hsz hs
    generalize bz (wide kind) = B at *
    unfold hv
    go_enter Tryd.func14, Tryd.ntmps14
    go_wp2_with (first | (go_at_call 29; refine (hbo _).mono ?_; rintro e w1 ⟨rfl, rfl⟩) | fail)
    go_ret
    exact ⟨rfl, keep_alloc _ _⟩
end Go.Proofs.YtgdcpdbmacmheaaDoor
