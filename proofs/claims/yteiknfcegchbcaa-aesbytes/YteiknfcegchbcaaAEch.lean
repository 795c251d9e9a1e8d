/- The document's each, rows, columns. -/
import Derived.Test.YteiknfcegchbcaaABox
import Derived.Test.YteiknfcegchbcaaTex
import Derived.Test.YteiknfcegchbcaaMNew
namespace Go.Proofs.Yteiknfcegchbcaa
open Go.RowKit
set_option linter.unusedVariables false
set_option linter.unusedSimpArgs false

/-- sixteen places, the first k of them filled -/
def fill16 (f : Nat → Nat) (k : Nat) : List Nat := of16 fun i => if i < k then f i else 0
theorem fill16_len (f : Nat → Nat) (k : Nat) : (fill16 f k).length = 16 := of16_len _
theorem fill16_all (f : Nat → Nat) : fill16 f 16 = of16 f := ext16 (of16_len _) (of16_len _) fun i hi => by
  unfold fill16
  rw [of16_el _ hi, of16_el _ hi, if_pos hi]
theorem fill16_zero (f : Nat → Nat) : fill16 f 0 = List.replicate 16 0 := ext16 (of16_len _) List.length_replicate fun i hi => by
  unfold fill16
  rw [of16_el _ hi, el_at (by simpa using hi), List.getElem_replicate, if_neg (by omega)]
theorem fill16_set (f : Nat → Nat) {k : Nat} (hk : k < 16) : (fill16 f k).set k (f k) = fill16 f (k + 1) := ext16 (by rw [List.length_set, fill16_len]) (of16_len _) fun i hi => by
  rw [el_at (by rw [List.length_set, fill16_len]; exact hi), List.getElem_set]
  by_cases h : k = i
  · subst h
    rw [if_pos rfl]
    unfold fill16
    rw [of16_el _ hi, if_pos (by omega)]
  · rw [if_neg h, ← el_at]
    unfold fill16
    rw [of16_el _ hi, of16_el _ hi]
    by_cases h2 : i < k
    · rw [if_pos h2, if_pos (by omega)]
    · rw [if_neg h2, if_neg (by omega)]
/-- a row of the call's own that lies in a whole block -/
theorem lies_own {k : IntKind} {e : TypeId} {w : World} {base g n : Nat} {l : List Nat} (h : w.ownsRow base e 1 (.slice (some ⟨g, 0, none⟩) n n) n (vals k l)) (hl : l.length = n) : Lies k e w g l := by
  obtain ⟨_, ⟨h1, _⟩ | ⟨g', cap, cur, h1, _, h3, _, _, h4, h5⟩⟩ := h
  · cases h1
  · simp only [Value.slice.injEq, Option.some.injEq, Addr.mk.injEq] at h1
    obtain ⟨⟨rfl, _⟩, rfl⟩ : (g = g' ∧ True) ∧ n = cap := ⟨⟨h1.1.1, trivial⟩, h1.2.2⟩
    have e1 : cur.toList = vals k l := by
      rw [List.take_of_length_le (by rw [Array.length_toList, h4]; exact Nat.le_refl _)] at h5
      exact h5
    unfold Lies
    rw [h3]
    have : cur = arr k l := by
      apply Array.toList_inj.1
      rw [e1]
      simp [arr, vals]
    rw [this]
theorem own_lies {k : IntKind} {e : TypeId} {w : World} {base g n : Nat} {l : List Nat} (h : Lies k e w g l) (hb : base ≤ g) (hl : l.length = n) (hm : n ≤ maxLen) : w.ownsRow base e 1 (.slice (some ⟨g, 0, none⟩) n n) n (vals k l) := by
  refine ⟨by rw [vals_length, hl, Nat.mul_one], .inr ⟨g, n, arr k l, rfl, hb, h, Nat.le_refl _, hm, by rw [arr_size, hl, Nat.mul_one], ?_⟩⟩
  rw [List.take_of_length_le (by rw [Array.length_toList, arr_size, hl, Nat.mul_one]; exact Nat.le_refl _)]
  simp [arr, vals]
/-- where the loop stands -/
def EcL (w1 : World) (H : Nat) (f : Nat → Nat) (vi : Value) (wr : World) : Prop := ∃ k : Nat, k ≤ 16 ∧ vi = .int .i64 (k : Int) ∧ Lies .u8 5 wr (H + 1) (fill16 f k) ∧ But (H + 1) w1 wr

set_option maxHeartbeats 2000000 in
set_option maxRecDepth 100000 in
theorem reach_any (T s : List Nat) (sv : Value) (w : World) (hT : T.length = 256) (hTu : Under 256 T) (hs : B16 s) (rs : Row .u8 256 w sv s) :
    Calls Try.prog 49 #[sv, .agg (arr .u8 T)] w fun e w' => ∃ v, e = .returned v ∧ Own 5 .u8 256 w' w.heap.size v (eachL T s) ∧ Below w.heap.size w w' := by
  obtain ⟨i0, hi, hz0, hz1, hz2⟩ := info_parts Try.info5
  have hA := Lies.new .u8 47 w T
  have hb0 := keep_alloc w (.cells (arr .u8 T) 47)
  have rs0 := rs.below hb0
  obtain ⟨sa, sc, rfl, g1, g2, g3⟩ := rs.opens hs.1
  go_enter Try.func49, Try.ntmps49
  go_wp2_with (first | (at_make; refine wpList_make_full _ rfl _ _ 22 rfl (w.heap.size + 1) 5 i0 (.int .u8 0) 1 Try.underlying22 hi hz0 hz1 _ _ _ _ 16 rfl rfl rfl rfl (by rw [hz2]; decide) (by unfold maxLen; decide) (by simp) ?_; intro w1 hown hgrow) | fail)
  rw [made_u8, ← fill16_zero (fun i => el T (el s i))] at hown
  have hL1 := lies_own hown (fill16_len _ _)
  have hb1 := (Below.refl (w.alloc (.cells (arr .u8 T) 47)).heap.size (w.alloc (.cells (arr .u8 T) 47))).grown hgrow (Nat.le_refl _) (fun k h => by cases h)
  have hA1 := hA.below hb1
  have rs1 := rs0.below hb1
  have hbw := keep_trans hb0 hb1
  rw [World.size_alloc] at hL1
  obtain ⟨_, _, he, _, _, g4⟩ := rs1.opens hs.1
  obtain ⟨rfl, rfl⟩ := by simpa using he
  obtain ⟨sb, so, rfl, hc⟩ := g4 (by decide)
  have hsb : sb < (w.alloc (.cells (arr .u8 T) 47)).heap.size := by
    obtain ⟨_, _, he2, _, _, g5⟩ := rs0.opens hs.1
    obtain ⟨b', o', h1, h2⟩ := g5 (by decide)
    simp at he2
    have := World.block_lt_of_cell? _ _ (h2 0 (by decide))
    rw [h1] at he2
    simp at he2
    obtain ⟨⟨rfl, _⟩, _⟩ := he2
    exact this
  rw [World.size_alloc] at hsb
  clear hown hgrow he g3 g4 rs rs0 rs1 hA
  go_loopw [6] (fun vi wr => EcL w1 w.heap.size (fun i => el T (el s i)) vi wr) (fun vi _ => 16 - (intOf vi).toNat)
  case atStart => exact ⟨0, by decide, rfl, hL1, But.refl _ _⟩
  case round =>
    obtain ⟨k, hk, rfl, hL, hB⟩ := hrel
    by_cases hlt : k < 16
    · have hli : (k : Int) < 16 := by omega
      have c1 := But.cell (hc k hlt) hB (by show sb ≠ w.heap.size + 1; omega)
      have ck := hs.el k
      have hA2 := hA1.but hB (by omega)
      have c2 := hA2.cell (i := el s k) (by omega)
      have c3 := hL.cell (i := k) (by rw [fill16_len]; exact hlt)
      have c4 := hL.frozen k
      have cl := el_lt hTu (by decide) (el s k)
      have hst := hL.set k (el T (el s k))
      rw [fill16_set (fun i => el T (el s i)) hlt] at hst
      have HST := hide hst
      generalize el T (el s k) = t at *
      generalize el s k = u at *
      have ui : (u : Int) < 256 := by omega
      clear hst hL
      go_wp2
      exact ⟨⟨k + 1, by omega, by go_num, HST.out, hB.setCell k _⟩, by simp [intOf]; omega⟩
    · obtain rfl : k = 16 := by omega
      rw [fill16_all] at hL
      go_wp2
      go_ret
      have ho : Own 5 .u8 256 wr w.heap.size (.slice (some ⟨w.heap.size + 1, 0, none⟩) 16 16) (eachL T s) := ⟨by rw [show (eachL T s).length = 16 from of16_len _]; exact own_lies hL (by omega) (of16_len _) (by unfold maxLen; decide), (eachL_b (fun c h => el_lt hTu (by decide) c) hs).2⟩
      exact ⟨_, rfl, ho, hbw.trans (hB.below (by omega) hbw.size)⟩
end Go.Proofs.Yteiknfcegchbcaa
