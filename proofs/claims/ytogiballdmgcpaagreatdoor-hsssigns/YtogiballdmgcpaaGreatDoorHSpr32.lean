/- Contract of sha.spread at words of 32 bits. -/
import Derived.Test.YtogiballdmgcpaaGreatDoorHKit
import Derived.Test.YtogiballdmgcpaaGreatDoorBase
namespace Go.Proofs.YtogiballdmgcpaaGreatDoor
open Go.RowKit
set_option linter.unusedVariables false
set_option linter.unusedSimpArgs false

set_option maxRecDepth 100000 in
theorem zero8032 : ∀ w, (zeroValue 183).run Tryz.prog w = .ok (.agg (arr .u32 (List.replicate 80 0))) w := zero_arr (by kernel_rfl)

set_option maxHeartbeats 4000000 in
set_option maxRecDepth 100000 in
theorem spread_any32 (v : Value) (l : List Nat) (w : World) (hR : Row .u8 256 w v l) (hl : l.length = 64) :
    Calls Tryz.prog 153 #[v] w fun e w' => e = .returned (.agg (arr .u32 (pad 80 (sched false l 48)))) ∧ Below w.heap.size w w' := by
  have hu := hR.under
  obtain ⟨a, cap, rfl, h1, h2, h3⟩ := hR.opens hl
  obtain ⟨bb, off, rfl, hc⟩ := h3 (by decide)
  have hz := zero8032
  go_enter Tryz.func153, Tryz.ntmps153
  go_wp2_with fail
  refine (either_int32 _ _ _).mono ?_
  rintro e w1 ⟨rfl, rfl⟩
  go_wp2
  have hL0 : Lies .u32 183 ((w.alloc (.cells (arr .u32 (List.replicate 80 0)) 183)).alloc (.cells (arr .u32 (List.replicate 80 0)) 183)) (w.heap.size + 1) (pad 80 (words false l 0)) := by
    have := Lies.new .u32 183 (w.alloc (.cells (arr .u32 (List.replicate 80 0)) 183)) (List.replicate 80 0)
    rw [World.size_alloc] at this
    exact this
  have hO0 : Lies .u32 183 ((w.alloc (.cells (arr .u32 (List.replicate 80 0)) 183)).alloc (.cells (arr .u32 (List.replicate 80 0)) 183)) w.heap.size (List.replicate 80 0) := (Lies.new .u32 183 w (List.replicate 80 0)).alloc _
  have hb0 := keep_trans (keep_alloc w (.cells (arr .u32 (List.replicate 80 0)) 183)) (keep_alloc _ (.cells (arr .u32 (List.replicate 80 0)) 183))
  go_loopw [10] (fun i wr => ∃ t : Nat, t ≤ 16 ∧ i = .int .i64 t ∧ Lies .u32 183 wr (w.heap.size + 1) (pad 80 (words false l t)) ∧ Lies .u32 183 wr w.heap.size (List.replicate 80 0) ∧ Below w.heap.size w wr) (fun i _ => 16 - (intOf i).toNat)
  case atStart => exact ⟨0, Nat.zero_le _, rfl, hL0, hO0, hb0⟩
  case round =>
    obtain ⟨t, ht, rfl, hLt, hOt, hbt⟩ := hrel
    clear hL0 hO0 hb0
    by_cases hlt : t < 16
    · have hRt := (hR.below hbt).mid (i := t * 4) (j := (t + 1) * 4) (by omega) (by omega)
      go_wp2_with fail
      refine (num_any _ _ _ hRt).mono ?_
      rintro e w2 ⟨rfl, rfl⟩
      have hwd : numL ((l.drop (t * 4)).take ((t + 1) * 4 - t * 4)) = word false l t := by
        rw [show (t + 1) * 4 - t * 4 = 4 by omega]; rfl
      rw [hwd]
      have hwl : word false l t < 4294967296 := word_lt hu t
      have hst := hLt.set t (word false l t)
      have hse := pad_set (n := 80) (l := words false l t) (by rw [words_length]; omega) (word false l t)
      rw [words_length, ← words_succ] at hse
      rw [hse] at hst
      have HST := hide hst
      have c1 := hLt.cell (i := t) (by rw [pad_length (by rw [words_length]; omega)]; omega)
      have f1 := hLt.frozen t
      clear hwd hse hst hRt
      generalize hW : word false l t = W at *
      have HW := hide hW
      clear hW
      have ik0 : (0 : Int) ≤ (t : Int) := Int.natCast_nonneg _
      have ik1 : (t : Int) < 80 := by omega
      go_wp2
      refine ⟨⟨t + 1, by omega, by go_num, HST.out, hOt.but (But.setCell (But.refl (w.heap.size + 1) _) _ _) (by omega), hbt.setCell (by simp) _⟩, by simp [intOf]; omega⟩
    · obtain rfl : t = 16 := by omega
      go_wp2_with fail
      refine (either_tur32 7 18 3 1 8 7 _).mono ?_
      rintro e w3 ⟨rfl, hb3⟩
      unfold tur32
      go_wp2_with fail
      refine (either_tur32 17 19 10 19 61 6 _).mono ?_
      rintro e w4 ⟨rfl, hb4⟩
      unfold tur32
      go_wp2
      have hw : Lies .u32 183 w4 (w.heap.size + 1) (pad 80 (sched false l 0)) := ((hLt.below hb3).alloc _).below hb4
      have hO4 : Lies .u32 183 w4 w.heap.size (List.replicate 80 0) := ((hOt.below hb3).alloc _).below hb4
      have hA4 : Tu32 w4 w3.heap.size 7 18 3 := (Tu32.new w3 7 18 3).below hb4
      have hB5 : Tu32 (w4.alloc (.cells #[.int .i64 17, .int .i64 19, .int .i64 10] 197)) w4.heap.size 17 19 10 := Tu32.new w4 17 19 10
      have hw5 := hw.alloc (.cells #[.int .i64 17, .int .i64 19, .int .i64 10] 197)
      have hO5 := hO4.alloc (.cells #[.int .i64 17, .int .i64 19, .int .i64 10] 197)
      have hA5 := hA4.below (keep_alloc w4 (.cells #[.int .i64 17, .int .i64 19, .int .i64 10] 197))
      have hs3 := hb3.size
      have hs4 := hb4.size
      rw [World.size_alloc] at hs4
      have hne3 : w3.heap.size ≠ w.heap.size + 1 := by have := hLt.lt; omega
      have hne4 : w4.heap.size ≠ w.heap.size + 1 := by have := hLt.lt; omega
      have hb5 := keep_trans hbt (keep_trans hb3 (keep_trans (keep_alloc _ _) (keep_trans hb4 (keep_alloc w4 (.cells #[.int .i64 17, .int .i64 19, .int .i64 10] 197)))))
      clear hw hO4 hA4 hb3 hb4 hLt hOt hbt hs3 hs4
      generalize w4.alloc (.cells #[.int .i64 17, .int .i64 19, .int .i64 10] 197) = w5 at *
      go_loopw [8] (fun i wr => ∃ j : Nat, j ≤ 48 ∧ i = .int .i64 ((16 + j : Nat) : Int) ∧ Lies .u32 183 wr (w.heap.size + 1) (pad 80 (sched false l j)) ∧ Lies .u32 183 wr w.heap.size (List.replicate 80 0) ∧ Tu32 wr w3.heap.size 7 18 3 ∧ Tu32 wr w4.heap.size 17 19 10 ∧ Below w.heap.size w wr) (fun i _ => 100 - (intOf i).toNat)
      case atStart => exact ⟨0, Nat.zero_le _, rfl, hw5, hO5, hA5, hB5, hb5⟩
      case round =>
        obtain ⟨j, hj, rfl, hLj, hOj, hAj, hBj, hbj⟩ := hrel
        clear hw5 hO5 hA5 hB5 hb5
        have hlen := sched_length false l j
        have hsu := sched_under (b := false) hu j
        have hsc := sched_succ false l j
        by_cases hlt : j < 48
        · have hpl : (pad 80 (sched false l j)).length = 80 := pad_length (by omega)
          have hse := pad_set (n := 80) (l := sched false l j) (by omega) (nxt false (sched false l j))
          rw [← hsc, hlen] at hse
          have HSE := hide hse
          have HN : Hid (nxt false (sched false l j) = (lS1 false (el (sched false l j) (14 + j)) + el (sched false l j) (9 + j) + lS0 false (el (sched false l j) (1 + j)) + el (sched false l j) j) % wm false) := by
            apply hide
            unfold nxt
            rw [hlen, show 16 + j - 2 = 14 + j by omega, show 16 + j - 7 = 9 + j by omega, show 16 + j - 15 = 1 + j by omega, show 16 + j - 16 = j by omega]
          have HL := hide hlen
          clear hse hsc hlen
          generalize nxt false (sched false l j) = N at *
          generalize sched false l j = s at *
          have u := fun i => el_lt hsu (wm_pos false) i
          have hX : LiesX .u32 183 wr (w.heap.size + 1) (pad 80 s) (16 + j) := hLj.toX (by omega)
          have e2 : el (pad 80 s) (14 + j) = el s (14 + j) := pad_el (by rw [HL.out]; omega)
          have e7 : el (pad 80 s) (9 + j) = el s (9 + j) := pad_el (by rw [HL.out]; omega)
          have e15 : el (pad 80 s) (1 + j) = el s (1 + j) := pad_el (by rw [HL.out]; omega)
          have e16 : el (pad 80 s) j = el s j := pad_el (by rw [HL.out]; omega)
          have hmk : ∀ w', LiesX .u32 183 w' (w.heap.size + 1) (pad 80 s) (16 + j) ∧ But (w.heap.size + 1) wr w' → (w'.cell? ⟨w.heap.size + 1, 14 + j, none⟩ = some (.int .u32 (el s (14 + j))) ∧ w'.cell? ⟨w.heap.size + 1, 9 + j, none⟩ = some (.int .u32 (el s (9 + j))) ∧ w'.cell? ⟨w.heap.size + 1, 1 + j, none⟩ = some (.int .u32 (el s (1 + j))) ∧ w'.cell? ⟨w.heap.size + 1, j, none⟩ = some (.int .u32 (el s j)) ∧ w'.cell? ⟨w3.heap.size, 0, none⟩ = some (.int .i64 7) ∧ w'.cell? ⟨w3.heap.size, 1, none⟩ = some (.int .i64 18) ∧ w'.cell? ⟨w3.heap.size, 2, none⟩ = some (.int .i64 3) ∧ w'.cell? ⟨w4.heap.size, 0, none⟩ = some (.int .i64 17) ∧ w'.cell? ⟨w4.heap.size, 1, none⟩ = some (.int .i64 19) ∧ w'.cell? ⟨w4.heap.size, 2, none⟩ = some (.int .i64 10) ∧ w'.cell? ⟨w.heap.size + 1, 16 + j, none⟩ = some (rdc w' ⟨w.heap.size + 1, 16 + j, none⟩) ∧ w'.frozen? ⟨w.heap.size + 1, 16 + j, none⟩ = false ∧ (LiesX .u32 183 w' (w.heap.size + 1) (pad 80 s) (16 + j) ∧ But (w.heap.size + 1) wr w')) := fun w' ⟨hb, hB⟩ => by
            obtain ⟨a0, a1, a2⟩ := (hAj.but hB hne3).cells
            obtain ⟨b0, b1, b2⟩ := (hBj.but hB hne4).cells
            exact ⟨by rw [hb.cell (by omega) (by omega), e2], by rw [hb.cell (by omega) (by omega), e7], by rw [hb.cell (by omega) (by omega), e15], by rw [hb.cell (by omega) (by omega), e16], a0, a1, a2, b0, b1, b2, hb.here (by omega), hb.frozen _, hb, hB⟩
          have HMK := hide hmk
          have HX := hide hX
          clear hmk hX e2 e7 e15 e16
          have y2 : ((16 + j : Nat) : Int) - 2 = ((14 + j : Nat) : Int) := by omega
          have y7 : ((16 + j : Nat) : Int) - 7 = ((9 + j : Nat) : Int) := by omega
          have y15 : ((16 + j : Nat) : Int) - 15 = ((1 + j : Nat) : Int) := by omega
          have y16 : ((16 + j : Nat) : Int) - 16 = (j : Int) := by omega
          have n0 : 16 + j < 80 ∧ 14 + j < 80 ∧ 9 + j < 80 ∧ 1 + j < 80 ∧ 16 + j < 64 := by omega
          have HNJ : Hid (16 + (j + 1) = 16 + j + 1) := hide (by omega)
          have HJ : Hid (j + 1 ≤ 48) := hide (by omega)
          have nj : j < 80 := by omega
          have u2 : el s (14 + j) < 4294967296 := u _
          have u15 : el s (1 + j) < 4294967296 := u _
          have u7 : el s (9 + j) < 4294967296 := u _
          have u16 : el s j < 4294967296 := u _
          clear hlt hj hpl hsu u
          generalize 16 + j = T at *
          generalize 14 + j = c2 at *
          generalize 9 + j = c7 at *
          generalize 1 + j = c15 at *
          obtain ⟨n1, n2, n3, n4, n5⟩ := n0
          have i0 : (0 : Int) ≤ (j : Int) := Int.natCast_nonneg _
          have i1 : (j : Int) < 80 := by omega
          have i2 : (0 : Int) ≤ (c2 : Int) := Int.natCast_nonneg _
          have i3 : (c2 : Int) < 80 := by omega
          have i4 : (0 : Int) ≤ (c7 : Int) := Int.natCast_nonneg _
          have i5 : (c7 : Int) < 80 := by omega
          have i6 : (0 : Int) ≤ (c15 : Int) := Int.natCast_nonneg _
          have i7 : (c15 : Int) < 80 := by omega
          have i8 : (0 : Int) ≤ (T : Int) := Int.natCast_nonneg _
          have i9 : (T : Int) < 80 := by omega
          have r2 : IntKind.i64.wrap (c2 : Int) = (c2 : Int) := by rw [IntKind.wrap_i64]; omega
          have r7 : IntKind.i64.wrap (c7 : Int) = (c7 : Int) := by rw [IntKind.wrap_i64]; omega
          have r15 : IntKind.i64.wrap (c15 : Int) = (c15 : Int) := by rw [IntKind.wrap_i64]; omega
          have r16 : IntKind.i64.wrap (j : Int) = (j : Int) := by rw [IntKind.wrap_i64]; omega
          have i10 : (T : Int) < 64 := by omega
          go_wp2_with fail
          refine (either_int32 _ _ _).mono ?_
          rintro e w6 ⟨rfl, rfl⟩
          go_wp2
          go_region_held3 (fun w' => w'.cell? ⟨w.heap.size + 1, c2, none⟩ = some (.int .u32 (el s c2)) ∧ w'.cell? ⟨w.heap.size + 1, c7, none⟩ = some (.int .u32 (el s c7)) ∧ w'.cell? ⟨w.heap.size + 1, c15, none⟩ = some (.int .u32 (el s c15)) ∧ w'.cell? ⟨w.heap.size + 1, j, none⟩ = some (.int .u32 (el s j)) ∧ w'.cell? ⟨w3.heap.size, 0, none⟩ = some (.int .i64 7) ∧ w'.cell? ⟨w3.heap.size, 1, none⟩ = some (.int .i64 18) ∧ w'.cell? ⟨w3.heap.size, 2, none⟩ = some (.int .i64 3) ∧ w'.cell? ⟨w4.heap.size, 0, none⟩ = some (.int .i64 17) ∧ w'.cell? ⟨w4.heap.size, 1, none⟩ = some (.int .i64 19) ∧ w'.cell? ⟨w4.heap.size, 2, none⟩ = some (.int .i64 10) ∧ w'.cell? ⟨w.heap.size + 1, T, none⟩ = some (rdc w' ⟨w.heap.size + 1, T, none⟩) ∧ w'.frozen? ⟨w.heap.size + 1, T, none⟩ = false ∧ (LiesX .u32 183 w' (w.heap.size + 1) (pad 80 s) T ∧ But (w.heap.size + 1) w6 w'))
            (first
              | exact HMK.out _ ⟨HX.out, But.refl _ _⟩
              | exact HMK.out _ ⟨HX.out, (But.refl _ _).drew⟩
              | (go_split_ands; exact HMK.out _ ⟨LiesX.below (by assumption) hb8, But.trans (by assumption) (But.of_below hb8)⟩)
              | (go_split_ands; exact HMK.out _ ⟨LiesX.below (by assumption) hb7, But.trans (by assumption) (But.of_below hb7)⟩)
              | (go_split_ands; exact HMK.out _ ⟨LiesX.set (by assumption) _, But.setCell (by assumption) _ _⟩)
              | (go_split_ands; exact HMK.out _ ⟨by assumption, But.drew (by assumption)⟩))
            (first
              | (go_at_call_of 158 (el s c2); refine (shifted32 (el s c2) 17 19 10 _ u2 (by decide) (by decide) (by decide)).mono ?_; rintro e w7 ⟨rfl, hb7⟩)
              | (go_at_call_of 158 (el s c15); refine (shifted32 (el s c15) 7 18 3 _ u15 (by decide) (by decide) (by decide)).mono ?_; rintro e w8 ⟨rfl, hb8⟩))
          go_wp2_with fail
          have hB78 : Below w6.heap.size w6 w8 := by first | exact keep_trans hb7 hb8 | exact keep_trans (un_drew hb7) hb8 | exact keep_trans (un_drewN hb7) hb8
          have hN : (((shft3 false 17 19 10 (el s c2) + el s c7) % 4294967296 + shft3 false 7 18 3 (el s c15)) % 4294967296 + el s j) % 4294967296 = N := by
            rw [HN.out]
            simp only [lS0, lS1, wm, cond_true, cond_false]
            omega
          rw [add_is32, add_is32, add_is32, hN]
          have hBS : But (w.heap.size + 1) w6 (w8.setCell ⟨w.heap.size + 1, T, none⟩ (.int .u32 (N : Int))) := (But.of_below hB78).setCell T _
          exact ⟨⟨j + 1, HJ.out, vint (by rw [HNJ.out]; omega), by rw [← HSE.out]; exact (hLj.below hB78).set T N, hOj.but hBS (by omega), hAj.but hBS hne3, hBj.but hBS hne4, hbj.trans (hBS.below (by omega) hbj.size)⟩, by simp [intOf]; omega⟩
        · obtain rfl : j = 48 := by omega
          have hpl : (pad 80 (sched false l 48)).length = 80 := pad_length (by omega)
          have hlz : (List.replicate 80 0).length = 80 := rfl
          generalize hF : pad 80 (sched false l 48) = F at *
          have HF := hide hF
          clear hF
          go_wp2_with fail
          refine (either_int32 _ _ _).mono ?_
          rintro e w6 ⟨rfl, rfl⟩
          go_wp2_with (first
            | (refine wpList_load_row rfl 183 _ (by rfl) (w.heap.size + 1) (by rfl) _ _ _ (.array 80 52) hLj (by kernel_rfl) rfl (by rw [arr_size, hpl]; kernel_rfl) ?_)
            | (refine wpList_store_row rfl 183 _ _ (by rfl) w.heap.size (arr .u32 F) (by rfl) (by rfl) _ _ hOj (by rw [arr_size, hpl]; kernel_rfl) (by rw [arr_size, arr_size, hpl, List.length_replicate]) (arr_one _ _) ?_)
            | fail)
          have hOf : Lies .u32 183 (w6.setRow w.heap.size (arr .u32 F)) w.heap.size F := hOj.row
          have hbf : Below w.heap.size w (w6.setRow w.heap.size (arr .u32 F)) := hbj.trans ((But.setRow (But.refl _ _) _).below (Nat.le_refl _) hbj.size)
          refine bodyPost_ret (v := .agg (arr .u32 F)) ?_ ?_ ?_
          · exact results_cell_row Tryz.results153 _ _ w.heap.size _ _ _ (.array 80 52) (by rfl) hOf (by kernel_rfl) rfl (by rw [arr_size, hpl]; kernel_rfl)
          · rfl
          · exact ⟨by rw [HF.out], hbf⟩
end Go.Proofs.YtogiballdmgcpaaGreatDoor

/- More words for blocks: rows beside a block, results that are arrays. -/
namespace Go.Proofs.YtogiballdmgcpaaGreatDoor
open Go.RowKit
set_option linter.unusedVariables false
set_option linter.unusedSimpArgs false

/-- a row that does not lie in block g -/
def Away (g : Nat) (v : Value) (l : List Nat) : Prop := 0 < l.length → ∀ q, v.ownBlock = some q → q ≠ g
theorem Row.old {k : IntKind} {m : Nat} {w : World} {v : Value} {l : List Nat} (h : Row k m w v l) (hl : 0 < l.length) {q : Nat} (hq : v.ownBlock = some q) : q < w.heap.size := by
  obtain ⟨a, cap, rfl, h1, h2, h3, h4⟩ := h
  obtain ⟨b, off, rfl, hc⟩ := h3 hl
  have e : b = q := by simpa [Value.ownBlock] using hq
  subst e
  exact World.block_lt_of_cell? w _ (hc 0 hl)
theorem Row.away {k : IntKind} {m : Nat} {w : World} {v : Value} {l : List Nat} (h : Row k m w v l) {g : Nat} (hg : w.heap.size ≤ g) : Away g v l := fun hl q hq => by
  have := h.old hl hq
  omega
theorem Row.but {k : IntKind} {m : Nat} {w w' : World} {v : Value} {l : List Nat} {g : Nat} (h : Row k m w v l) (ha : Away g v l) (hb : But g w w') : Row k m w' v l := by
  obtain ⟨a, cap, rfl, h1, h2, h3, h4⟩ := h
  refine ⟨a, cap, rfl, h1, h2, fun hl => ?_, h4⟩
  obtain ⟨b, off, rfl, hc⟩ := h3 hl
  refine ⟨b, off, rfl, fun i hi => ?_⟩
  exact But.cell (hc i hi) hb (ha hl b (by simp [Value.ownBlock]))
theorem Own.away {e : TypeId} {k : IntKind} {m : Nat} {w : World} {B g : Nat} {v : Value} {l : List Nat} (h : Own e k m w B v l) (hg : g < B) : Away g v l := fun _ q hq => by
  have := (h.1.lt q hq).1
  omega
/-- a text without its first bytes -/
theorem Row.rest {k : IntKind} {m : Nat} {w : World} {b off n cap : Nat} {l : List Nat} (h : Row k m w (.slice (some ⟨b, off, none⟩) n cap) l) {i : Nat} (hi : i ≤ n) (A : Option Addr) (hA : A = some ⟨b, off, none⟩ ∧ cap = i ∨ A = some ⟨b, off + i, none⟩) :
    Row k m w (.slice A (n - i) (cap - i)) (l.drop i) := by
  obtain ⟨a', cap', he, h1, h2, h3, h4⟩ := h
  simp at he
  obtain ⟨rfl, rfl, rfl⟩ := he
  refine ⟨A, _, by rw [List.length_drop], by rw [List.length_drop]; omega, by omega, fun hp => ?_, fun x hx => h4 x (List.mem_of_mem_drop hx)⟩
  rw [List.length_drop] at hp
  rcases hA with ⟨_, hc⟩ | rfl
  · omega
  · obtain ⟨b', o', e, hc⟩ := h3 (by omega)
    simp at e
    obtain ⟨rfl, rfl⟩ := e
    refine ⟨b, off + i, rfl, fun x hx => ?_⟩
    rw [List.length_drop] at hx
    rw [el_drop, Nat.add_assoc]
    exact hc (i + x) (by omega)
/-- how long a slice is -/
def slen : Value → Nat
  | .slice _ n _ => n
  | _ => 0
theorem rndN_congr {b : Bool} {ks ws ws' s : List Nat} : ∀ n, (∀ i, i < n → el ws i = el ws' i) → rndN b ks ws n s = rndN b ks ws' n s
  | 0, _ => rfl
  | n + 1, h => by simp only [rndN]; rw [rndN_congr n (fun i hi => h i (by omega)), h n (by omega)]
theorem comp_pad {b : Bool} (h l : List Nat) : addW b h (rndN b (ks b) (pad 80 (sched b l (rn b - 16))) (rn b) h) 8 = comp b h l := by
  unfold comp
  rw [rndN_congr (ws' := sched b l (rn b - 16)) (rn b) (fun i hi => pad_el (by rw [sched_length]; cases b <;> simp [rn] at hi ⊢ <;> omega))]
end Go.Proofs.YtogiballdmgcpaaGreatDoor
