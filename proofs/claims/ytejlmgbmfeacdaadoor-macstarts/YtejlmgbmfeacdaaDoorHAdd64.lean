/- Contract of sha.add at words of 64 bits. -/
import Derived.Test.YtejlmgbmfeacdaaDoorHRes64
import Derived.Test.YtejlmgbmfeacdaaDoorHTak32
import Derived.Test.YtejlmgbmfeacdaaDoorHSl
import Derived.Lib.MinMax
namespace Go.Proofs.YtejlmgbmfeacdaaDoor
open Go.RowKit
set_option linter.unusedVariables false
set_option linter.unusedSimpArgs false

set_option maxHeartbeats 8000000 in
set_option maxRecDepth 100000 in
theorem add_any64 (kind : Int) (ws : List Nat) (tv bv : Value) (tl b : List Nat) (size : Nat) (w : World) (hT : Roots w) (h8 : ws.length = 8) (hu : Under 18446744073709551616 ws) (hRt : Row .u8 256 w tv tl) (tT : Tidy tv) (hRb : Row .u8 256 w bv b) (tB : Tidy bv) (htl : tl.length < 128) (hbl : b.length ≤ 100000) (hsz : size < 1152921504606846976) :
    Calls Tryd.prog 53 #[.agg (hv kind ws tv size), bv] w fun e w' => ∃ v', e = .returned (.agg (hv kind (eat true ws (tl ++ b)) v' (size + b.length))) ∧ Row .u8 256 w' v' (left true (tl ++ b)) ∧ Tidy v' ∧ (∀ q, v'.ownBlock = some q → w.heap.size ≤ q) ∧ Below w.heap.size w w' := by
  have hb0 := keep_trans (keep_alloc w (.cells (hv kind ws tv size) 48)) (keep_alloc _ (.cells (hv 0 (List.replicate 8 0) (.slice none 0 0) 0) 48))
  have hT0 := (hT.below hb0).1
  have hH0 := (Hb.new w kind ws tv size).below (keep_alloc _ (.cells (hv 0 (List.replicate 8 0) (.slice none 0 0) 0) 48))
  have hO0 : Hb ((w.alloc (.cells (hv kind ws tv size) 48)).alloc (.cells (hv 0 (List.replicate 8 0) (.slice none 0 0) 0) 48)) (w.heap.size + 1) 0 (List.replicate 8 0) (.slice none 0 0) 0 := by
    have := Hb.new (w.alloc (.cells (hv kind ws tv size) 48)) 0 (List.replicate 8 0) (.slice none 0 0) 0
    rw [World.size_alloc] at this
    exact this
  have hRt' := hRt
  have hRb' := hRb
  obtain ⟨ta, tc, rfl, ht1, ht2, ht3, ht4⟩ := hRt'
  obtain ⟨ba, bc, rfl, hq1, hq2, hq3, hq4⟩ := hRb'
  unfold maxLen at ht2 hq2
  clear ht3 ht4 hq3 hq4
  have HO := hide hO0
  have HH := hide hH0
  have HB := hide hb0
  clear hO0 hH0 hb0
  have huv : hv kind ws (.slice ta tl.length tc) size = #[.int .i64 kind, .int .u64 (el ws 0), .int .u64 (el ws 1), .int .u64 (el ws 2), .int .u64 (el ws 3), .int .u64 (el ws 4), .int .u64 (el ws 5), .int .u64 (el ws 6), .int .u64 (el ws 7), .slice ta tl.length tc, .int .u64 size] := rfl
  rw [huv]
  clear huv
  go_enter Tryd.func53, Tryd.ntmps53
  go_wp2_with (first
    | (refine wpList_load_mid rfl 92 _ (by rfl) 2 0 (by rfl) (vals .u64 cubes) (.array 80 37) hT0 (by kernel_rfl) rfl (by kernel_rfl) ?_)
    | fail)
  refine (resume_is64 ws _ h8 hu).mono ?_
  rintro e w1 ⟨g, rfl, hg, hS1, hb1⟩
  have hW2 : w.heap.size + 2 ≤ g := by have := hg; simp at this; omega
  have hH1 := HH.out.below hb1
  have hO1 := HO.out.below hb1
  have hbw := keep_trans HB.out hb1
  have hRt1 := hRt.below hbw
  have hRb1 := hRb.below hbw
  have hAt : Away g (.slice ta tl.length tc) tl := hRt.away (by omega)
  have hAb : Away g (.slice ba b.length bc) b := hRb.away (by omega)
  have c9 := hH1.tail
  clear HH HO HB hb1 hg
  obtain ⟨R, hR⟩ : ∃ R, R = 128 - tl.length := ⟨_, rfl⟩
  obtain ⟨F, hF⟩ : ∃ F, F = min b.length R := ⟨_, rfl⟩
  have y1 : (128 : Int) - (tl.length : Int) = (R : Int) := by omega
  have y2 : IntKind.i64.wrap (R : Int) = (R : Int) := by rw [IntKind.wrap_i64]; omega
  have y3 : min (b.length : Int) (R : Int) = (F : Int) := by omega
  have y4 : min b.length R = F := hF.symm
  have hFb : F ≤ b.length := by omega
  have hFR : F ≤ R := by omega
  have hFe : F = b.length ∨ F = R := by omega
  have HR := hide hR
  have HFE := hide hFe
  clear hR hF hFe
  have hFi : (F : Int) ≤ (bc : Int) := by omega
  have hFj : (0 : Int) ≤ (F : Int) := Int.natCast_nonneg _
  go_wp2
  go_region_held3 (fun w' => w'.cell? ⟨w.heap.size, 9, none⟩ = some (.slice ta tl.length tc))
    (first
      | exact c9)
    (first
      | (go_at_call 67; refine (block_any64 _ _).mono ?_; rintro e w2 ⟨rfl, rfl⟩))
  go_wp2
  have hSx : Sm64 w1.drew g ws (ks true) := hS1
  have hHx : Hb w1.drew w.heap.size kind ws (.slice ta tl.length tc) size := hH1
  have hOx : Hb w1.drew (w.heap.size + 1) 0 (List.replicate 8 0) (.slice none 0 0) 0 := hO1
  have hbx : Below w.heap.size w w1.drew := hbw.drew
  have hRtx : Row .u8 256 w1.drew (.slice ta tl.length tc) tl := hRt1.below (Below.refl _ _).drew
  have hRbx : Row .u8 256 w1.drew (.slice ba b.length bc) b := hRb1.below (Below.refl _ _).drew
  have c9x : w1.drew.cell? ⟨w.heap.size, 9, none⟩ = some (.slice ta tl.length tc) := c9
  have hsx : g < w1.drew.heap.size := hSx.lt
  clear hS1 hH1 hO1 hbw hRt1 hRb1 c9
  generalize w1.drew = x1 at *
  have hRF := hRbx.cut (M := F) hFb
  have tF : Tidy (.slice ba F bc) := tB.to hFb
  have hsl := slice_to ba b.length bc F (by omega)
  have hfl : ([tl, b.take F] : List (List Nat)).flatten = tl ++ b.take F := by simp
  have hrl : (tl ++ b.take F).length ≤ 1000000 := by rw [List.length_append, List.length_take]; omega
  have hx1 : w.heap.size + 2 ≤ x1.heap.size := by omega
  have hge : w.heap.size ≠ g := by omega
  have c9y : (x1.alloc (.cells #[.slice ta tl.length tc, .slice ba F bc] 22)).cell? ⟨w.heap.size, 9, none⟩ = some (.slice ta tl.length tc) := keep_cell c9x (keep_alloc _ _)
  go_region_held3 (fun w' => w'.cell? ⟨w.heap.size, 9, none⟩ = some (.slice ta tl.length tc))
    (first
      | exact c9x
      | exact c9y
      | exact c9z
      | exact But.cell c9z hB4 hge)
    (first
      | (go_at_call 19; refine (join_any _ [tl, b.take F] _ ((rows_lit2 hRtx hRF tT tF).below (Below.refl _ _).drew) (by rw [hfl]; exact hrl)).mono ?_; rintro e w3 ⟨v3, rfl, hO3, hb3⟩; rw [hfl] at hO3; have c9z := keep_cell (w := (x1.alloc (.cells #[.slice ta tl.length tc, .slice ba F bc] 22)).drew) c9y hb3)
      | (go_at_call 68; refine (take_any64 g ws (tl ++ b.take F) v3 _ (Lies.below (w := (x1.alloc (.cells #[.slice ta tl.length tc, .slice ba F bc] 22)).drew) (hSx.alloc _) hb3) h8 hu hO3.row (hO3.away (by simp; omega)) hO3.tidy hrl).mono ?_; rintro e w4 ⟨⟨v4, rfl, hR4, hA4, hT4⟩, hS4, hB4⟩))
  have hX3 : Below x1.heap.size x1 w3 := keep_trans ((keep_alloc x1 (.cells #[.slice ta tl.length tc, .slice ba F bc] 22)).drew) hb3
  have hBx : But g x1 w4 := (But.of_below hX3).trans hB4
  have hH4 := hHx.but hBx hge
  have hO4 := hOx.but hBx (by omega)
  have hRb4 := hRbx.but hAb hBx
  obtain ⟨A, hsf, hA⟩ := slice_from ba b.length bc F hFb hq1
  have hRd := hRb4.behind hFb hA
  have hAd := hAb.behind (n' := b.length - F) (c' := bc - F) hA
  have tD := tB.behind hFb hA
  obtain ⟨a4, c4, rfl⟩ := hR4.form
  have he8 := eat_len (b := true) (tl ++ b.take F) h8
  have heu := eat_under (b := true) (tl ++ b.take F) hu
  have hbw4 : Below w.heap.size w w4 := hbx.trans (hBx.below (by omega) hbx.size)
  clear hsl c9x c9y c9z hb3 hX3 hSx hHx hOx hbx hRtx hRbx hRF hO3
  go_wp2_with (first
    | (go_at_call 68; refine (take_any64 g _ (b.drop F) _ w4 hS4 he8 heu hRd hAd tD (by rw [List.length_drop]; omega)).mono ?_; rintro e w5 ⟨⟨v5, rfl, hR5, hA5, hT5⟩, hS5, hB5⟩; obtain ⟨a5, c5, rfl⟩ := hR5.form)
    | (go_at_call 19; refine (join_any _ [left true (tl ++ b.take F), left true (b.drop F)] _ (rows_lit2 (hR4.but hA4 hB5) hR5 hT4 hT5) (by have := left_lt true (tl ++ b.take F); have := left_lt true (b.drop F); simp; have e : bz true = 128 := rfl; omega)).mono ?_; rintro e w6 ⟨v6, rfl, hO6, hb6⟩)
    | fail)
  have hFF : F = b.length ∨ F = bz true - tl.length ∧ tl.length < bz true ∧ F ≤ b.length := by
    rcases HFE.out with h | h
    · exact .inl h
    · exact .inr ⟨by rw [h, HR.out]; rfl, htl, hFb⟩
  have hap := add_parts true ws tl b F hFF
  clear hFF
  have hfl2 : ([left true (tl ++ b.take F), left true (b.drop F)] : List (List Nat)).flatten = left true (tl ++ b) := by rw [← hap.2]; simp
  rw [hfl2] at hO6
  rw [hap.1] at hS5
  have hE8 := eat_len (b := true) (tl ++ b) h8
  have hEu := eat_under (b := true) (tl ++ b) hu
  have hX6 : Below w5.heap.size w5 w6 := keep_trans (keep_alloc w5 _) hb6
  have hS6 := hS5.below hX6
  have hH6 := (hH4.but hB5 hge).below hX6
  have hO6' := (hO4.but hB5 (by omega)).below hX6
  have hbw6 : Below w.heap.size w w6 := (hbw4.trans (hB5.below (by omega) hbw4.size)).trans (hX6.mono (by have := hbw4.size; have := hB5.size; omega))
  have hlo : w.heap.size + 1 < w5.heap.size := by have := hB5.size; have := hS4.lt; omega
  have hR6 := hO6.row
  have hT6 := hO6.tidy
  have hN6 : ∀ q, v6.ownBlock = some q → w.heap.size ≤ q := fun q hq => by have := (hO6.1.lt q hq).1; simp at this; omega
  have hA6 : Away (w.heap.size + 1) v6 (left true (tl ++ b)) := hO6.away (by simp; omega)
  clear hap hfl2 hS5 hS4 hH4 hO4 hB5 hX6 hbw4 hR4 hR5 hA4 hA5 hT4 hT5 hRd hAd tD hsf hA hRb4 hBx hB4 hb6 he8 heu hO6
  generalize hEE : eat true ws (tl ++ b) = E at *
  have HEE := hide hEE
  clear hEE
  obtain ⟨a6, c6, rfl⟩ := hR6.form
  generalize w6 = x6 at *
  have HX0 : Hid (El x6 (w.heap.size + 1)) := hide hO6'.elev
  have hmk : ∀ w', El w' (w.heap.size + 1) → But (w.heap.size + 1) x6 w' → (w'.cell? ⟨w.heap.size, 0, none⟩ = some (.int .i64 kind) ∧ w'.cell? ⟨w.heap.size, 10, none⟩ = some (.int .u64 size) ∧ w'.cell? ⟨g, 0, none⟩ = some (.int .u64 (el E 0)) ∧ w'.cell? ⟨g, 1, none⟩ = some (.int .u64 (el E 1)) ∧ w'.cell? ⟨g, 2, none⟩ = some (.int .u64 (el E 2)) ∧ w'.cell? ⟨g, 3, none⟩ = some (.int .u64 (el E 3)) ∧ w'.cell? ⟨g, 4, none⟩ = some (.int .u64 (el E 4)) ∧ w'.cell? ⟨g, 5, none⟩ = some (.int .u64 (el E 5)) ∧ w'.cell? ⟨g, 6, none⟩ = some (.int .u64 (el E 6)) ∧ w'.cell? ⟨g, 7, none⟩ = some (.int .u64 (el E 7)) ∧ w'.cell? ⟨w.heap.size + 1, 0, none⟩ = some (rdc w' ⟨w.heap.size + 1, 0, none⟩) ∧ w'.cell? ⟨w.heap.size + 1, 1, none⟩ = some (rdc w' ⟨w.heap.size + 1, 1, none⟩) ∧ w'.cell? ⟨w.heap.size + 1, 2, none⟩ = some (rdc w' ⟨w.heap.size + 1, 2, none⟩) ∧ w'.cell? ⟨w.heap.size + 1, 3, none⟩ = some (rdc w' ⟨w.heap.size + 1, 3, none⟩) ∧ w'.cell? ⟨w.heap.size + 1, 4, none⟩ = some (rdc w' ⟨w.heap.size + 1, 4, none⟩) ∧ w'.cell? ⟨w.heap.size + 1, 5, none⟩ = some (rdc w' ⟨w.heap.size + 1, 5, none⟩) ∧ w'.cell? ⟨w.heap.size + 1, 6, none⟩ = some (rdc w' ⟨w.heap.size + 1, 6, none⟩) ∧ w'.cell? ⟨w.heap.size + 1, 7, none⟩ = some (rdc w' ⟨w.heap.size + 1, 7, none⟩) ∧ w'.cell? ⟨w.heap.size + 1, 8, none⟩ = some (rdc w' ⟨w.heap.size + 1, 8, none⟩) ∧ w'.cell? ⟨w.heap.size + 1, 9, none⟩ = some (rdc w' ⟨w.heap.size + 1, 9, none⟩) ∧ w'.cell? ⟨w.heap.size + 1, 10, none⟩ = some (rdc w' ⟨w.heap.size + 1, 10, none⟩) ∧ w'.frozen? ⟨w.heap.size + 1, 0, none⟩ = false ∧ w'.frozen? ⟨w.heap.size + 1, 1, none⟩ = false ∧ w'.frozen? ⟨w.heap.size + 1, 2, none⟩ = false ∧ w'.frozen? ⟨w.heap.size + 1, 3, none⟩ = false ∧ w'.frozen? ⟨w.heap.size + 1, 4, none⟩ = false ∧ w'.frozen? ⟨w.heap.size + 1, 5, none⟩ = false ∧ w'.frozen? ⟨w.heap.size + 1, 6, none⟩ = false ∧ w'.frozen? ⟨w.heap.size + 1, 7, none⟩ = false ∧ w'.frozen? ⟨w.heap.size + 1, 8, none⟩ = false ∧ w'.frozen? ⟨w.heap.size + 1, 9, none⟩ = false ∧ w'.frozen? ⟨w.heap.size + 1, 10, none⟩ = false) := fun w' hE hB => by
    have hS' := hS6.but hB (by omega)
    have hH' := hH6.but hB (by omega)
    exact ⟨hH'.kind, hH'.size, by rw [hS'.cell (by rw [List.length_append, hE8]; omega), el_app_left (by omega)], by rw [hS'.cell (by rw [List.length_append, hE8]; omega), el_app_left (by omega)], by rw [hS'.cell (by rw [List.length_append, hE8]; omega), el_app_left (by omega)], by rw [hS'.cell (by rw [List.length_append, hE8]; omega), el_app_left (by omega)], by rw [hS'.cell (by rw [List.length_append, hE8]; omega), el_app_left (by omega)], by rw [hS'.cell (by rw [List.length_append, hE8]; omega), el_app_left (by omega)], by rw [hS'.cell (by rw [List.length_append, hE8]; omega), el_app_left (by omega)], by rw [hS'.cell (by rw [List.length_append, hE8]; omega), el_app_left (by omega)], hE.cell (by decide), hE.cell (by decide), hE.cell (by decide), hE.cell (by decide), hE.cell (by decide), hE.cell (by decide), hE.cell (by decide), hE.cell (by decide), hE.cell (by decide), hE.cell (by decide), hE.cell (by decide), hE.frozen _, hE.frozen _, hE.frozen _, hE.frozen _, hE.frozen _, hE.frozen _, hE.frozen _, hE.frozen _, hE.frozen _, hE.frozen _, hE.frozen _⟩
  have HMK := hide hmk
  clear hmk
  have hE6 : El x6 (w.heap.size + 1) := HX0.out
  have hB6 : But (w.heap.size + 1) x6 x6 := But.refl _ _
  have hE6d : El x6.drew (w.heap.size + 1) := HX0.out
  have hB6d : But (w.heap.size + 1) x6 x6.drew := (But.refl _ _).drew
  have hstd : ∀ w, Calls Tryd.prog 39 #[.agg #[.int .u64 (el E 0), .int .u64 (el E 1), .int .u64 (el E 2), .int .u64 (el E 3), .int .u64 (el E 4), .int .u64 (el E 5), .int .u64 (el E 6), .int .u64 (el E 7)]] w fun e w' => e = .returned (.agg #[.int .u64 (el E 0), .int .u64 (el E 1), .int .u64 (el E 2), .int .u64 (el E 3), .int .u64 (el E 4), .int .u64 (el E 5), .int .u64 (el E 6), .int .u64 (el E 7)]) ∧ Below w.heap.size w w' := fun w => by
    rw [← arr8 .u64 E hE8]; exact stored_any64 E w hE8 hEu
  obtain ⟨N, hN⟩ : ∃ N, N = size + b.length := ⟨_, rfl⟩
  have hsum : (size : Int) + (b.length : Int) = (N : Int) := by omega
  have hwr : IntKind.u64.wrap (N : Int) = (N : Int) := by rw [IntKind.wrap_u64]; omega
  have HN := hide hN
  have hwr2 : IntKind.u64.wrap (b.length : Int) = (b.length : Int) := by rw [IntKind.wrap_u64]; omega
  clear hN
  go_region_held3 (fun w' => w'.cell? ⟨w.heap.size, 0, none⟩ = some (.int .i64 kind) ∧ w'.cell? ⟨w.heap.size, 10, none⟩ = some (.int .u64 size) ∧ w'.cell? ⟨g, 0, none⟩ = some (.int .u64 (el E 0)) ∧ w'.cell? ⟨g, 1, none⟩ = some (.int .u64 (el E 1)) ∧ w'.cell? ⟨g, 2, none⟩ = some (.int .u64 (el E 2)) ∧ w'.cell? ⟨g, 3, none⟩ = some (.int .u64 (el E 3)) ∧ w'.cell? ⟨g, 4, none⟩ = some (.int .u64 (el E 4)) ∧ w'.cell? ⟨g, 5, none⟩ = some (.int .u64 (el E 5)) ∧ w'.cell? ⟨g, 6, none⟩ = some (.int .u64 (el E 6)) ∧ w'.cell? ⟨g, 7, none⟩ = some (.int .u64 (el E 7)) ∧ w'.cell? ⟨w.heap.size + 1, 0, none⟩ = some (rdc w' ⟨w.heap.size + 1, 0, none⟩) ∧ w'.cell? ⟨w.heap.size + 1, 1, none⟩ = some (rdc w' ⟨w.heap.size + 1, 1, none⟩) ∧ w'.cell? ⟨w.heap.size + 1, 2, none⟩ = some (rdc w' ⟨w.heap.size + 1, 2, none⟩) ∧ w'.cell? ⟨w.heap.size + 1, 3, none⟩ = some (rdc w' ⟨w.heap.size + 1, 3, none⟩) ∧ w'.cell? ⟨w.heap.size + 1, 4, none⟩ = some (rdc w' ⟨w.heap.size + 1, 4, none⟩) ∧ w'.cell? ⟨w.heap.size + 1, 5, none⟩ = some (rdc w' ⟨w.heap.size + 1, 5, none⟩) ∧ w'.cell? ⟨w.heap.size + 1, 6, none⟩ = some (rdc w' ⟨w.heap.size + 1, 6, none⟩) ∧ w'.cell? ⟨w.heap.size + 1, 7, none⟩ = some (rdc w' ⟨w.heap.size + 1, 7, none⟩) ∧ w'.cell? ⟨w.heap.size + 1, 8, none⟩ = some (rdc w' ⟨w.heap.size + 1, 8, none⟩) ∧ w'.cell? ⟨w.heap.size + 1, 9, none⟩ = some (rdc w' ⟨w.heap.size + 1, 9, none⟩) ∧ w'.cell? ⟨w.heap.size + 1, 10, none⟩ = some (rdc w' ⟨w.heap.size + 1, 10, none⟩) ∧ w'.frozen? ⟨w.heap.size + 1, 0, none⟩ = false ∧ w'.frozen? ⟨w.heap.size + 1, 1, none⟩ = false ∧ w'.frozen? ⟨w.heap.size + 1, 2, none⟩ = false ∧ w'.frozen? ⟨w.heap.size + 1, 3, none⟩ = false ∧ w'.frozen? ⟨w.heap.size + 1, 4, none⟩ = false ∧ w'.frozen? ⟨w.heap.size + 1, 5, none⟩ = false ∧ w'.frozen? ⟨w.heap.size + 1, 6, none⟩ = false ∧ w'.frozen? ⟨w.heap.size + 1, 7, none⟩ = false ∧ w'.frozen? ⟨w.heap.size + 1, 8, none⟩ = false ∧ w'.frozen? ⟨w.heap.size + 1, 9, none⟩ = false ∧ w'.frozen? ⟨w.heap.size + 1, 10, none⟩ = false)
    (refine HMK.out _ ?_ ?_ <;> first
      | with_reducible exact hE6
      | with_reducible exact hB6
      | with_reducible exact hE6d
      | with_reducible exact hB6d
      | with_reducible exact hE7
      | with_reducible exact hB7
      | with_reducible exact (El.set (El.set (El.set (El.set (El.set (El.set (El.set (El.set (El.set (El.set (El.set hE7 _ _) _ _) _ _) _ _) _ _) _ _) _ _) _ _) _ _) _ _) _ _)
      | with_reducible exact (But.setCell (But.setCell (But.setCell (But.setCell (But.setCell (But.setCell (But.setCell (But.setCell (But.setCell (But.setCell (But.setCell hB7 _ _) _ _) _ _) _ _) _ _) _ _) _ _) _ _) _ _) _ _) _ _))
    (first
      | (go_at_call 39; refine (hstd _).mono ?_; rintro e w7 ⟨rfl, hb7⟩; have hE7 : El w7 (w.heap.size + 1) := El.below (w := x6.drew) HX0.out hb7; have hB7 : But (w.heap.size + 1) x6 w7 := But.of_below (un_drew hb7)))
  have hBf : But (w.heap.size + 1) x6 (((((((((((w7.setCell ⟨w.heap.size + 1, 0, none⟩ (.int .i64 kind)).setCell ⟨w.heap.size + 1, 1, none⟩ (.int .u64 (el E 0))).setCell ⟨w.heap.size + 1, 2, none⟩ (.int .u64 (el E 1))).setCell ⟨w.heap.size + 1, 3, none⟩ (.int .u64 (el E 2))).setCell ⟨w.heap.size + 1, 4, none⟩ (.int .u64 (el E 3))).setCell ⟨w.heap.size + 1, 5, none⟩ (.int .u64 (el E 4))).setCell ⟨w.heap.size + 1, 6, none⟩ (.int .u64 (el E 5))).setCell ⟨w.heap.size + 1, 7, none⟩ (.int .u64 (el E 6))).setCell ⟨w.heap.size + 1, 8, none⟩ (.int .u64 (el E 7))).setCell ⟨w.heap.size + 1, 9, none⟩ (.slice a6 (left true (tl ++ b)).length c6)).setCell ⟨w.heap.size + 1, 10, none⟩ (.int .u64 N)) := (But.setCell (But.setCell (But.setCell (But.setCell (But.setCell (But.setCell (But.setCell (But.setCell (But.setCell (But.setCell (But.setCell hB7 _ _) _ _) _ _) _ _) _ _) _ _) _ _) _ _) _ _) _ _) _ _)
  have hfu := El.full hE7 (.int .i64 kind) (.int .u64 (el E 0)) (.int .u64 (el E 1)) (.int .u64 (el E 2)) (.int .u64 (el E 3)) (.int .u64 (el E 4)) (.int .u64 (el E 5)) (.int .u64 (el E 6)) (.int .u64 (el E 7)) (.slice a6 (left true (tl ++ b)).length c6) (.int .u64 N)
  clear HMK
  generalize (((((((((((w7.setCell ⟨w.heap.size + 1, 0, none⟩ (.int .i64 kind)).setCell ⟨w.heap.size + 1, 1, none⟩ (.int .u64 (el E 0))).setCell ⟨w.heap.size + 1, 2, none⟩ (.int .u64 (el E 1))).setCell ⟨w.heap.size + 1, 3, none⟩ (.int .u64 (el E 2))).setCell ⟨w.heap.size + 1, 4, none⟩ (.int .u64 (el E 3))).setCell ⟨w.heap.size + 1, 5, none⟩ (.int .u64 (el E 4))).setCell ⟨w.heap.size + 1, 6, none⟩ (.int .u64 (el E 5))).setCell ⟨w.heap.size + 1, 7, none⟩ (.int .u64 (el E 6))).setCell ⟨w.heap.size + 1, 8, none⟩ (.int .u64 (el E 7))).setCell ⟨w.heap.size + 1, 9, none⟩ (.slice a6 (left true (tl ++ b)).length c6)).setCell ⟨w.heap.size + 1, 10, none⟩ (.int .u64 N)) = wf at *
  go_wp2
  refine bodyPost_ret (v := .agg (hv kind E (.slice a6 (left true (tl ++ b)).length c6) N)) ?_ ?_ ?_
  · exact results_cell_row Tryd.results53 _ _ (w.heap.size + 1) _ _ _ _ (by rfl) hfu Tryd.underlying48 rfl (by kernel_rfl)
  · rfl
  · exact ⟨_, by rw [HEE.out, ← HN.out], hR6.but hA6 hBf, hT6, hN6, hbw6.trans (hBf.below (by omega) (by have := hbw6.size; omega))⟩
end Go.Proofs.YtejlmgbmfeacdaaDoor

/- Contract of sha.finish at words of 32 bits. -/
namespace Go.Proofs.YtejlmgbmfeacdaaDoor
open Go.RowKit
set_option linter.unusedVariables false
set_option linter.unusedSimpArgs false

theorem room_le32 (n : Nat) : 8 ≤ room false n ∧ room false n ≤ 128 := by
  unfold room
  have e : bz false = 64 := rfl
  rw [e]
  split <;> omega
theorem room_mod32 (n : Nat) : room false (n % 64) = room false n := by
  unfold room
  have e : bz false = 64 := rfl
  rw [e, Nat.mod_mod]
theorem endS_is32 (ws l : List Nat) (size n : Nat) : (bytesW false (eat false (eat false ws l) (left false l ++ fill false l.length size))).take n = endS false ws l size n := by
  unfold endS
  rw [eat_parts false ws l (fill false l.length size)]
set_option maxHeartbeats 8000000 in
set_option maxRecDepth 100000 in
theorem finish_any32 (kind : Int) (ws : List Nat) (tv : Value) (tl : List Nat) (size N : Nat) (w : World) (hT : Roots w) (h8 : ws.length = 8) (hu : Under 4294967296 ws) (hRt : Row .u8 256 w tv tl) (tT : Tidy tv) (htl : tl.length ≤ 100000) (hsz : size < 1152921504606846976) (hN : N ≤ 32) :
    Calls Tryd.prog 56 #[.agg (hv kind ws tv size), .int .i64 N] w fun e w' => ∃ v', e = .returned v' ∧ Own 5 .u8 256 w' w.heap.size v' (endS false ws tl size N) ∧ Below w.heap.size w w' := by
  have hb0 := keep_alloc w (.cells (hv kind ws tv size) 48)
  have hT0 := (hT.below hb0).1
  have hH0 := Hb.new w kind ws tv size
  obtain ⟨ta, tc, rfl⟩ := hRt.form
  have HH := hide hH0
  have HB := hide hb0
  clear hH0 hb0
  have huv : hv kind ws (.slice ta tl.length tc) size = #[.int .i64 kind, .int .u64 (el ws 0), .int .u64 (el ws 1), .int .u64 (el ws 2), .int .u64 (el ws 3), .int .u64 (el ws 4), .int .u64 (el ws 5), .int .u64 (el ws 6), .int .u64 (el ws 7), .slice ta tl.length tc, .int .u64 size] := rfl
  rw [huv]
  clear huv
  go_enter Tryd.func56, Tryd.ntmps56
  go_wp2_with (first
    | (refine wpList_load_mid rfl 92 _ (by rfl) 2 0 (by rfl) (vals .u64 cubes) (.array 80 37) hT0 (by kernel_rfl) rfl (by kernel_rfl) ?_)
    | fail)
  refine (resume_is32 ws _ h8 hu).mono ?_
  rintro e w1 ⟨g, rfl, hg, hS1, hb1⟩
  have hW2 : w.heap.size + 1 ≤ g := by have := hg; simp at this; omega
  have hge : w.heap.size ≠ g := by omega
  have hH1 := HH.out.below hb1
  have hbw := keep_trans HB.out hb1
  have hRt1 := hRt.below hbw
  have hAt : Away g (.slice ta tl.length tc) tl := hRt.away (by omega)
  have c9 := hH1.tail
  clear HH HB hb1 hg
  go_wp2_with fail
  refine (take_any32 g ws tl _ w1 hS1 h8 hu hRt1 hAt tT (by omega)).mono ?_
  rintro e w2 ⟨⟨v2, rfl, hR2, hA2, hT2⟩, hS2, hB2⟩
  obtain ⟨a2, c2, rfl⟩ := hR2.form
  have hH2 := hH1.but hB2 hge
  have hbw2 : Below w.heap.size w w2 := hbw.trans (hB2.below (by omega) hbw.size)
  have hll : (left false tl).length = tl.length % 64 := left_length false tl
  have hlt := left_lt false tl
  have hbz : bz false = 64 := rfl
  rw [hbz] at hlt
  have he8 := eat_len (b := false) tl h8
  have heu := eat_under (b := false) tl hu
  obtain ⟨R, hR⟩ : ∃ R, R = 64 - (left false tl).length - 1 := ⟨_, rfl⟩
  have hrm : room false tl.length = if R < 8 then R + 64 else R := by
    unfold room
    rw [hbz, ← hll, ← hR]
  have hRb : R < 64 := by omega
  have HL := hide hll
  generalize hn2 : (left false tl).length = n2 at *
  have HN2 := hide hn2
  have y1 : (64 : Int) - (n2 : Int) = ((R + 1 : Nat) : Int) := by omega
  have y2 : ((R + 1 : Nat) : Int) - 1 = (R : Int) := by omega
  have HR := hide hR
  have HRM := hide hrm
  have hrr := room_le32 tl.length
  clear hR hrm c9 hH1 hbw hRt1 hAt hS1 hB2 hbz hll hn2
  obtain ⟨Q, hQ⟩ : ∃ Q, Q = R + 1 := ⟨_, rfl⟩
  rw [← hQ] at y1 y2
  have hQb : Q ≤ 64 := by omega
  have c10 := hH2.size
  have hm8 : (8 : Int) * (size : Int) = ((8 * size : Nat) : Int) := by omega
  obtain ⟨bs, hbs⟩ : ∃ bs, bs = 8 * size := ⟨_, rfl⟩
  rw [← hbs] at hm8
  have hbw8 : IntKind.u64.wrap (bs : Int) = (bs : Int) := by rw [IntKind.wrap_u64]; omega
  have hbsb : bs < 18446744073709551616 := by omega
  have HBS := hide hbs
  clear hQ hbs
  have key : ∀ (M : Nat) , M = room false tl.length → fill false tl.length size = [128] ++ (leL bs M).reverse := fun M hM => by unfold fill; rw [HBS.out, hM]
  have HKEY := hide key
  clear key
  by_cases hr8 : R < 8
  · skip
    obtain ⟨M, hM⟩ : ∃ M, M = R + 64 := ⟨_, rfl⟩
    have hMi : (R : Int) + 64 = (M : Int) := by omega
    have hMr : M = room false tl.length := by rw [HRM.out, if_pos hr8, hM]
    have hr8i : (R : Int) < 8 := by omega
    have hfl0 := HKEY.out M hMr
    have hMb : 8 ≤ M ∧ M ≤ 128 := by omega
    clear hM hMr
    have hleS : (leS bs (M : Int)).reverse = (leL bs M).reverse := by unfold leS; rw [if_neg (by omega), Int.toNat_natCast]
    have hl3 : (leL bs M).reverse.length = M := by rw [List.length_reverse, leL_length]
    generalize (leL bs M).reverse = L3 at *
    have HFL := hide hfl0
    have HL3 := hide hl3
    clear hfl0 hl3
    have c10' : (w2.alloc (.cells #[.int .u8 128] 5)).cell? ⟨w.heap.size, 10, none⟩ = some (.int .u64 size) := keep_cell c10 (keep_alloc _ _)
    have h128 : Row .u8 256 (w2.alloc (.cells #[.int .u8 128] 5)) (.slice (some ⟨w2.heap.size, 0, none⟩) 1 1) [128] := lit_row .u8 256 w2 [128] 5 (Under.one (by decide)) (by unfold maxLen; decide)
    go_wp2_with (first
      | (go_at_call 64; refine (block_keep32 _ _).mono ?_; rintro e w9 ⟨rfl, rfl⟩)
      | (go_at_call 16; refine (be_any bs (M : Int) _ hbsb (by omega) (by omega)).mono ?_; rintro e w3 ⟨v3, rfl, hO3, hb3⟩; rw [hleS] at hO3; obtain ⟨a3, c3, rfl⟩ := hO3.row.form)
      | (go_at_call 19; refine (join_any _ [left false tl, [128], L3] _ (rows_lit3 (hR2.below (keep_trans (keep_alloc _ _) hb3)) (h128.below hb3) hO3.row hT2 (tidy_at _ _ _) hO3.tidy) (by have := hMb.2; have := HN2.out; have := HL3.out; simp; omega)).mono ?_; rintro e w4 ⟨v4, rfl, hO4, hb4⟩; have hfe : ([left false tl, [128], L3] : List (List Nat)).flatten = left false tl ++ fill false tl.length size := (by rw [HFL.out]; simp); rw [hfe] at hO4; clear hfe)
      | (go_at_call 65; refine (take_any32 g _ _ _ w4 ((hS2.below (keep_trans (keep_alloc w2 _) hb3)).alloc _ |>.below hb4) he8 heu hO4.row (hO4.away (by have := hS2.lt; have := hb3.size; simp at *; omega)) hO4.tidy (by have := hMb.2; have := HN2.out; have := HL3.out; rw [HFL.out]; simp; omega)).mono ?_; rintro e w5 ⟨⟨v5, rfl, hR5, hA5, hT5⟩, hS5, hB5⟩; have hq8 := eat_len (b := false) (left false tl ++ fill false tl.length size) he8; have hqu := eat_under (b := false) (left false tl ++ fill false tl.length size) heu; have hrg := head_range32 hS5)
      | (refine wpList_load_mid rfl 67 _ (by rfl) g 0 (by rfl) _ (.array 8 65) hrg (by kernel_rfl) rfl (by rw [vals_length, hq8]; kernel_rfl) ?_)
      | (go_at_call 69; refine (bytes_any32 _ N w5 hq8 hqu hN).mono ?_; rintro e w6 ⟨v6, rfl, hO6, hb6⟩)
      | fail)
    have hbw4 : Below w.heap.size w w4 := keep_trans hbw2 (keep_trans (keep_trans (keep_alloc w2 _) hb3) (keep_trans (keep_alloc w3 _) hb4))
    have hbw5 := hbw4.trans (hB5.below (by omega) hbw4.size)
    rw [endS_is32] at hO6
    go_ret
    exact ⟨_, rfl, hO6.mono hbw5.size, keep_trans hbw5 hb6⟩
  · skip
    obtain ⟨M, hM⟩ : ∃ M, M = R := ⟨_, rfl⟩
    have hMr : M = room false tl.length := by rw [HRM.out, if_neg hr8, hM]
    have hr8i : ¬ (R : Int) < 8 := by omega
    subst hM
    have hfl0 := HKEY.out M hMr
    have hMb : 8 ≤ M ∧ M ≤ 128 := by omega
    clear hMr
    have hleS : (leS bs (M : Int)).reverse = (leL bs M).reverse := by unfold leS; rw [if_neg (by omega), Int.toNat_natCast]
    have hl3 : (leL bs M).reverse.length = M := by rw [List.length_reverse, leL_length]
    generalize (leL bs M).reverse = L3 at *
    have HFL := hide hfl0
    have HL3 := hide hl3
    clear hfl0 hl3
    have c10' : (w2.alloc (.cells #[.int .u8 128] 5)).cell? ⟨w.heap.size, 10, none⟩ = some (.int .u64 size) := keep_cell c10 (keep_alloc _ _)
    have h128 : Row .u8 256 (w2.alloc (.cells #[.int .u8 128] 5)) (.slice (some ⟨w2.heap.size, 0, none⟩) 1 1) [128] := lit_row .u8 256 w2 [128] 5 (Under.one (by decide)) (by unfold maxLen; decide)
    go_wp2_with (first
      | (go_at_call 64; refine (block_keep32 _ _).mono ?_; rintro e w9 ⟨rfl, rfl⟩)
      | (go_at_call 16; refine (be_any bs (M : Int) _ hbsb (by omega) (by omega)).mono ?_; rintro e w3 ⟨v3, rfl, hO3, hb3⟩; rw [hleS] at hO3; obtain ⟨a3, c3, rfl⟩ := hO3.row.form)
      | (go_at_call 19; refine (join_any _ [left false tl, [128], L3] _ (rows_lit3 (hR2.below (keep_trans (keep_alloc _ _) hb3)) (h128.below hb3) hO3.row hT2 (tidy_at _ _ _) hO3.tidy) (by have := hMb.2; have := HN2.out; have := HL3.out; simp; omega)).mono ?_; rintro e w4 ⟨v4, rfl, hO4, hb4⟩; have hfe : ([left false tl, [128], L3] : List (List Nat)).flatten = left false tl ++ fill false tl.length size := (by rw [HFL.out]; simp); rw [hfe] at hO4; clear hfe)
      | (go_at_call 65; refine (take_any32 g _ _ _ w4 ((hS2.below (keep_trans (keep_alloc w2 _) hb3)).alloc _ |>.below hb4) he8 heu hO4.row (hO4.away (by have := hS2.lt; have := hb3.size; simp at *; omega)) hO4.tidy (by have := hMb.2; have := HN2.out; have := HL3.out; rw [HFL.out]; simp; omega)).mono ?_; rintro e w5 ⟨⟨v5, rfl, hR5, hA5, hT5⟩, hS5, hB5⟩; have hq8 := eat_len (b := false) (left false tl ++ fill false tl.length size) he8; have hqu := eat_under (b := false) (left false tl ++ fill false tl.length size) heu; have hrg := head_range32 hS5)
      | (refine wpList_load_mid rfl 67 _ (by rfl) g 0 (by rfl) _ (.array 8 65) hrg (by kernel_rfl) rfl (by rw [vals_length, hq8]; kernel_rfl) ?_)
      | (go_at_call 69; refine (bytes_any32 _ N w5 hq8 hqu hN).mono ?_; rintro e w6 ⟨v6, rfl, hO6, hb6⟩)
      | fail)
    have hbw4 : Below w.heap.size w w4 := keep_trans hbw2 (keep_trans (keep_trans (keep_alloc w2 _) hb3) (keep_trans (keep_alloc w3 _) hb4))
    have hbw5 := hbw4.trans (hB5.below (by omega) hbw4.size)
    rw [endS_is32] at hO6
    go_ret
    exact ⟨_, rfl, hO6.mono hbw5.size, keep_trans hbw5 hb6⟩
end Go.Proofs.YtejlmgbmfeacdaaDoor
