/- Contract of sha.add at words of 64 bits. -/
import Derived.Test.YtpmobjfhhkglbaaDoorHFin32
import Derived.Test.YtpmobjfhhkglbaaDoorHTak32
import Derived.Test.YtpmobjfhhkglbaaDoorHSl
import Derived.Lib.MinMax
import Derived.Test.YtpmobjfhhkglbaaDoorHEnd
import Derived.Test.YtpmobjfhhkglbaaDoorPlan2
import Derived.Test.YtpmobjfhhkglbaaDoorWtM
namespace Go.Proofs.YtpmobjfhhkglbaaDoor
open Go.RowKit
set_option linter.unusedVariables false
set_option linter.unusedSimpArgs false

set_option maxHeartbeats 8000000 in
set_option maxRecDepth 100000 in
theorem add_any64 (kind : Int) (ws : List Nat) (tv bv : Value) (tl b : List Nat) (size : Nat) (w : World) (hT : Roots w) (h8 : ws.length = 8) (hu : Under 18446744073709551616 ws) (hRt : Row .u8 256 w tv tl) (tT : Tidy tv) (hRb : Row .u8 256 w bv b) (tB : Tidy bv) (htl : tl.length < 128) (hbl : b.length ≤ 100000) (hsz : size < 1152921504606846976) :
    Calls Tryd.prog 62 #[.agg (hv kind ws tv size), bv] w fun e w' => ∃ v', e = .returned (.agg (hv kind (eat true ws (tl ++ b)) v' (size + b.length))) ∧ Row .u8 256 w' v' (left true (tl ++ b)) ∧ Tidy v' ∧ (∀ q, v'.ownBlock = some q → w.heap.size ≤ q) ∧ Below w.heap.size w w' := by
  have hb0 := keep_trans (keep_alloc w (.cells (hv kind ws tv size) 79)) (keep_alloc _ (.cells (hv 0 (List.replicate 8 0) (.slice none 0 0) 0) 79))
  have hT0 := (hT.below hb0).1
  have hH0 := (Hb.new w kind ws tv size).below (keep_alloc _ (.cells (hv 0 (List.replicate 8 0) (.slice none 0 0) 0) 79))
  have hO0 : Hb ((w.alloc (.cells (hv kind ws tv size) 79)).alloc (.cells (hv 0 (List.replicate 8 0) (.slice none 0 0) 0) 79)) (w.heap.size + 1) 0 (List.replicate 8 0) (.slice none 0 0) 0 := by
    have := Hb.new (w.alloc (.cells (hv kind ws tv size) 79)) 0 (List.replicate 8 0) (.slice none 0 0) 0
    rw [World.size_alloc] at this
    exact this
  have hRt' := hRt
  have hRb' := hRb
  obtain ⟨ta, tc, rfl, ht1, ht2, ht3, ht4⟩ := hRt'
  obtain ⟨ba, bc, rfl, hq1, hq2, hq3, hq4⟩ := hRb'
  unfold maxLen at ht2 hq2
  clear ht3 ht4 hq3 hq4
  have HO := hide hO0
  have HH := hide hH0
  have HB := hide hb0
  clear hO0 hH0 hb0
  have huv : hv kind ws (.slice ta tl.length tc) size = #[.int .i64 kind, .int .u64 (el ws 0), .int .u64 (el ws 1), .int .u64 (el ws 2), .int .u64 (el ws 3), .int .u64 (el ws 4), .int .u64 (el ws 5), .int .u64 (el ws 6), .int .u64 (el ws 7), .slice ta tl.length tc, .int .u64 size] := rfl
  rw [huv]
  clear huv
  go_enter Tryd.func62, Tryd.ntmps62
  go_wp2_with (first
    | (refine wpList_load_mid rfl 107 _ (by rfl) 2 0 (by rfl) (vals .u64 cubes) (.array 80 49) hT0 (by kernel_rfl) rfl (by kernel_rfl) ?_)
    | fail)
  refine (resume_is64 ws _ h8 hu).mono ?_
  rintro e w1 ⟨g, rfl, hg, hS1, hb1⟩
  have hW2 : w.heap.size + 2 ≤ g := by have := hg; simp at this; omega
  have hH1 := HH.out.below hb1
  have hO1 := HO.out.below hb1
  have hbw := keep_trans HB.out hb1
  have hRt1 := hRt.below hbw
  have hRb1 := hRb.below hbw
  have hAt : Away g (.slice ta tl.length tc) tl := hRt.away (by omega)
  have hAb : Away g (.slice ba b.length bc) b := hRb.away (by omega)
  have c9 := hH1.tail
  clear HH HO HB hb1 hg
  obtain ⟨R, hR⟩ : ∃ R, R = 128 - tl.length := ⟨_, rfl⟩
  obtain ⟨F, hF⟩ : ∃ F, F = min b.length R := ⟨_, rfl⟩
  have y1 : (128 : Int) - (tl.length : Int) = (R : Int) := by omega
  have y2 : IntKind.i64.wrap (R : Int) = (R : Int) := by rw [IntKind.wrap_i64]; omega
  have y3 : min (b.length : Int) (R : Int) = (F : Int) := by omega
  have y4 : min b.length R = F := hF.symm
  have hFb : F ≤ b.length := by omega
  have hFR : F ≤ R := by omega
  have hFe : F = b.length ∨ F = R := by omega
  have HR := hide hR
  have HFE := hide hFe
  clear hR hF hFe
  have hFi : (F : Int) ≤ (bc : Int) := by omega
  have hFj : (0 : Int) ≤ (F : Int) := Int.natCast_nonneg _
  go_wp2
  go_region_held3 (fun w' => w'.cell? ⟨w.heap.size, 9, none⟩ = some (.slice ta tl.length tc))
    (first
      | exact c9)
    (first
      | (go_at_call 74; refine (block_any64 _ _).mono ?_; rintro e w2 ⟨rfl, rfl⟩))
  go_wp2
  have hSx : Sm64 w1.drew g ws (ks true) := hS1
  have hHx : Hb w1.drew w.heap.size kind ws (.slice ta tl.length tc) size := hH1
  have hOx : Hb w1.drew (w.heap.size + 1) 0 (List.replicate 8 0) (.slice none 0 0) 0 := hO1
  have hbx : Below w.heap.size w w1.drew := hbw.drew
  have hRtx : Row .u8 256 w1.drew (.slice ta tl.length tc) tl := hRt1.below (Below.refl _ _).drew
  have hRbx : Row .u8 256 w1.drew (.slice ba b.length bc) b := hRb1.below (Below.refl _ _).drew
  have c9x : w1.drew.cell? ⟨w.heap.size, 9, none⟩ = some (.slice ta tl.length tc) := c9
  have hsx : g < w1.drew.heap.size := hSx.lt
  clear hS1 hH1 hO1 hbw hRt1 hRb1 c9
  generalize w1.drew = x1 at *
  have hRF := hRbx.cut (M := F) hFb
  have tF : Tidy (.slice ba F bc) := tB.to hFb
  have hsl := slice_to ba b.length bc F (by omega)
  have hfl : ([tl, b.take F] : List (List Nat)).flatten = tl ++ b.take F := by simp
  have hrl : (tl ++ b.take F).length ≤ 1000000 := by rw [List.length_append, List.length_take]; omega
  have hx1 : w.heap.size + 2 ≤ x1.heap.size := by omega
  have hge : w.heap.size ≠ g := by omega
  have c9y : (x1.alloc (.cells #[.slice ta tl.length tc, .slice ba F bc] 26)).cell? ⟨w.heap.size, 9, none⟩ = some (.slice ta tl.length tc) := keep_cell c9x (keep_alloc _ _)
  go_region_held3 (fun w' => w'.cell? ⟨w.heap.size, 9, none⟩ = some (.slice ta tl.length tc))
    (first
      | exact c9x
      | exact c9y
      | exact c9z
      | exact But.cell c9z hB4 hge)
    (first
      | (go_at_call 15; refine (join_any _ [tl, b.take F] _ ((rows_lit2 hRtx hRF tT tF).below (Below.refl _ _).drew) (by rw [hfl]; exact hrl)).mono ?_; rintro e w3 ⟨v3, rfl, hO3, hb3⟩; rw [hfl] at hO3; have c9z := keep_cell (w := (x1.alloc (.cells #[.slice ta tl.length tc, .slice ba F bc] 26)).drew) c9y hb3)
      | (go_at_call 75; refine (take_any64 g ws (tl ++ b.take F) v3 _ (Lies.below (w := (x1.alloc (.cells #[.slice ta tl.length tc, .slice ba F bc] 26)).drew) (hSx.alloc _) hb3) h8 hu hO3.row (hO3.away (by simp; omega)) hO3.tidy hrl).mono ?_; rintro e w4 ⟨⟨v4, rfl, hR4, hA4, hT4⟩, hS4, hB4⟩))
  have hX3 : Below x1.heap.size x1 w3 := keep_trans ((keep_alloc x1 (.cells #[.slice ta tl.length tc, .slice ba F bc] 26)).drew) hb3
  have hBx : But g x1 w4 := (But.of_below hX3).trans hB4
  have hH4 := hHx.but hBx hge
  have hO4 := hOx.but hBx (by omega)
  have hRb4 := hRbx.but hAb hBx
  obtain ⟨A, hsf, hA⟩ := slice_from ba b.length bc F hFb hq1
  have hRd := hRb4.behind hFb hA
  have hAd := hAb.behind (n' := b.length - F) (c' := bc - F) hA
  have tD := tB.behind hFb hA
  obtain ⟨a4, c4, rfl⟩ := hR4.form
  have he8 := eat_len (b := true) (tl ++ b.take F) h8
  have heu := eat_under (b := true) (tl ++ b.take F) hu
  have hbw4 : Below w.heap.size w w4 := hbx.trans (hBx.below (by omega) hbx.size)
  clear hsl c9x c9y c9z hb3 hX3 hSx hHx hOx hbx hRtx hRbx hRF hO3
  go_wp2_with (first
    | (go_at_call 75; refine (take_any64 g _ (b.drop F) _ w4 hS4 he8 heu hRd hAd tD (by rw [List.length_drop]; omega)).mono ?_; rintro e w5 ⟨⟨v5, rfl, hR5, hA5, hT5⟩, hS5, hB5⟩; obtain ⟨a5, c5, rfl⟩ := hR5.form)
    | (go_at_call 15; refine (join_any _ [left true (tl ++ b.take F), left true (b.drop F)] _ (rows_lit2 (hR4.but hA4 hB5) hR5 hT4 hT5) (by have := left_lt true (tl ++ b.take F); have := left_lt true (b.drop F); simp; have e : bz true = 128 := rfl; omega)).mono ?_; rintro e w6 ⟨v6, rfl, hO6, hb6⟩)
    | fail)
  have hFF : F = b.length ∨ F = bz true - tl.length ∧ tl.length < bz true ∧ F ≤ b.length := by
    rcases HFE.out with h | h
    · exact .inl h
    · exact .inr ⟨by rw [h, HR.out]; rfl, htl, hFb⟩
  have hap := add_parts true ws tl b F hFF
  clear hFF
  have hfl2 : ([left true (tl ++ b.take F), left true (b.drop F)] : List (List Nat)).flatten = left true (tl ++ b) := by rw [← hap.2]; simp
  rw [hfl2] at hO6
  rw [hap.1] at hS5
  have hE8 := eat_len (b := true) (tl ++ b) h8
  have hEu := eat_under (b := true) (tl ++ b) hu
  have hX6 : Below w5.heap.size w5 w6 := keep_trans (keep_alloc w5 _) hb6
  have hS6 := hS5.below hX6
  have hH6 := (hH4.but hB5 hge).below hX6
  have hO6' := (hO4.but hB5 (by omega)).below hX6
  have hbw6 : Below w.heap.size w w6 := (hbw4.trans (hB5.below (by omega) hbw4.size)).trans (hX6.mono (by have := hbw4.size; have := hB5.size; omega))
  have hlo : w.heap.size + 1 < w5.heap.size := by have := hB5.size; have := hS4.lt; omega
  have hR6 := hO6.row
  have hT6 := hO6.tidy
  have hN6 : ∀ q, v6.ownBlock = some q → w.heap.size ≤ q := fun q hq => by have := (hO6.1.lt q hq).1; simp at this; omega
  have hA6 : Away (w.heap.size + 1) v6 (left true (tl ++ b)) := hO6.away (by simp; omega)
  clear hap hfl2 hS5 hS4 hH4 hO4 hB5 hX6 hbw4 hR4 hR5 hA4 hA5 hT4 hT5 hRd hAd tD hsf hA hRb4 hBx hB4 hb6 he8 heu hO6
  generalize hEE : eat true ws (tl ++ b) = E at *
  have HEE := hide hEE
  clear hEE
  obtain ⟨a6, c6, rfl⟩ := hR6.form
  generalize w6 = x6 at *
  have HX0 : Hid (El x6 (w.heap.size + 1)) := hide hO6'.elev
  have hmk : ∀ w', El w' (w.heap.size + 1) → But (w.heap.size + 1) x6 w' → (w'.cell? ⟨w.heap.size, 0, none⟩ = some (.int .i64 kind) ∧ w'.cell? ⟨w.heap.size, 10, none⟩ = some (.int .u64 size) ∧ w'.cell? ⟨g, 0, none⟩ = some (.int .u64 (el E 0)) ∧ w'.cell? ⟨g, 1, none⟩ = some (.int .u64 (el E 1)) ∧ w'.cell? ⟨g, 2, none⟩ = some (.int .u64 (el E 2)) ∧ w'.cell? ⟨g, 3, none⟩ = some (.int .u64 (el E 3)) ∧ w'.cell? ⟨g, 4, none⟩ = some (.int .u64 (el E 4)) ∧ w'.cell? ⟨g, 5, none⟩ = some (.int .u64 (el E 5)) ∧ w'.cell? ⟨g, 6, none⟩ = some (.int .u64 (el E 6)) ∧ w'.cell? ⟨g, 7, none⟩ = some (.int .u64 (el E 7)) ∧ w'.cell? ⟨w.heap.size + 1, 0, none⟩ = some (rdc w' ⟨w.heap.size + 1, 0, none⟩) ∧ w'.cell? ⟨w.heap.size + 1, 1, none⟩ = some (rdc w' ⟨w.heap.size + 1, 1, none⟩) ∧ w'.cell? ⟨w.heap.size + 1, 2, none⟩ = some (rdc w' ⟨w.heap.size + 1, 2, none⟩) ∧ w'.cell? ⟨w.heap.size + 1, 3, none⟩ = some (rdc w' ⟨w.heap.size + 1, 3, none⟩) ∧ w'.cell? ⟨w.heap.size + 1, 4, none⟩ = some (rdc w' ⟨w.heap.size + 1, 4, none⟩) ∧ w'.cell? ⟨w.heap.size + 1, 5, none⟩ = some (rdc w' ⟨w.heap.size + 1, 5, none⟩) ∧ w'.cell? ⟨w.heap.size + 1, 6, none⟩ = some (rdc w' ⟨w.heap.size + 1, 6, none⟩) ∧ w'.cell? ⟨w.heap.size + 1, 7, none⟩ = some (rdc w' ⟨w.heap.size + 1, 7, none⟩) ∧ w'.cell? ⟨w.heap.size + 1, 8, none⟩ = some (rdc w' ⟨w.heap.size + 1, 8, none⟩) ∧ w'.cell? ⟨w.heap.size + 1, 9, none⟩ = some (rdc w' ⟨w.heap.size + 1, 9, none⟩) ∧ w'.cell? ⟨w.heap.size + 1, 10, none⟩ = some (rdc w' ⟨w.heap.size + 1, 10, none⟩) ∧ w'.frozen? ⟨w.heap.size + 1, 0, none⟩ = false ∧ w'.frozen? ⟨w.heap.size + 1, 1, none⟩ = false ∧ w'.frozen? ⟨w.heap.size + 1, 2, none⟩ = false ∧ w'.frozen? ⟨w.heap.size + 1, 3, none⟩ = false ∧ w'.frozen? ⟨w.heap.size + 1, 4, none⟩ = false ∧ w'.frozen? ⟨w.heap.size + 1, 5, none⟩ = false ∧ w'.frozen? ⟨w.heap.size + 1, 6, none⟩ = false ∧ w'.frozen? ⟨w.heap.size + 1, 7, none⟩ = false ∧ w'.frozen? ⟨w.heap.size + 1, 8, none⟩ = false ∧ w'.frozen? ⟨w.heap.size + 1, 9, none⟩ = false ∧ w'.frozen? ⟨w.heap.size + 1, 10, none⟩ = false) := fun w' hE hB => by
    have hS' := hS6.but hB (by omega)
    have hH' := hH6.but hB (by omega)
    exact ⟨hH'.kind, hH'.size, by rw [hS'.cell (by rw [List.length_append, hE8]; omega), el_app_left (by omega)], by rw [hS'.cell (by rw [List.length_append, hE8]; omega), el_app_left (by omega)], by rw [hS'.cell (by rw [List.length_append, hE8]; omega), el_app_left (by omega)], by rw [hS'.cell (by rw [List.length_append, hE8]; omega), el_app_left (by omega)], by rw [hS'.cell (by rw [List.length_append, hE8]; omega), el_app_left (by omega)], by rw [hS'.cell (by rw [List.length_append, hE8]; omega), el_app_left (by omega)], by rw [hS'.cell (by rw [List.length_append, hE8]; omega), el_app_left (by omega)], by rw [hS'.cell (by rw [List.length_append, hE8]; omega), el_app_left (by omega)], hE.cell (by decide), hE.cell (by decide), hE.cell (by decide), hE.cell (by decide), hE.cell (by decide), hE.cell (by decide), hE.cell (by decide), hE.cell (by decide), hE.cell (by decide), hE.cell (by decide), hE.cell (by decide), hE.frozen _, hE.frozen _, hE.frozen _, hE.frozen _, hE.frozen _, hE.frozen _, hE.frozen _, hE.frozen _, hE.frozen _, hE.frozen _, hE.frozen _⟩
  have HMK := hide hmk
  clear hmk
  have hE6 : El x6 (w.heap.size + 1) := HX0.out
  have hB6 : But (w.heap.size + 1) x6 x6 := But.refl _ _
  have hE6d : El x6.drew (w.heap.size + 1) := HX0.out
  have hB6d : But (w.heap.size + 1) x6 x6.drew := (But.refl _ _).drew
  have hstd : ∀ w, Calls Tryd.prog 59 #[.agg #[.int .u64 (el E 0), .int .u64 (el E 1), .int .u64 (el E 2), .int .u64 (el E 3), .int .u64 (el E 4), .int .u64 (el E 5), .int .u64 (el E 6), .int .u64 (el E 7)]] w fun e w' => e = .returned (.agg #[.int .u64 (el E 0), .int .u64 (el E 1), .int .u64 (el E 2), .int .u64 (el E 3), .int .u64 (el E 4), .int .u64 (el E 5), .int .u64 (el E 6), .int .u64 (el E 7)]) ∧ Below w.heap.size w w' := fun w => by
    rw [← arr8 .u64 E hE8]; exact stored_any64 E w hE8 hEu
  obtain ⟨N, hN⟩ : ∃ N, N = size + b.length := ⟨_, rfl⟩
  have hsum : (size : Int) + (b.length : Int) = (N : Int) := by omega
  have hwr : IntKind.u64.wrap (N : Int) = (N : Int) := by rw [IntKind.wrap_u64]; omega
  have HN := hide hN
  have hwr2 : IntKind.u64.wrap (b.length : Int) = (b.length : Int) := by rw [IntKind.wrap_u64]; omega
  clear hN
  go_region_held3 (fun w' => w'.cell? ⟨w.heap.size, 0, none⟩ = some (.int .i64 kind) ∧ w'.cell? ⟨w.heap.size, 10, none⟩ = some (.int .u64 size) ∧ w'.cell? ⟨g, 0, none⟩ = some (.int .u64 (el E 0)) ∧ w'.cell? ⟨g, 1, none⟩ = some (.int .u64 (el E 1)) ∧ w'.cell? ⟨g, 2, none⟩ = some (.int .u64 (el E 2)) ∧ w'.cell? ⟨g, 3, none⟩ = some (.int .u64 (el E 3)) ∧ w'.cell? ⟨g, 4, none⟩ = some (.int .u64 (el E 4)) ∧ w'.cell? ⟨g, 5, none⟩ = some (.int .u64 (el E 5)) ∧ w'.cell? ⟨g, 6, none⟩ = some (.int .u64 (el E 6)) ∧ w'.cell? ⟨g, 7, none⟩ = some (.int .u64 (el E 7)) ∧ w'.cell? ⟨w.heap.size + 1, 0, none⟩ = some (rdc w' ⟨w.heap.size + 1, 0, none⟩) ∧ w'.cell? ⟨w.heap.size + 1, 1, none⟩ = some (rdc w' ⟨w.heap.size + 1, 1, none⟩) ∧ w'.cell? ⟨w.heap.size + 1, 2, none⟩ = some (rdc w' ⟨w.heap.size + 1, 2, none⟩) ∧ w'.cell? ⟨w.heap.size + 1, 3, none⟩ = some (rdc w' ⟨w.heap.size + 1, 3, none⟩) ∧ w'.cell? ⟨w.heap.size + 1, 4, none⟩ = some (rdc w' ⟨w.heap.size + 1, 4, none⟩) ∧ w'.cell? ⟨w.heap.size + 1, 5, none⟩ = some (rdc w' ⟨w.heap.size + 1, 5, none⟩) ∧ w'.cell? ⟨w.heap.size + 1, 6, none⟩ = some (rdc w' ⟨w.heap.size + 1, 6, none⟩) ∧ w'.cell? ⟨w.heap.size + 1, 7, none⟩ = some (rdc w' ⟨w.heap.size + 1, 7, none⟩) ∧ w'.cell? ⟨w.heap.size + 1, 8, none⟩ = some (rdc w' ⟨w.heap.size + 1, 8, none⟩) ∧ w'.cell? ⟨w.heap.size + 1, 9, none⟩ = some (rdc w' ⟨w.heap.size + 1, 9, none⟩) ∧ w'.cell? ⟨w.heap.size + 1, 10, none⟩ = some (rdc w' ⟨w.heap.size + 1, 10, none⟩) ∧ w'.frozen? ⟨w.heap.size + 1, 0, none⟩ = false ∧ w'.frozen? ⟨w.heap.size + 1, 1, none⟩ = false ∧ w'.frozen? ⟨w.heap.size + 1, 2, none⟩ = false ∧ w'.frozen? ⟨w.heap.size + 1, 3, none⟩ = false ∧ w'.frozen? ⟨w.heap.size + 1, 4, none⟩ = false ∧ w'.frozen? ⟨w.heap.size + 1, 5, none⟩ = false ∧ w'.frozen? ⟨w.heap.size + 1, 6, none⟩ = false ∧ w'.frozen? ⟨w.heap.size + 1, 7, none⟩ = false ∧ w'.frozen? ⟨w.heap.size + 1, 8, none⟩ = false ∧ w'.frozen? ⟨w.heap.size + 1, 9, none⟩ = false ∧ w'.frozen? ⟨w.heap.size + 1, 10, none⟩ = false)
    (refine HMK.out _ ?_ ?_ <;> first
      | with_reducible exact hE6
      | with_reducible exact hB6
      | with_reducible exact hE6d
      | with_reducible exact hB6d
      | with_reducible exact hE7
      | with_reducible exact hB7
      | with_reducible exact (El.set (El.set (El.set (El.set (El.set (El.set (El.set (El.set (El.set (El.set (El.set hE7 _ _) _ _) _ _) _ _) _ _) _ _) _ _) _ _) _ _) _ _) _ _)
      | with_reducible exact (But.setCell (But.setCell (But.setCell (But.setCell (But.setCell (But.setCell (But.setCell (But.setCell (But.setCell (But.setCell (But.setCell hB7 _ _) _ _) _ _) _ _) _ _) _ _) _ _) _ _) _ _) _ _) _ _))
    (first
      | (go_at_call 59; refine (hstd _).mono ?_; rintro e w7 ⟨rfl, hb7⟩; have hE7 : El w7 (w.heap.size + 1) := El.below (w := x6.drew) HX0.out hb7; have hB7 : But (w.heap.size + 1) x6 w7 := But.of_below (un_drew hb7)))
  have hBf : But (w.heap.size + 1) x6 (((((((((((w7.setCell ⟨w.heap.size + 1, 0, none⟩ (.int .i64 kind)).setCell ⟨w.heap.size + 1, 1, none⟩ (.int .u64 (el E 0))).setCell ⟨w.heap.size + 1, 2, none⟩ (.int .u64 (el E 1))).setCell ⟨w.heap.size + 1, 3, none⟩ (.int .u64 (el E 2))).setCell ⟨w.heap.size + 1, 4, none⟩ (.int .u64 (el E 3))).setCell ⟨w.heap.size + 1, 5, none⟩ (.int .u64 (el E 4))).setCell ⟨w.heap.size + 1, 6, none⟩ (.int .u64 (el E 5))).setCell ⟨w.heap.size + 1, 7, none⟩ (.int .u64 (el E 6))).setCell ⟨w.heap.size + 1, 8, none⟩ (.int .u64 (el E 7))).setCell ⟨w.heap.size + 1, 9, none⟩ (.slice a6 (left true (tl ++ b)).length c6)).setCell ⟨w.heap.size + 1, 10, none⟩ (.int .u64 N)) := (But.setCell (But.setCell (But.setCell (But.setCell (But.setCell (But.setCell (But.setCell (But.setCell (But.setCell (But.setCell (But.setCell hB7 _ _) _ _) _ _) _ _) _ _) _ _) _ _) _ _) _ _) _ _) _ _)
  have hfu := El.full hE7 (.int .i64 kind) (.int .u64 (el E 0)) (.int .u64 (el E 1)) (.int .u64 (el E 2)) (.int .u64 (el E 3)) (.int .u64 (el E 4)) (.int .u64 (el E 5)) (.int .u64 (el E 6)) (.int .u64 (el E 7)) (.slice a6 (left true (tl ++ b)).length c6) (.int .u64 N)
  clear HMK
  generalize (((((((((((w7.setCell ⟨w.heap.size + 1, 0, none⟩ (.int .i64 kind)).setCell ⟨w.heap.size + 1, 1, none⟩ (.int .u64 (el E 0))).setCell ⟨w.heap.size + 1, 2, none⟩ (.int .u64 (el E 1))).setCell ⟨w.heap.size + 1, 3, none⟩ (.int .u64 (el E 2))).setCell ⟨w.heap.size + 1, 4, none⟩ (.int .u64 (el E 3))).setCell ⟨w.heap.size + 1, 5, none⟩ (.int .u64 (el E 4))).setCell ⟨w.heap.size + 1, 6, none⟩ (.int .u64 (el E 5))).setCell ⟨w.heap.size + 1, 7, none⟩ (.int .u64 (el E 6))).setCell ⟨w.heap.size + 1, 8, none⟩ (.int .u64 (el E 7))).setCell ⟨w.heap.size + 1, 9, none⟩ (.slice a6 (left true (tl ++ b)).length c6)).setCell ⟨w.heap.size + 1, 10, none⟩ (.int .u64 N)) = wf at *
  go_wp2
  refine bodyPost_ret (v := .agg (hv kind E (.slice a6 (left true (tl ++ b)).length c6) N)) ?_ ?_ ?_
  · exact results_cell_row Tryd.results62 _ _ (w.heap.size + 1) _ _ _ _ (by rfl) hfu Tryd.underlying79 rfl (by kernel_rfl)
  · rfl
  · exact ⟨_, by rw [HEE.out, ← HN.out], hR6.but hA6 hBf, hT6, hN6, hbw6.trans (hBf.below (by omega) (by have := hbw6.size; omega))⟩
end Go.Proofs.YtpmobjfhhkglbaaDoor

/- Contract of sha.Add. -/
namespace Go.Proofs.YtpmobjfhhkglbaaDoor
open Go.RowKit
set_option linter.unusedVariables false
set_option linter.unusedSimpArgs false

/-- what Add is, of either word size -/
theorem add_both (kind : Int) (hk : kind = 1 ∨ kind = 2 ∨ kind = 3) (ws : List Nat) (tv bv : Value) (tl b : List Nat) (size : Nat) (w : World) (hT : Roots w) (h8 : ws.length = 8) (hu : Under (wm (wide kind)) ws) (hRt : Row .u8 256 w tv tl) (tT : Tidy tv) (hRb : Row .u8 256 w bv b) (tB : Tidy bv) (htl : tl.length < bz (wide kind)) (hbl : b.length ≤ 100000) (hsz : size < 1152921504606846976) :
    (kind = 1 → Calls Tryd.prog 61 #[.agg (hv kind ws tv size), bv] w fun e w' => ∃ v', e = .returned (.agg (hv kind (eat (wide kind) ws (tl ++ b)) v' (size + b.length))) ∧ Row .u8 256 w' v' (left (wide kind) (tl ++ b)) ∧ Tidy v' ∧ (∀ q, v'.ownBlock = some q → w.heap.size ≤ q) ∧ Below w.heap.size w w') ∧
    (¬ kind = 1 → Calls Tryd.prog 62 #[.agg (hv kind ws tv size), bv] w fun e w' => ∃ v', e = .returned (.agg (hv kind (eat (wide kind) ws (tl ++ b)) v' (size + b.length))) ∧ Row .u8 256 w' v' (left (wide kind) (tl ++ b)) ∧ Tidy v' ∧ (∀ q, v'.ownBlock = some q → w.heap.size ≤ q) ∧ Below w.heap.size w w') := by
  constructor
  · rintro rfl
    exact add_any32 1 ws tv bv tl b size w hT h8 hu hRt tT hRb tB htl hbl hsz
  · intro h
    have hw : wide kind = true := by simp [wide, h]
    rw [hw] at hu htl ⊢
    exact add_any64 kind ws tv bv tl b size w hT h8 hu hRt tT hRb tB htl hbl hsz

set_option maxHeartbeats 2000000 in
set_option maxRecDepth 100000 in
theorem sAdd_new (kind : Int) (ws : List Nat) (tv bv : Value) (tl b : List Nat) (size : Nat) (w : World) (hT : Roots w) (h8 : ws.length = 8) (hu : Under 18446744073709551616 ws) (hRt : Row .u8 256 w tv tl) (tT : Tidy tv) (hRb : Row .u8 256 w bv b) (tB : Tidy bv) (hbl : b.length ≤ 100000) (hf : hfit kind ws tl.length size = true) (hs : size < 18446744073709551616) :
    Calls Tryd.prog 43 #[.agg (hv kind ws tv size), bv] w fun e w' => ∃ v', e = .returned (.agg (hv kind (eat (wide kind) ws (tl ++ b)) v' (size + b.length))) ∧ Row .u8 256 w' v' (left (wide kind) (tl ++ b)) ∧ Tidy v' ∧ New w.heap.size v' ∧ Below w.heap.size w w' := by
  obtain ⟨hk, hsz, hn, hu'⟩ := hfit_true h8 hu hf
  have htl : tl.length < bz (wide kind) := by rw [hn]; exact Nat.mod_lt _ (bz_pos _)
  obtain ⟨ta, tc, rfl⟩ := hRt.form
  obtain ⟨ba, bc, rfl⟩ := hRb.form
  have hb0 : Below w.heap.size w ((w.alloc (.cells #[.int .i64 kind, .int .u64 (el ws 0), .int .u64 (el ws 1), .int .u64 (el ws 2), .int .u64 (el ws 3), .int .u64 (el ws 4), .int .u64 (el ws 5), .int .u64 (el ws 6), .int .u64 (el ws 7), .slice ta tl.length tc, .int .u64 size] 79)).alloc (.cells #[.int .i64 0, .int .u64 0, .int .u64 0, .int .u64 0, .int .u64 0, .int .u64 0, .int .u64 0, .int .u64 0, .int .u64 0, .slice none 0 0, .int .u64 0] 79)) := keep_trans (keep_alloc _ _) (keep_alloc _ _)
  have hH0 : Hb ((w.alloc (.cells #[.int .i64 kind, .int .u64 (el ws 0), .int .u64 (el ws 1), .int .u64 (el ws 2), .int .u64 (el ws 3), .int .u64 (el ws 4), .int .u64 (el ws 5), .int .u64 (el ws 6), .int .u64 (el ws 7), .slice ta tl.length tc, .int .u64 size] 79)).alloc (.cells #[.int .i64 0, .int .u64 0, .int .u64 0, .int .u64 0, .int .u64 0, .int .u64 0, .int .u64 0, .int .u64 0, .int .u64 0, .slice none 0 0, .int .u64 0] 79)) w.heap.size kind ws (.slice ta tl.length tc) size := (Hb.new w kind ws (.slice ta tl.length tc) size).below (keep_alloc _ _)
  have hO0 : El ((w.alloc (.cells #[.int .i64 kind, .int .u64 (el ws 0), .int .u64 (el ws 1), .int .u64 (el ws 2), .int .u64 (el ws 3), .int .u64 (el ws 4), .int .u64 (el ws 5), .int .u64 (el ws 6), .int .u64 (el ws 7), .slice ta tl.length tc, .int .u64 size] 79)).alloc (.cells #[.int .i64 0, .int .u64 0, .int .u64 0, .int .u64 0, .int .u64 0, .int .u64 0, .int .u64 0, .int .u64 0, .int .u64 0, .slice none 0 0, .int .u64 0] 79)) (w.heap.size + 1) := by
    have := (Hb.new (w.alloc (.cells (hv kind ws (.slice ta tl.length tc) size) 79)) 0 (List.replicate 8 0) (.slice none 0 0) 0).elev
    rw [World.size_alloc] at this
    exact this
  have hfc := fit_any kind ws _ tl size _ h8 hu (hRt.below hb0) hs
  rw [hf] at hfc
  have hT0 := hT.below hb0
  have hR0 := hRt.below hb0
  have hB0 := hRb.below hb0
  have hse := fun w1 hb1 => add_both kind hk ws _ _ tl b size w1 (hT0.below hb1) h8 hu' (hR0.below hb1) tT (hB0.below hb1) tB htl hbl hsz
  have hHn : ((w.alloc (.cells #[.int .i64 kind, .int .u64 (el ws 0), .int .u64 (el ws 1), .int .u64 (el ws 2), .int .u64 (el ws 3), .int .u64 (el ws 4), .int .u64 (el ws 5), .int .u64 (el ws 6), .int .u64 (el ws 7), .slice ta tl.length tc, .int .u64 size] 79)).alloc (.cells #[.int .i64 0, .int .u64 0, .int .u64 0, .int .u64 0, .int .u64 0, .int .u64 0, .int .u64 0, .int .u64 0, .int .u64 0, .slice none 0 0, .int .u64 0] 79)).heap[w.heap.size]? = some (.cells (hv kind ws (.slice ta tl.length tc) size) 79 (0, 0)) := hH0
  have HB := hide hb0
  have HO := hide hO0
  clear hn hf hu hs hsz hb0 hO0
  have huv : hv kind ws (.slice ta tl.length tc) size = #[.int .i64 kind, .int .u64 (el ws 0), .int .u64 (el ws 1), .int .u64 (el ws 2), .int .u64 (el ws 3), .int .u64 (el ws 4), .int .u64 (el ws 5), .int .u64 (el ws 6), .int .u64 (el ws 7), .slice ta tl.length tc, .int .u64 size] := rfl
  have hbody : ∀ (w1 : World) (hb1 : Below ((w.alloc (.cells #[.int .i64 kind, .int .u64 (el ws 0), .int .u64 (el ws 1), .int .u64 (el ws 2), .int .u64 (el ws 3), .int .u64 (el ws 4), .int .u64 (el ws 5), .int .u64 (el ws 6), .int .u64 (el ws 7), .slice ta tl.length tc, .int .u64 size] 79)).alloc (.cells #[.int .i64 0, .int .u64 0, .int .u64 0, .int .u64 0, .int .u64 0, .int .u64 0, .int .u64 0, .int .u64 0, .int .u64 0, .slice none 0 0, .int .u64 0] 79)).heap.size ((w.alloc (.cells #[.int .i64 kind, .int .u64 (el ws 0), .int .u64 (el ws 1), .int .u64 (el ws 2), .int .u64 (el ws 3), .int .u64 (el ws 4), .int .u64 (el ws 5), .int .u64 (el ws 6), .int .u64 (el ws 7), .slice ta tl.length tc, .int .u64 size] 79)).alloc (.cells #[.int .i64 0, .int .u64 0, .int .u64 0, .int .u64 0, .int .u64 0, .int .u64 0, .int .u64 0, .int .u64 0, .int .u64 0, .slice none 0 0, .int .u64 0] 79)) w1), Hb w1 w.heap.size kind ws (.slice ta tl.length tc) size := fun w1 hb1 => hH0.below hb1
  by_cases h1 : kind = 1
  · subst h1
    have hadd := fun w1 hb1 => (hse w1 hb1).1 rfl
    clear hse
    rw [huv]
    go_enter Tryd.func43, Tryd.ntmps43
    go_wp2_with (first
      | (go_at_call 60; refine hfc.mono ?_; rintro e w1 ⟨rfl, hb1⟩; obtain ⟨z0, z1, z2, z3, z4, z5, z6, z7, z8, z9, z10⟩ := (hbody w1 hb1).all)
      | (go_at_call 61; refine (hadd w1 hb1).mono ?_; rintro e w2 ⟨v2, rfl, hR2, hT2, hN2, hb2⟩; obtain ⟨old, ho1, ho2⟩ := (HO.out.below hb1).below hb2; obtain ⟨a2, c2, rfl⟩ := hR2.form; have hA2 : Away (w.heap.size + 1) (.slice a2 (left (wide 1) (tl ++ b)).length c2) (left (wide 1) (tl ++ b)) := fun _ q hq => (by have := hN2 q hq; have := hb1.size; simp at this; omega))
      | (refine wpList_store_row rfl 79 _ _ (by rfl) (w.heap.size + 1) _ (by rfl) (by rfl) _ _ ho2 (by kernel_rfl) (by rw [ho1]; rfl) (by simp [hv, Value.oneCell']) ?_)
      | fail)
    have hfu := setRow_heap w2 (w.heap.size + 1) old (hv 1 (eat (wide 1) ws (tl ++ b)) (.slice a2 (left (wide 1) (tl ++ b)).length c2) (size + b.length)) 79 _ ho2
    have hBf : But (w.heap.size + 1) w2 (w2.setRow (w.heap.size + 1) (hv 1 (eat (wide 1) ws (tl ++ b)) (.slice a2 (left (wide 1) (tl ++ b)).length c2) (size + b.length))) := (But.refl _ _).setRow _
    have hbw := keep_trans (keep_trans HB.out hb1) hb2
    refine bodyPost_ret (v := .agg (hv 1 (eat (wide 1) ws (tl ++ b)) (.slice a2 (left (wide 1) (tl ++ b)).length c2) (size + b.length))) ?_ ?_ ?_
    · exact results_cell_row Tryd.results43 _ _ (w.heap.size + 1) _ _ _ _ (by rfl) hfu Tryd.underlying79 rfl (by kernel_rfl)
    · rfl
    · exact ⟨_, rfl, hR2.but hA2 hBf, hT2, fun q hq => Nat.le_trans (keep_trans HB.out hb1).size (hN2 q hq), hbw.trans (hBf.below (by omega) hbw.size)⟩
  · have hadd := fun w1 hb1 => (hse w1 hb1).2 h1
    clear hse
    rw [huv]
    go_enter Tryd.func43, Tryd.ntmps43
    go_wp2_with (first
      | (go_at_call 60; refine hfc.mono ?_; rintro e w1 ⟨rfl, hb1⟩; obtain ⟨z0, z1, z2, z3, z4, z5, z6, z7, z8, z9, z10⟩ := (hbody w1 hb1).all)
      | (go_at_call 62; refine (hadd w1 hb1).mono ?_; rintro e w2 ⟨v2, rfl, hR2, hT2, hN2, hb2⟩; obtain ⟨old, ho1, ho2⟩ := (HO.out.below hb1).below hb2; obtain ⟨a2, c2, rfl⟩ := hR2.form; have hA2 : Away (w.heap.size + 1) (.slice a2 (left (wide kind) (tl ++ b)).length c2) (left (wide kind) (tl ++ b)) := fun _ q hq => (by have := hN2 q hq; have := hb1.size; simp at this; omega))
      | (refine wpList_store_row rfl 79 _ _ (by rfl) (w.heap.size + 1) _ (by rfl) (by rfl) _ _ ho2 (by kernel_rfl) (by rw [ho1]; rfl) (by simp [hv, Value.oneCell']) ?_)
      | fail)
    have hfu := setRow_heap w2 (w.heap.size + 1) old (hv kind (eat (wide kind) ws (tl ++ b)) (.slice a2 (left (wide kind) (tl ++ b)).length c2) (size + b.length)) 79 _ ho2
    have hBf : But (w.heap.size + 1) w2 (w2.setRow (w.heap.size + 1) (hv kind (eat (wide kind) ws (tl ++ b)) (.slice a2 (left (wide kind) (tl ++ b)).length c2) (size + b.length))) := (But.refl _ _).setRow _
    have hbw := keep_trans (keep_trans HB.out hb1) hb2
    refine bodyPost_ret (v := .agg (hv kind (eat (wide kind) ws (tl ++ b)) (.slice a2 (left (wide kind) (tl ++ b)).length c2) (size + b.length))) ?_ ?_ ?_
    · exact results_cell_row Tryd.results43 _ _ (w.heap.size + 1) _ _ _ _ (by rfl) hfu Tryd.underlying79 rfl (by kernel_rfl)
    · rfl
    · exact ⟨_, rfl, hR2.but hA2 hBf, hT2, fun q hq => Nat.le_trans (keep_trans HB.out hb1).size (hN2 q hq), hbw.trans (hBf.below (by omega) hbw.size)⟩
end Go.Proofs.YtpmobjfhhkglbaaDoor

/- Words for the laws of sums: what is fit; rows over worlds. -/
namespace Go.Proofs.YtpmobjfhhkglbaaDoor
open Go.RowKit
set_option linter.unusedVariables false
set_option linter.unusedSimpArgs false

/-- what makes a sum that goes on fit -/
theorem hfit_mk {kind : Int} {ws : List Nat} {n size : Nat} (h8 : ws.length = 8) (hk : kind = 1 ∨ kind = 2 ∨ kind = 3) (hs : size < 1152921504606846976) (hn : n = size % bz (wide kind)) (hu : Under (wm (wide kind)) ws) : hfit kind ws n size = true := by
  unfold hfit
  rw [Bool.and_eq_true, decide_eq_true_iff]
  refine ⟨⟨hk, hs, hn⟩, ?_⟩
  rcases hk with rfl | rfl | rfl
  · exact (wfit_one h8).2 (fun j hj => el_lt hu (by decide) j)
  · rfl
  · rfl
/-- a row of the call's own, behind a call -/
theorem own_below {w w' : World} {base : Nat} {e : TypeId} {size : Nat} {v : Value} {n : Nat} {xs : List Value} (h : w.ownsRow base e size v n xs) (hb : Below w.heap.size w w') : w'.ownsRow base e size v n xs := by
  obtain ⟨h1, h2⟩ := h
  refine ⟨h1, ?_⟩
  rcases h2 with h2 | ⟨g, cap, cur, rfl, h3, h4, h5⟩
  · exact .inl h2
  · refine .inr ⟨g, cap, cur, rfl, h3, ?_, h5⟩
    rw [hb.block g (by
      rcases Nat.lt_or_ge g w.heap.size with hlt | hge
      · exact hlt
      · rw [Array.getElem?_eq_none hge] at h4; cases h4)]
    exact h4
end Go.Proofs.YtpmobjfhhkglbaaDoor
