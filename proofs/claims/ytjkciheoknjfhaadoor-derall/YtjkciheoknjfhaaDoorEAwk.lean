/- Contract of apostillelaw05.awake. -/
import Derived.Test.YtjkciheoknjfhaaDoorDPar
namespace Go.Proofs.YtjkciheoknjfhaaDoor
open Go.RowKit Go.Deep
set_option linter.unusedVariables false

theorem exists_FB : ∃ FB, FBok FB := ⟨fun t b => @decide (FitP t b) (Classical.propDecidable _), fun t b => @decide_eq_true_iff (FitP t b) (Classical.propDecidable _)⟩
theorem FBok.no {FB : Int → List Nat → Bool} (h : FBok FB) {t : Int} {b : List Nat} (hn : ¬ FitP t b) : FB t b = false := by
  cases hf : FB t b with
  | false => rfl
  | true => exact absurd ((h t b).1 hf) hn
theorem ParE.bad {r : Res Nd} {er : Nat} {w w' : World} {e : Ending} (h : ParE r w e w') (hr : r = .err er) : e = .returned (.tuple #[nod0, .int .i64 (er : Nat)]) ∧ Below w.heap.size w w' := by
  obtain ⟨⟨er', h1, h2, h3⟩ | ⟨x, d, c0, c1, c2, h1, h2, h3⟩, h4⟩ := h
  · rw [hr] at h1
    cases h1
    exact ⟨h3, h4⟩
  · rw [hr] at h1
    cases h1
theorem ParE.good {r : Res Nd} {x : Nd} {w w' : World} {e : Ending} (h : ParE r w e w') (hr : r = .ok x) : ∃ d c0 c1 c2, e = .returned (.tuple #[.agg #[c0, c1, c2], .int .i64 0]) ∧ NdAt w' d c0 c1 c2 x ∧ Below w.heap.size w w' := by
  obtain ⟨⟨er', h1, h2, h3⟩ | ⟨x', d, c0, c1, c2, h1, h2, h3⟩, h4⟩ := h
  · rw [hr] at h1
    cases h1
  · rw [hr] at h1
    cases h1
    exact ⟨d, c0, c1, c2, h2, h3, h4⟩
theorem ex_1 {FB : Int → List Nat → Bool} (h : FBok FB) : parseD FB [2, 1, 5] = .ok (.mk 2 [5] []) := by
  have hf : FB 2 [5] = true := (h _ _).2 ((fitp_2 _).2 (by decide))
  have hl : lenD [1, 5] = (1, 1) := by decide
  unfold parseD
  rw [if_neg (by decide), rd, if_neg (by decide), hl]
  simp only
  rw [if_neg (by decide), if_pos (by decide), show (List.take 1 (List.drop 1 [1, 5])) = [5] from rfl]
  rw [show ((2 : Nat) : Int) = 2 from rfl, hf]
  rfl
theorem ex_2 {FB : Int → List Nat → Bool} (h : FBok FB) : parseD FB [2, 2, 0, 5] = .err 5 := by
  have hf : FB 2 [0, 5] = false := h.no (fun hp => absurd ((fitp_2 _).1 hp) (by decide))
  have hl : lenD [2, 0, 5] = (2, 1) := by decide
  unfold parseD
  rw [if_neg (by decide), rd, if_neg (by decide), hl]
  simp only
  rw [if_neg (by decide), if_pos (by decide), show (List.take 2 (List.drop 1 [2, 0, 5])) = [0, 5] from rfl]
  rw [show ((2 : Nat) : Int) = 2 from rfl, hf]
  rfl
theorem ex_3 (FB : Int → List Nat → Bool) : parseD FB [2, 129, 1, 5] = .err 1 := by
  unfold parseD
  rw [if_neg (by decide), rd, if_neg (by decide), if_pos (by decide)]
theorem ex_4 {FB : Int → List Nat → Bool} (h : FBok FB) : parseD FB [5, 0, 0] = .err 7 := by
  have hf : FB 5 [] = true := (h _ _).2 ((fitp_5 _).2 (by decide))
  have hl : lenD [0, 0] = (0, 1) := by decide
  unfold parseD
  rw [if_neg (by decide), rd, if_neg (by decide), hl]
  simp only
  rw [if_neg (by decide), if_pos (by decide), show (List.take 0 (List.drop 1 [0, 0])) = [] from rfl]
  rw [show ((5 : Nat) : Int) = 5 from rfl, hf]
  rfl
theorem ex_5 (FB : Int → List Nat → Bool) : parseD FB [31, 0] = .err 4 := by
  unfold parseD
  rw [if_neg (by decide), rd, if_pos (by decide)]

theorem lit1 (w : World) : Row .u8 256 (w.alloc (.cells #[.int .u8 2, .int .u8 1, .int .u8 5] 5)) (.slice (some ⟨w.heap.size, 0, none⟩) 3 3) [2, 1, 5] := lit_row .u8 256 w [2, 1, 5] 5 (dec_under (by decide)) (by decide)
theorem lit2 (w : World) : Row .u8 256 (w.alloc (.cells #[.int .u8 2, .int .u8 2, .int .u8 0, .int .u8 5] 5)) (.slice (some ⟨w.heap.size, 0, none⟩) 4 4) [2, 2, 0, 5] := lit_row .u8 256 w [2, 2, 0, 5] 5 (dec_under (by decide)) (by decide)
theorem lit3 (w : World) : Row .u8 256 (w.alloc (.cells #[.int .u8 2, .int .u8 129, .int .u8 1, .int .u8 5] 5)) (.slice (some ⟨w.heap.size, 0, none⟩) 4 4) [2, 129, 1, 5] := lit_row .u8 256 w [2, 129, 1, 5] 5 (dec_under (by decide)) (by decide)
theorem lit4 (w : World) : Row .u8 256 (w.alloc (.cells #[.int .u8 5, .int .u8 0, .int .u8 0] 5)) (.slice (some ⟨w.heap.size, 0, none⟩) 3 3) [5, 0, 0] := lit_row .u8 256 w [5, 0, 0] 5 (dec_under (by decide)) (by decide)
theorem lit5 (w : World) : Row .u8 256 (w.alloc (.cells #[.int .u8 31, .int .u8 0] 5)) (.slice (some ⟨w.heap.size, 0, none⟩) 2 2) [31, 0] := lit_row .u8 256 w [31, 0] 5 (dec_under (by decide)) (by decide)
theorem lit6 (w : World) : Row .u8 256 (w.alloc (.cells #[.int .u8 5] 5)) (.slice (some ⟨w.heap.size, 0, none⟩) 1 1) [5] := lit_row .u8 256 w [5] 5 (dec_under (by decide)) (by decide)
theorem tidy_some (x : Addr) (n c : Nat) : Tidy (.slice (some x) n c) := fun a b h => by simp at h

theorem par_lit2 (w : World) (H : Nat) (hH : w.heap.size = H) (hT : UTabs w) : Calls Tryd.prog 9 #[.slice (some ⟨H, 0, none⟩) 4 4] (w.alloc (.cells #[.int .u8 2, .int .u8 2, .int .u8 0, .int .u8 5] 5)) fun e w' => e = .returned (.tuple #[.agg #[.int .i64 0, .slice none 0 0, .slice none 0 0], .int .i64 5]) ∧ Below w.heap.size w w' := by
  subst hH
  obtain ⟨FB, hFB⟩ := exists_FB
  refine (parse_der FB hFB _ _ _ (lit2 w) (tidy_some _ _ _) (hT.below (keep_alloc _ _)) (by decide)).mono fun e w' h => ?_
  obtain ⟨h1, h2⟩ := h.bad (ex_2 hFB)
  exact ⟨h1, keep_trans (keep_alloc _ _) h2⟩
theorem par_lit3 (w : World) (H : Nat) (hH : w.heap.size = H) (hT : UTabs w) : Calls Tryd.prog 9 #[.slice (some ⟨H, 0, none⟩) 4 4] (w.alloc (.cells #[.int .u8 2, .int .u8 129, .int .u8 1, .int .u8 5] 5)) fun e w' => e = .returned (.tuple #[.agg #[.int .i64 0, .slice none 0 0, .slice none 0 0], .int .i64 1]) ∧ Below w.heap.size w w' := by
  subst hH
  obtain ⟨FB, hFB⟩ := exists_FB
  refine (parse_der FB hFB _ _ _ (lit3 w) (tidy_some _ _ _) (hT.below (keep_alloc _ _)) (by decide)).mono fun e w' h => ?_
  obtain ⟨h1, h2⟩ := h.bad (ex_3 FB)
  exact ⟨h1, keep_trans (keep_alloc _ _) h2⟩
theorem par_lit4 (w : World) (H : Nat) (hH : w.heap.size = H) (hT : UTabs w) : Calls Tryd.prog 9 #[.slice (some ⟨H, 0, none⟩) 3 3] (w.alloc (.cells #[.int .u8 5, .int .u8 0, .int .u8 0] 5)) fun e w' => e = .returned (.tuple #[.agg #[.int .i64 0, .slice none 0 0, .slice none 0 0], .int .i64 7]) ∧ Below w.heap.size w w' := by
  subst hH
  obtain ⟨FB, hFB⟩ := exists_FB
  refine (parse_der FB hFB _ _ _ (lit4 w) (tidy_some _ _ _) (hT.below (keep_alloc _ _)) (by decide)).mono fun e w' h => ?_
  obtain ⟨h1, h2⟩ := h.bad (ex_4 hFB)
  exact ⟨h1, keep_trans (keep_alloc _ _) h2⟩
theorem par_lit5 (w : World) (H : Nat) (hH : w.heap.size = H) (hT : UTabs w) : Calls Tryd.prog 9 #[.slice (some ⟨H, 0, none⟩) 2 2] (w.alloc (.cells #[.int .u8 31, .int .u8 0] 5)) fun e w' => e = .returned (.tuple #[.agg #[.int .i64 0, .slice none 0 0, .slice none 0 0], .int .i64 4]) ∧ Below w.heap.size w w' := by
  subst hH
  obtain ⟨FB, hFB⟩ := exists_FB
  refine (parse_der FB hFB _ _ _ (lit5 w) (tidy_some _ _ _) (hT.below (keep_alloc _ _)) (by decide)).mono fun e w' h => ?_
  obtain ⟨h1, h2⟩ := h.bad (ex_5 FB)
  exact ⟨h1, keep_trans (keep_alloc _ _) h2⟩
set_option maxRecDepth 100000 in
set_option maxHeartbeats 2000000 in
theorem dawake_any (w : World) (hT : UTabs w) : Calls Tryd.prog 8 #[] w fun e w' => e = .returned (.bool true) ∧ Below w.heap.size w w' := by
  obtain ⟨FB, hFB⟩ := exists_FB
  go_enter Tryd.func8, Tryd.ntmps8
  go_wp2_with fail
  refine ((parse_der FB hFB _ _ _ (lit1 w) (tidy_some _ _ _) (hT.below (keep_alloc _ _)) (by decide)).mono fun _ _ h => h.good (ex_1 hFB)).mono ?_
  rintro e w1 ⟨d, c0, c1, c2, rfl, hnd, hb1⟩
  have hb1 := keep_trans (keep_alloc w _) hb1
  cases d with
  | zero => exact hnd.elim
  | succ d =>
    obtain ⟨rfl, _, hrb, _, _, ka, kcap, rfl, _⟩ := hnd
    obtain ⟨ba, bcap, rfl, hbb⟩ := hrb.opens (N := 1) rfl
    have hx1 := box_cell w1 (.int .i64 2) (.slice ba 1 bcap) (.slice ka 0 kcap) 26
    have hrb1 := hrb.below (keep_alloc w1 (.cells #[.int .i64 2, .slice ba 1 bcap, .slice ka 0 kcap] 26))
    go_wp2_with fail
    have hx1' := hx1
    obtain ⟨x0, x1, x2⟩ := hx1'
    have hbw := keep_trans hb1 (keep_alloc w1 (.cells #[.int .i64 2, .slice ba 1 bcap, .slice ka 0 kcap] 26))
    have hsz : (w1.alloc (.cells #[.int .i64 2, .slice ba 1 bcap, .slice ka 0 kcap] 26)).heap.size = w1.heap.size + 1 := World.size_alloc _ _
    generalize w1.alloc (.cells #[.int .i64 2, .slice ba 1 bcap, .slice ka 0 kcap] 26) = W1 at *
    refine (par_lit2 W1 _ hsz (hT.below hbw)).mono ?_
    rintro e w2 ⟨rfl, hb2⟩
    clear hsz
    have hk2 := keep_trans hb2 (keep_alloc w2 (.cells #[.int .i64 0, .slice none 0 0, .slice none 0 0] 26))
    have x0 := Below.cells hk2 x0
    have x1 := Below.cells hk2 x1
    have hrb2 := hrb1.below hk2
    have hbw2 := keep_trans hbw hk2
    have hsz : (w2.alloc (.cells #[.int .i64 0, .slice none 0 0, .slice none 0 0] 26)).heap.size = w2.heap.size + 1 := World.size_alloc _ _
    clear hk2 hb2 hbw hrb1
    clear hbb
    go_wp2_with fail
    generalize w2.alloc (.cells #[.int .i64 0, .slice none 0 0, .slice none 0 0] 26) = W2 at *
    refine (par_lit3 W2 _ hsz (hT.below hbw2)).mono ?_
    rintro e w3 ⟨rfl, hb3⟩
    clear hsz
    have hk3 := keep_trans hb3 (keep_alloc w3 (.cells #[.int .i64 0, .slice none 0 0, .slice none 0 0] 26))
    have x0 := Below.cells hk3 x0
    have x1 := Below.cells hk3 x1
    have hrb3 := hrb2.below hk3
    have hbw3 := keep_trans hbw2 hk3
    have hsz : (w3.alloc (.cells #[.int .i64 0, .slice none 0 0, .slice none 0 0] 26)).heap.size = w3.heap.size + 1 := World.size_alloc _ _
    clear hk3 hb3 hbw2 hrb2
    go_wp2_with fail
    generalize w3.alloc (.cells #[.int .i64 0, .slice none 0 0, .slice none 0 0] 26) = W3 at *
    refine (par_lit4 W3 _ hsz (hT.below hbw3)).mono ?_
    rintro e w4 ⟨rfl, hb4⟩
    clear hsz
    have hk4 := keep_trans hb4 (keep_alloc w4 (.cells #[.int .i64 0, .slice none 0 0, .slice none 0 0] 26))
    have x0 := Below.cells hk4 x0
    have x1 := Below.cells hk4 x1
    have hrb4 := hrb3.below hk4
    have hbw4 := keep_trans hbw3 hk4
    have hsz : (w4.alloc (.cells #[.int .i64 0, .slice none 0 0, .slice none 0 0] 26)).heap.size = w4.heap.size + 1 := World.size_alloc _ _
    clear hk4 hb4 hbw3 hrb3
    go_wp2_with fail
    generalize w4.alloc (.cells #[.int .i64 0, .slice none 0 0, .slice none 0 0] 26) = W4 at *
    refine (par_lit5 W4 _ hsz (hT.below hbw4)).mono ?_
    rintro e w5 ⟨rfl, hb5⟩
    clear hsz
    have hk5 := keep_trans hb5 (keep_alloc w5 (.cells #[.int .i64 0, .slice none 0 0, .slice none 0 0] 26))
    have x0 := Below.cells hk5 x0
    have x1 := Below.cells hk5 x1
    have hrb5 := hrb4.below hk5
    have hbw5 := keep_trans hbw4 hk5
    have hsz : (w5.alloc (.cells #[.int .i64 0, .slice none 0 0, .slice none 0 0] 26)).heap.size = w5.heap.size + 1 := World.size_alloc _ _
    clear hk5 hb5 hbw4 hrb4
    go_wp2_with fail
    generalize w5.alloc (.cells #[.int .i64 0, .slice none 0 0, .slice none 0 0] 26) = W5 at *
    have hl6 := lit6 W5
    rw [hsz] at hl6
    refine (rsame_true (.slice ba 1 bcap) _ [5] _ (hrb5.below (keep_alloc _ _)) hl6).mono ?_
    rintro e w6 ⟨rfl, hb6⟩
    have hbf := keep_trans hbw5 (keep_trans (keep_alloc _ _) hb6)
    clear hsz hl6 hb6
    go_wp2_with fail
    go_ret
    exact ⟨rfl, hbf⟩
end Go.Proofs.YtjkciheoknjfhaaDoor
