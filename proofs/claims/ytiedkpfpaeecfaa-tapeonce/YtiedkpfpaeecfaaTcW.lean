/- What the laws of tapes ask: awake; the document's answers in the code's words. -/
import Derived.Test.YtiedkpfpaeecfaaTcP
import Derived.Test.YtiedkpfpaeecfaaPgF
import Derived.Test.YtiedkpfpaeecfaaPSrt
import Derived.Test.YtiedkpfpaeecfaaRJoin
namespace Go.Proofs.Ytiedkpfpaeecfaa
open Go.RowKit
set_option linter.unusedVariables false
set_option linter.unusedSimpArgs false

theorem lit_rowG (w : World) (l : List Nat) (N G : Nat) (hu : Under 256 l) (hl : l.length = N) (hN : N ≤ 1000) (hG : w.heap.size = G) :
    Row .u8 256 (w.alloc (.cells (vals .u8 l).toArray 5)) (.slice (some ⟨G, 0, none⟩) N N) l := by
  subst hG hl
  exact lit_row .u8 256 w l 5 hu (by unfold maxLen; omega)
set_option maxHeartbeats 1000000 in
set_option maxRecDepth 100000 in
theorem tawake_any (w : World) : Calls Try.prog 5 #[] w fun e w' => e = .returned (.bool true) ∧ Below w.heap.size w w' := by
  have r0 : Row .u8 256 (w.alloc (.cells #[.int .u8 1, .int .u8 2, .int .u8 3] 5)) (.slice (some ⟨w.heap.size, 0, none⟩) 3 3) [1, 2, 3] := lit_rowG w [1, 2, 3] 3 w.heap.size (dec_under (by decide)) rfl (by decide) rfl
  have t0 : Tidy (.slice (some ⟨w.heap.size, 0, none⟩) 3 3) := tidy_atA _ _ _
  have hb0 := keep_alloc w (.cells #[.int .u8 1, .int .u8 2, .int .u8 3] 5)
  have h1 := tTake_any [1, 2, 3] _ 0 2 _ r0 t0 (by decide)
  have h2 := fun (u : Value) (y : World) (r : Row .u8 256 y u [1, 2, 3]) (t : Tidy u) => tTake_any [1, 2, 3] u 2 2 y r t (by decide)
  rw [show tkY [1, 2, 3].length 0 2 = 2 by decide, show tkC [1, 2, 3].length 0 2 = 0 by decide, show tkB [1, 2, 3] 0 2 = [1, 2] by decide] at h1
  rw [show tkY [1, 2, 3].length 2 2 = 2 by decide, show tkC [1, 2, 3].length 2 2 = 13 by decide, show tkB [1, 2, 3] 2 2 = [] by decide] at h2
  have rl : ∀ (y : World) (G : Nat), y.heap.size = G → Row .u8 256 (y.alloc (.cells #[.int .u8 1, .int .u8 2] 5)) (.slice (some ⟨G, 0, none⟩) 2 2) [1, 2] := fun y G hG => lit_rowG y [1, 2] 2 G (dec_under (by decide)) rfl (by decide) hG
  have HX := hide (And.intro r0 (And.intro t0 (And.intro hb0 rl)))
  have H2 := hide h2
  clear r0 t0 hb0 rl h2
  go_enter Try.func5, Try.ntmps5
  go_wp2_with (first
    | (go_at_call 6; have hu := h1; clear h1; refine hu.mono ?_; rintro e w1 ⟨u1, b1, rfl, ou1, ob1, g1⟩; obtain ⟨ua, uc, rfl⟩ := own_sliceA ou1.1; obtain ⟨ba, bc, rfl⟩ := own_sliceA ob1.1; have ou1' : Own 5 .u8 256 w1 _ (.slice ua 3 uc) [1, 2, 3] := ou1; have ob1' : Own 5 .u8 256 w1 _ (.slice ba 2 bc) [1, 2] := ob1; clear ou1 ob1; have h3 := H2.out (.slice ua 3 uc) (w1.alloc (.cells #[.slice ua 3 uc, .int .i64 2] 24)) (ou1'.row.below (keep_alloc w1 _)) (own_tidyG ou1'))
    | (go_at_call 6; have hu := h3; clear h3; refine hu.mono ?_; rintro e w2 ⟨u2, b2, rfl, ou2, ob2, g2⟩; obtain ⟨ua2, uc2, rfl⟩ := own_sliceA ou2.1; obtain ⟨ba2, bc2, rfl⟩ := own_sliceA ob2.1)
    | (go_at_call 15; refine (rsame_true (.slice ba 2 bc) (.slice (some ⟨w2.heap.size + 1, 0, none⟩) 2 2) [1, 2] ((w2.alloc (.cells #[.slice ua2 3 uc2, .int .i64 2] 24)).alloc (.cells #[.int .u8 1, .int .u8 2] 5)) (ob1'.row.below (keep_trans (keep_trans (keep_alloc w1 _) g2) (keep_trans (keep_alloc w2 _) (keep_alloc _ _)))) (HX.out.2.2.2 _ _ (World.size_alloc _ _))).mono ?_; rintro e w3 ⟨rfl, g3⟩)
    | fail)
  go_ret
  exact ⟨rfl, keep_trans (keep_trans (keep_trans (keep_trans (keep_trans HX.out.2.2.1 g1) (keep_alloc w1 _)) g2) (keep_trans (keep_alloc w2 _) (keep_alloc _ _))) g3⟩
/-- P13.3, where both are there -/
theorem once_ok {l : List Nat} {x N M : Int} (h1 : tkC l.length x N = 0) (h2 : tkC l.length (x + N) M = 0) (hN : 0 ≤ N) (hM : 0 ≤ M) :
    tkY l.length x N = x + N ∧ tkY l.length (x + N) M = x + N + M ∧ tkC l.length x (N + M) = 0 ∧ tkY l.length x (N + M) = x + N + M ∧ ptC l.length x [N, M] = 0 ∧ ptY l.length x [N, M] = x + N + M ∧
    tkB l x N = tkL l x N ∧ tkB l (x + N) M = tkL l (x + N) M ∧ tkB l x (N + M) = tkL l x N ++ tkL l (x + N) M ∧ ptB l x [N, M] = [tkL l x N, tkL l (x + N) M] := by
  have h3 := (tk_two hN hM).2 ⟨h1, h2⟩
  have hp : ptC l.length x [N, M] = 0 := by
    show (if tkC l.length x N = 0 then (if tkC l.length (x + N) M = 0 then 0 else tkC l.length (x + N) M) else _) = _
    rw [if_pos h1, if_pos h2]
  refine ⟨if_pos h1, if_pos h2, h3, (if_pos h3).trans (Int.add_assoc _ _ _).symm, hp, if_pos hp, if_pos h1, if_pos h2, (if_pos h3).trans (tkL_two h3 hN hM), if_pos hp⟩
theorem once_no {l : List Nat} {x N M : Int} (hN : 0 ≤ N) (hM : 0 ≤ M) (h : tkC l.length x N = 0 → tkC l.length (x + N) M ≠ 0) :
    tkC l.length x (N + M) ≠ 0 ∧ tkY l.length x (N + M) = x ∧ tkB l x (N + M) = [] ∧ ptC l.length x [N, M] ≠ 0 ∧ ptY l.length x [N, M] = x ∧ ptB l x [N, M] = [] := by
  have h3 : tkC l.length x (N + M) ≠ 0 := fun h3 => h ((tk_two hN hM).1 h3).1 ((tk_two hN hM).1 h3).2
  have hp : ptC l.length x [N, M] ≠ 0 := by
    show (if tkC l.length x N = 0 then (if tkC l.length (x + N) M = 0 then 0 else tkC l.length (x + N) M) else tkC l.length x N) ≠ 0
    by_cases h1 : tkC l.length x N = 0
    · rw [if_pos h1, if_neg (h h1)]; exact h h1
    · rw [if_neg h1]; exact h1
  exact ⟨h3, if_neg h3, if_neg h3, hp, if_neg hp, if_neg hp⟩
theorem rowI_two (w : World) (N M : Int) (G : Nat) (hG : w.heap.size = G) (hN : 0 ≤ N ∧ N ≤ 1000) (hM : 0 ≤ M ∧ M ≤ 1000) : RowI (w.alloc (.cells #[.int .i64 N, .int .i64 M] 3)) (.slice (some ⟨G, 0, none⟩) 2 2) [N, M] := by
  subst hG
  refine ⟨_, _, rfl, Nat.le_refl _, by decide, fun _ => ⟨_, _, rfl, fun i hi => ?_⟩, fun k hk => ?_⟩
  · match i, hi with
    | 0, _ => rw [World.cell?_alloc_at _ _ _ _ (by simp)]; rfl
    | 1, _ => rw [World.cell?_alloc_at _ _ _ _ (by simp)]; rfl
  · simp only [List.mem_cons, List.not_mem_nil, or_false] at hk
    omega
/-- the document's Take and Parts in one row each -/
theorem rtake_one (l : List Nat) (v : Value) (x k : Int) (w : World) (hv : Row .u8 256 w v l) (tv : Tidy v) :
    Calls Try.prog 7 #[.agg #[v, .int .i64 x], .int .i64 k] w fun e w' => ∃ u, e = .returned (.tuple #[.agg #[v, .int .i64 (tkY l.length x k)], u, .int .i64 (tkC l.length x k)]) ∧ Row .u8 256 w' u (tkB l x k) ∧ Below w.heap.size w w' := by
  refine (rtake_any l v x k w hv tv).mono ?_
  rintro e w' ⟨u, rfl, h1, h2, hb⟩
  refine ⟨u, rfl, ?_, hb⟩
  by_cases h : tkC l.length x k = 0
  · rw [show tkB l x k = tkL l x k from if_pos h]
    exact ((h1 h).row hv tv h).1.below hb
  · rw [show tkB l x k = [] from if_neg h, h2 h]
    exact Row.nil _ _ _
theorem rparts_one (l : List Nat) (v kv : Value) (x : Int) (ks : List Int) (w : World) (hv : Row .u8 256 w v l) (tv : Tidy v) (hk : RowI w kv ks) (hn : ks.length ≤ 100000) :
    Calls Try.prog 9 #[.agg #[v, .int .i64 x], kv] w fun e w' => ∃ u, e = .returned (.tuple #[.agg #[v, .int .i64 (ptY l.length x ks)], u, .int .i64 (ptC l.length x ks)]) ∧ Rows2 w' u (ptB l x ks) ∧ Below w.heap.size w w' := by
  refine (rparts_any l v kv x ks w hv tv hk hn).mono ?_
  rintro e w' (⟨h, rfl, hb⟩ | ⟨h, u, rfl, r, hb⟩)
  · exact ⟨_, by rw [show ptY l.length x ks = x from if_neg h], by rw [show ptB l x ks = [] from if_neg h]; exact ⟨none, 0, rfl, Nat.le_refl _, Nat.zero_le _, fun h => absurd h (by simp)⟩, hb⟩
  · exact ⟨u, by rw [show ptY l.length x ks = ptA x ks from if_pos h, h], by rw [show ptB l x ks = ptL l x ks from if_pos h]; exact r, hb⟩
end Go.Proofs.Ytiedkpfpaeecfaa
