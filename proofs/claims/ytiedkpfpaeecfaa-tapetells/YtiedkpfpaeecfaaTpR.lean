/- The document's tapes: Fit, Left, Take, Same. -/
import Derived.Test.YtiedkpfpaeecfaaTpM
import Derived.Test.YtiedkpfpaeecfaaKit
import Derived.Test.YtiedkpfpaeecfaaHSl
namespace Go.Proofs.Ytiedkpfpaeecfaa
open Go.RowKit
set_option linter.unusedVariables false
set_option linter.unusedSimpArgs false

/-- a tape's box -/
structure Bx2 (W : World) (B : Nat) (v0 v1 : Value) : Prop where
  here : W.heap[B]? = some (.cells #[v0, v1] 24 (0, 0))
theorem Bx2.lt {W : World} {B : Nat} {v0 v1 : Value} (h : Bx2 W B v0 v1) : B < W.heap.size := (Array.getElem?_eq_some_iff.1 h.here).1
theorem Bx2.c0 {W : World} {B : Nat} {v0 v1 : Value} (h : Bx2 W B v0 v1) : W.cell? ⟨B, 0, none⟩ = some v0 := by simp [World.cell?, h.here]
theorem Bx2.c1 {W : World} {B : Nat} {v0 v1 : Value} (h : Bx2 W B v0 v1) : W.cell? ⟨B, 1, none⟩ = some v1 := by simp [World.cell?, h.here]
theorem Bx2.f0 {W : World} {B : Nat} {v0 v1 : Value} (h : Bx2 W B v0 v1) : W.frozen? ⟨B, 0, none⟩ = false := by simp [World.frozen?, h.here]
theorem Bx2.f1 {W : World} {B : Nat} {v0 v1 : Value} (h : Bx2 W B v0 v1) : W.frozen? ⟨B, 1, none⟩ = false := by simp [World.frozen?, h.here]
theorem Bx2.below {W W' : World} {B : Nat} {v0 v1 : Value} (h : Bx2 W B v0 v1) (hb : Below W.heap.size W W') : Bx2 W' B v0 v1 := ⟨(hb.block _ h.lt).trans h.here⟩
theorem Bx2.new (W : World) (v0 v1 : Value) : Bx2 (W.alloc (.cells #[v0, v1] 24)) W.heap.size v0 v1 := ⟨heap_alloc_new W _⟩
set_option maxHeartbeats 2000000 in
set_option maxRecDepth 100000 in
theorem rtfit_any (a : Option Addr) (n c : Nat) (x : Int) (w : World) :
    Calls Try.prog 11 #[.agg #[.slice a n c, .int .i64 x]] w fun e w' => e = .returned (.bool (decide (FitT n x))) ∧ Below w.heap.size w w' := by
  by_cases h1 : (n : Int) ≤ 1048576
  · by_cases h2 : (0 : Int) ≤ x
    · by_cases h3 : x ≤ (n : Int)
      · have hd : decide (FitT n x) = true := decide_eq_true ⟨by omega, h2, h3⟩
        rw [hd]
        go_enter Try.func11, Try.ntmps11
        go_wp2
        go_ret
        exact ⟨rfl, keep_alloc _ _⟩
      · have hd : decide (FitT n x) = false := decide_eq_false fun h => h3 h.2.2
        rw [hd]
        go_enter Try.func11, Try.ntmps11
        go_wp2
        go_ret
        exact ⟨rfl, keep_alloc _ _⟩
    · have hd : decide (FitT n x) = false := decide_eq_false fun h => h2 h.2.1
      rw [hd]
      go_enter Try.func11, Try.ntmps11
      go_wp2
      go_ret
      exact ⟨rfl, keep_alloc _ _⟩
  · have hd : decide (FitT n x) = false := decide_eq_false fun h => h1 (by have := h.1; omega)
    rw [hd]
    go_enter Try.func11, Try.ntmps11
    go_wp2
    go_ret
    exact ⟨rfl, keep_alloc _ _⟩
set_option maxHeartbeats 2000000 in
set_option maxRecDepth 100000 in
theorem rtleft_any (a : Option Addr) (n c : Nat) (x : Int) (w : World) :
    Calls Try.prog 13 #[.agg #[.slice a n c, .int .i64 x]] w fun e w' => e = .returned (.int .i64 (leftT n x)) ∧ Below w.heap.size w w' := by
  have hf := fun y => rtfit_any a n c x y
  by_cases h : FitT n x
  · have hd : decide (FitT n x) = true := decide_eq_true h
    have hl : leftT n x = (n : Int) - x := if_pos h
    obtain ⟨L, hL⟩ : ∃ L : Int, L = (n : Int) - x := ⟨_, rfl⟩
    have s_L : IntKind.i64.wrap L = L := by rw [IntKind.wrap_i64]; unfold FitT at h; omega
    have e_L : (n : Int) - x = L := hL.symm
    rw [hl, e_L]
    rw [hd] at hf
    clear hl hL hd h
    go_enter Try.func13, Try.ntmps13
    go_wp2_with (first | (go_at_call 11; refine (hf _).mono ?_; rintro e w1 ⟨rfl, hb1⟩; have b1 := (Bx2.new w (.slice a n c) (.int .i64 x)).below hb1; have c0 := b1.c0; have c1 := b1.c1) | fail)
    go_ret
    exact ⟨rfl, keep_trans (keep_alloc _ _) hb1⟩
  · have hd : decide (FitT n x) = false := decide_eq_false h
    have hl : leftT n x = 0 := if_neg h
    rw [hl]
    rw [hd] at hf
    clear hl hd h
    go_enter Try.func13, Try.ntmps13
    go_wp2_with (first | (go_at_call 11; refine (hf _).mono ?_; rintro e w1 ⟨rfl, hb1⟩) | fail)
    go_ret
    exact ⟨rfl, keep_trans (keep_alloc _ _) hb1⟩
theorem Bx2.load {P : Program} {W : World} {B : Nat} {v0 v1 : Value} (h : Bx2 W B v0 v1) {fn : Func} {p u v : Tmp} (hr : fn.results = #[.cell p 24, .tmp u, .tmp v]) (hP : P = Try.prog) (tmps : Array Value) (hp : tmps.getD p undef = .pointer (some ⟨B, 0, none⟩)) :
    (results fn tmps).run P W = .ok (.tuple #[.agg #[v0, v1], tmps.getD u undef, tmps.getD v undef]) W := by
  subst hP
  have hp' : tmps[p]?.getD undef = .pointer (some ⟨B, 0, none⟩) := by simpa using hp
  simp [results, hr, hp', asAddr, run_loadVar_row W B 24 24 #[v0, v1] (0, 0) _ h.here Try.underlying24 rfl (by kernel_rfl)]
theorem two_bx (w : World) (v0 v1 u0 u1 : Value) : Bx2 ((w.alloc (.cells #[v0, v1] 24)).alloc (.cells #[u0, u1] 24)) w.heap.size v0 v1 ∧ Bx2 ((w.alloc (.cells #[v0, v1] 24)).alloc (.cells #[u0, u1] 24)) (w.heap.size + 1) u0 u1 ∧ Below w.heap.size w ((w.alloc (.cells #[v0, v1] 24)).alloc (.cells #[u0, u1] 24)) := by
  refine ⟨(Bx2.new w v0 v1).below (keep_alloc _ _), ?_, keep_trans (keep_alloc _ _) (keep_alloc _ _)⟩
  have := Bx2.new (w.alloc (.cells #[v0, v1] 24)) u0 u1
  rw [World.size_alloc] at this
  exact this
theorem set_here {W : World} {B i : Nat} {cs : Array Value} {t : TypeId} {fz : Nat × Nat} (u : Value) (h : W.heap[B]? = some (.cells cs t fz)) : (W.setCell ⟨B, i, none⟩ u).heap[B]? = some (.cells (cs.setIfInBounds i u) t fz) := by
  obtain ⟨hlt, hk⟩ := Array.getElem?_eq_some_iff.1 h
  show (W.heap.modify B _)[B]? = _
  rw [Array.getElem?_eq_getElem (by rw [Array.size_modify]; exact hlt), Array.getElem_modify_self, hk]
  rfl
theorem Bx2.set {W : World} {B : Nat} {v0 v1 : Value} (h : Bx2 W B v0 v1) (u0 u1 : Value) : Bx2 ((W.setCell ⟨B, 0, none⟩ u0).setCell ⟨B, 1, none⟩ u1) B u0 u1 := ⟨set_here u1 (set_here u0 h.here)⟩
theorem Bx2.set1 {W : World} {B : Nat} {v0 v1 : Value} (h : Bx2 W B v0 v1) (u1 : Value) : Bx2 (W.setCell ⟨B, 1, none⟩ u1) B v0 u1 := ⟨set_here u1 h.here⟩
theorem Bx2.but {W W' : World} {B q : Nat} {v0 v1 : Value} (h : Bx2 W B v0 v1) (hb : But q W W') (hn : B ≠ q) : Bx2 W' B v0 v1 := ⟨(hb.block _ h.lt hn).trans h.here⟩
theorem but_set2 (W : World) (B : Nat) (u0 u1 : Value) : But B W ((W.setCell ⟨B, 0, none⟩ u0).setCell ⟨B, 1, none⟩ u1) := ((But.refl B W).setCell 0 u0).setCell 1 u1
set_option maxHeartbeats 4000000 in
set_option maxRecDepth 100000 in
/-- Take where it refuses -/
theorem rtake_no (a : Option Addr) (n c : Nat) (x k : Int) (w : World) (h : tkC n x k ≠ 0) :
    Calls Try.prog 7 #[.agg #[.slice a n c, .int .i64 x], .int .i64 k] w fun e w' => e = .returned (.tuple #[.agg #[.slice a n c, .int .i64 x], .slice none 0 0, .int .i64 (tkC n x k)]) ∧ Below w.heap.size w w' := by
  have hf := fun y => rtfit_any a n c x y
  have hl := fun y => rtleft_any a n c x y
  obtain ⟨b0, z0, hbw⟩ := two_bx w (.slice a n c) (.int .i64 x) (.slice none 0 0) (.int .i64 0)
  have HW := hide hbw
  clear hbw
  by_cases h1 : FitT n x
  · have hd : decide (FitT n x) = true := decide_eq_true h1
    rw [hd] at hf
    by_cases h2 : k < 0
    · have hc : tkC n x k = 8 := by unfold tkC; rw [if_neg (by simp [h1]), if_pos h2]
      rw [hc]
      clear hc h hd h1
      go_enter Try.func7, Try.ntmps7
      go_wp2_with (first | (go_at_call 11; refine (hf _).mono ?_; rintro e w1 ⟨rfl, hb1⟩; have b1 := b0.below hb1; have r1 := z0.below hb1; have c0 := b1.c0; have c1 := b1.c1; have d0 := r1.c0; have d1 := r1.c1; have e0 := r1.f0; have e1 := r1.f1) | fail)
      refine bodyPost_ret ((r1.set (.slice a n c) (.int .i64 x)).load rfl rfl _ rfl) rfl ?_
      exact ⟨rfl, (keep_trans HW.out hb1).trans ((but_set2 _ _ _ _).below (by omega) (keep_trans HW.out hb1).size)⟩
    · have h3 : leftT n x < k := by
        refine Decidable.byContradiction fun h3 => h ?_
        unfold tkC
        rw [if_neg (by simp [h1]), if_neg h2, if_neg h3]
      have hc : tkC n x k = 13 := by unfold tkC; rw [if_neg (by simp [h1]), if_neg h2, if_pos h3]
      rw [hc]
      generalize leftT n x = L at *
      clear hc h hd h1
      go_enter Try.func7, Try.ntmps7
      go_wp2_with (first | (go_at_call 11; refine (hf _).mono ?_; rintro e w1 ⟨rfl, hb1⟩; have b1 := b0.below hb1; have r1 := z0.below hb1; have c0 := b1.c0; have c1 := b1.c1; have d0 := r1.c0; have d1 := r1.c1; have e0 := r1.f0; have e1 := r1.f1) | (go_at_call 13; refine (hl _).mono ?_; rintro e w2 ⟨rfl, hb2⟩; have b2 := b1.below hb2; have r2 := r1.below hb2; have g0 := b2.c0; have g1 := b2.c1; have g2 := b2.f1; have i0 := r2.c0; have i1 := r2.c1; have j0 := r2.f0; have j1 := r2.f1) | fail)
      refine bodyPost_ret ((r2.set (.slice a n c) (.int .i64 x)).load rfl rfl _ rfl) rfl ?_
      have hb := keep_trans (keep_trans HW.out hb1) hb2
      exact ⟨rfl, hb.trans ((but_set2 _ _ _ _).below (by omega) hb.size)⟩
  · have hd : decide (FitT n x) = false := decide_eq_false h1
    rw [hd] at hf
    have hc : tkC n x k = 1 := by unfold tkC; rw [if_pos h1]
    rw [hc]
    clear hc h hd h1
    go_enter Try.func7, Try.ntmps7
    go_wp2_with (first | (go_at_call 11; refine (hf _).mono ?_; rintro e w1 ⟨rfl, hb1⟩; have b1 := b0.below hb1; have r1 := z0.below hb1; have c0 := b1.c0; have c1 := b1.c1; have d0 := r1.c0; have d1 := r1.c1; have e0 := r1.f0; have e1 := r1.f1) | fail)
    refine bodyPost_ret ((r1.set (.slice a n c) (.int .i64 x)).load rfl rfl _ rfl) rfl ?_
    exact ⟨rfl, (keep_trans HW.out hb1).trans ((but_set2 _ _ _ _).below (by omega) (keep_trans HW.out hb1).size)⟩
/-- u is the part of v from x on, of k bytes -/
def Part (v : Value) (x k : Int) (u : Value) : Prop := ∃ (a : Option Addr) (n c X M : Nat) (A : Option Addr), v = .slice a n c ∧ x = (X : Int) ∧ k = (M : Int) ∧ u = .slice A M (c - X) ∧ (A = a ∧ c = X ∨ A = a.map (·.add X))
theorem Part.row {w : World} {v u : Value} {l : List Nat} {x k : Int} (h : Part v x k u) (hv : Row .u8 256 w v l) (tv : Tidy v) (hk : tkC l.length x k = 0) : Row .u8 256 w u (tkL l x k) ∧ Tidy u := by
  obtain ⟨a, n, c, X, M, A, rfl, rfl, rfl, rfl, hA⟩ := h
  obtain ⟨h1, h2, h3⟩ := tk_ok hk
  have hn : l.length = n := by
    obtain ⟨_, _, he, _⟩ := hv
    simp at he
    omega
  unfold FitT at h1
  refine ⟨(hv.behind (F := X) (by omega) hA).cut (M := M) (by rw [List.length_drop]; omega), ?_⟩
  intro n' c' e
  simp only [Value.slice.injEq] at e
  obtain ⟨e1, e2, e3⟩ := e
  have ha : a = none := by
    rcases hA with ⟨e, _⟩ | e
    · rw [← e]; exact e1
    · rw [e] at e1; simpa using e1
  subst ha
  have := tv n c rfl
  omega
set_option maxHeartbeats 4000000 in
set_option maxRecDepth 100000 in
/-- Take where it answers -/
theorem rtake_ok (l : List Nat) (v : Value) (x k : Int) (w : World) (hv : Row .u8 256 w v l) (tv : Tidy v) (h : tkC l.length x k = 0) :
    Calls Try.prog 7 #[.agg #[v, .int .i64 x], .int .i64 k] w fun e w' => ∃ u, e = .returned (.tuple #[.agg #[v, .int .i64 (x + k)], u, .int .i64 0]) ∧ Part v x k u ∧ Below w.heap.size w w' := by
  obtain ⟨a, c, rfl, lc1, lc2, _⟩ := hv.opens rfl
  generalize hn : l.length = n at *
  obtain ⟨h1, h2, h3⟩ := tk_ok h
  have hf := fun y => rtfit_any a n c x y
  have hl := fun y => rtleft_any a n c x y
  obtain ⟨b0, z0, hbw⟩ := two_bx w (.slice a n c) (.int .i64 x) (.slice none 0 0) (.int .i64 0)
  have HW := hide hbw
  rw [decide_eq_true h1] at hf
  rw [show leftT n x = (n : Int) - x from if_pos h1] at hl
  have h1' := h1
  unfold FitT at h1'
  obtain ⟨X, rfl⟩ : ∃ X : Nat, x = (X : Int) := ⟨x.toNat, by omega⟩
  obtain ⟨M, rfl⟩ : ∃ M : Nat, k = (M : Int) := ⟨k.toNat, by omega⟩
  obtain ⟨Q, hQ⟩ : ∃ Q : Nat, Q = X + M := ⟨_, rfl⟩
  obtain ⟨L, hL⟩ : ∃ L : Int, L = (n : Int) - (X : Int) := ⟨_, rfl⟩
  have e_Q : (X : Int) + (M : Int) = (Q : Int) := by omega
  have s_Q : IntKind.i64.wrap (Q : Int) = (Q : Int) := by rw [IntKind.wrap_i64]; omega
  have n_M : ¬ ((M : Int) < 0) := by omega
  have n_L : ¬ (L < (M : Int)) := by omega
  have z_X : (0 : Int) ≤ (X : Int) := by omega
  have z_Q : (0 : Int) ≤ (Q : Int) := by omega
  have l_XQ : (X : Int) ≤ (Q : Int) := by omega
  have l_Qc : (Q : Int) ≤ (c : Int) := by omega
  have d_QX : Q - X = M := by omega
  rw [← hL] at hl
  rw [e_Q]
  have HX := hide (And.intro hQ (And.intro hL (And.intro h (And.intro h1' (And.intro h3 (And.intro lc1 lc2))))))
  clear hbw hQ hL h h1 h1' h2 h3 lc1 lc2
  go_enter Try.func7, Try.ntmps7
  go_wp2_with (first | (go_at_call 11; refine (hf _).mono ?_; rintro e w1 ⟨rfl, hb1⟩; have b1 := b0.below hb1; have r1 := z0.below hb1; have c0 := b1.c0; have c1 := b1.c1; have d0 := r1.c0; have d1 := r1.c1; have e0 := r1.f0; have e1 := r1.f1) | (go_at_call 13; refine (hl _).mono ?_; rintro e w2 ⟨rfl, hb2⟩; have b2 := b1.below hb2; have r2 := r1.below hb2; have g0 := b2.c0; have g1 := b2.c1; have g2 := b2.f1; have i0 := r2.c0; have i1 := r2.c1; have j0 := r2.f0; have j1 := r2.f1) | fail)
  have b3 := b2.set1 (.int .i64 (Q : Int))
  have hb3 : But w.heap.size w2 (w2.setCell ⟨w.heap.size, 1, none⟩ (.int .i64 (Q : Int))) := (But.refl _ _).setCell 1 _
  have r3 := r2.but hb3 (by omega)
  generalize w2.setCell ⟨w.heap.size, 1, none⟩ (.int .i64 (Q : Int)) = w3 at *
  have k0 := b3.c0
  have k1 := b3.c1
  have o0 := r3.c0
  have o1 := r3.c1
  have p0 := r3.f0
  have p1 := r3.f1
  have HB := hide (And.intro b3 (And.intro r3 (And.intro hb3 (And.intro b2 r2))))
  have HH := hide (And.intro hv tv)
  clear b0 z0 b1 r1 c0 c1 d0 d1 e0 e1 b2 r2 g0 g1 g2 i0 i1 j0 j1 b3 r3 hf hl hv tv
  go_region
  all_goals
    obtain ⟨A, hAe⟩ : ∃ A, A = (if c = X then a else a.map (fun x => x.add X)) := ⟨_, rfl⟩
    rw [← hAe]
    have HAe := hide hAe
    clear hAe
    go_wp2
    have hAe := HAe.out
    obtain ⟨b3, r3, hb3, b2, r2⟩ := HB.out
    obtain ⟨hv, tv⟩ := HH.out
    obtain ⟨hQ, hL, h, h1, h3, lc1, lc2⟩ := HX.out
    have hb12 := keep_trans (keep_trans HW.out hb1) hb2
    have hb13 := hb12.trans (hb3.below (Nat.le_refl _) hb12.size)
    have hb14 := (hb13.trans ((but_set2 w3 (w.heap.size + 1) (.slice a n c) (.int .i64 (Q : Int))).below (by omega) hb13.size)).drew
    have r4 : Bx2 ((w3.setCell ⟨w.heap.size + 1, 0, none⟩ (.slice a n c)).setCell ⟨w.heap.size + 1, 1, none⟩ (.int .i64 (Q : Int))).drew (w.heap.size + 1) (.slice a n c) (.int .i64 (Q : Int)) := ⟨(r3.set _ _).here⟩
    have hA : A = a ∧ c = X ∨ A = a.map (·.add X) := by
      by_cases e : c = X
      · exact .inl ⟨by rw [hAe, if_pos e], e⟩
      · exact .inr (by rw [hAe, if_neg e])
    refine bodyPost_ret (r4.load rfl rfl _ rfl) rfl ?_
    exact ⟨_, rfl, ⟨a, n, c, X, M, A, rfl, rfl, rfl, rfl, hA⟩, hb14⟩
set_option maxHeartbeats 2000000 in
set_option maxRecDepth 100000 in
theorem rtsame_any (u v : Value) (l m : List Nat) (x y : Int) (w : World) (hu : Row .u8 256 w u l) (hv : Row .u8 256 w v m) :
    Calls Try.prog 14 #[.agg #[u, .int .i64 x], .agg #[v, .int .i64 y]] w fun e w' => e = .returned (.bool (decide (x = y ∧ l = m))) ∧ Below w.heap.size w w' := by
  obtain ⟨a, c, rfl, _⟩ := hu.opens rfl
  obtain ⟨a', c', rfl, _⟩ := hv.opens rfl
  have hs := fun z (h : Below w.heap.size w z) => rsame_any _ _ l m z (hu.below h) (hv.below h)
  by_cases h : x = y
  · have hd : decide (x = y ∧ l = m) = decide (l = m) := by simp [h]
    rw [hd]
    subst h
    clear hd
    go_enter Try.func14, Try.ntmps14
    go_wp2_with (first | (go_at_call 15; refine (hs _ (keep_trans (keep_alloc _ _) (keep_alloc _ _))).mono ?_; rintro e w1 ⟨rfl, nq, rfl⟩) | fail)
    go_ret
    exact ⟨rfl, below_drewN (keep_trans (keep_alloc _ _) (keep_alloc _ _)) nq⟩
  · have hd : decide (x = y ∧ l = m) = false := by simp [h]
    rw [hd]
    have hb : (x == y) = false := by simp [h]
    clear hd
    go_enter Try.func14, Try.ntmps14
    go_wp2
    go_ret
    exact ⟨rfl, keep_trans (keep_alloc _ _) (keep_alloc _ _)⟩
end Go.Proofs.Ytiedkpfpaeecfaa
