/- Trees of leaves that sign once, the program's own: the top, from a leaf up. -/
import Derived.Test.YtogiballdmgcpaaGreatDoorLsE
import Derived.Test.YtogiballdmgcpaaGreatDoorLsD
import Derived.Test.YtogiballdmgcpaaGreatDoorLtV
namespace Go.Proofs.YtogiballdmgcpaaGreatDoor
open Go.RowKit Go.Shelf
set_option linter.unusedVariables false
set_option linter.unusedSimpArgs false
attribute [local go_sem] Oper.semAt_some

theorem vChk_drop : ∀ (h i : Nat) (l : List Nat), i < h → (vChk l h).drop i = (l.drop (32 * i)).take 32 :: (vChk l h).drop (i + 1)
  | 0, i, l, hi => by omega
  | h + 1, 0, l, _ => rfl
  | h + 1, i + 1, l, hi => by
    show (vChk (l.drop 32) h).drop i = _ :: (vChk (l.drop 32) h).drop (i + 1)
    rw [vChk_drop h i (l.drop 32) (by omega), List.drop_drop, show 32 + 32 * i = 32 * (i + 1) by omega]
/-- where the climb stands -/
structure ToI (w : World) (X Y G n0 : Nat) (hv xv idv bv : Value) (id TOP : List Nat) (ps : List (List Nat)) (i : Nat) (W : World) : Prop where
  bt : BxD W X hv xv idv
  bb : Boxed W Y 23 bv
  ex : ∃ sv s, Boxed W G 23 sv ∧ Row .u8 256 W sv s ∧ s.length = 32 ∧ (∀ q, sv.ownBlock = some q → q ≠ G) ∧ climb (ovL id) (ps.drop i) (n0 / 2 ^ i) s = TOP
  bel : Below w.heap.size w W
theorem ToI.own {w W W' : World} {X Y G n0 i D : Nat} {hv xv idv bv : Value} {id TOP : List Nat} {ps : List (List Nat)} (h : ToI w X Y G n0 hv xv idv bv id TOP ps i W) (hD : w.heap.size ≤ D) {row : Option Nat} (hg : W.grownBy W' row) (hr : ∀ r, row = some r → D ≤ r ∧ ∃ o : Obj, W.heap[r]? = some o ∧ o.isCells = false) : ToI w X Y G n0 hv xv idv bv id TOP ps i W' := by
  have hr2 := fun r e => (hr r e).2
  obtain ⟨sv, s, h1, h2, h3, h4, h5⟩ := h.ex
  exact ⟨⟨cells_keptL hg hr2 h.bt.here⟩, cells_keptL hg hr2 h.bb, ⟨sv, s, cells_keptL hg hr2 h1, row_ownL h2 hg hr2, h3, h4, h5⟩, h.bel.grown hg h.bel.size fun r e => by have := (hr r e).1; omega⟩
theorem ToI.below {w W W' : World} {X Y G n0 i : Nat} {hv xv idv bv : Value} {id TOP : List Nat} {ps : List (List Nat)} (h : ToI w X Y G n0 hv xv idv bv id TOP ps i W) (hb : Below W.heap.size W W') : ToI w X Y G n0 hv xv idv bv id TOP ps i W' :=
  h.own (D := w.heap.size) (Nat.le_refl _) (grown_belowL hb) (fun r e => by cases e)
/-- a step of the climb -/
theorem ToI.step {w W W2 : World} {X Y G n0 i : Nat} {hv xv idv bv : Value} {id TOP s2 : List Nat} {ps : List (List Nat)} {sv : Value} (h : ToI w X Y G n0 hv xv idv bv id TOP ps i W) (hb : Below W.heap.size W W2) (hX : X ≠ G) (hY : Y ≠ G) (hG : w.heap.size ≤ G) (hs : Own 5 .u8 256 W2 W.heap.size sv s2) (hl : s2.length = 32)
    (hc : climb (ovL id) (ps.drop (i + 1)) (n0 / 2 ^ (i + 1)) s2 = TOP) : ToI w X Y G n0 hv xv idv bv id TOP ps (i + 1) (W2.setCell ⟨G, 0, none⟩ sv) := by
  have h2 := h.below hb
  have hbt := (But.refl G W2).setCell 0 sv
  obtain ⟨sv0, s0, g1, _⟩ := h2.ex
  obtain ⟨sv1, s1, g0, _⟩ := h.ex
  have hGl := g0.lt
  have hn : ∀ q, sv.ownBlock = some q → q ≠ G := fun q e => by have := hs.new q e; omega
  have hbx : Boxed (W2.setCell ⟨G, 0, none⟩ sv) G 23 sv := g1.set _
  exact ⟨h2.bt.but hbt hX, boxed_butL h2.bb hbt hY, ⟨sv, s2, hbx, hs.row.but (fun _ q e => hn q e) hbt, hl, hn, hc⟩, h2.bel.trans (hbt.below hG h2.bel.size)⟩
def to1lt : List Lt := [(0, some 13, [4]), (0, some 14, [4]), (0, some 15, [1]), (6, some 16, [14, 15]), (0, some 17, [2]), (25, some 18, [13, 16, 17]), (0, some 9, []), (127, none, [9, 18])]
theorem to1reg : Reg (opsA (cLA (cRA (Tryz.f64.body.getD .skip)))) to1lt := ⟨by kernel_rfl, by kernel_rfl⟩
set_option maxHeartbeats 4000000 in
set_option maxRecDepth 100000 in
theorem ctop_tail (h q n0 X G : Nat) (id bes : List Nat) (TOP : List Nat) (x : Int) (ia : Option Addr) (ic bb bo L bc : Nat) (y2 y5 y6 y8 y10 y11 y12 y13 y14 y15 y16 y17 y18 y19 y20 y21 y22 y23 y24 y25 y26 y27 y28 y29 y30 y31 y32 y33 y34 y35 y36 y37 y38 y39 y40 y41 y42 y43 y44 y45 y46 : Value) (w z : World) (hT : Roots w) (hh : h ≤ 25) (hq : q < 2 ^ h) (hn0 : n0 = 2 ^ h + q) (hX : w.heap.size = X) (hXG : X + 1 < G)
    (ri : Row .u8 256 w (.slice ia 16 ic) id) (ti : Tidy (.slice ia 16 ic)) (hil : id.length = 16) (rb : Row .u8 256 w (.slice (some ⟨bb, bo, none⟩) L bc) bes) (hbl : bes.length = L) (hL : L = 32 * h) (hLc : L ≤ bc)
    (hI : ToI w X (X + 1) G n0 (.int .i64 (h : Int)) (.int .i64 x) (.slice ia 16 ic) (.slice (some ⟨bb, bo, none⟩) L bc) id TOP (vChk bes h) 0 z) :
    Code.wp Tryz.prog (cRA (cRA (Tryz.f64.body.getD .skip))) (bodyPostM Fence.wide 8 Tryz.prog Tryz.f64 fun e w' => ∃ v, e = .returned v ∧ Row .u8 256 w' v TOP ∧ TOP.length = 32 ∧ Below w.heap.size w w') { tmps := #[.agg #[.int .i64 (h : Int), .int .i64 x, .slice ia 16 ic], .int .u32 (q : Int), y2, .slice (some ⟨bb, bo, none⟩) L bc, .pointer (some ⟨X, 0, none⟩), y5, y6, .pointer (some ⟨(X + 1), 0, none⟩), y8, .pointer (some ⟨G, 0, none⟩), y10, y11, y12, y13, y14, y15, y16, y17, y18, y19, y20, y21, y22, y23, y24, y25, y26, y27, y28, y29, y30, y31, y32, y33, y34, y35, y36, y37, y38, y39, y40, y41, y42, y43, y44, y45, y46], defers := [] } z := by
  simp only [Tryz.f64, Option.getD_some, cRA]
  have hnb := fun y => neighbours_any h (.int .i64 x) (.slice ia 16 ic) q y ⟨_, rfl⟩ ⟨_, _, _, rfl⟩
  obtain ⟨p1, p2⟩ := pow_25 hh
  have hGz : G < z.heap.size := by obtain ⟨_, _, g1, _⟩ := hI.ex; exact g1.lt
  have hXl := hI.bt.lt
  have HN := hide (And.intro hn0 (And.intro hX (And.intro hL (And.intro hbl (And.intro hXG (And.intro hil (And.intro hh (And.intro hq (And.intro p1 (And.intro p2 hLc))))))))))
  clear hn0 hX hL hbl hXG hil hh hq p1 p2 hLc
  go_wp2_with (first
    | (refine wpList_load_row rfl 96 _ (by rfl) X (by rfl) _ _ _ _ hI.bt.here Tryz.underlying96 rfl (by kernel_rfl) ?_)
    | (go_at_call 101; refine (hnb _).mono ?_; rintro e w3 ⟨rfl, rfl⟩)
    | fail)
  generalize hw3 : (z.alloc (.cells #[.int .i64 (h : Int), .int .i64 x, .slice ia 16 ic] 96)).alloc (.cells #[.int .u32 (q : Int)] 52) = w3
  have hb3 : Below z.heap.size z w3 := by rw [← hw3]; exact keep_trans (keep_alloc _ _) (keep_alloc _ _)
  have hB1 : BxD w3 z.heap.size (.int .i64 (h : Int)) (.int .i64 x) (.slice ia 16 ic) := by rw [← hw3]; exact (BxD.new z _ _ _).below (keep_alloc _ _)
  have hB2 : Boxed w3 (z.heap.size + 1) 52 (.int .u32 (q : Int)) := by
    have := Boxed.new (z.alloc (.cells #[.int .i64 (h : Int), .int .i64 x, .slice ia 16 ic] 96)) 52 (.int .u32 (q : Int))
    rw [World.size_alloc] at this
    rw [← hw3]; exact this
  have hI3 := hI.below hb3
  have hsz3 := hb3.size
  obtain ⟨hn0, hX, hL, hbl, hXG, hil, hh, hq, p1, p2, hLc⟩ := HN.out
  have hwz : w.heap.size ≤ w3.heap.size := by omega
  have hGw : w.heap.size ≤ G := by omega
  have hG3 : G < w3.heap.size := by omega
  have hXG1 : X ≠ G := by omega
  have hXG2 : X + 1 ≠ G := by omega
  have hown := nb1_own 7 (by decide) z.heap.size (z.heap.size + 1) h q (.int .i64 x) (.slice ia 16 ic) ⟨_, rfl⟩ ⟨_, _, _, rfl⟩ hh hq w3 (fun _ => True) hB1 hB2
  rw [← hn0] at hown
  have hab := fun (y : World) (n : Nat) (lv rv : Value) (l r : List Nat) (k : Below w.heap.size w y) (rl : Row .u8 256 y lv l) (hll : l.length = 32) (rr : Row .u8 256 y rv r) (hrl : r.length = 32) (hn : n < 67108864) => caboveSum (.int .i64 (h : Int)) (.int .i64 x) n id l r (.slice ia 16 ic) lv rv y (hT.below k) ⟨_, rfl⟩ ⟨_, rfl⟩ (ri.below k) ti rl (row_tidyX rl (by omega)) rr (row_tidyX rr (by omega)) (by omega) (by omega)
  clear hI hB1 hB2 hw3 hnb hn0 hX hL hbl hXG hil hh hq p1 p2 hLc hsz3 hXl hGz
  refine wpIn_wide.1 (range_pre (n := 8) rfl (enters_of Tryz.func118 (by kernel_rfl) rfl) hown (fun _ => rfl)
    (fun pre W => ToI w X (X + 1) G n0 (.int .i64 (h : Int)) (.int .i64 x) (.slice ia 16 ic) (.slice (some ⟨bb, bo, none⟩) L bc) id TOP (vChk bes h) pre.length W ∧ w3.heap.size ≤ W.heap.size)
    (fun pre A B row hs hg hr => ⟨hs.1.own (D := w3.heap.size) hwz hg hr, Nat.le_trans hs.2 hg.size⟩) (fun pre W h => trivial) ⟨hI3, Nat.le_refl _⟩
    (fun pre (i : Nat) a' W => a' = { tmps := #[.agg #[.int .i64 (h : Int), .int .i64 x, .slice ia 16 ic], .int .u32 (q : Int), y2, .slice (some ⟨bb, bo, none⟩) L bc, .pointer (some ⟨X, 0, none⟩), y5, y6, .pointer (some ⟨(X + 1), 0, none⟩), y8, .pointer (some ⟨G, 0, none⟩), .int .i64 (i : Int), .int .i64 (((n0 / 2 ^ i) ^^^ 1 : Nat) : Int), y12, y13, y14, y15, y16, y17, y18, .agg #[.int .i64 (h : Int), .int .i64 x, .slice ia 16 ic], .int .u32 (q : Int), .func (.func 118) #[] #[.pointer (some ⟨z.heap.size, 0, none⟩), .pointer (some ⟨z.heap.size + 1, 0, none⟩)], .int .i64 (i : Int), .int .i64 (((n0 / 2 ^ i) ^^^ 1 : Nat) : Int), y24, y25, y26, y27, y28, y29, y30, y31, y32, y33, y34, y35, y36, y37, y38, y39, y40, y41, y42, y43, y44, y45, y46], defers := [] } ∧ ToI w X (X + 1) G n0 (.int .i64 (h : Int)) (.int .i64 x) (.slice ia 16 ic) (.slice (some ⟨bb, bo, none⟩) L bc) id TOP (vChk bes h) pre.length W ∧ w3.heap.size ≤ W.heap.size)
    (fun pre (i : Nat) a' u A B row hs hg hr => ⟨hs.1, hs.2.1.own (D := w3.heap.size) hwz hg hr, Nat.le_trans hs.2.2 hg.size⟩) ?assign ?body ?done)
  case assign =>
    rintro l pre i W K ⟨lp, hsz⟩ hlt hK
    unfold nbV
    gi_wp2
    exact hK _ _ (kept_belowL (Below.refl _ _)) ⟨rfl, lp, hsz⟩
  case body =>
    rintro l pre i a' W ⟨rfl, lp, hsz⟩ hlt
    obtain ⟨hpre, hi⟩ := pre_range hlt
    obtain ⟨hn0, hX, hL, hbl, hXG, hil, hh, hq, p1, p2, hLc⟩ := HN.out
    have hpl : pre.length = i := by rw [hpre, List.length_range]
    have hpl2 : (pre ++ [i]).length = i + 1 := by rw [List.length_append, hpl]; rfl
    rw [hpl] at lp
    rw [hpl2]
    obtain ⟨sv, s, b1, r1, l1, o1, hcl⟩ := lp.ex
    have bt1 := lp.bt
    have cB := lp.bb.cell
    have cG := b1.cell
    have kb := lp.bel
    obtain ⟨sa, sc, rfl, _⟩ := r1.opens l1
    have hdd : n0 / 2 ^ (i + 1) = n0 / 2 ^ i / 2 := by rw [Nat.pow_succ, Nat.div_div_eq_div_mul]
    have hdv : n0 / 2 ^ i ≤ n0 := Nat.div_le_self _ _
    obtain ⟨D, hD⟩ : ∃ D, D = n0 / 2 ^ i := ⟨_, rfl⟩
    have hps := vChk_drop h i bes hi
    obtain ⟨p, hp⟩ : ∃ p, p = (bes.drop (32 * i)).take 32 := ⟨_, rfl⟩
    rw [hps, ← hp, ← hD] at hcl
    rw [← hD] at hdd hdv ⊢
    obtain ⟨A, hA⟩ : ∃ A : Nat, A = 32 * i := ⟨_, rfl⟩
    obtain ⟨I, hI⟩ : ∃ I : Nat, I = i + 1 := ⟨_, rfl⟩
    obtain ⟨B, hB⟩ : ∃ B : Nat, B = 32 * I := ⟨_, rfl⟩
    have e_A : (i : Int) * 32 = (A : Int) := by omega
    have s_A : IntKind.i64.wrap (A : Int) = (A : Int) := by rw [IntKind.wrap_i64]; omega
    have e_I : (i : Int) + 1 = (I : Int) := by omega
    have s_I : IntKind.i64.wrap (I : Int) = (I : Int) := by rw [IntKind.wrap_i64]; omega
    have e_B : (I : Int) * 32 = (B : Int) := by omega
    have s_B : IntKind.i64.wrap (B : Int) = (B : Int) := by rw [IntKind.wrap_i64]; omega
    have hBA : B - A = 32 := by omega
    have hcutw : ∀ w, (Instr.slice 23 (.slice (some ⟨bb, bo, none⟩) L bc) (some (.int .i64 (A : Int))) (some (.int .i64 (B : Int))) none).run Tryz.prog w = .ok (.slice (some ⟨bb, bo + A, none⟩) 32 (bc - A)) w := fun w => mid_run (by omega) (by omega) (by omega) w
    have rp : Row .u8 256 w (.slice (some ⟨bb, bo + A, none⟩) 32 (bc - A)) p := by
      have := rb.mid (i := A) (j := B) (by omega) (by omega)
      rw [hBA] at this
      rw [hp, ← hA]; exact this
    have pl : p.length = 32 := by rw [hp, List.length_take, List.length_drop]; omega
    have rpW := rp.below kb
    obtain ⟨Nb, hN⟩ : ∃ N, N = D ^^^ 1 := ⟨_, rfl⟩
    have hxo := xor_one D
    rw [← hN] at hxo ⊢
    obtain ⟨Q, hQ⟩ : ∃ Q, Q = D / 2 := ⟨_, rfl⟩
    rw [← hQ] at hdd
    have hNQ : Nb / 2 = Q := by split at hxo <;> omega
    have e_Q : (Nb : Int).tdiv 2 = (Q : Int) := by rw [Int.tdiv_eq_ediv_of_nonneg (by omega)]; omega
    have e_Q2 : (Nb : Int) / 2 = (Q : Int) := by omega
    have s_Q : IntKind.i64.wrap (Q : Int) = (Q : Int) := by rw [IntKind.wrap_i64]; omega
    have htl : climb (ovL id) ((vChk bes h).drop (i + 1)) (n0 / 2 ^ (i + 1)) (if D % 2 = 0 then ovL id Q s p else ovL id Q p s) = TOP := by
      rw [hdd]
      rw [← hcl, hQ]; rfl
    by_cases hpar : D % 2 = 0
    · rw [if_pos hpar] at htl
      have hNp : Nb % 2 = 1 := by rw [if_pos hpar] at hxo; omega
      have t_N : (Nb : Int).tmod 2 = 1 := by rw [Int.tmod_eq_emod_of_nonneg (by omega)]; omega
      have t_N2 : (Nb : Int) % 2 = 1 := by omega
      have hab1 := hab W Q _ _ _ _ kb r1 l1 rpW pl (by omega)
      have HX := hide (And.intro lp (And.intro hsz (And.intro htl hpl)))
      have hol : (ovL id Q s p).length = 32 := shaL_len _
      generalize ovL id Q s p = S2 at *
      clear hBA lp hsz htl hA hI hB hN hQ hD hxo hdd hdv hcl hp hps hNQ rp rpW hpre hpl hpl2 hpar hNp hi hn0 hX hL hbl hXG hil hh hq p1 p2 hLc
      gi_wp2_with (first
        | (refine wpListIn_rowL (fun _ => trivial) rfl 96 _ rfl X 0 rfl [.int .i64 (h : Int), .int .i64 x, .slice ia 16 ic] _ bt1.range Tryz.underlying96 rfl (by kernel_rfl) ?_)
        | (refine ⟨trivial, ?_⟩; gi_at_call 102; refine (CallsIn.inRound l (callsIn_wide.2 hab1)).mono ?_; rintro e w4 ⟨v4, rfl, o4, g4⟩; have b4 := boxed_belowL b1 g4; have cG4 := b4.cell; have fG4 := b4.frozen; obtain ⟨va, vc, rfl, _⟩ := o4.row.opens hol)
        | fail)
      obtain ⟨lp, hsz, htl, hpl⟩ := HX.out
      exact ⟨(kept_belowL g4).trans (kept_setL _ hG3), lp.step g4 hXG1 hXG2 hGw o4 hol htl, by have := g4.size; have := ((But.refl G w4).setCell 0 (.slice va 32 vc)).size; omega⟩
    · rw [if_neg hpar] at htl
      have hNp : Nb % 2 = 0 := by rw [if_neg hpar] at hxo; omega
      have t_N : (Nb : Int).tmod 2 = 0 := by rw [Int.tmod_eq_emod_of_nonneg (by omega)]; omega
      have t_N2 : (Nb : Int) % 2 = 0 := by omega
      have hab1 := hab W Q _ _ _ _ kb rpW pl r1 l1 (by omega)
      have HX := hide (And.intro lp (And.intro hsz (And.intro htl hpl)))
      have hol : (ovL id Q p s).length = 32 := shaL_len _
      generalize ovL id Q p s = S2 at *
      clear hBA lp hsz htl hA hI hB hN hQ hD hxo hdd hdv hcl hp hps hNQ rp rpW hpre hpl hpl2 hpar hNp hi hn0 hX hL hbl hXG hil hh hq p1 p2 hLc
      gi_wp2_with (first
        | (refine wpListIn_rowL (fun _ => trivial) rfl 96 _ rfl X 0 rfl [.int .i64 (h : Int), .int .i64 x, .slice ia 16 ic] _ bt1.range Tryz.underlying96 rfl (by kernel_rfl) ?_)
        | (refine ⟨trivial, ?_⟩; gi_at_call 102; refine (CallsIn.inRound l (callsIn_wide.2 hab1)).mono ?_; rintro e w4 ⟨v4, rfl, o4, g4⟩; have b4 := boxed_belowL b1 g4; have cG4 := b4.cell; have fG4 := b4.frozen; obtain ⟨va, vc, rfl, _⟩ := o4.row.opens hol)
        | fail)
      obtain ⟨lp, hsz, htl, hpl⟩ := HX.out
      exact ⟨(kept_belowL g4).trans (kept_setL _ hG3), lp.step g4 hXG1 hXG2 hGw o4 hol htl, by have := g4.size; have := ((But.refl G w4).setCell 0 (.slice va 32 vc)).size; omega⟩
  case done =>
    rintro W ⟨lp, hsz⟩ hK
    rw [List.length_range] at lp
    have lpF := lp.own (D := w3.heap.size) hwz (grownBy_putObj' W w3.heap.size (.deferred none)) (fun r e => by cases e; exact ⟨Nat.le_refl _, _, hK, rfl⟩)
    obtain ⟨sv, s, b1, r1, l1, o1, hcl⟩ := lp.ex
    have cG := b1.cell
    have r1F : Row .u8 256 (W.putObj w3.heap.size (.deferred none)) sv s := row_ownL r1 (grownBy_putObj' W w3.heap.size (.deferred none)) (fun r e => by cases e; exact ⟨_, hK, rfl⟩)
    obtain ⟨sa, sc, rfl, _⟩ := r1.opens l1
    have hem : (vChk bes h).drop h = [] := List.drop_eq_nil_of_le (by rw [vChk_len]; exact Nat.le_refl _)
    rw [hem] at hcl
    have hTs : s = TOP := hcl
    rw [hTs] at r1F l1
    clear hcl hem lp b1 o1
    go_wp2
    refine ⟨by simp, .inl ⟨_, _, rfl, run_takeDeferred hK, ?_⟩⟩
    exact ⟨_, results_tmp rfl _ _ _, .slice sa 32 sc, rfl, r1F, l1, lpF.bel⟩
set_option maxHeartbeats 4000000 in
set_option maxRecDepth 100000 in
theorem ctop_any (h q : Nat) (id key bes : List Nat) (x : Int) (idv kv bv : Value) (w : World) (hT : Roots w) (hh : h ≤ 25) (h1 : 1 ≤ h) (hq : q < 2 ^ h)
    (ri : Row .u8 256 w idv id) (ti : Tidy idv) (hil : id.length = 16) (rk : Row .u8 256 w kv key) (hkl : key.length = 32) (rb : Row .u8 256 w bv bes) (hbl : bes.length = 32 * h) :
    Calls Tryz.prog 64 #[.agg #[.int .i64 (h : Int), .int .i64 x, idv], .int .u32 (q : Int), kv, bv] w fun e w' => ∃ v, e = .returned v ∧ Row .u8 256 w' v (climb (ovL id) (vChk bes h) (2 ^ h + q) (lfS id (2 ^ h + q) key)) ∧ (climb (ovL id) (vChk bes h) (2 ^ h + q) (lfS id (2 ^ h + q) key)).length = 32 ∧ Below w.heap.size w w' := by
  obtain ⟨ia, ic, rfl, _⟩ := ri.opens hil
  obtain ⟨ka, kc, rfl, _⟩ := rk.opens hkl
  obtain ⟨L, hL⟩ : ∃ L, L = 32 * h := ⟨_, rfl⟩
  rw [← hL] at hbl
  obtain ⟨ba, bc, rfl, lc1, _, ho⟩ := rb.opens hbl
  obtain ⟨bb, bo, rfl, _⟩ := ho (by omega)
  clear ho
  have tk : Tidy (.slice ka 32 kc) := row_tidyX rk (by omega)
  obtain ⟨i0, hi0, hz0, hz1, hz2⟩ := info_text
  obtain ⟨p1, p2⟩ := pow_25 hh
  have hkn := fun y => cknotOf h q (.int .i64 x) (.slice ia 16 ic) y hh (by omega) ⟨_, rfl⟩ ⟨_, _, _, rfl⟩
  obtain ⟨n0, hn0⟩ : ∃ n0, n0 = 2 ^ h + q := ⟨_, rfl⟩
  rw [← hn0] at hkn ⊢
  have hlf := fun (y : World) (k : Below w.heap.size w y) => cleafSum (.int .i64 (h : Int)) (.int .i64 x) n0 id key (.slice ia 16 ic) (.slice ka 32 kc) y (hT.below k) ⟨_, rfl⟩ ⟨_, rfl⟩ (ri.below k) ti (rk.below k) tk (by omega) (by omega)
  have hll : (lfS id n0 key).length = 32 := shaL_len _
  generalize hTOP : climb (ovL id) (vChk bes h) n0 (lfS id n0 key) = TOP
  generalize lfS id n0 key = LF at *
  have bN := BxD.new w (.int .i64 (h : Int)) (.int .i64 x) (.slice ia 16 ic)
  have k0 := keep_alloc w (.cells #[.int .i64 (h : Int), .int .i64 x, .slice ia 16 ic] 96)
  have HN := hide (And.intro hn0 (And.intro hL (And.intro hbl (And.intro hq (And.intro hTOP (And.intro p1 (And.intro p2 (And.intro hil hkl))))))))
  clear hn0 hL hbl hq hTOP p1 p2 hil hkl
  refine (callsIn_wide (n := 8)).1 (callsIn_of_wp_marks Tryz.func64 rfl trivial (wpIn_wide.2 ?_) rfl)
  simp only [Tryz.ntmps64, List.size_toArray, List.length_cons, List.length_nil, Nat.reduceAdd, Nat.reduceSub, Array.replicate_succ, Array.replicate_zero, List.push_toArray, List.append_toArray, List.nil_append, List.cons_append]
  go_wp2
  rename_i K hK
  generalize hW0 : (w.alloc (.cells #[.int .i64 (h : Int), .int .i64 x, .slice ia 16 ic] 96)).alloc (.cells #[.slice (some ⟨bb, bo, none⟩) L bc] 23) = W0
  have kW : Below w.heap.size w W0 := by rw [← hW0]; exact keep_trans k0 (keep_alloc _ _)
  have bb0 : Boxed W0 (w.heap.size + 1) 23 (.slice (some ⟨bb, bo, none⟩) L bc) := by
    have := Boxed.new (w.alloc (.cells #[.int .i64 (h : Int), .int .i64 x, .slice ia 16 ic] 96)) 23 (.slice (some ⟨bb, bo, none⟩) L bc)
    rw [World.size_alloc] at this
    rw [← hW0]; exact this
  have bt0 : BxD W0 w.heap.size (.int .i64 (h : Int)) (.int .i64 x) (.slice ia 16 ic) := by rw [← hW0]; exact bN.below (keep_alloc _ _)
  have hXW := bb0.lt
  generalize hX : w.heap.size = X at bt0 bb0 hXW ⊢
  clear bN k0 hW0
  have hbd : Below W0.heap.size W0 W0.drew := (Below.refl _ _).drew
  refine at_begin (ops := opsA (cLA (cRA (Tryz.f64.body.getD .skip)))) (n := 8) (fun y => Below W0.heap.size W0 y) (by kernel_rfl) (by kernel_rfl) ?_
  refine at_takeD (i := 0) (m' := 1) (d := some 13) (v := .agg #[.int .i64 (h : Int), .int .i64 x, .slice ia 16 ic]) to1reg rfl (by decide) rfl rfl (y_rowG (cs := [.int .i64 (h : Int), .int .i64 x, .slice ia 16 ic]) (wanted_free rfl) rfl rfl Tryz.underlying96 rfl (by kernel_rfl) (fun _ h => (bt0.below h).range)) hbd ?_
  simp only [Act.put, List.setIfInBounds_toArray, List.set_cons_zero, List.set_cons_succ]
  refine at_takeD (i := 1) (m' := 3) (d := some 14) (v := .agg #[.int .i64 (h : Int), .int .i64 x, .slice ia 16 ic]) to1reg rfl (by decide) rfl rfl (y_rowG (cs := [.int .i64 (h : Int), .int .i64 x, .slice ia 16 ic]) (wanted_free rfl) rfl rfl Tryz.underlying96 rfl (by kernel_rfl) (fun _ h => (bt0.below h).range)) hbd ?_
  simp only [Act.put, List.setIfInBounds_toArray, List.set_cons_zero, List.set_cons_succ]
  refine at_takeD (i := 2) (m' := 7) (d := some 15) (v := .int .u32 (q : Int)) to1reg rfl (by decide) rfl rfl (y_moveG (wanted_free rfl) rfl rfl) hbd ?_
  simp only [Act.put, List.setIfInBounds_toArray, List.set_cons_zero, List.set_cons_succ]
  refine at_takeD (i := 4) (m' := 23) (d := some 17) (v := .slice ka 32 kc) to1reg rfl (by decide) rfl rfl (y_moveG (wanted_free rfl) rfl rfl) hbd ?_
  simp only [Act.put, List.setIfInBounds_toArray, List.set_cons_zero, List.set_cons_succ]
  refine at_two (i := 3) (j := 6) (m1 := 31) (m2 := 87) to1reg (by decide) rfl rfl ?_ ?_
  · refine p_callG (args := #[.agg #[.int .i64 (h : Int), .int .i64 x, .slice ia 16 ic], .int .u32 (q : Int)]) (d := some 16) rfl (wanted_free rfl) rfl (by simp only [List.map_toArray, List.map_cons, List.map_nil]; rfl) rfl Tryz.call100 ((hkn W0.drew).mono ?_)
    rintro e y5 ⟨rfl, g5⟩
    try replace bG := boxed_belowL bG g5
    try replace os := os.lift g5
    have hb5 := keep_trans hbd g5
    refine ⟨_, rfl, hb5, ?_⟩
    simp only [Act.put, List.setIfInBounds_toArray, List.set_cons_zero, List.set_cons_succ]
    refine at_two (i := 5) (j := 6) (m1 := 63) (m2 := 95) to1reg (by decide) rfl rfl ?_ ?_
    · refine p_callG (args := #[.agg #[.int .i64 (h : Int), .int .i64 x, .slice ia 16 ic], .int .i64 (n0 : Int), .slice ka 32 kc]) (d := some 18) rfl (wanted_free rfl) rfl (by simp only [List.map_toArray, List.map_cons, List.map_nil]; rfl) rfl Tryz.call99 ((hlf y5 (keep_trans kW hb5)).mono ?_)
      rintro e y6 ⟨sv, rfl, os, g6⟩
      try have hne := fun q e => Nat.ne_of_gt (Nat.lt_of_lt_of_le bG.lt (os.new q e))
      try replace bG := boxed_belowL bG g6
      obtain ⟨sa, sc, rfl, _⟩ := os.row.opens hll
      have hb6 := keep_trans hb5 g6
      refine ⟨_, rfl, hb6, ?_⟩
      simp only [Act.put, List.setIfInBounds_toArray, List.set_cons_zero, List.set_cons_succ]
      refine at_one (i := 6) (m' := 127) to1reg (by decide) rfl ?_
      refine p_alloc (P := Tryz.prog) (d := some 9) rfl rfl rfl rfl hi0 hz0 ?_
      have bG := Boxed.new (y6) 23 (.slice none 0 0)
      have hGl : W0.heap.size ≤ (y6).heap.size := (hb6).size
      try have hne := fun q e => Nat.ne_of_lt (os.row.old (by omega) (q := q) e)
      obtain ⟨G, hG⟩ : ∃ q : Nat, (y6).heap.size = q := ⟨_, rfl⟩
      obtain ⟨z7, hz7⟩ : ∃ z : World, z = (y6).alloc (.cells #[.slice none 0 0] 23) := ⟨_, rfl⟩
      have g7 : Below (y6).heap.size y6 z7 := by rw [hz7]; exact keep_alloc _ _
      have hb7 := keep_trans hb6 g7
      rw [← hz7] at bG ⊢
      rw [hG] at bG hGl ⊢
      try rw [hG] at hne
      try replace os := os.lift g7
      clear hz7 hG
      refine ⟨hb7, ?_⟩
      simp only [Act.put, List.setIfInBounds_toArray, List.set_cons_zero, List.set_cons_succ]
      refine at_one (i := 7) (m' := 255) to1reg (by decide) rfl ?_
      have cG := bG.cell
      have fG := bG.frozen
      refine p_store_plain (P := Tryz.prog) (p := ⟨G, 0, none⟩) rfl rfl rfl rfl rfl rfl Tryz.underlying23 rfl (by kernel_rfl) (by rw [cG]; rfl) fG ?_
      have kf := hb7
      have hb8 := below_setCell (j := 0) (v := .slice sa 32 sc) hb7 hGl
      have bs := bG.set (.slice sa 32 sc)
      have hbt := (But.refl G z7).setCell 0 (.slice sa 32 sc)
      refine ⟨hb8, ?_⟩
      refine at_done to1reg (by decide) ?_
      refine hK _ _ ?_
      obtain ⟨hn0, hL, hbl, hq, hTOP, p1, p2, hil, hkl⟩ := HN.out
      refine ctop_tail h q n0 X G id bes TOP x ia ic bb bo L bc _ _ _ _ _ _ _ _ _ _ _ _ _ _ _ _ _ _ _ _ _ _ _ _ _ _ _ _ _ _ _ _ _ _ _ _ _ _ _ _ _ w _ hT hh hq hn0 hX (by omega) ri ti hil rb hbl hL lc1 ⟨(bt0.below kf).but hbt (by omega), boxed_butL (boxed_belowL bb0 kf) hbt (by omega), ⟨_, LF, bs, os.row.but (fun _ q e => hne q e) hbt, hll, hne, by rw [List.drop_zero, Nat.pow_zero, Nat.div_one]; exact hTOP⟩, keep_trans kW hb8⟩
    · refine p_alloc (P := Tryz.prog) (d := some 9) rfl rfl rfl rfl hi0 hz0 ?_
      have bG := Boxed.new (y5) 23 (.slice none 0 0)
      have hGl : W0.heap.size ≤ (y5).heap.size := (hb5).size
      try have hne := fun q e => Nat.ne_of_lt (os.row.old (by omega) (q := q) e)
      obtain ⟨G, hG⟩ : ∃ q : Nat, (y5).heap.size = q := ⟨_, rfl⟩
      obtain ⟨z6, hz6⟩ : ∃ z : World, z = (y5).alloc (.cells #[.slice none 0 0] 23) := ⟨_, rfl⟩
      have g6 : Below (y5).heap.size y5 z6 := by rw [hz6]; exact keep_alloc _ _
      have hb6 := keep_trans hb5 g6
      rw [← hz6] at bG ⊢
      rw [hG] at bG hGl ⊢
      try rw [hG] at hne
      try replace os := os.lift g6
      clear hz6 hG
      refine ⟨hb6, ?_⟩
      simp only [Act.put, List.setIfInBounds_toArray, List.set_cons_zero, List.set_cons_succ]
      refine at_one (i := 5) (m' := 127) to1reg (by decide) rfl ?_
      refine p_callG (args := #[.agg #[.int .i64 (h : Int), .int .i64 x, .slice ia 16 ic], .int .i64 (n0 : Int), .slice ka 32 kc]) (d := some 18) rfl (wanted_free rfl) rfl (by simp only [List.map_toArray, List.map_cons, List.map_nil]; rfl) rfl Tryz.call99 ((hlf z6 (keep_trans kW hb6)).mono ?_)
      rintro e y7 ⟨sv, rfl, os, g7⟩
      try have hne := fun q e => Nat.ne_of_gt (Nat.lt_of_lt_of_le bG.lt (os.new q e))
      try replace bG := boxed_belowL bG g7
      obtain ⟨sa, sc, rfl, _⟩ := os.row.opens hll
      have hb7 := keep_trans hb6 g7
      refine ⟨_, rfl, hb7, ?_⟩
      simp only [Act.put, List.setIfInBounds_toArray, List.set_cons_zero, List.set_cons_succ]
      refine at_one (i := 7) (m' := 255) to1reg (by decide) rfl ?_
      have cG := bG.cell
      have fG := bG.frozen
      refine p_store_plain (P := Tryz.prog) (p := ⟨G, 0, none⟩) rfl rfl rfl rfl rfl rfl Tryz.underlying23 rfl (by kernel_rfl) (by rw [cG]; rfl) fG ?_
      have kf := hb7
      have hb8 := below_setCell (j := 0) (v := .slice sa 32 sc) hb7 hGl
      have bs := bG.set (.slice sa 32 sc)
      have hbt := (But.refl G y7).setCell 0 (.slice sa 32 sc)
      refine ⟨hb8, ?_⟩
      refine at_done to1reg (by decide) ?_
      refine hK _ _ ?_
      obtain ⟨hn0, hL, hbl, hq, hTOP, p1, p2, hil, hkl⟩ := HN.out
      refine ctop_tail h q n0 X G id bes TOP x ia ic bb bo L bc _ _ _ _ _ _ _ _ _ _ _ _ _ _ _ _ _ _ _ _ _ _ _ _ _ _ _ _ _ _ _ _ _ _ _ _ _ _ _ _ _ w _ hT hh hq hn0 hX (by omega) ri ti hil rb hbl hL lc1 ⟨(bt0.below kf).but hbt (by omega), boxed_butL (boxed_belowL bb0 kf) hbt (by omega), ⟨_, LF, bs, os.row.but (fun _ q e => hne q e) hbt, hll, hne, by rw [List.drop_zero, Nat.pow_zero, Nat.div_one]; exact hTOP⟩, keep_trans kW hb8⟩
  · refine p_alloc (P := Tryz.prog) (d := some 9) rfl rfl rfl rfl hi0 hz0 ?_
    have bG := Boxed.new (W0.drew) 23 (.slice none 0 0)
    have hGl : W0.heap.size ≤ (W0.drew).heap.size := (hbd).size
    try have hne := fun q e => Nat.ne_of_lt (os.row.old (by omega) (q := q) e)
    obtain ⟨G, hG⟩ : ∃ q : Nat, (W0.drew).heap.size = q := ⟨_, rfl⟩
    obtain ⟨z5, hz5⟩ : ∃ z : World, z = (W0.drew).alloc (.cells #[.slice none 0 0] 23) := ⟨_, rfl⟩
    have g5 : Below (W0.drew).heap.size W0.drew z5 := by rw [hz5]; exact keep_alloc _ _
    have hb5 := keep_trans hbd g5
    rw [← hz5] at bG ⊢
    rw [hG] at bG hGl ⊢
    try rw [hG] at hne
    try replace os := os.lift g5
    clear hz5 hG
    refine ⟨hb5, ?_⟩
    simp only [Act.put, List.setIfInBounds_toArray, List.set_cons_zero, List.set_cons_succ]
    refine at_one (i := 3) (m' := 95) to1reg (by decide) rfl ?_
    refine p_callG (args := #[.agg #[.int .i64 (h : Int), .int .i64 x, .slice ia 16 ic], .int .u32 (q : Int)]) (d := some 16) rfl (wanted_free rfl) rfl (by simp only [List.map_toArray, List.map_cons, List.map_nil]; rfl) rfl Tryz.call100 ((hkn z5).mono ?_)
    rintro e y6 ⟨rfl, g6⟩
    try replace bG := boxed_belowL bG g6
    try replace os := os.lift g6
    have hb6 := keep_trans hb5 g6
    refine ⟨_, rfl, hb6, ?_⟩
    simp only [Act.put, List.setIfInBounds_toArray, List.set_cons_zero, List.set_cons_succ]
    refine at_one (i := 5) (m' := 127) to1reg (by decide) rfl ?_
    refine p_callG (args := #[.agg #[.int .i64 (h : Int), .int .i64 x, .slice ia 16 ic], .int .i64 (n0 : Int), .slice ka 32 kc]) (d := some 18) rfl (wanted_free rfl) rfl (by simp only [List.map_toArray, List.map_cons, List.map_nil]; rfl) rfl Tryz.call99 ((hlf y6 (keep_trans kW hb6)).mono ?_)
    rintro e y7 ⟨sv, rfl, os, g7⟩
    try have hne := fun q e => Nat.ne_of_gt (Nat.lt_of_lt_of_le bG.lt (os.new q e))
    try replace bG := boxed_belowL bG g7
    obtain ⟨sa, sc, rfl, _⟩ := os.row.opens hll
    have hb7 := keep_trans hb6 g7
    refine ⟨_, rfl, hb7, ?_⟩
    simp only [Act.put, List.setIfInBounds_toArray, List.set_cons_zero, List.set_cons_succ]
    refine at_one (i := 7) (m' := 255) to1reg (by decide) rfl ?_
    have cG := bG.cell
    have fG := bG.frozen
    refine p_store_plain (P := Tryz.prog) (p := ⟨G, 0, none⟩) rfl rfl rfl rfl rfl rfl Tryz.underlying23 rfl (by kernel_rfl) (by rw [cG]; rfl) fG ?_
    have kf := hb7
    have hb8 := below_setCell (j := 0) (v := .slice sa 32 sc) hb7 hGl
    have bs := bG.set (.slice sa 32 sc)
    have hbt := (But.refl G y7).setCell 0 (.slice sa 32 sc)
    refine ⟨hb8, ?_⟩
    refine at_done to1reg (by decide) ?_
    refine hK _ _ ?_
    obtain ⟨hn0, hL, hbl, hq, hTOP, p1, p2, hil, hkl⟩ := HN.out
    refine ctop_tail h q n0 X G id bes TOP x ia ic bb bo L bc _ _ _ _ _ _ _ _ _ _ _ _ _ _ _ _ _ _ _ _ _ _ _ _ _ _ _ _ _ _ _ _ _ _ _ _ _ _ _ _ _ w _ hT hh hq hn0 hX (by omega) ri ti hil rb hbl hL lc1 ⟨(bt0.below kf).but hbt (by omega), boxed_butL (boxed_belowL bb0 kf) hbt (by omega), ⟨_, LF, bs, os.row.but (fun _ q e => hne q e) hbt, hll, hne, by rw [List.drop_zero, Nat.pow_zero, Nat.div_one]; exact hTOP⟩, keep_trans kW hb8⟩
end Go.Proofs.YtogiballdmgcpaaGreatDoor
