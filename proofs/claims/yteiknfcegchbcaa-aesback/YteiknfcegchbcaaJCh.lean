/- The code's Chain. -/
import Derived.Test.YteiknfcegchbcaaJPd
namespace Go.Proofs.Yteiknfcegchbcaa
open Go.RowKit Go.Shelf
set_option linter.unusedVariables false
set_option linter.unusedSimpArgs false
attribute [local go_sem] Oper.semAt_some

theorem rows_lit2A {w : World} {u v : Value} {a b : List Nat} (hu : Row .u8 256 w u a) (tu : Tidy u) (hv : Row .u8 256 w v b) (tv : Tidy v) : Rows2 (w.alloc (.cells #[u, v] 22)) (.slice (some ⟨w.heap.size, 0, none⟩) 2 2) [a, b] := by
  refine ⟨_, 2, rfl, Nat.le_refl _, by unfold maxLen; decide, fun _ => ⟨_, _, rfl, fun i hi => ?_⟩⟩
  have hb := keep_alloc w (.cells #[u, v] 22)
  match i, hi with
  | 0, _ => exact ⟨u, by rw [World.cell?_alloc_at _ _ _ _ rfl]; rfl, hu.below hb, tu⟩
  | 1, _ => exact ⟨v, by rw [World.cell?_alloc_at _ _ _ _ rfl]; rfl, hv.below hb, tv⟩
theorem tidy_pos {w : World} {v : Value} {l : List Nat} (h : Row .u8 256 w v l) (hl : 0 < l.length) : Tidy v := by
  obtain ⟨a, c, rfl, _, _, g⟩ := h.opens rfl
  obtain ⟨b, o, rfl, _⟩ := g hl
  intro n c e
  cases e
theorem make_0 (Z : Nat) (h : Z ≤ 1000000) : ∃ MC : Array Value, MC.size = Z * 1 ∧ ∀ y : World, (Instr.makeSlice 22 (.int .i64 0) (.int .i64 (Z : Int))).run Try.prog y = .ok (.slice (some ⟨y.heap.size, 0, none⟩) 0 Z) (y.alloc (.cells MC 5)) := by
  obtain ⟨i0, hi, hz0, hz1, hz2⟩ := info_parts Try.info5
  refine ⟨madeCells (Value.int .u8 0).cells (Z * 1), size_madeCells _ _, fun y => ?_⟩
  have := run_makeSlice (P := Try.prog) y 22 5 i0 (.int .u8 0) Try.underlying22 hi hz0 .i64 .i64 0 Z (Int.le_refl _) (by omega) (by rw [hz1]; simp; omega) (by rw [hz2]; omega) (by omega)
  rw [hz1] at this
  exact this
theorem made_facts (w3 : World) (MC : Array Value) (Z : Nat) (h : MC.size = Z * 1) (hZ : Z ≤ 1000000) :
    Boxed ((w3.alloc (.cells MC 5)).alloc (.cells #[.slice (some ⟨w3.heap.size, 0, none⟩) 0 Z] 22)) (w3.heap.size + 1) 22 (.slice (some ⟨w3.heap.size, 0, none⟩) 0 Z) ∧
    ((w3.alloc (.cells MC 5)).alloc (.cells #[.slice (some ⟨w3.heap.size, 0, none⟩) 0 Z] 22)).ownsRow w3.heap.size 5 1 (.slice (some ⟨w3.heap.size, 0, none⟩) 0 Z) 0 (vals .u8 []) ∧
    Below w3.heap.size w3 ((w3.alloc (.cells MC 5)).alloc (.cells #[.slice (some ⟨w3.heap.size, 0, none⟩) 0 Z] 22)) := by
  refine ⟨?_, (World.ownsRow_made w3 MC Z (Nat.le_refl _) (by unfold maxLen; omega) h).alloc _, keep_trans (keep_alloc _ _) (keep_alloc _ _)⟩
  have := Boxed.new (w3.alloc (.cells MC 5)) 22 (.slice (some ⟨w3.heap.size, 0, none⟩) 0 Z)
  rw [World.size_alloc] at this
  exact this
set_option maxHeartbeats 4000000 in
set_option maxRecDepth 100000 in
theorem cch_ok (key f p : List Nat) (kv fv pv : Value) (w : World) (rk : Row .u8 256 w kv key) (rf : Row .u8 256 w fv f) (rp : Row .u8 256 w pv p) (tp : Tidy pv) (hk : Sz3 key.length) (hf : f.length = 16) (hp : p.length ≤ 100000) :
    Calls Try.prog 13 #[kv, fv, pv] w fun e w' => ∃ v, e = .returned (.tuple #[v, .int .i64 0]) ∧ Row .u8 256 w' v (outC (thA' key) f (padL p) (p.length / 16 + 1)) ∧ New w.heap.size v ∧ Below w.heap.size w w' := by
  have hfit := fit_ok key f kv fv w rk rf hk hf
  have hkU := rk.under
  have hfB : B16 f := ⟨hf, rf.under⟩
  have hpU := rp.under
  have hfw := fun y (r : Row .u8 256 y kv key) => fwd_ready r hk
  have hrd := fun y (r : Row .u8 256 y fv f) => read_any fv f y hf r
  have hz := zero4
  have lF := sw_len f
  rw [arr4 .u32 (sw f) lF] at hrd
  rw [arr4 .u32 (zA 4) rfl] at hz
  obtain ⟨pa, pc, rfl, l5, l6, _⟩ := rp.opens rfl
  obtain ⟨M, hM⟩ : ∃ x : Nat, x = padN p := ⟨_, rfl⟩
  have hM16 := padN_le p
  obtain ⟨Q, hQ⟩ : ∃ x : Nat, x = p.length % 16 := ⟨_, rfl⟩
  have e_Q : (p.length : Int) % 16 = (Q : Int) := by omega
  have t_Q : (p.length : Int).tmod 16 = (Q : Int) := by rw [Int.tmod_eq_emod_of_nonneg (by omega)]; exact e_Q
  have e_M : (16 : Int) - (Q : Int) = (M : Int) := by have : padN p = 16 - p.length % 16 := rfl; omega
  have s_M : IntKind.i64.wrap (M : Int) = (M : Int) := by rw [IntKind.wrap_i64]; omega
  have hpl : ¬ ((1048576 : Int) < (p.length : Int)) := by omega
  have hfi := fun y => filling_any M (by omega) (by omega) y
  obtain ⟨N, hN⟩ : ∃ x : Nat, x = p.length / 16 + 1 := ⟨_, rfl⟩
  have hLl : (padL p).length = 16 * N := by rw [padL_len, hN]
  have hLp : padL p = p ++ List.replicate M M := by unfold padL; rw [hM]
  have HM := hide (And.intro hM (And.intro hM16 (And.intro hN (And.intro hLl hLp))))
  obtain ⟨Z, hZ⟩ : ∃ x : Nat, x = 16 * N := ⟨_, rfl⟩
  have hN1 : 1 ≤ N ∧ N ≤ 6251 := by omega
  obtain ⟨MC, sMC, hmk⟩ := make_0 Z (by omega)
  have HZ := hide (And.intro hZ hN1)
  clear hM hM16 hQ hN hLl hLp hZ hN1
  refine (callsIn_wide (n := 8)).1 ?_
  refine callsIn_of_wp_marks Try.func13 rfl trivial ?_ rfl
  simp only [Try.ntmps13, List.size_toArray, List.length_cons, List.length_nil, Nat.reduceAdd, Nat.reduceSub, Array.replicate_succ, Array.replicate_zero, List.push_toArray, List.append_toArray, List.nil_append, List.cons_append]
  gi_wp2_with (first
    | (refine ⟨trivial, ?_⟩; gi_at_call 21; refine (callsIn_wide.2 hfit).mono ?_; rintro e yy ⟨rfl, hy⟩; obtain rfl := hy.symm)
    | (refine ⟨trivial, ?_⟩; gi_at_call 34; refine (callsIn_wide.2 (hfi _)).mono ?_; rintro e w1 ⟨v1, rfl, r1, n1, hb1⟩; obtain ⟨a1, c1, rfl, _⟩ := r1.opens (N := M) List.length_replicate; have rp1 := rp.below hb1; have hr2 := rows_lit2A rp1 tp r1 (tidy_pos r1 (by rw [List.length_replicate]; have := HM.out.2.1; have := HM.out.1; omega)); have hj := join_any _ _ _ hr2 (by have := HM.out.2.1; have := HM.out.1; simp; omega))
    | (refine ⟨trivial, ?_⟩; gi_at_call 33; refine (callsIn_wide.2 hj).mono ?_; rintro e w3 ⟨v3, rfl, o3, hb3⟩; have hb13 := keep_trans (keep_trans hb1 (keep_alloc _ _)) hb3; have r3 := o3.row; rw [show [p, List.replicate M M].flatten = padL p by rw [HM.out.2.2.2.2]; simp] at r3; obtain ⟨a3, c3, rfl, lc1, lc2, hop⟩ := r3.opens (HM.out.2.2.2.1.trans HZ.out.1.symm); obtain ⟨xb, xo, rfl, _⟩ := hop (by have := HZ.out; omega))
    | (refine ⟨trivial, ?_⟩; gi_at_call 22; obtain ⟨bO, rO, hbx⟩ := made_facts w3 MC Z sMC (by have := HZ.out; omega); have hb1x := keep_trans hb13 hbx; refine (callsIn_wide.2 (hfw _ (rk.below hb1x))).mono ?_; rintro e w4 ⟨v4, rfl, y4, hb4⟩; have y4' := y4; obtain ⟨gc, _, _, rfl, _⟩ := y4')
    | (refine ⟨trivial, ?_⟩; gi_at_call 24; refine (callsIn_wide.2 (hrd _ (rf.below (keep_trans hb1x hb4)))).mono ?_; rintro e w5 ⟨rfl, hb5⟩)
    | (refine ⟨trivial, ?_⟩; gi_at_call 35; refine (callsIn_wide.2 (blocks_any xb xo c3 Z _)).mono ?_; rintro e w6 ⟨rfl, rfl⟩)
    | fail)
  obtain ⟨WL, hWL⟩ : ∃ WL, WL = ((w5.alloc (.cells #[.pointer (some ⟨gc, 0, none⟩)] 41)).alloc (.cells #[.int .u32 (el (sw f) 0), .int .u32 (el (sw f) 1), .int .u32 (el (sw f) 2), .int .u32 (el (sw f) 3)] 40)).alloc (.cells #[.slice (some ⟨xb, xo, none⟩) Z c3] 22) := ⟨_, rfl⟩
  have hb45 := keep_trans hb4 hb5
  have hb35 := keep_trans hbx hb45
  have sz0 := hbx.size
  have sz4 := hb45.size
  have hst := Ready.stays (.pointer (some ⟨gc, 0, none⟩)) key
  obtain ⟨lp0, bT, szL, hbL⟩ := LpI.start (w3 := w3) (R := fun W => Ready W (.pointer (some ⟨gc, 0, none⟩)) key) (cv := .pointer (some ⟨gc, 0, none⟩)) f ((hb45.block _ bO.lt).trans bO) (own_belowA rO hb45) hst (y4.below hb5) hb35 (.slice (some ⟨xb, xo, none⟩) Z c3) WL hWL
  have sz5 : w3.heap.size + 2 ≤ w5.heap.size := by rw [World.size_alloc, World.size_alloc] at sz4; omega
  have hBk : Bks w3 (w3.heap.size + 1) w5.heap.size (w5.heap.size + 1) w3.heap.size := ⟨Nat.le_refl _, by omega, by omega, by omega⟩
  rw [← hWL]
  have rT := r3.below (keep_trans hb35 hbL)
  have hLl := HM.out.2.2.2.1
  obtain ⟨L, hL⟩ : ∃ L, L = padL p := ⟨_, rfl⟩
  rw [← hL] at r3 rT hLl
  have HL := hide (And.intro hL hLl)
  have hLU := rT.under
  have hTb : ∀ s, B16 s → B16 (thA' key s) := fun s h => thA'_b hkU h
  have h0w := keep_trans hb13 (hb35)
  clear hL hLl hWL hj hr2 o3 hb1 hb3 n1 r1 rp1 bO rO hbx hb1x hb4 hb5 hb45 hfit hfw hrd hz hfi sMC hmk
  refine range_ours (n := 8) rfl (enters_of Try.func55 (by kernel_rfl) rfl) (blocks1_own 7 (by omega) (w5.heap.size + 1 + 1) xb xo c3 N Z L HZ.out.1 WL (by omega) bT.cell rT) (fun _ => rfl)
    (fun pre W => LpI w3 (w3.heap.size + 1) w5.heap.size (w5.heap.size + 1) w3.heap.size Z 41 (.pointer (some ⟨gc, 0, none⟩)) (fun W => Ready W (.pointer (some ⟨gc, 0, none⟩)) key) (stG (hC (thA' key) L) f pre).1 (stG (hC (thA' key) L) f pre).2 (16 * pre.length) W ∧ WL.heap.size ≤ W.heap.size)
    (fun pre A B row hs hg hr => ⟨hs.1.own hst (D := WL.heap.size) (by omega) hg hr, Nat.le_trans hs.2 hg.size⟩) (fun pre W h => r3.below h.1.bel) ⟨lp0, Nat.le_refl _⟩
    (fun pre x a' W => ∃ Bx, a' = { tmps := #[kv, fv, .slice pa p.length pc, undef, undef, undef, .slice none 0 0, .int .i64 0, .int .i64 0, .slice (some ⟨xb, xo, none⟩) Z c3, .pointer (some ⟨w3.heap.size + 1, 0, none⟩), .pointer (some ⟨w5.heap.size, 0, none⟩), .pointer (some ⟨w5.heap.size + 1, 0, none⟩), .pointer (some ⟨Bx, 0, none⟩), kv, fv, .int .i64 0, .int .i64 0, .bool false, undef, .slice pa p.length pc, .int .i64 p.length, .bool (decide ((1048576 : Int) < (p.length : Int))), .slice pa p.length pc, .slice pa p.length pc, .int .i64 p.length, .int .i64 Q, .int .i64 M, .slice a1 M c1, .slice (some ⟨w1.heap.size, 0, none⟩) 2 2, .slice (some ⟨xb, xo, none⟩) Z c3, .slice (some ⟨xb, xo, none⟩) Z c3, .int .i64 Z, .slice (some ⟨w3.heap.size, 0, none⟩) 0 Z, kv, .pointer (some ⟨gc, 0, none⟩), fv, .agg #[.int .u32 (el (sw f) 0), .int .u32 (el (sw f) 1), .int .u32 (el (sw f) 2), .int .u32 (el (sw f) 3)], .slice (some ⟨xb, xo, none⟩) Z c3, .func (.func 55) #[] #[.pointer (some ⟨w5.heap.size + 1 + 1, 0, none⟩)], .agg #[.int .u32 (el (sw (blkOf L x.1)) 0), .int .u32 (el (sw (blkOf L x.1)) 1), .int .u32 (el (sw (blkOf L x.1)) 2), .int .u32 (el (sw (blkOf L x.1)) 3)], undef, undef, undef, undef, undef, undef, undef, undef, undef], defers := [] } ∧ WL.heap.size ≤ Bx ∧ Lies .u32 40 W Bx (sw (blkOf L x.1)) ∧ LpI w3 (w3.heap.size + 1) w5.heap.size (w5.heap.size + 1) w3.heap.size Z 41 (.pointer (some ⟨gc, 0, none⟩)) (fun W => Ready W (.pointer (some ⟨gc, 0, none⟩)) key) (stG (hC (thA' key) L) f pre).1 (stG (hC (thA' key) L) f pre).2 (16 * pre.length) W ∧ WL.heap.size ≤ W.heap.size)
    (fun pre x a' u A B row hs hg hr => by
      obtain ⟨Bx, h1, h2, h3, h4, h5⟩ := hs
      exact ⟨Bx, h1, h2, cells_kept hg (fun r e => (hr r e).2) h3, h4.own hst (D := WL.heap.size) (by omega) hg hr, Nat.le_trans h5 hg.size⟩) ?assign ?body ?done
  case assign =>
    rintro l pre x W K ⟨lp, hsz⟩ hlt hK
    have hz := zero4
    rw [arr4 .u32 (zA 4) rfl] at hz
    have hbv : blkV L x.1 = .agg #[.int .u32 (el (sw (blkOf L x.1)) 0), .int .u32 (el (sw (blkOf L x.1)) 1), .int .u32 (el (sw (blkOf L x.1)) 2), .int .u32 (el (sw (blkOf L x.1)) 3)] := by unfold blkV; rw [arr4 .u32 _ rfl]
    rw [hbv]
    gi_wp2
    have lN := Lies.new .u32 40 W (sw (blkOf L x.1))
    rw [arr4 .u32 _ rfl] at lN
    exact hK _ _ (kept_below (keep_alloc _ _)) ⟨W.heap.size, rfl, hsz, lN, lp.below hst (keep_alloc _ _), by simp; omega⟩
  case body =>
    rintro l pre x a' W ⟨Bx, rfl, hBx, lX, lp, hsz⟩ hlt
    have hLl := HL.out.2
    have hx := x.2
    rw [finL_len N (Nat.le_refl _)] at hlt
    have hbk := blkOf_b (i := x.1) hLU (by omega)
    have hsn := stG_snoc (hC (thA' key) L) f pre x
    obtain ⟨hbl, hlo, hou⟩ := stG_b (h := hC (thA' key) L) hfB (hC_b hTb hLU hLl) pre
    rw [hsn, List.length_append]
    clear hsn
    generalize stG (hC (thA' key) L) f pre = S at *
    obtain ⟨last, out⟩ := S
    dsimp only at hbl hlo hou lp
    show Code.wpIn _ _ _ _ (goesOn WL.heap.size W fun W => LpI _ _ _ _ _ _ _ _ _ (thA' key (xr16 (blkOf L x.1) last)) (out ++ thA' key (xr16 (blkOf L x.1) last)) _ W ∧ WL.heap.size ≤ W.heap.size) _ _
    have hXB := xr16_b hbk hbl
    have hxo := fun y => cxor_any (blkOf L x.1) last y hbk hbl
    have hth := fun y (h : Ready y (.pointer (some ⟨gc, 0, none⟩)) key) => h.there hXB
    generalize xr16 (blkOf L x.1) last = X at *
    have hnB := hTb X hXB
    generalize thA' key X = new at *
    obtain ⟨n, hn⟩ : ∃ n, n = 16 * pre.length := ⟨_, rfl⟩
    have hn2 : n + 16 = 16 * (pre.length + [x].length) := by simp; omega
    have hnZ : n + 16 ≤ Z := by have := HZ.out.1; omega
    rw [← hn2]
    rw [← hn] at lp hlo
    clear hn hn2 hlt hx hLl
    have hon := fun y (h : y.ownsRow w3.heap.size 5 1 (.slice (some ⟨w3.heap.size, 0, none⟩) n Z) n (vals .u8 out)) => onto_fit new out w3.heap.size w3.heap.size n Z y hnB hlo h hnZ
    rw [arr4 .u32 (sw (blkOf L x.1)) rfl, arr4 .u32 (sw last) rfl, arr4 .u32 (sw X) rfl] at hxo
    rw [arr4 .u32 (sw X) rfl, arr4 .u32 (sw new) rfl] at hth
    rw [arr4 .u32 (sw new) rfl] at hon
    obtain ⟨x0, x1, x2, x3, _⟩ := lX.all4 rfl
    obtain ⟨d0, d1, d2, d3, _⟩ := lp.ahd.all4 rfl
    have cC := lp.cph.cell
    have lpf := fun y (hb : Below W.heap.size W y) => lp.below hst hb
    generalize sw (blkOf L x.1) = SB at *
    have HP := hide (And.intro lp (And.intro lX hbk))
    have HNZ := hide (And.intro hnZ (And.intro hnB (And.intro hXB (And.intro hlo (And.intro hbl hsz)))))
    clear lp lX hnZ hnB hXB hlo hbl hou
    gi_wp2
    gi_region_with (first
      | (refine ⟨trivial, ?_⟩; refine (CallsIn.inRound l (callsIn_wide.2 (hxo _))).mono ?_; rintro e y1 ⟨rfl, hb1⟩; have lp1 := lpf _ (un_drew hb1); have cC1 := lp1.cph.cell)
      | (refine ⟨trivial, ?_⟩; refine (CallsIn.inRound l (callsIn_wide.2 (hth _ lp1.rdy))).mono ?_; rintro e y2 ⟨rfl, hb2⟩; have lp2 := lp1.below hst hb2; obtain ⟨e0, e1, e2, e3, f0, f1, f2, f3⟩ := lp2.ahd.all4 rfl)
      | fail)
    all_goals
      have bA : But (w5.heap.size + 1) y2 _ := (But.refl (w5.heap.size + 1) y2).four (.int .u32 (el (sw new) 0)) (.int .u32 (el (sw new) 1)) (.int .u32 (el (sw new) 2)) (.int .u32 (el (sw new) 3))
      have lp3 := lp2.ahead hst hBk bA (lp2.ahd.four rfl (sw new) rfl)
      obtain ⟨y3, hy3⟩ : ∃ y, y = (((y2.setCell ⟨w5.heap.size + 1, 0, none⟩ (.int .u32 (el (sw new) 0))).setCell ⟨w5.heap.size + 1, 1, none⟩ (.int .u32 (el (sw new) 1))).setCell ⟨w5.heap.size + 1, 2, none⟩ (.int .u32 (el (sw new) 2))).setCell ⟨w5.heap.size + 1, 3, none⟩ (.int .u32 (el (sw new) 3)) := ⟨_, rfl⟩
      rw [← hy3] at bA lp3 ⊢
      clear hy3 e0 e1 e2 e3 f0 f1 f2 f3
      obtain ⟨e0, e1, e2, e3, _⟩ := lp3.ahd.all4 rfl
      have cB := lp3.box.cell
      gi_wp2_with (first
        | (refine ⟨trivial, ?_⟩; refine (CallsIn.inRound l (callsIn_wide.2 (hon _ lp3.row))).mono ?_; rintro e y4 ⟨rfl, ho4, hb4⟩; have bx4 : Boxed y4 (w3.heap.size + 1) 22 _ := (hb4.block _ lp3.box.lt (by omega)).trans lp3.box; have fz4 := bx4.frozen; have cB4 := bx4.cell)
        | fail)
      have kf : Kept WL.heap.size W _ := (((kept_below (keep_trans (un_drew hb1) hb2)).trans (kept_but bA (by omega))).trans (kept_but hb4 (by omega))).trans (kept_but ((But.refl (w3.heap.size + 1) y4).setCell 0 (.slice (some ⟨w3.heap.size, 0, none⟩) (n + 16) Z)) (by omega))
      exact ⟨kf, lp3.ontoB hst hBk hb4 ho4, Nat.le_trans HNZ.out.2.2.2.2.2 kf.size⟩
  case done =>
    rintro W ⟨lp, hsz⟩ hK
    have cB := lp.box.cell
    have lpF := lp.own hst (D := WL.heap.size) (by omega) (grownBy_putObj' W WL.heap.size (.deferred none)) (fun r e => by cases e; exact ⟨Nat.le_refl _, _, hK, rfl⟩)
    gi_wp2
    refine ⟨by simp, .inl ⟨_, _, rfl, run_takeDeferred hK, ?_⟩⟩
    have hfin := stC_is (thA' key) f L (N := N) N (Nat.le_refl _)
    obtain ⟨hL, hLl⟩ := HL.out
    obtain ⟨_, _, hN, _⟩ := HM.out
    have hlen := outC_len hTb hfB hLU N (by omega)
    have hund := outC_under hTb hfB hLU N (by omega)
    rw [finL_len N (Nat.le_refl _), hfin] at lpF
    rw [← hN, ← hL, finL_len N (Nat.le_refl _)]
    have ow : Own 5 .u8 256 (W.putObj WL.heap.size (.deferred none)) w3.heap.size (.slice (some ⟨w3.heap.size, 0, none⟩) (16 * N) Z) (outC (thA' key) f L N) := ⟨by rw [hlen]; exact lpF.row, hund⟩
    exact ⟨_, results_tmp2 rfl _ _ _, _, rfl, ow.row, New.at hb13.size, keep_trans hb13 lpF.bel⟩
end Go.Proofs.Yteiknfcegchbcaa

/- The code's Unchain. -/
namespace Go.Proofs.Yteiknfcegchbcaa
open Go.RowKit Go.Shelf
set_option linter.unusedVariables false
set_option linter.unusedSimpArgs false
attribute [local go_sem] Oper.semAt_some

set_option maxHeartbeats 40000000 in
set_option maxRecDepth 100000 in
theorem cun_ok (key f L : List Nat) (kv fv pv : Value) (w : World) (rk : Row .u8 256 w kv key) (rf : Row .u8 256 w fv f) (rp : Row .u8 256 w pv L) (hk : Sz3 key.length) (hf : f.length = 16) (hp : L.length ≤ 100000) (N : Nat) (hLN : L.length = 16 * N) (hN1 : 1 ≤ N) :
    Calls Try.prog 15 #[kv, fv, pv] w fun e w' => ∃ v, e = .returned (.tuple #[v, .int .i64 (unpC (outU (bkA' key) f L N))]) ∧ Row .u8 256 w' v (unpX (outU (bkA' key) f L N)) ∧ New w.heap.size v ∧ Below w.heap.size w w' ∧ Tidy v := by
  have hfit := fit_ok key f kv fv w rk rf hk hf
  have hkU := rk.under
  have hfB : B16 f := ⟨hf, rf.under⟩
  have hLU := rp.under
  have hfw := fun y (r : Row .u8 256 y kv key) => bwd_ready r hk
  have hrd := fun y (r : Row .u8 256 y fv f) => read_any fv f y hf r
  have hz := zero4
  have lF := sw_len f
  rw [arr4 .u32 (sw f) lF] at hrd
  rw [arr4 .u32 (zA 4) rfl] at hz
  obtain ⟨Z, hZ⟩ : ∃ x : Nat, x = L.length := ⟨_, rfl⟩
  obtain ⟨pa, c3, rfl, l5, l6, hop⟩ := rp.opens hZ.symm
  obtain ⟨xb, xo, rfl, _⟩ := hop (by omega)
  have z_0 : ¬ ((Z : Int) = 0) := by omega
  have z_16 : (Z : Int) % 16 = 0 := by omega
  have t_16 : (Z : Int).tmod 16 = 0 := by rw [Int.tmod_eq_emod_of_nonneg (by omega)]; exact z_16
  have hpl : ¬ ((1048592 : Int) < (Z : Int)) := by omega
  obtain ⟨MC, sMC, hmk⟩ := make_0 Z (by omega)
  have HZ := hide (And.intro (hZ.trans hLN) (And.intro hLN (And.intro hN1 hp)))
  clear hZ hLN hN1 hop hp
  refine (callsIn_wide (n := 8)).1 ?_
  refine callsIn_of_wp_marks Try.func15 rfl trivial ?_ rfl
  simp only [Try.ntmps15, List.size_toArray, List.length_cons, List.length_nil, Nat.reduceAdd, Nat.reduceSub, Array.replicate_succ, Array.replicate_zero, List.push_toArray, List.append_toArray, List.nil_append, List.cons_append]
  gi_wp2_with (first
    | (refine ⟨trivial, ?_⟩; gi_at_call 21; refine (callsIn_wide.2 hfit).mono ?_; rintro e yy ⟨rfl, hy⟩; obtain rfl := hy.symm)
    | (refine ⟨trivial, ?_⟩; gi_at_call 30; obtain ⟨bO, rO, hbx⟩ := made_facts w MC Z sMC (by have := HZ.out; omega); refine (callsIn_wide.2 (hfw _ (rk.below hbx))).mono ?_; rintro e w4 ⟨v4, rfl, y4, hb4⟩; have y4' := y4; obtain ⟨gc, _, _, _, rfl, _⟩ := y4')
    | (refine ⟨trivial, ?_⟩; gi_at_call 24; refine (callsIn_wide.2 (hrd _ (rf.below (keep_trans hbx hb4)))).mono ?_; rintro e w5 ⟨rfl, hb5⟩)
    | (refine ⟨trivial, ?_⟩; gi_at_call 35; refine (callsIn_wide.2 (blocks_any xb xo c3 Z _)).mono ?_; rintro e w6 ⟨rfl, rfl⟩)
    | fail)
  obtain ⟨WL, hWL⟩ : ∃ WL, WL = ((w5.alloc (.cells #[.pointer (some ⟨gc, 0, none⟩)] 52)).alloc (.cells #[.int .u32 (el (sw f) 0), .int .u32 (el (sw f) 1), .int .u32 (el (sw f) 2), .int .u32 (el (sw f) 3)] 40)).alloc (.cells #[.slice (some ⟨xb, xo, none⟩) Z c3] 22) := ⟨_, rfl⟩
  have hb45 := keep_trans hb4 hb5
  have hb35 := keep_trans hbx hb45
  have sz0 := hbx.size
  have sz4 := hb45.size
  have hst := ReadyB.stays (.pointer (some ⟨gc, 0, none⟩)) key
  obtain ⟨lp0, bT, szL, hbL⟩ := LpI.start (w3 := w) (R := fun W => ReadyB W (.pointer (some ⟨gc, 0, none⟩)) key) (cv := .pointer (some ⟨gc, 0, none⟩)) f ((hb45.block _ bO.lt).trans bO) (own_belowA rO hb45) hst (y4.below hb5) hb35 (.slice (some ⟨xb, xo, none⟩) Z c3) WL hWL
  have sz5 : w.heap.size + 2 ≤ w5.heap.size := by rw [World.size_alloc, World.size_alloc] at sz4; omega
  have hBk : Bks w (w.heap.size + 1) w5.heap.size (w5.heap.size + 1) w.heap.size := ⟨Nat.le_refl _, by omega, by omega, by omega⟩
  rw [← hWL]
  have rT := rp.below (keep_trans hb35 hbL)
  have hTb : ∀ s, B16 s → B16 (bkA' key s) := fun s h => bkA'_b hkU h
  clear hWL bO rO hbx hb4 hb5 hb45 hfit hfw hrd hz sMC hmk
  refine range_ours (n := 8) rfl (enters_of Try.func55 (by kernel_rfl) rfl) (blocks1_own 7 (by omega) (w5.heap.size + 1 + 1) xb xo c3 N Z L HZ.out.1 WL (by omega) bT.cell rT) (fun _ => rfl)
    (fun pre W => LpI w (w.heap.size + 1) w5.heap.size (w5.heap.size + 1) w.heap.size Z 52 (.pointer (some ⟨gc, 0, none⟩)) (fun W => ReadyB W (.pointer (some ⟨gc, 0, none⟩)) key) (stG (hU (bkA' key) L) f pre).1 (stG (hU (bkA' key) L) f pre).2 (16 * pre.length) W ∧ WL.heap.size ≤ W.heap.size)
    (fun pre A B row hs hg hr => ⟨hs.1.own hst (D := WL.heap.size) (by omega) hg hr, Nat.le_trans hs.2 hg.size⟩) (fun pre W h => rp.below h.1.bel) ⟨lp0, Nat.le_refl _⟩
    (fun pre x a' W => ∃ Bx, a' = { tmps := #[kv, fv, .slice (some ⟨xb, xo, none⟩) Z c3, undef, undef, undef, .slice none 0 0, .int .i64 0, .int .i64 0, .pointer (some ⟨w.heap.size + 1, 0, none⟩), .pointer (some ⟨w5.heap.size, 0, none⟩), .pointer (some ⟨w5.heap.size + 1, 0, none⟩), .pointer (some ⟨Bx, 0, none⟩), kv, fv, .int .i64 0, .int .i64 0, .bool false, undef, .slice (some ⟨xb, xo, none⟩) Z c3, .int .i64 Z, .bool false, .bool false, .slice (some ⟨xb, xo, none⟩) Z c3, .int .i64 Z, .int .i64 0, .bool false, .bool false, .slice (some ⟨xb, xo, none⟩) Z c3, .int .i64 Z, .bool (decide ((1048592 : Int) < (Z : Int))), .slice (some ⟨xb, xo, none⟩) Z c3, .int .i64 Z, .slice (some ⟨w.heap.size, 0, none⟩) 0 Z, kv, .pointer (some ⟨gc, 0, none⟩), fv, .agg #[.int .u32 (el (sw f) 0), .int .u32 (el (sw f) 1), .int .u32 (el (sw f) 2), .int .u32 (el (sw f) 3)], .slice (some ⟨xb, xo, none⟩) Z c3, .func (.func 55) #[] #[.pointer (some ⟨w5.heap.size + 1 + 1, 0, none⟩)], .agg #[.int .u32 (el (sw (blkOf L x.1)) 0), .int .u32 (el (sw (blkOf L x.1)) 1), .int .u32 (el (sw (blkOf L x.1)) 2), .int .u32 (el (sw (blkOf L x.1)) 3)], undef, undef, undef, undef, undef, undef, undef, undef, undef, undef, undef, undef], defers := [] } ∧ WL.heap.size ≤ Bx ∧ Lies .u32 40 W Bx (sw (blkOf L x.1)) ∧ LpI w (w.heap.size + 1) w5.heap.size (w5.heap.size + 1) w.heap.size Z 52 (.pointer (some ⟨gc, 0, none⟩)) (fun W => ReadyB W (.pointer (some ⟨gc, 0, none⟩)) key) (stG (hU (bkA' key) L) f pre).1 (stG (hU (bkA' key) L) f pre).2 (16 * pre.length) W ∧ WL.heap.size ≤ W.heap.size)
    (fun pre x a' u A B row hs hg hr => by
      obtain ⟨Bx, h1, h2, h3, h4, h5⟩ := hs
      exact ⟨Bx, h1, h2, cells_kept hg (fun r e => (hr r e).2) h3, h4.own hst (D := WL.heap.size) (by omega) hg hr, Nat.le_trans h5 hg.size⟩) ?assign ?body ?done
  case assign =>
    rintro l pre x W K ⟨lp, hsz⟩ hlt hK
    have hz := zero4
    rw [arr4 .u32 (zA 4) rfl] at hz
    have hbv : blkV L x.1 = .agg #[.int .u32 (el (sw (blkOf L x.1)) 0), .int .u32 (el (sw (blkOf L x.1)) 1), .int .u32 (el (sw (blkOf L x.1)) 2), .int .u32 (el (sw (blkOf L x.1)) 3)] := by unfold blkV; rw [arr4 .u32 _ rfl]
    rw [hbv]
    gi_wp2
    have lN := Lies.new .u32 40 W (sw (blkOf L x.1))
    rw [arr4 .u32 _ rfl] at lN
    exact hK _ _ (kept_below (keep_alloc _ _)) ⟨W.heap.size, rfl, hsz, lN, lp.below hst (keep_alloc _ _), by simp; omega⟩
  case body =>
    rintro l pre x a' W ⟨Bx, rfl, hBx, lX, lp, hsz⟩ hlt
    have hLl := HZ.out.2.1
    have hx := x.2
    rw [finL_len N (Nat.le_refl _)] at hlt
    have hbk := blkOf_b (i := x.1) hLU (by omega)
    have hsn := stG_snoc (hU (bkA' key) L) f pre x
    obtain ⟨hbl, hlo, hou⟩ := stG_b (h := hU (bkA' key) L) hfB (hU_b hTb hLU hLl) pre
    rw [hsn, List.length_append]
    clear hsn
    generalize stG (hU (bkA' key) L) f pre = S at *
    obtain ⟨last, out⟩ := S
    dsimp only at hbl hlo hou lp
    show Code.wpIn _ _ _ _ (goesOn WL.heap.size W fun W => LpI _ _ _ _ _ _ _ _ _ (blkOf L x.1) (out ++ xr16 (bkA' key (blkOf L x.1)) last) _ W ∧ WL.heap.size ≤ W.heap.size) _ _
    generalize blkOf L x.1 = bk at *
    have hXB := hTb bk hbk
    have hth := fun y (h : ReadyB y (.pointer (some ⟨gc, 0, none⟩)) key) => h.back hbk
    generalize bkA' key bk = X at *
    have hxo := fun y => cxor_any X last y hXB hbl
    have hnB := xr16_b hXB hbl
    generalize xr16 X last = new at *
    obtain ⟨n, hn⟩ : ∃ n, n = 16 * pre.length := ⟨_, rfl⟩
    have hn2 : n + 16 = 16 * (pre.length + [x].length) := by simp; omega
    have hnZ : n + 16 ≤ Z := by have := HZ.out.1; omega
    rw [← hn2]
    rw [← hn] at lp hlo
    clear hn hn2 hlt hx hLl
    have hon := fun y (h : y.ownsRow w.heap.size 5 1 (.slice (some ⟨w.heap.size, 0, none⟩) n Z) n (vals .u8 out)) => onto_fit new out w.heap.size w.heap.size n Z y hnB hlo h hnZ
    rw [arr4 .u32 (sw bk) rfl, arr4 .u32 (sw X) rfl] at hth
    rw [arr4 .u32 (sw X) rfl, arr4 .u32 (sw last) rfl, arr4 .u32 (sw new) rfl] at hxo
    rw [arr4 .u32 (sw new) rfl] at hon
    obtain ⟨x0, x1, x2, x3, _⟩ := lX.all4 rfl
    obtain ⟨d0, d1, d2, d3, _⟩ := lp.ahd.all4 rfl
    have cC := lp.cph.cell
    have cO := lp.box.cell
    have lpf := fun y (hb : Below W.heap.size W y) => lp.below hst hb
    have HP := hide (And.intro lX hbk)
    have HNZ := hide (And.intro hnZ (And.intro hnB (And.intro hXB (And.intro hlo (And.intro hbl hsz)))))
    have hrd0 := lp.rdy
    clear lp lX hnZ hnB hXB hlo hbl hou hbk
    have hrd1 : ReadyB W.drew (.pointer (some ⟨gc, 0, none⟩)) key := hst.below _ _ hrd0 ((Below.refl _ _).drew)
    gi_wp2
    gi_region_with (first
      | (refine ⟨trivial, ?_⟩; refine (CallsIn.inRound l (callsIn_wide.2 (hth _ hrd1))).mono ?_; rintro e y1 ⟨rfl, hb1⟩; have lp1 := lpf _ (un_drew hb1); have cO1 := lp1.box.cell; obtain ⟨e0, e1, e2, e3, _⟩ := lp1.ahd.all4 rfl)
      | (refine ⟨trivial, ?_⟩; refine (CallsIn.inRound l (callsIn_wide.2 (hxo _))).mono ?_; rintro e y2 ⟨rfl, hb2⟩; have lp2 := lp1.below hst hb2; have cO2 := lp2.box.cell)
      | (refine ⟨trivial, ?_⟩; refine (CallsIn.inRound l (callsIn_wide.2 (hon _ lp2.row))).mono ?_; rintro e y3 ⟨rfl, ho3, hb3⟩; have bx3 : Boxed y3 (w.heap.size + 1) 22 _ := (hb3.block _ lp2.box.lt (by omega)).trans lp2.box; have fz3 := bx3.frozen; have cO3 := bx3.cell)
      | fail)
    all_goals
      have bO : But (w.heap.size + 1) y3 _ := (But.refl (w.heap.size + 1) y3).setCell 0 (.slice (some ⟨w.heap.size, 0, none⟩) (n + 16) Z)
      have lp4 := lp2.ontoB hst hBk hb3 ho3
      have lX4 := ((HP.out.1.below (keep_trans (un_drew hb1) hb2)).but hb3 (by omega)).but bO (by omega)
      obtain ⟨y4, hy4⟩ : ∃ y, y = y3.setCell ⟨w.heap.size + 1, 0, none⟩ (.slice (some ⟨w.heap.size, 0, none⟩) (n + 16) Z) := ⟨_, rfl⟩
      rw [← hy4] at bO lp4 lX4 ⊢
      clear hy4 e0 e1 e2 e3 x0 x1 x2 x3 d0 d1 d2 d3
      obtain ⟨x0, x1, x2, x3, _⟩ := lX4.all4 rfl
      obtain ⟨d0, d1, d2, d3, f0, f1, f2, f3⟩ := lp4.ahd.all4 rfl
      gi_wp2
      have bA : But (w5.heap.size + 1) y4 _ := (But.refl (w5.heap.size + 1) y4).four (.int .u32 (el (sw bk) 0)) (.int .u32 (el (sw bk) 1)) (.int .u32 (el (sw bk) 2)) (.int .u32 (el (sw bk) 3))
      have kf : Kept WL.heap.size W _ := (((kept_below (keep_trans (un_drew hb1) hb2)).trans (kept_but hb3 (by omega))).trans (kept_but bO (by omega))).trans (kept_but bA (by omega))
      exact ⟨kf, lp4.ahead hst hBk bA (lp4.ahd.four rfl (sw bk) rfl), Nat.le_trans HNZ.out.2.2.2.2.2 kf.size⟩
  case done =>
    rintro W ⟨lp, hsz⟩ hK
    have hfin := stU_is (bkA' key) f L (N := N) N (Nat.le_refl _)
    have hLl := HZ.out.2.1
    have hlen := outU_len (B := bkA' key) (f := f) (C := L) N
    have hund := outU_under hTb hfB hLU N (by omega)
    rw [finL_len N (Nat.le_refl _), hfin] at lp
    dsimp only at lp
    have cB := lp.box.cell
    have ow : Own 5 .u8 256 W w.heap.size (.slice (some ⟨w.heap.size, 0, none⟩) (16 * N) Z) (outU (bkA' key) f L N) := ⟨by rw [hlen]; exact lp.row, hund⟩
    have hun := unfilled_any _ _ W ow.row (by have := HZ.out; omega) (by have := HZ.out; omega)
    gi_wp2_with (first
      | (refine ⟨trivial, ?_⟩; gi_at_call 38; refine (callsIn_wide.2 hun).mono ?_; rintro e W2 ⟨v2, rfl, r2, n2, hb2, t2⟩)
      | fail)
    rw [szL] at hK
    have hK2 := (hb2.block (w5.heap.size + 3) (Array.getElem?_eq_some_iff.1 hK).1).trans hK
    refine ⟨by simp, .inl ⟨_, _, rfl, run_takeDeferred hK2, ?_⟩⟩
    have hg := grownBy_putObj' W2 (w5.heap.size + 3) (.deferred none)
    have hr : ∀ r, some (w5.heap.size + 3) = some r → ∃ o : Obj, W2.heap[r]? = some o ∧ o.isCells = false := fun r e => by cases e; exact ⟨_, hK2, rfl⟩
    have bF := lp.bel.trans (hb2.mono lp.bel.size)
    exact ⟨_, results_tmp2 rfl _ _ _, _, rfl, Row.own1 _ _ _ _ _ _ _ r2 hg hr, n2.mono lp.bel.size, bF.grown hg bF.size (fun r e => by cases e; omega), t2⟩
end Go.Proofs.Yteiknfcegchbcaa
