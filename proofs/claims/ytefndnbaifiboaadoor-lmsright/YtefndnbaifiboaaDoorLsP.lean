/- Trees of leaves that sign once, the program's own: the sums beside the way up. -/
import Derived.Test.YtefndnbaifiboaaDoorLsN
import Derived.Test.YtefndnbaifiboaaDoorLcL
import Derived.Test.YtefndnbaifiboaaDoorLtC2
import Derived.Test.YtefndnbaifiboaaDoorLcG
import Derived.Test.YtefndnbaifiboaaDoorLsK
namespace Go.Proofs.YtefndnbaifiboaaDoor
open Go.RowKit Go.Shelf
set_option linter.unusedVariables false
set_option linter.unusedSimpArgs false
attribute [local go_sem] Oper.semAt_some

theorem pthA_map (f : Nat → List Nat) (n : Nat) : ∀ k, pthA f k n = (List.range k).map fun i => f ((n / 2 ^ i) ^^^ 1)
  | 0 => rfl
  | k + 1 => by rw [pthA_snoc, pthA_map f n k, List.range_succ, List.map_append]; rfl
theorem UpS.own {A B : World} {H N i : Nat} {f : Nat → List Nat} {row : Option Nat} (h : UpS A H N i f) (hg : A.grownBy B row) (hr : ∀ r, row = some r → ∃ o : Obj, A.heap[r]? = some o ∧ o.isCells = false) : UpS B H N i f := by
  obtain ⟨us, h0, h1, h2⟩ := h
  exact ⟨us, h0, cells_keptL hg hr h1, fun j k1 k2 => by obtain ⟨u, e1, e2, e3, e4⟩ := h2 j k1 k2; exact ⟨u, e1, row_ownL e2 hg hr, e3, e4⟩⟩
/-- where the loop stands -/
structure BeI (w : World) (X Y L h : Nat) (a b c d e : Value) (g : Nat → List Nat) (i : Nat) (W : World) : Prop where
  bx : BxW W X a b c d e
  bl : Boxed W Y 40 (.slice (some ⟨L, 0, none⟩) h h)
  up : UpS W L h i g
  bel : Below w.heap.size w W
theorem BeI.own {w W W' : World} {X Y L h i D : Nat} {a b c d e : Value} {g : Nat → List Nat} (q : BeI w X Y L h a b c d e g i W) (hD : w.heap.size ≤ D) {row : Option Nat} (hg : W.grownBy W' row) (hr : ∀ r, row = some r → D ≤ r ∧ ∃ o : Obj, W.heap[r]? = some o ∧ o.isCells = false) : BeI w X Y L h a b c d e g i W' := by
  have hr2 := fun r e => (hr r e).2
  exact ⟨⟨cells_keptL hg hr2 q.bx.here⟩, cells_keptL hg hr2 q.bl, q.up.own hg hr2, q.bel.grown hg q.bel.size fun r e => by have := (hr r e).1; omega⟩
theorem BeI.below {w W W' : World} {X Y L h i : Nat} {a b c d e : Value} {g : Nat → List Nat} (q : BeI w X Y L h a b c d e g i W) (hb : Below W.heap.size W W') : BeI w X Y L h a b c d e g i W' :=
  q.own (D := w.heap.size) (Nat.le_refl _) (grown_belowL hb) (fun r e => by cases e)
def be5lt : List Lt := [(0, some 19, [5]), (0, some 20, [6]), (0, some 21, [2]), (4, some 22, [21]), (0, some 23, [7]), (24, some 24, [22, 23]), (32, some 25, [24]), (127, some 26, [19, 20]), (255, none, [26, 25])]
theorem be5reg : Reg (opsA (cBA (cFA (cBA (cRA (cLA (cRA (cRA (Tryd.f21.body.getD .skip))))))))) be5lt := ⟨by kernel_rfl, by kernel_rfl⟩
set_option maxHeartbeats 8000000 in
set_option maxRecDepth 100000 in
theorem cbeside (h q H N : Nat) (x : Int) (f : Nat → List Nat) (ia sa : Option Addr) (ic sn sc : Nat) (w : World) (hh : h ≤ 10) (hq : q < 2 ^ h) (hN : N = 2 * 2 ^ h) (hK : KnP w H N (fun j => 1 ≤ j) f) (hfl : ∀ i, (f i).length = 32) :
    Calls Tryd.prog 21 #[.agg #[.int .i64 (h : Int), .int .i64 x, .slice ia 16 ic, .slice sa sn sc, .slice (some ⟨H, 0, none⟩) N N], .int .u32 (q : Int)] w fun e w' => ∃ v, e = .returned v ∧ Rows2 w' v (pthA f h (2 ^ h + q)) ∧ Below w.heap.size w w' := by
  obtain ⟨n0, hn0⟩ : ∃ n0, n0 = 2 ^ h + q := ⟨_, rfl⟩
  rw [← hn0, pthA_map]
  have hLev : Lev h n0 := by rw [hn0]; exact lev_leaf hq
  have hM10 := pow_le_1024 hh
  have hNb : ∀ i, i < h → 1 ≤ (n0 / 2 ^ i) ^^^ 1 ∧ (n0 / 2 ^ i) ^^^ 1 < N := fun i hi => by
    have hL := lev_div hLev i (by omega)
    obtain ⟨d, hd⟩ : ∃ d, h - i = d + 1 := ⟨h - i - 1, by omega⟩
    rw [hd] at hL
    have hn := hL.next
    have p1 := Nat.two_pow_pos (d + 1)
    have p2 : 2 ^ (d + 1 + 1) ≤ 2 ^ (h + 1) := Nat.pow_le_pow_right (by decide) (by omega)
    have p3 : 2 ^ (h + 1) = 2 * 2 ^ h := by rw [Nat.pow_succ]; omega
    exact ⟨by have := hn.1; omega, by have := hn.2; omega⟩
  obtain ⟨g, hg⟩ : ∃ g : Nat → List Nat, g = fun i => f ((n0 / 2 ^ i) ^^^ 1) := ⟨_, rfl⟩
  rw [← hg]
  have hnb := fun y => neighbours_any h (.int .i64 x) (.slice ia 16 ic) q y ⟨_, rfl⟩ ⟨_, _, _, rfl⟩
  obtain ⟨i0, hi0, hz0, hz1, hz2⟩ := info_text
  have bN := BxW.new w (.int .i64 (h : Int)) (.int .i64 x) (.slice ia 16 ic) (.slice sa sn sc) (.slice (some ⟨H, 0, none⟩) N N)
  have k0 := keep_alloc w (.cells #[.int .i64 (h : Int), .int .i64 x, .slice ia 16 ic, .slice sa sn sc, .slice (some ⟨H, 0, none⟩) N N] 45)
  have HX := hide (And.intro hn0 (And.intro hNb (And.intro hg (And.intro hK (And.intro hfl (And.intro hh (And.intro hq hN)))))))
  clear hn0 hLev hM10 hNb hg hK hfl hh hq hN
  refine (callsIn_wide (n := 8)).1 (callsIn_of_wp_marks Tryd.func21 rfl trivial (wpIn_wide.2 ?_) rfl)
  simp only [Tryd.ntmps21, List.size_toArray, List.length_cons, List.length_nil, Nat.reduceAdd, Nat.reduceSub, Array.replicate_succ, Array.replicate_zero, List.push_toArray, List.append_toArray, List.nil_append, List.cons_append]
  go_wp2_with (first
    | (at_make; refine wpList_make_full _ rfl _ _ 40 rfl (w.heap.size + 1) 25 i0 (.slice none 0 0) 1 Tryd.underlying40 hi0 hz0 hz1 _ _ _ _ h rfl rfl rfl rfl (by rw [hz2]; have := HX.out.2.2.2.2.2.1; omega) (by have := HX.out.2.2.2.2.2.1; unfold maxLen; omega) (by rw [World.size_alloc]; exact Nat.le_refl _) ?_; intro w2 hown hgrow; have hbg := (Below.refl (w.alloc (.cells #[.int .i64 (h : Int), .int .i64 x, .slice ia 16 ic, .slice sa sn sc, .slice (some ⟨H, 0, none⟩) N N] 45)).heap.size (w.alloc (.cells #[.int .i64 (h : Int), .int .i64 x, .slice ia 16 ic, .slice sa sn sc, .slice (some ⟨H, 0, none⟩) N N] 45))).grown hgrow (Nat.le_refl _) (fun k h => by cases h); have bx2 := bN.below hbg; have hU2 := UpS.made g hown)
    | (refine wpList_load_mid rfl 43 _ (by rfl) w.heap.size 0 (by rfl) [.int .i64 (h : Int), .int .i64 x, .slice ia 16 ic] _ (bx2.below (keep_alloc w2 (.cells #[.slice (some ⟨w.heap.size + 1, 0, none⟩) h h] 40))).range3 Tryd.underlying43 rfl (by kernel_rfl) ?_)
    | (go_at_call 44; refine (hnb _).mono ?_; rintro e w3 ⟨rfl, rfl⟩)
    | fail)
  have bx3 := bx2.below (keep_alloc w2 (.cells #[.slice (some ⟨w.heap.size + 1, 0, none⟩) h h] 40))
  have bl3 := Boxed.new w2 40 (.slice (some ⟨w.heap.size + 1, 0, none⟩) h h)
  have hU3 := hU2.below (keep_alloc w2 (.cells #[.slice (some ⟨w.heap.size + 1, 0, none⟩) h h] 40))
  have k3 := keep_trans (keep_trans k0 hbg) (keep_alloc w2 (.cells #[.slice (some ⟨w.heap.size + 1, 0, none⟩) h h] 40))
  have hUl := hU2.lt
  rw [World.size_alloc] at hU3 hUl
  generalize hW3 : w2.alloc (.cells #[.slice (some ⟨w.heap.size + 1, 0, none⟩) h h] 40) = W3 at *
  obtain ⟨Y, hY⟩ : ∃ Y, w2.heap.size = Y := ⟨_, rfl⟩
  have hsW : W3.heap.size = Y + 1 := by rw [← hW3, World.size_alloc, hY]
  rw [hY] at bl3 hUl ⊢
  have hI3 : BeI w w.heap.size Y (w.heap.size + 1) h (.int .i64 (h : Int)) (.int .i64 x) (.slice ia 16 ic) (.slice sa sn sc) (.slice (some ⟨H, 0, none⟩) N N) g 0 W3 := ⟨bx3, bl3, hU3, k3⟩
  obtain ⟨L, hL⟩ : ∃ L, w.heap.size + 1 = L := ⟨_, rfl⟩
  rw [hL] at hI3 hUl ⊢
  generalize hw4 : (W3.alloc (.cells #[.int .i64 (h : Int), .int .i64 x, .slice ia 16 ic] 43)).alloc (.cells #[.int .u32 (q : Int)] 24) = w4
  have hb4 : Below W3.heap.size W3 w4 := by rw [← hw4]; exact keep_trans (keep_alloc _ _) (keep_alloc _ _)
  have hB1 : BxD w4 W3.heap.size (.int .i64 (h : Int)) (.int .i64 x) (.slice ia 16 ic) := by rw [← hw4]; exact (BxD.new W3 _ _ _).below (keep_alloc _ _)
  have hB2 : Boxed w4 (W3.heap.size + 1) 24 (.int .u32 (q : Int)) := by
    have := Boxed.new (W3.alloc (.cells #[.int .i64 (h : Int), .int .i64 x, .slice ia 16 ic] 43)) 24 (.int .u32 (q : Int))
    rw [World.size_alloc] at this
    rw [← hw4]; exact this
  have hI4 := hI3.below hb4
  obtain ⟨hn0, hNb, hg, hK, hfl, hh, hq, hN⟩ := HX.out
  have hwz : w.heap.size ≤ w4.heap.size := hI4.bel.size
  have hL4 : L < w4.heap.size := by have := hb4.size; have := hI3.up.lt; omega
  have hXL : w.heap.size ≠ L := by omega
  have hYL : Y ≠ L := by omega
  have hwL : w.heap.size ≤ L := by omega
  have hown4 := nb1_own 7 (by decide) W3.heap.size (W3.heap.size + 1) h q (.int .i64 x) (.slice ia 16 ic) ⟨_, rfl⟩ ⟨_, _, _, rfl⟩ (by omega) hq w4 (fun _ => True) hB1 hB2
  rw [← hn0, hsW] at hown4
  clear hsW hI3 hB1 hB2 hw4 hnb hn0 hNb hg hK hfl hh hq hN bx2 bx3 bl3 hU2 hU3 k3 hUl hW3 hY hL bN k0 hbg hown hgrow
  refine wpIn_wide.1 (range_pre (n := 8) rfl (enters_of Tryd.func57 (by kernel_rfl) rfl) hown4 (fun _ => rfl)
    (fun pre W => BeI w w.heap.size Y L h (.int .i64 (h : Int)) (.int .i64 x) (.slice ia 16 ic) (.slice sa sn sc) (.slice (some ⟨H, 0, none⟩) N N) g pre.length W ∧ w4.heap.size ≤ W.heap.size)
    (fun pre A B row hs hg hr => ⟨hs.1.own (D := w4.heap.size) hwz hg hr, Nat.le_trans hs.2 hg.size⟩) (fun pre W h => trivial) ⟨hI4, Nat.le_refl _⟩
    (fun pre (i : Nat) a' W => a' = { tmps := #[.agg #[.int .i64 (h : Int), .int .i64 x, .slice ia 16 ic, .slice sa sn sc, .slice (some ⟨H, 0, none⟩) N N], .int .u32 (q : Int), .pointer (some ⟨w.heap.size, 0, none⟩), undef, .slice none 0 0, .pointer (some ⟨Y, 0, none⟩), .int .i64 (i : Int), .int .i64 (((n0 / 2 ^ i) ^^^ 1 : Nat) : Int), .pointer (some ⟨w.heap.size, 0, none⟩), .pointer (some ⟨w.heap.size, 0, none⟩), .pointer (some ⟨w.heap.size, 0, none⟩), .int .i64 (h : Int), .slice (some ⟨L, 0, none⟩) h h, .pointer (some ⟨w.heap.size, 0, none⟩), .agg #[.int .i64 (h : Int), .int .i64 x, .slice ia 16 ic], .int .u32 (q : Int), .func (.func 57) #[] #[.pointer (some ⟨Y + 1, 0, none⟩), .pointer (some ⟨Y + 1 + 1, 0, none⟩)], .int .i64 (i : Int), .int .i64 (((n0 / 2 ^ i) ^^^ 1 : Nat) : Int), undef, undef, undef, undef, undef, undef, undef, undef, undef], defers := [] } ∧ BeI w w.heap.size Y L h (.int .i64 (h : Int)) (.int .i64 x) (.slice ia 16 ic) (.slice sa sn sc) (.slice (some ⟨H, 0, none⟩) N N) g pre.length W ∧ w4.heap.size ≤ W.heap.size)
    (fun pre (i : Nat) a' u A B row hs hg hr => ⟨hs.1, hs.2.1.own (D := w4.heap.size) hwz hg hr, Nat.le_trans hs.2.2 hg.size⟩) ?assign ?body ?done)
  case assign =>
    rintro l pre i W K ⟨lp, hsz⟩ hlt hK
    unfold nbV
    gi_wp2
    exact hK _ _ (kept_belowL (Below.refl _ _)) ⟨rfl, lp, hsz⟩
  case body =>
    rintro l pre i a' W ⟨rfl, lp, hsz⟩ hlt
    obtain ⟨hpre, hi⟩ := pre_range hlt
    obtain ⟨hn0, hNb, hg, hK, hfl, hh, hq, hN⟩ := HX.out
    have hpl : pre.length = i := by rw [hpre, List.length_range]
    have hpl2 : (pre ++ [i]).length = i + 1 := by rw [List.length_append, hpl]; rfl
    rw [hpl] at lp
    rw [hpl2]
    obtain ⟨nb1, nb2⟩ := hNb i hi
    have hgi : g i = f ((n0 / 2 ^ i) ^^^ 1) := by rw [hg]
    obtain ⟨B, hB⟩ : ∃ B, B = (n0 / 2 ^ i) ^^^ 1 := ⟨_, rfl⟩
    rw [← hB] at nb1 nb2 hgi ⊢
    obtain ⟨u, cu, ru, tu, _⟩ := hK.cell nb1 nb2
    have uo : ∀ z, u.ownBlock = some z → z ≠ L := fun z e => by have := ru.old (by rw [hfl]; decide) e; omega
    have hul : (f B).length = 32 := hfl B
    have cuW := keep_cell cu lp.bel
    have ruW := ru.below lp.bel
    rw [← hgi] at ruW
    have hgl : (g i).length = 32 := by rw [hgi]; exact hul
    obtain ⟨ua, uc, rfl, _⟩ := ru.opens hul
    have hBH : H ≠ L := by have := hK.lt; omega
    have hbx := lp.bx
    have hbl := lp.bl
    have hup := lp.up
    have hbel := lp.bel
    have HQ := hide (And.intro hsz (And.intro lp (And.intro ruW (And.intro tu uo))))
    clear hpre hpl hpl2 hn0 hNb hg hK hfl hh hq hN hgi hB cu ru nb1 lp hsz hul hgl ruW tu uo
    gi_wp2
    have hbd : But L W W.drew := (But.refl _ _).drew
    have kb : Below W.heap.size W W.drew := (Below.refl _ _).drew
    refine at_begin_in (ops := opsA (cBA (cFA (cBA (cRA (cLA (cRA (cRA (Tryd.f21.body.getD .skip))))))))) (k := 9) (fun y => But L W y) (by kernel_rfl) (by kernel_rfl) (by kernel_rfl) ?_
    refine at_takeD (i := 0) (m' := 1) (d := some 19) (v := .slice (some ⟨L, 0, none⟩) h h) be5reg rfl (by decide) rfl rfl (y_plainG (wanted_free rfl) rfl rfl Tryd.underlying40 rfl (fun _ h => (boxed_butL hbl h hYL).cell)) hbd ?_
    simp only [Act.put, List.setIfInBounds_toArray, List.set_cons_zero, List.set_cons_succ]
    refine at_takeD (i := 1) (m' := 3) (d := some 20) (v := .int .i64 (i : Int)) be5reg rfl (by decide) rfl rfl (y_moveG (wanted_free rfl) rfl rfl) hbd ?_
    simp only [Act.put, List.setIfInBounds_toArray, List.set_cons_zero, List.set_cons_succ]
    refine at_takeD (i := 2) (m' := 7) (d := some 21) (v := .pointer (some ⟨w.heap.size, 4, none⟩)) be5reg rfl (by decide) rfl rfl (y_fieldG (wanted_free rfl) rfl rfl (fun w => by simp [go_sem])) hbd ?_
    simp only [Act.put, List.setIfInBounds_toArray, List.set_cons_zero, List.set_cons_succ]
    refine at_takeD (i := 3) (m' := 15) (d := some 22) (v := .slice (some ⟨H, 0, none⟩) N N) be5reg rfl (by decide) rfl rfl (y_plainG (wanted_free rfl) rfl rfl Tryd.underlying40 rfl (fun _ h => (hbx.but h hXL).c4)) hbd ?_
    simp only [Act.put, List.setIfInBounds_toArray, List.set_cons_zero, List.set_cons_succ]
    refine at_takeD (i := 4) (m' := 31) (d := some 23) (v := .int .i64 (B : Int)) be5reg rfl (by decide) rfl rfl (y_moveG (wanted_free rfl) rfl rfl) hbd ?_
    simp only [Act.put, List.setIfInBounds_toArray, List.set_cons_zero, List.set_cons_succ]
    refine at_takeD (i := 5) (m' := 63) (d := some 24) (v := .pointer (some ⟨H, B, none⟩)) be5reg rfl (by decide) rfl rfl (y_ix0 (wanted_free rfl) rfl rfl rfl Tryd.underlying40 (by kernel_rfl) nb2) hbd ?_
    simp only [Act.put, List.setIfInBounds_toArray, List.set_cons_zero, List.set_cons_succ]
    refine at_takeD (i := 6) (m' := 127) (d := some 25) (v := .slice ua 32 uc) be5reg rfl (by decide) rfl rfl (y_plainG (wanted_free rfl) rfl rfl Tryd.underlying25 rfl (fun _ h => But.cell cuW h hBH)) hbd ?_
    simp only [Act.put, List.setIfInBounds_toArray, List.set_cons_zero, List.set_cons_succ]
    refine at_takeD (i := 7) (m' := 255) (d := some 26) (v := .pointer (some ⟨L, i, none⟩)) be5reg rfl (by decide) rfl rfl (y_ix0 (wanted_free rfl) rfl rfl rfl Tryd.underlying40 (by kernel_rfl) hi) hbd ?_
    simp only [Act.put, List.setIfInBounds_toArray, List.set_cons_zero, List.set_cons_succ]
    refine at_one (i := 8) (m' := 511) be5reg (by decide) rfl ?_
    refine p_store_plain (P := Tryd.prog) rfl rfl rfl rfl rfl rfl Tryd.underlying25 rfl (by kernel_rfl) ((hup.below kb).any hi) ((hup.below kb).frozen i) ?_
    have hb9 := hbd.setCell i (.slice ua 32 uc)
    refine ⟨hb9, ?_⟩
    refine at_done be5reg (by decide) ?_
    obtain ⟨hsz, lp, ruW, tu, uo⟩ := HQ.out
    have hU5 := (hup.below kb).store hi (ruW.below kb) tu uo
    have hB5 : But L W _ := hb9
    refine ⟨(kept_belowL kb).trans (kept_setL _ hL4), ⟨hbx.but hB5 hXL, boxed_butL hbl hB5 hYL, hU5, hbel.trans (hB5.below hwL hbel.size)⟩, Nat.le_trans hsz hB5.size⟩
  case done =>
    rintro W ⟨lp, hsz⟩ hK
    rw [List.length_range] at lp
    have lpF := lp.own (D := w4.heap.size) hwz (grownBy_putObj' W w4.heap.size (.deferred none)) (fun r e => by cases e; exact ⟨Nat.le_refl _, _, hK, rfl⟩)
    have cG := lp.bl.cell
    have hrr := lpF.up.rows (by have := HX.out.2.2.2.2.2.1; omega)
    have hbb := lpF.bel
    clear lp lpF
    go_wp2
    refine ⟨by simp, .inl ⟨_, _, rfl, run_takeDeferred hK, ?_⟩⟩
    exact ⟨_, results_tmp rfl _ _ _, .slice (some ⟨L, 0, none⟩) h h, rfl, hrr, hbb⟩
end Go.Proofs.YtefndnbaifiboaaDoor

/- Trees of leaves that sign once, the program's own: Sign. -/
namespace Go.Proofs.YtefndnbaifiboaaDoor
open Go.RowKit Go.Shelf
set_option linter.unusedVariables false
set_option linter.unusedSimpArgs false

set_option maxHeartbeats 4000000 in
set_option maxRecDepth 100000 in
theorem csignT_no (h x : Int) (q il sl : Nat) (ia sa ta : Option Addr) (ic sc tn tc : Nat) (w : World) (hne : wrgT h x il sl ≠ 0) :
    Calls Tryd.prog 7 #[.agg #[.int .i64 h, .int .i64 x], .slice ia il ic, .slice sa sl sc, .int .u32 (q : Int), .slice ta tn tc] w fun e w' => e = .returned (.tuple #[.slice none 0 0, .int .i64 (wrgT h x il sl)]) ∧ Below w.heap.size w w' := by
  have hg := fun y => cgrow_no h x il sl ia sa ic sc y hne
  generalize wrgT h x il sl = E at *
  have hEb : (E != 0) = true := by simp [hne]
  go_enter Tryd.func7, Tryd.ntmps7
  go_wp2_with (first
    | (go_at_call 13; refine (hg _).mono ?_; rintro e w1 ⟨rfl, g1⟩)
    | fail)
  go_ret2
  exact ⟨rfl, keep_trans (keep_trans (keep_alloc _ _) g1) (keep_alloc _ _)⟩
set_option maxHeartbeats 4000000 in
set_option maxRecDepth 100000 in
theorem csignT_spent (h q : Nat) (x : Int) (ia sa ta : Option Addr) (ic sc tn tc : Nat) (w : World) (hne : wrgT (h : Int) x 16 32 = 0) (hq : 2 ^ h ≤ q) (hq2 : q < 4294967296) :
    Calls Tryd.prog 7 #[.agg #[.int .i64 (h : Int), .int .i64 x], .slice ia 16 ic, .slice sa 32 sc, .int .u32 (q : Int), .slice ta tn tc] w fun e w' => e = .returned (.tuple #[.slice none 0 0, .int .i64 13]) ∧ Below w.heap.size w w' := by
  obtain ⟨_, _, _, h10⟩ := wrgT_zero hne
  have hg := fun y => cgrower_ok h x ia sa ic sc (fun _ => []) y hne
  have hha := fun y => chas h q (.int .i64 x) (.slice ia 16 ic) y (by omega) hq2 ⟨_, rfl⟩ ⟨_, _, _, rfl⟩
  rw [decide_eq_false (by omega)] at hha
  generalize 2 * 2 ^ h = N at *
  clear hne h10 hq
  go_enter Tryd.func7, Tryd.ntmps7
  go_wp2_with (first
    | (go_at_call 13; refine (hg _).mono ?_; rintro e w1 ⟨H, rfl, kp, hH, g1⟩; have bg := BxW.new w1 (.int .i64 (h : Int)) (.int .i64 x) (.slice ia 16 ic) (.slice sa 32 sc) (.slice (some ⟨H, 0, none⟩) N N))
    | (refine wpList_load_mid rfl 43 _ (by rfl) w1.heap.size 0 (by rfl) [.int .i64 (h : Int), .int .i64 x, .slice ia 16 ic] _ bg.range3 Tryd.underlying43 rfl (by kernel_rfl) ?_)
    | (go_at_call 17; refine (hha _).mono ?_; rintro e w2 ⟨rfl, g2⟩)
    | fail)
  go_ret2
  exact ⟨rfl, keep_trans (keep_trans (keep_trans (keep_alloc _ _) g1) (keep_alloc _ _)) g2⟩
def si11lt : List Lt := [(0, some 50, [3]), (1, some 51, [50]), (2, some 52, [51]), (0, some 53, [14]), (0, some 54, [15]), (0, some 55, [12]), (0, some 56, [3]), (100, some 57, [55, 56]), (128, some 58, [57]), (284, some 59, [52, 53, 54, 58]), (768, some 60, [59]), (2047, some 10, [60]), (4095, some 11, [])]
theorem si11reg : Reg (opsA (cLA (cRA (cRA (cRA (cRA (cRA (cRA (cRA (cRA (Tryd.f7.body.getD .skip))))))))))) si11lt := ⟨by kernel_rfl, by kernel_rfl⟩
set_option maxHeartbeats 8000000 in
set_option maxRecDepth 100000 in
theorem csignT_ok {k n m s c : Nat} (hk : Kd k n m s c) (h q : Nat) (id seed text : List Nat) (idv sv tv : Value) (w : World) (hT : Roots w) (ri : Row .u8 256 w idv id) (ti : Tidy idv) (rs : Row .u8 256 w sv seed) (ts : Tidy sv) (rt : Row .u8 256 w tv text) (tt : Tidy tv) (hil : id.length = 16) (hsl : seed.length = 32) (htl : text.length ≤ 10000) (hne : wrgT (h : Int) (k : Int) 16 32 = 0) (hq : q < 2 ^ h) :
    Calls Tryd.prog 7 #[.agg #[.int .i64 (h : Int), .int .i64 (k : Int)], idv, sv, .int .u32 (q : Int), tv] w fun e w' => ∃ v, e = .returned (.tuple #[v, .int .i64 0]) ∧ Own 5 .u8 256 w' w.heap.size v ([be4 q, sgT k n m s c id seed text q, be4 (lmCode h)] ++ pthA (knT k n m h id seed) h (2 ^ h + q)).flatten ∧ Below w.heap.size w w' := by
  obtain ⟨hfit, _, _, h10⟩ := wrgT_zero hne
  have hp := hfit.pos
  have hM10 := pow_le_1024 (h := h) (by omega)
  have hq2 : q < 4294967296 := by omega
  have hsg := fun y (kb : Below w.heap.size w y) => csgn_ok hk rfl q id seed text idv sv tv y (hT.below kb) (ri.below kb) ti (rs.below kb) ts (rt.below kb) tt hil hsl htl hq2
  rw [show sgnH shaL (preL id q) c (digsL k n m s (digH shaL (preL id q) (lmCn shaL (preL id q) seed) text)) seed = sgT k n m s c id seed text q from rfl] at hsg
  have hsgl := sgT_len k n m s c id seed text q
  obtain ⟨ia, ic, rfl, _⟩ := ri.opens hil
  obtain ⟨sa, sc, rfl, _⟩ := rs.opens hsl
  obtain ⟨TL, hTL⟩ : ∃ TL, text.length = TL := ⟨_, rfl⟩
  obtain ⟨ta, tc, rfl, _⟩ := rt.opens hTL
  have hg := fun y => cgrower_ok h (k : Int) ia sa ic sc (knT k n m h id seed) y hne
  have hgw := fun y H (kv : Below w.heap.size w y) (hv : w.heap.size ≤ H) kp => cgrow_any hk h H id seed _ _ w y hT (by omega) (by omega) ri ti hil rs ts hsl kv hv kp
  have hfl : ∀ i, (knT k n m h id seed i).length = 32 := fun i => knT_len _ _ _ _ _ _ _
  have hbs := fun y H kp => cbeside h q H (2 * 2 ^ h) (k : Int) (knT k n m h id seed) ia sa ic 32 sc y (by omega) hq rfl kp hfl
  have hpl : (pthA (knT k n m h id seed) h (2 ^ h + q)).flatten.length = 32 * h := pthA_flat hfl _ _
  have hj1 := fun y v (r : Rows2 y v (pthA (knT k n m h id seed) h (2 ^ h + q))) => join_any v _ y r (by omega)
  have hha := fun y => chas h q (.int .i64 (k : Int)) (.slice ia 16 ic) y (by omega) hq2 ⟨_, rfl⟩ ⟨_, _, _, rfl⟩
  rw [decide_eq_true hq] at hha
  have hhc := fun y => chc_b (h : Int) y
  have hcl := lmCode_32 (h : Int)
  have h4c := fun y => cbe4 (lmCode (h : Int)) y (by omega)
  have h4q := fun y => cbe4 q y (by omega)
  have hsz : n + m ≤ 300 := by cases hk <;> decide
  have hfin : [be4 q, sgT k n m s c id seed text q, be4 (lmCode h), (pthA (knT k n m h id seed) h (2 ^ h + q)).flatten].flatten = ([be4 q, sgT k n m s c id seed text q, be4 (lmCode h)] ++ pthA (knT k n m h id seed) h (2 ^ h + q)).flatten := by simp
  have hj2 := fun y v (r : Rows2 y v [be4 q, sgT k n m s c id seed text q, be4 (lmCode h), (pthA (knT k n m h id seed) h (2 ^ h + q)).flatten]) => join_any v _ y r (by simp only [List.flatten_cons, List.flatten_nil, List.length_append, List.append_nil, be4_len]; omega)
  rw [hfin] at hj2
  generalize hJ : ([be4 q, sgT k n m s c id seed text q, be4 (lmCode h)] ++ pthA (knT k n m h id seed) h (2 ^ h + q)).flatten = JN at *
  generalize (pthA (knT k n m h id seed) h (2 ^ h + q)).flatten = PF at *
  generalize pthA (knT k n m h id seed) h (2 ^ h + q) = PS at *
  generalize knT k n m h id seed = f at *
  generalize sgT k n m s c id seed text q = SG at *
  generalize lmCode (h : Int) = LC at *
  obtain ⟨LG, hLG⟩ : ∃ LG, LG = 36 + 32 * (n + m) := ⟨_, rfl⟩
  rw [← hLG] at hsgl
  obtain ⟨LP, hLP⟩ : ∃ LP, LP = 32 * h := ⟨_, rfl⟩
  rw [← hLP] at hpl
  generalize 2 * 2 ^ h = N at *
  obtain ⟨i0, hi0, hz0, hz1, hz2⟩ := info_text
  have bT := Bx2T.new w (.int .i64 (h : Int)) (.int .i64 (k : Int))
  have k0 := keep_alloc w (.cells #[.int .i64 (h : Int), .int .i64 (k : Int)] 29)
  have hHid := hide hJ
  have cT := bT.c1
  clear hJ hfit hp hne hfin h10 hLP hLG hfl hM10 hq hcl hsz htl hT hTL
  go_enter Tryd.func7, Tryd.ntmps7
  go_wp2_with (first
    | (go_at_call 13; refine (hg _).mono ?_; rintro e w1 ⟨H, rfl, kp, hH, g1⟩; have kp1 := kp.below (keep_alloc w1 (.cells #[.int .i64 (h : Int), .int .i64 (k : Int), .slice ia 16 ic, .slice sa 32 sc, .slice (some ⟨H, 0, none⟩) N N] 45)); have k1 := keep_trans (keep_trans k0 g1) (keep_alloc w1 (.cells #[.int .i64 (h : Int), .int .i64 (k : Int), .slice ia 16 ic, .slice sa 32 sc, .slice (some ⟨H, 0, none⟩) N N] 45)); have bg := BxW.new w1 (.int .i64 (h : Int)) (.int .i64 (k : Int)) (.slice ia 16 ic) (.slice sa 32 sc) (.slice (some ⟨H, 0, none⟩) N N); have bT1 := (bT.below g1).below (keep_alloc w1 (.cells #[.int .i64 (h : Int), .int .i64 (k : Int), .slice ia 16 ic, .slice sa 32 sc, .slice (some ⟨H, 0, none⟩) N N] 45)); have hH2 : w.heap.size < H := (by rw [World.size_alloc] at hH; omega); have hwH : w.heap.size ≠ H := (by omega); have hHl : w1.heap.size ≠ H := (by have := kp.lt; omega))
    | (refine wpList_load_mid rfl 43 _ (by rfl) w1.heap.size 0 (by rfl) [.int .i64 (h : Int), .int .i64 (k : Int), .slice ia 16 ic] _ bg.range3 Tryd.underlying43 rfl (by kernel_rfl) ?_)
    | (go_at_call 17; refine (hha _).mono ?_; rintro e w2 ⟨rfl, g2⟩; have bg2 := bg.below g2; have bT2 := bT1.below g2; have kp2 := kp1.below g2; have k2 := keep_trans k1 g2; have cT2 := bT2.c1)
    | (go_at_call 18; refine (hsg _ k2).mono ?_; rintro e w3 ⟨v3, rfl, o3, g3⟩; obtain ⟨la, lc, rfl, _⟩ := o3.row.opens hsgl; have rl3 := o3.row; have tl3 := o3.tidy; have bg3 := bg2.below g3; have bT3 := bT2.below g3; have kp3 := kp2.below g3; have k3 := keep_trans k2 g3)
    | (refine wpList_load_row rfl 45 _ (by rfl) w1.heap.size (by rfl) _ _ _ _ bg3.here Tryd.underlying45 rfl (by kernel_rfl) ?_)
    | (go_at_call 14; refine (hgw _ H k3 (Nat.le_of_lt hH2) kp3).mono ?_; rintro e w4 ⟨rfl, b4, kp4⟩; have bg4 := bg3.but b4 hHl; have bT4 := bT3.but b4 hwH; have cT4 := bT4.c0; have k4 : Below w.heap.size w w4 := k3.trans (b4.below (Nat.le_of_lt hH2) k3.size); have rl4 := rl3.but (fun _ z e => (by have := o3.new z e; have := kp2.lt; omega)) b4)
    | (go_at_call 20; refine (hhc _).mono ?_; rintro e w5 ⟨rfl, g5⟩)
    | (go_at_call 19; refine (h4c _).mono ?_; rintro e w6 ⟨v6, rfl, o6, g6⟩; obtain ⟨ca, cc, rfl, _⟩ := o6.row.opens (be4_len _))
    | fail)
  have g56 := keep_trans g5 g6
  have bg6 := bg4.below g56
  have kp6 := kp4.below g56
  have k6 := keep_trans k4 g56
  have rl6 := rl4.below g56
  have rc6 := o6.row
  have tc6 := o6.tidy
  generalize w1.heap.size = Y at *
  have hbd : Below w6.heap.size w6 w6.drew := (Below.refl _ _).drew
  refine at_begin (ops := opsA (cLA (cRA (cRA (cRA (cRA (cRA (cRA (cRA (cRA (Tryd.f7.body.getD .skip))))))))))) (n := 13) (fun y => Below w6.heap.size w6 y) (by kernel_rfl) (by kernel_rfl) ?_
  refine at_takeD (i := 0) (m' := 1) (d := some 50) (v := .int .u32 (q : Int)) si11reg rfl (by decide) rfl rfl (y_moveG (wanted_free rfl) rfl rfl) hbd ?_
  simp only [Act.put, List.setIfInBounds_toArray, List.set_cons_zero, List.set_cons_succ]
  refine at_takeD (i := 1) (m' := 3) (d := some 51) (v := .int .u64 (q : Int)) si11reg rfl (by decide) rfl rfl (y_convI (wanted_free rfl) rfl rfl (conv_u32u64 q (by omega))) hbd ?_
  simp only [Act.put, List.setIfInBounds_toArray, List.set_cons_zero, List.set_cons_succ]
  refine at_takeD (i := 3) (m' := 11) (d := some 53) (v := .slice la LG lc) si11reg rfl (by decide) rfl rfl (y_moveG (wanted_free rfl) rfl rfl) hbd ?_
  simp only [Act.put, List.setIfInBounds_toArray, List.set_cons_zero, List.set_cons_succ]
  refine at_takeD (i := 4) (m' := 27) (d := some 54) (v := .slice ca 4 cc) si11reg rfl (by decide) rfl rfl (y_moveG (wanted_free rfl) rfl rfl) hbd ?_
  simp only [Act.put, List.setIfInBounds_toArray, List.set_cons_zero, List.set_cons_succ]
  refine at_takeD (i := 5) (m' := 59) (d := some 55) (v := .agg #[.int .i64 (h : Int), .int .i64 (k : Int), .slice ia 16 ic, .slice sa 32 sc, .slice (some ⟨H, 0, none⟩) N N]) si11reg rfl (by decide) rfl rfl (y_rowG (cs := [.int .i64 (h : Int), .int .i64 (k : Int), .slice ia 16 ic, .slice sa 32 sc, .slice (some ⟨H, 0, none⟩) N N]) (wanted_free rfl) rfl rfl Tryd.underlying45 rfl (by kernel_rfl) (fun _ h => (bg6.below h).range)) hbd ?_
  simp only [Act.put, List.setIfInBounds_toArray, List.set_cons_zero, List.set_cons_succ]
  refine at_takeD (i := 6) (m' := 123) (d := some 56) (v := .int .u32 (q : Int)) si11reg rfl (by decide) rfl rfl (y_moveG (wanted_free rfl) rfl rfl) hbd ?_
  simp only [Act.put, List.setIfInBounds_toArray, List.set_cons_zero, List.set_cons_succ]
  refine at_one (i := 2) (m' := 127) si11reg (by decide) rfl ?_
  refine p_callG (args := #[.int .u64 (q : Int), .int .i64 4]) (d := some 52) rfl (wanted_free rfl) rfl (by simp only [List.map_toArray, List.map_cons, List.map_nil]; rfl) rfl Tryd.call19 ((h4q w6.drew).mono ?_)
  rintro e y7 ⟨bv, rfl, ob, g7⟩
  have rb := ob.row
  have tb := ob.tidy
  obtain ⟨ba, bc, rfl, _⟩ := ob.row.opens (be4_len q)
  have hb7 := keep_trans hbd g7
  refine ⟨_, rfl, hb7, ?_⟩
  simp only [Act.put, List.setIfInBounds_toArray, List.set_cons_zero, List.set_cons_succ]
  refine at_one (i := 7) (m' := 255) si11reg (by decide) rfl ?_
  refine p_callG (args := #[.agg #[.int .i64 (h : Int), .int .i64 (k : Int), .slice ia 16 ic, .slice sa 32 sc, .slice (some ⟨H, 0, none⟩) N N], .int .u32 (q : Int)]) (d := some 57) rfl (wanted_free rfl) rfl (by simp only [List.map_toArray, List.map_cons, List.map_nil]; rfl) rfl Tryd.call21 ((hbs y7 H (kp6.below hb7)).mono ?_)
  rintro e y8 ⟨ev, rfl, re, g8⟩
  replace rb := rb.below g8
  have re0 := re
  obtain ⟨ea, ec, rfl, _⟩ := re0
  have hb8 := keep_trans hb7 g8
  refine ⟨_, rfl, hb8, ?_⟩
  simp only [Act.put, List.setIfInBounds_toArray, List.set_cons_zero, List.set_cons_succ]
  refine at_one (i := 8) (m' := 511) si11reg (by decide) rfl ?_
  refine p_callG (args := #[.slice ea PS.length ec]) (d := some 58) rfl (wanted_free rfl) rfl (by simp only [List.map_toArray, List.map_cons, List.map_nil]; rfl) rfl Tryd.call15 ((hj1 y8 _ re).mono ?_)
  rintro e y9 ⟨jv, rfl, oj, g9⟩
  replace rb := rb.below g9
  obtain ⟨ja, jc, rfl, _⟩ := oj.row.opens hpl
  have hb9 := keep_trans hb8 g9
  refine ⟨_, rfl, hb9, ?_⟩
  simp only [Act.put, List.setIfInBounds_toArray, List.set_cons_zero, List.set_cons_succ]
  refine at_one (i := 9) (m' := 1023) si11reg (by decide) rfl ?_
  refine p_b4 (d := some 59) rfl (wanted_free rfl) rfl rfl rfl rfl rfl rfl Tryd.underlying40 hi0 hz1 hz0 ?_
  have rr := fun hB => rows_litL (B := (y9).heap.size) (k := 4) (texts_cons rb tb (texts_cons (rl6.below hb9) tl3 (texts_cons (rc6.below hb9) tc6 (texts_cons oj.row oj.tidy (Texts.nil _))))) hB rfl (by decide)
  replace rr := rr rfl
  obtain ⟨Gq10, hGq10⟩ : ∃ q : Nat, (y9).heap.size = q := ⟨_, rfl⟩
  obtain ⟨z10, hz10⟩ : ∃ z : World, z = (y9).alloc (.cells #[.slice ba 4 bc, .slice la LG lc, .slice ca 4 cc, .slice ja LP jc] 25) := ⟨_, rfl⟩
  have kz10 : Below (y9).heap.size y9 z10 := by rw [hz10]; exact keep_alloc _ _
  have hb10 := keep_trans hb9 kz10
  rw [← hz10] at rr ⊢
  rw [hGq10] at rr ⊢
  clear hz10 hGq10
  refine ⟨hb10, ?_⟩
  simp only [Act.put, List.setIfInBounds_toArray, List.set_cons_zero, List.set_cons_succ]
  refine at_one (i := 10) (m' := 2047) si11reg (by decide) rfl ?_
  refine p_callG (args := #[.slice (some ⟨Gq10, 0, none⟩) 4 4]) (d := some 60) rfl (wanted_free rfl) rfl (by simp only [List.map_toArray, List.map_cons, List.map_nil]; rfl) rfl Tryd.call15 ((hj2 z10 _ rr).mono ?_)
  rintro e y11 ⟨fv, rfl, of, g11⟩
  have kpre := hb10
  obtain ⟨fa, fc, rfl, _⟩ := of.row.opens rfl
  have hb11 := keep_trans hb10 g11
  refine ⟨_, rfl, hb11, ?_⟩
  simp only [Act.put, List.setIfInBounds_toArray, List.set_cons_zero, List.set_cons_succ]
  refine at_takeD (i := 11) (m' := 4095) (d := some 10) (v := .slice fa JN.length fc) si11reg rfl (by decide) rfl rfl (y_assignG (wanted_free rfl) rfl rfl) hb11 ?_
  simp only [Act.put, List.setIfInBounds_toArray, List.set_cons_zero, List.set_cons_succ]
  refine at_takeD (i := 12) (m' := 8191) (d := some 11) (v := .int .i64 0) si11reg rfl (by decide) rfl rfl (y_assignG (wanted_free rfl) rfl rfl) hb11 ?_
  simp only [Act.put, List.setIfInBounds_toArray, List.set_cons_zero, List.set_cons_succ]
  refine at_done si11reg (by decide) ?_
  go_wp2
  go_ret2
  exact ⟨_, rfl, of.mono (keep_trans k6 kpre).size, keep_trans k6 hb11⟩
end Go.Proofs.YtefndnbaifiboaaDoor
