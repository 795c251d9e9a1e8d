/- The code's Wrap. -/
import Derived.Test.YtjnlkihhmenfnaaRJoin
import Derived.Test.YtjnlkihhmenfnaaPlIn
namespace Go.Proofs.Ytjnlkihhmenfnaa
open Go.RowKit Go.Shelf
set_option linter.unusedVariables false
set_option linter.unusedSimpArgs false
attribute [local go_sem] Oper.semAt_some

theorem own_pos8 {w : World} {B : Nat} {e : TypeId} {v : Value} {n : Nat} {xs : List Value} (h : w.ownsRow B e 1 v n xs) (hn : 1 ≤ n) : ∃ g c, v = .slice (some ⟨g, 0, none⟩) n c ∧ B ≤ g ∧ g < w.heap.size := by
  rcases h.2 with ⟨rfl, h0⟩ | ⟨g, cap, cur, rfl, hB, hg, _⟩
  · omega
  · exact ⟨g, cap, rfl, hB, (Array.getElem?_eq_some_iff.1 hg).1⟩
theorem owns_free {w : World} {B g c n : Nat} {e : TypeId} {xs : List Value} (h : w.ownsRow B e 1 (.slice (some ⟨g, 0, none⟩) n c) n xs) (i : Nat) : w.frozen? ⟨g, i, none⟩ = false := by
  rcases h.2 with ⟨e, _⟩ | ⟨g', cap, cur, he, hB, hg, _⟩
  · cases e
  · cases he
    simp [World.frozen?, hg]
theorem boxes3 (w : World) (t1 t2 t3 : TypeId) (v1 v2 v3 : Value) (W : World) (hW : W = ((w.alloc (.cells #[v1] t1)).alloc (.cells #[v2] t2)).alloc (.cells #[v3] t3)) :
    Boxed W w.heap.size t1 v1 ∧ Boxed W (w.heap.size + 1) t2 v2 ∧ Boxed W (w.heap.size + 1 + 1) t3 v3 ∧ W.heap.size = w.heap.size + 3 ∧ Below w.heap.size w W := by
  subst hW
  have b1 := Boxed.new w t1 v1
  have b2 := Boxed.new (w.alloc (.cells #[v1] t1)) t2 v2
  have b3 := Boxed.new ((w.alloc (.cells #[v1] t1)).alloc (.cells #[v2] t2)) t3 v3
  rw [World.size_alloc] at b2
  rw [World.size_alloc, World.size_alloc] at b3
  exact ⟨(b1.alloc _).alloc _, b2.alloc _, b3, by simp, keep_trans (keep_trans (keep_alloc _ _) (keep_alloc _ _)) (keep_alloc _ _)⟩
theorem boxed_below {w w' : World} {B : Nat} {t : TypeId} {v : Value} (h : Boxed w B t v) (hb : Below w.heap.size w w') : Boxed w' B t v := (hb.block _ h.lt).trans h
theorem owns_below8 {w w' : World} {B : Nat} {e : TypeId} {v : Value} {n : Nat} {xs : List Value} (h : w.ownsRow B e 1 v n xs) (hb : Below w.heap.size w w') : w'.ownsRow B e 1 v n xs :=
  owns_kept8 h (row := none) (grown_below8 hb) (fun r e => by cases e)
theorem kept_below8 {lo : Nat} {W W' : World} (hb : Below W.heap.size W W') : Kept lo W W' := ⟨hb.size, fun k _ h2 => hb.block k h2⟩
theorem kept_set8 {lo q j : Nat} {W : World} (u : Value) (hq : q < lo) : Kept lo W (W.setCell ⟨q, j, none⟩ u) :=
  have hb := (But.refl q W).setCell j u
  ⟨hb.size, fun k h1 h2 => hb.block k h2 (by omega)⟩
/-- where the steps have led -/
def stW (T : List Nat → List Nat) (n : Nat) (s : Nat × List Nat) {K : Nat} (pre : List (Fin K)) : Nat × List Nat := pre.foldl (fun s x => wrS T n x.1 s) s
theorem stW_snoc (T : List Nat → List Nat) (n : Nat) (s : Nat × List Nat) {K : Nat} (pre : List (Fin K)) (x : Fin K) : stW T n s (pre ++ [x]) = wrS T n x.1 (stW T n s pre) := by unfold stW; rw [List.foldl_append]; rfl
theorem stW_is (T : List Nat → List Nat) (n : Nat) (s : Nat × List Nat) {K : Nat} : ∀ k, k ≤ K → stW T n s (finL K k) = wrN T n k s
  | 0, _ => rfl
  | k + 1, hk => by rw [finL_next (by omega), stW_snoc, stW_is T n s k (by omega)]; rfl
theorem stW_st {T : List Nat → List Nat} {n : Nat} {s : Nat × List Nat} {K : Nat} (hn : 1 ≤ n) (hT : ∀ s, B16 s → B16 (T s)) (hK : K ≤ 10000) (h : St n s) (pre : List (Fin K)) : St n (stW T n s pre) := by
  unfold stW
  induction pre generalizing s with
  | nil => exact h
  | cons x pre ih => exact ih (wrS_st hn hT h (by have := x.2; omega))
def wr8 : List Lt := [(0, some 28, [2]), (0, some 29, [7]), (0, some 30, [8]), (0, some 31, [10]), (12, some 32, [30, 31]), (16, some 33, [32]), (34, some 34, [29, 33]), (64, some 35, [34]), (129, some 36, [28, 35]), (256, some 27, [36]), (512, some 37, [27]), (512, some 38, [27]), (2047, some 11, [37]), (8191, some 12, [38])]
def wr11 : List Lt := [(0, some 42, [8]), (0, some 43, [10]), (0, some 44, [11]), (4, some 45, [44]), (0, some 46, [9]), (24, some 47, [45, 46]), (0, some 48, [11]), (64, some 49, [48]), (60, none, [7, 47]), (511, some 50, [42, 43]), (1023, none, [50, 49])]
def wr12 : List Lt := [(0, some 51, [7]), (0, some 52, [8]), (2, some 53, [52]), (5, some 54, [51, 53]), (12, some 55, [54]), (31, none, [4, 55]), (63, none, [5])]
theorem wr12reg : Reg (opsA (cLA (cRA (cRA (cRA (cRA (Try.f6.body.getD .skip))))))) wr12 := ⟨by kernel_rfl, by kernel_rfl⟩
theorem wr8reg : Reg (opsA (cLA (cBA (cFA (cBA (cRA (cLA (cRA (cRA (cRA (Try.f6.body.getD .skip))))))))))) wr8 := ⟨by kernel_rfl, by kernel_rfl⟩
theorem wr11reg : Reg (opsA (cRA (cRA (cBA (cFA (cBA (cRA (cLA (cRA (cRA (cRA (Try.f6.body.getD .skip)))))))))))) wr11 := ⟨by kernel_rfl, by kernel_rfl⟩
set_option maxHeartbeats 4000000 in
set_option maxRecDepth 100000 in
theorem cwr_ok (key b : List Nat) (kv bv : Value) (n : Nat) (w : World) (rk : Row .u8 256 w kv key) (rb : Row .u8 256 w bv b) (hk : Sz3 key.length) (hb : b.length = 8 * n) (h2 : 2 ≤ n) (h5 : n ≤ 512) :
    Calls Try.prog 6 #[kv, bv] w fun e w' => ∃ v, e = .returned (.tuple #[v, .int .i64 0]) ∧ Row .u8 256 w' v (wrapL (thA' key) b) ∧ New w.heap.size v ∧ Below w.heap.size w w' := by
  obtain ⟨ti, hti, htz, hts, _⟩ := info_text
  have hkU := rk.under
  have hbU := rb.under
  obtain ⟨Z, hZ⟩ : ∃ x : Nat, x = 8 * n := ⟨_, rfl⟩
  have hbl : b.length = Z := by omega
  obtain ⟨ka, kc, hkv, _⟩ := rk.opens rfl
  obtain ⟨ba, bc, rfl, l1, l2, hop⟩ := rb.opens hbl
  obtain ⟨xb, xo, rfl, _⟩ := hop (by omega)
  generalize hKL : key.length = KL at *
  subst hkv
  have hfit := fun y (r : Row .u8 256 y (.slice ka KL kc) key) => wfit_ok key _ (Z : Int) y r (by rw [hKL]; exact hk) (by omega) (by omega) (by omega)
  have hspl := fun y => split_any xb xo bc n Z hZ (by omega) l1 l2 y
  have HZ := hide (And.intro hZ (And.intro hb hop))
  clear hZ hb hop
  refine (callsIn_wide (n := 8)).1 ?_
  refine callsIn_of_wp_marks Try.func6 rfl trivial ?_ rfl
  simp only [Try.ntmps6, List.size_toArray, List.length_cons, List.length_nil, Nat.reduceAdd, Nat.reduceSub, Array.replicate_succ, Array.replicate_zero, List.push_toArray, List.append_toArray, List.nil_append, List.cons_append]
  gi_wp2_with (first
    | (refine ⟨trivial, ?_⟩; gi_at_call 11; refine (callsIn_wide.2 (hfit _ (rk.below (keep_trans (keep_trans (keep_alloc _ _) (keep_alloc _ _)) (keep_alloc _ _))))).mono ?_; rintro e yy ⟨rfl, hy⟩; obtain rfl := hy.symm)
    | (refine ⟨trivial, ?_⟩; gi_at_call 12; refine (callsIn_wide.2 (begin_any _)).mono ?_; rintro e w1 ⟨v1, rfl, r1, n1, hb1⟩; obtain ⟨a1, c1, rfl, _⟩ := r1.opens (be8_len _))
    | (refine ⟨trivial, ?_⟩; gi_at_call 13; refine (callsIn_wide.2 (hspl _)).mono ?_; rintro e w2 ⟨v2, rfl, o2, hb2⟩; obtain ⟨g, C, rfl, g1, g2⟩ := own_pos8 o2 (by omega))
    | (refine ⟨trivial, ?_⟩; gi_at_call 14; refine (callsIn_wide.2 (there_any _ _ _ _)).mono ?_; rintro e w3 ⟨rfl, rfl⟩)
    | fail)
  obtain ⟨w0, hw0⟩ : ∃ W, W = ((w.alloc (.cells #[.slice ka KL kc] 22)).alloc (.cells #[.slice none 0 0] 22)).alloc (.cells #[.int .i64 0] 24) := ⟨_, rfl⟩
  obtain ⟨WL, hWL⟩ : ∃ W, W = ((w2.alloc (.cells #[.slice a1 8 c1] 22)).alloc (.cells #[.slice (some ⟨g, 0, none⟩) n C] 34)).alloc (.cells #[.slice (some ⟨g, 0, none⟩) n C] 34) := ⟨_, rfl⟩
  obtain ⟨x1, x2, x3, sz0, hbw⟩ := boxes3 w _ _ _ _ _ _ w0 hw0
  obtain ⟨y1, y2, y3, szL, hbL⟩ := boxes3 w2 _ _ _ _ _ _ WL hWL
  rw [← hw0] at hb1 n1
  rw [← hWL]
  have hb02 := keep_trans hb1 hb2
  have hb0L := keep_trans hb02 hbL
  have s1 := hb1.size
  have s2 := hb2.size
  have hBk : Bk8 w w.heap.size (w.heap.size + 1) (w.heap.size + 1 + 1) w2.heap.size (w2.heap.size + 1) (w2.heap.size + 1 + 1) g := ⟨by omega, by omega, by omega, by omega, by omega, by omega, by omega, by omega, by omega, by omega, by omega, by omega, by omega, by omega, by omega, by omega⟩
  have lp0 : LpW w w.heap.size (w.heap.size + 1) (w.heap.size + 1 + 1) w2.heap.size (w2.heap.size + 1) (w2.heap.size + 1 + 1) g C n (.slice ka KL kc) (markW, b) WL :=
    LpW.start (boxed_below x1 hb0L) (boxed_below x2 hb0L) (boxed_below x3 hb0L) y2 y3 y1 (r1.below (keep_trans hb2 hbL)) (fun q hq => by have := r1.old (by rw [be8_len]; decide) hq; omega) (owns_below8 (owns_mono8 o2 (by omega)) hbL) (keep_trans hbw hb0L) (by have := HZ.out.1; rw [← this]; exact rb) hBk
  obtain ⟨K, hK⟩ : ∃ x : Nat, x = 6 * n := ⟨_, rfl⟩
  have hTb : ∀ s, B16 s → B16 (thA' key s) := fun s h => thA'_b hkU h
  have hst0 : St n (markW, b) := key_st HZ.out.2.1 hbU
  have hstW := fun pre : List (Fin K) => stW_st (T := thA' key) (by omega : 1 ≤ n) hTb (by omega) hst0 pre
  have hkk := fun y v X (hb : Below w.heap.size w y) (rv : Row .u8 256 y v X) (hX : X.length = 16) => cblk_ok key X (.slice ka KL kc) v y (rk.below hb) rv (by rw [hKL]; exact hk) hX
  have HK := hide (And.intro hK (And.intro h2 h5))
  have hthr := there1_own 7 (by omega) (w2.heap.size + 1 + 1) (some ⟨g, 0, none⟩) n C K hK (by omega) (by omega) WL (fun W => W.cell? ⟨w2.heap.size + 1 + 1, 0, none⟩ = some (.slice (some ⟨g, 0, none⟩) n C)) (fun W h => h)
  have hn1 : 1 ≤ n := by omega
  clear hw0 hWL hfit hspl hK x1 x2 x3 y1 y2 y3 o2 r1 n1 hb1 hb2 h2 h5
  refine range_ours (n := 8) rfl (enters_of Try.func30 (by kernel_rfl) rfl) hthr (fun _ => rfl)
    (fun pre W => LpW w w.heap.size (w.heap.size + 1) (w.heap.size + 1 + 1) w2.heap.size (w2.heap.size + 1) (w2.heap.size + 1 + 1) g C n (.slice ka KL kc) (stW (thA' key) n (markW, b) pre) W ∧ WL.heap.size ≤ W.heap.size)
    (fun pre A B row hs hg hr => ⟨hs.1.own (D := WL.heap.size) (by omega) hg hr, Nat.le_trans hs.2 hg.size⟩) (fun pre W h => h.1.bl.cell) ⟨lp0, Nat.le_refl _⟩
    (fun pre x a' W => a' = { tmps := #[.slice ka KL kc, .slice (some ⟨xb, xo, none⟩) Z bc, .pointer (some ⟨w.heap.size, 0, none⟩), undef, .pointer (some ⟨w.heap.size + 1, 0, none⟩), .pointer (some ⟨w.heap.size + 1 + 1, 0, none⟩), .int .i64 0, .pointer (some ⟨w2.heap.size, 0, none⟩), .pointer (some ⟨w2.heap.size + 1, 0, none⟩), .int .u64 ((x.1 + 1 : Nat) : Int), .int .i64 ((x.1 % n : Nat) : Int), undef, undef, .slice ka KL kc, .slice (some ⟨xb, xo, none⟩) Z bc, .int .i64 Z, .int .i64 0, .int .i64 0, .bool false, undef, .slice a1 8 c1, .slice (some ⟨xb, xo, none⟩) Z bc, .slice (some ⟨g, 0, none⟩) n C, .slice (some ⟨g, 0, none⟩) n C, .func (.func 30) #[] #[.pointer (some ⟨w2.heap.size + 1 + 1, 0, none⟩)], .int .u64 ((x.1 + 1 : Nat) : Int), .int .i64 ((x.1 % n : Nat) : Int), undef, undef, undef, undef, undef, undef, undef, undef, undef, undef, undef, undef, undef, undef, undef, undef, undef, undef, undef, undef, undef, undef, undef, undef, undef, undef, undef, undef, undef], defers := [] } ∧ LpW w w.heap.size (w.heap.size + 1) (w.heap.size + 1 + 1) w2.heap.size (w2.heap.size + 1) (w2.heap.size + 1 + 1) g C n (.slice ka KL kc) (stW (thA' key) n (markW, b) pre) W ∧ WL.heap.size ≤ W.heap.size)
    (fun pre x a' u A B row hs hg hr => ⟨hs.1, hs.2.1.own (D := WL.heap.size) (by omega) hg hr, Nat.le_trans hs.2.2 hg.size⟩) ?assign ?body ?done
  case assign =>
    rintro l pre x W K ⟨lp, hsz⟩ hlt hK
    unfold stpV
    gi_wp2
    exact hK _ _ (kept_below8 (Below.refl _ _)) ⟨rfl, lp, hsz⟩
  case body =>
    rintro l pre x a' W ⟨rfl, lp, hsz⟩ hlt
    have hx := x.2
    have hS := hstW pre
    rw [stW_snoc]
    generalize stW (thA' key) n (markW, b) pre = s at *
    obtain ⟨t, ht⟩ := x
    dsimp only at hx ⊢
    have hKn : t + 1 < 18446744073709551616 := by have := HK.out; omega
    obtain ⟨i, hi⟩ : ∃ i, i = t % n := ⟨_, rfl⟩
    have hin : i < n := by rw [hi]; exact Nat.mod_lt _ hn1
    obtain ⟨X, hX⟩ : ∃ X, X = be8 s.1 ++ seg s.2 i := ⟨_, rfl⟩
    have hXB : B16 X := by rw [hX, hi]; exact hS.blk s.1 hn1
    obtain ⟨Y, hY⟩ : ∃ Y, Y = thA' key X := ⟨_, rfl⟩
    have hYB : B16 Y := by rw [hY]; exact hTb X hXB
    have hws : wrS (thA' key) n t s = (numL (Y.take 8) ^^^ (t + 1), putS s.2 i (Y.drop 8)) := by unfold wrS; rw [← hi, ← hX, ← hY]
    rw [hws, ← hi]
    obtain ⟨P, hP⟩ : ∃ P, P = t + 1 := ⟨_, rfl⟩
    rw [← hP] at hKn hws ⊢
    have hl8 := hS.len
    obtain ⟨av, cA, rA, oA⟩ := lp.ba
    obtain ⟨u, cU, rU, oU⟩ := lp.word hin
    have lA := be8_len s.1
    have lU : (seg s.2 i).length = 8 := seg_len (by omega)
    have tA := tidy_8 rA lA
    have tU := tidy_8 rU lU
    obtain ⟨aa, ac, rfl, _⟩ := rA.opens lA
    obtain ⟨ua, uc, rfl, _⟩ := rU.opens lU
    have hj := fun y (hb : Below W.heap.size W y) => join_any _ _ _ (rows_lit2C (rA.below hb) tA (rU.below hb) tU) (by simp only [List.flatten_cons, List.flatten_nil, List.append_nil, List.length_append]; omega)
    have hfl : [be8 s.1, seg s.2 i].flatten = X := by rw [hX]; simp
    rw [hfl] at hj
    have hbk := fun y v (hb : Below W.heap.size W y) (rv : Row .u8 256 y v X) => hkk y v X (lp.bel.trans (hb.mono lp.bel.size)) rv hXB.1
    rw [← hY] at hbk
    have lpf := fun y (hb : Below W.heap.size W y) => lp.below hb
    have cK := lp.bk.cell
    have cA0 := cA.cell
    have cW := lp.bw.cell
    have hi1 : (i : Int) < (n : Int) := by omega
    have hi0 : (0 : Int) ≤ (i : Int) := Int.natCast_nonneg _
    have fA := cA.frozen
    have lpB := lp.bel
    have HP := hide (And.intro lp (And.intro hS (And.intro hXB (And.intro hYB (And.intro hKn (And.intro hl8 (And.intro hi (And.intro hX (And.intro hY hP)))))))))
    have HS := hide hsz
    have HO := hide (And.intro oA (And.intro oU (And.intro rA (And.intro rU (And.intro tA tU)))))
    have hSf : ∀ y, Below W.heap.size W y → y.cell? ⟨w.heap.size, 0, none⟩ = some (.slice ka KL kc) ∧ y.cell? ⟨w2.heap.size, 0, none⟩ = some (.slice aa 8 ac) ∧ y.cell? ⟨w2.heap.size + 1, 0, none⟩ = some (.slice (some ⟨g, 0, none⟩) n C) ∧ y.cell? ⟨g, i, none⟩ = some (.slice ua 8 uc) :=
      fun y hb => ⟨keep_cell cK hb, keep_cell cA0 hb, keep_cell cW hb, keep_cell cU hb⟩
    have hbd : Below W.heap.size W W.drew := (Below.refl _ _).drew
    have hS0 := hSf _ hbd
    clear lp hS hXB hYB hKn hl8 hi hX hY hP hsz hws rA rU tA tU oA oU hfl hx
    gi_wp2
    refine at_begin_in (ops := opsA (cLA (cBA (cFA (cBA (cRA (cLA (cRA (cRA (cRA (Try.f6.body.getD .skip))))))))))) (k := 14) (fun y => y.cell? ⟨w.heap.size, 0, none⟩ = some (.slice ka KL kc) ∧ y.cell? ⟨w2.heap.size, 0, none⟩ = some (.slice aa 8 ac) ∧ y.cell? ⟨w2.heap.size + 1, 0, none⟩ = some (.slice (some ⟨g, 0, none⟩) n C) ∧ y.cell? ⟨g, i, none⟩ = some (.slice ua 8 uc)) (by kernel_rfl) (by kernel_rfl) (by kernel_rfl) ?_
    refine at_takeD (i := 0) (m' := 1) (d := some 28) wr8reg rfl (by decide) rfl rfl (y_load_plain rfl rfl rfl Try.underlying22 rfl (fun _ h => h.1)) hS0 ?_
    simp only [Act.put, List.setIfInBounds_toArray, List.set_cons_zero, List.set_cons_succ]
    refine at_takeD (i := 1) (m' := 3) (d := some 29) wr8reg rfl (by decide) rfl rfl (y_load_plain rfl rfl rfl Try.underlying22 rfl (fun _ h => h.2.1)) hS0 ?_
    simp only [Act.put, List.setIfInBounds_toArray, List.set_cons_zero, List.set_cons_succ]
    refine at_takeD (i := 2) (m' := 7) (d := some 30) wr8reg rfl (by decide) rfl rfl (y_load_plain rfl rfl rfl Try.underlying34 rfl (fun _ h => h.2.2.1)) hS0 ?_
    simp only [Act.put, List.setIfInBounds_toArray, List.set_cons_zero, List.set_cons_succ]
    refine at_takeD (i := 3) (m' := 15) (d := some 31) (v := .int .i64 (i : Int)) wr8reg rfl (by decide) rfl rfl (y_move rfl rfl rfl) hS0 ?_
    simp only [Act.put, List.setIfInBounds_toArray, List.set_cons_zero, List.set_cons_succ]
    refine at_takeD (i := 4) (m' := 31) (d := some 32) wr8reg rfl (by decide) rfl rfl (y_index_slice rfl rfl rfl rfl Try.underlying34 (by kernel_rfl) hin) hS0 ?_
    simp only [Act.put, List.setIfInBounds_toArray, List.set_cons_zero, List.set_cons_succ]
    refine at_takeD (i := 5) (m' := 63) (d := some 33) wr8reg rfl (by decide) rfl rfl (y_load_plain rfl rfl rfl Try.underlying22 rfl (fun _ h => h.2.2.2)) hS0 ?_
    simp only [Act.put, List.setIfInBounds_toArray, List.set_cons_zero, List.set_cons_succ]
    have hbA := keep_trans hbd (keep_alloc W.drew (.cells #[.slice aa 8 ac, .slice ua 8 uc] 22))
    refine at_one (i := 6) (m' := 127) wr8reg (by decide) rfl ?_
    refine p_build2 (d := some 34) rfl rfl rfl rfl rfl rfl Try.underlying33 hti hts htz ⟨hSf _ hbA, ?_⟩
    simp only [Act.put, List.setIfInBounds_toArray, List.set_cons_zero, List.set_cons_succ]
    refine at_one (i := 7) (m' := 255) wr8reg (by decide) rfl ?_
    refine p_call1 (u := .slice (some ⟨W.drew.heap.size, 0, none⟩) 2 2) (d := some 35) rfl rfl rfl rfl rfl Try.call16 ((hj _ hbd).mono ?_)
    rintro e z1 ⟨v1, rfl, o1, hb1⟩
    have hbz := keep_trans hbA hb1
    have r1 := o1.row
    obtain ⟨p1, q1, rfl, _⟩ := r1.opens (HP.out.2.2.1.1)
    refine ⟨_, rfl, hSf _ hbz, ?_⟩
    simp only [Act.put, List.setIfInBounds_toArray, List.set_cons_zero, List.set_cons_succ]
    refine at_one (i := 8) (m' := 511) wr8reg (by decide) rfl ?_
    refine p_call2 (u := .slice ka KL kc) (v := .slice p1 16 q1) (d := some 36) rfl rfl rfl rfl rfl rfl Try.call15 ((hbk _ _ hbz r1).mono ?_)
    rintro e z2 ⟨v2, rfl, r2, n2, hb2⟩
    obtain ⟨p2, q2, rfl, d1, d2, d3⟩ := r2.opens (HP.out.2.2.2.1.1)
    obtain ⟨pb, po, rfl, _⟩ := d3 (by decide)
    have hbY := keep_trans hbz hb2
    have hS2 := hSf _ hbY
    refine ⟨_, rfl, hS2, ?_⟩
    simp only [Act.put, List.setIfInBounds_toArray, List.set_cons_zero, List.set_cons_succ]
    refine at_takeD (i := 9) (m' := 1023) (d := some 27) (v := .tuple #[.slice (some ⟨pb, po, none⟩) 16 q2, .int .i64 0]) wr8reg rfl (by decide) rfl rfl (y_move rfl rfl rfl) hS2 ?_
    simp only [Act.put, List.setIfInBounds_toArray, List.set_cons_zero, List.set_cons_succ]
    refine at_takeD (i := 10) (m' := 2047) (d := some 37) (v := .slice (some ⟨pb, po, none⟩) 16 q2) wr8reg rfl (by decide) rfl rfl (y_extract rfl rfl rfl rfl) hS2 ?_
    simp only [Act.put, List.setIfInBounds_toArray, List.set_cons_zero, List.set_cons_succ]
    refine at_takeD (i := 11) (m' := 4095) (d := some 38) (v := .int .i64 0) wr8reg rfl (by decide) rfl rfl (y_extract rfl rfl rfl rfl) hS2 ?_
    simp only [Act.put, List.setIfInBounds_toArray, List.set_cons_zero, List.set_cons_succ]
    refine at_takeD (i := 12) (m' := 8191) (d := some 11) (v := .slice (some ⟨pb, po, none⟩) 16 q2) wr8reg rfl (by decide) rfl rfl (y_assignA rfl rfl rfl) hS2 ?_
    simp only [Act.put, List.setIfInBounds_toArray, List.set_cons_zero, List.set_cons_succ]
    refine at_takeD (i := 13) (m' := 16383) (d := some 12) (v := .int .i64 0) wr8reg rfl (by decide) rfl rfl (y_assignA rfl rfl rfl) hS2 ?_
    simp only [Act.put, List.setIfInBounds_toArray, List.set_cons_zero, List.set_cons_succ]
    refine at_done wr8reg (by decide) ?_
    dsimp only [onlyN]
    have lp2 := lpf _ hbY
    obtain ⟨bi, hbi, hbz0, hbs, _⟩ := info_byte
    obtain ⟨_, _, _, hYB, hKn, hl8, hi, hX, hY, hP⟩ := HP.out
    have r3 := r2.cut (M := 8) (by rw [hYB.1]; decide)
    have r4 := r2.mid (i := 8) (j := 16) (by decide) (by rw [hYB.1]; exact Nat.le_refl _)
    rw [show (Y.drop 8).take (16 - 8) = Y.drop 8 from List.take_of_length_le (by rw [List.length_drop, hYB.1]; exact Nat.le_refl _)] at r4
    have l7 : (Y.take 8).length = 8 := by rw [List.length_take, hYB.1]; rfl
    have l9 : (Y.drop 8).length = 8 := by rw [List.length_drop, hYB.1]
    have u7 : Under 256 (Y.take 8) := fun x hx => hYB.2 x (List.mem_of_mem_take hx)
    have hnu := fun y (r : Row .u8 256 y (.slice (some ⟨pb, po, none⟩) 8 q2) (Y.take 8)) => numb_any _ (numL (Y.take 8)) P y (by rw [be8_num l7 u7]; exact r) hKn
    have n2' := n2 pb (by simp [Value.ownBlock])
    have sA := cA.lt
    have sG : g < W.heap.size := World.block_lt_of_cell? _ _ cU
    have sY := hbY.size
    have sz1 := hbz.size
    have HR := hide (And.intro r3 (And.intro r4 (And.intro l9 (And.intro hl8 (And.intro hi (And.intro hY hP))))))
    have hT1 : z2.drew.cell? ⟨w2.heap.size + 1, 0, none⟩ = some (.slice (some ⟨g, 0, none⟩) n C) := hS2.2.2.1
    clear r3 r4 l9 l7 u7 hYB hKn hl8 hi hX hY hP
    gi_wp2
    refine at_begin_in (ops := opsA (cRA (cRA (cBA (cFA (cBA (cRA (cLA (cRA (cRA (cRA (Try.f6.body.getD .skip)))))))))))) (k := 11) (fun y => y.cell? ⟨w2.heap.size + 1, 0, none⟩ = some (.slice (some ⟨g, 0, none⟩) n C)) (by kernel_rfl) (by kernel_rfl) (by kernel_rfl) ?_
    refine at_takeD (i := 0) (m' := 1) (d := some 42) (v := .slice (some ⟨g, 0, none⟩) n C) wr11reg rfl (by decide) rfl rfl (y_load_plain rfl rfl rfl Try.underlying34 rfl (fun _ h => h)) hT1 ?_
    simp only [Act.put, List.setIfInBounds_toArray, List.set_cons_zero, List.set_cons_succ]
    refine at_takeD (i := 1) (m' := 3) (d := some 43) (v := .int .i64 (i : Int)) wr11reg rfl (by decide) rfl rfl (y_move rfl rfl rfl) hT1 ?_
    simp only [Act.put, List.setIfInBounds_toArray, List.set_cons_zero, List.set_cons_succ]
    refine at_takeD (i := 2) (m' := 7) (d := some 44) (v := .slice (some ⟨pb, po, none⟩) 16 q2) wr11reg rfl (by decide) rfl rfl (y_move rfl rfl rfl) hT1 ?_
    simp only [Act.put, List.setIfInBounds_toArray, List.set_cons_zero, List.set_cons_succ]
    refine at_takeD (i := 3) (m' := 15) (d := some 45) (v := .slice (some ⟨pb, po, none⟩) 8 q2) wr11reg rfl (by decide) rfl rfl (y_slice_hi rfl rfl rfl Try.underlying22 hbi hbs (by omega)) hT1 ?_
    simp only [Act.put, List.setIfInBounds_toArray, List.set_cons_zero, List.set_cons_succ]
    refine at_takeD (i := 4) (m' := 31) (d := some 46) (v := .int .u64 (P : Int)) wr11reg rfl (by decide) rfl rfl (y_move rfl rfl rfl) hT1 ?_
    simp only [Act.put, List.setIfInBounds_toArray, List.set_cons_zero, List.set_cons_succ]
    refine at_takeD (i := 6) (m' := 95) (d := some 48) (v := .slice (some ⟨pb, po, none⟩) 16 q2) wr11reg rfl (by decide) rfl rfl (y_move rfl rfl rfl) hT1 ?_
    simp only [Act.put, List.setIfInBounds_toArray, List.set_cons_zero, List.set_cons_succ]
    refine at_takeD (i := 7) (m' := 223) (d := some 49) (v := .slice (some ⟨pb, po + 8, none⟩) (16 - 8) (q2 - 8)) wr11reg rfl (by decide) rfl rfl (y_slice_lo rfl rfl rfl Try.underlying22 hbi hbs (by decide) d1 (by omega)) hT1 ?_
    simp only [Act.put, List.setIfInBounds_toArray, List.set_cons_zero, List.set_cons_succ]
    have hbd2 : Below z2.heap.size z2 z2.drew := (Below.refl _ _).drew
    refine at_one (i := 5) (m' := 255) wr11reg (by decide) rfl ?_
    refine p_call2 (u := .slice (some ⟨pb, po, none⟩) 8 q2) (v := .int .u64 (P : Int)) (d := some 47) rfl rfl rfl rfl rfl rfl Try.call17 ((hnu _ (HR.out.1.below hbd2)).mono ?_)
    rintro e z3 ⟨v3, rfl, o3, hb3⟩
    have hb23 := keep_trans hbd2 hb3
    have r5 := o3.row
    have n5 := o3.new
    obtain ⟨p5, q5, rfl, _⟩ := r5.opens (be8_len _)
    have lp3 := lp2.below hb23
    have hT3 := lp3.bw.cell
    obtain ⟨av3, cA3, _⟩ := lp3.ba
    have fA3 := cA3.frozen
    have cA3' := cA3.cell
    refine ⟨_, rfl, hT3, ?_⟩
    simp only [Act.put, List.setIfInBounds_toArray, List.set_cons_zero, List.set_cons_succ]
    refine at_one (i := 8) (m' := 511) wr11reg (by decide) rfl ?_
    have hbA3 : But w2.heap.size z3 (z3.setCell ⟨w2.heap.size, 0, none⟩ (.slice p5 8 q5)) := (But.refl _ _).setCell 0 _
    have hT4 := But.cell hT3 hbA3 (by show w2.heap.size + 1 ≠ w2.heap.size; omega)
    refine p_store_plain (p := ⟨w2.heap.size, 0, none⟩) (ad := p5) (n := 8) (c := q5) rfl rfl rfl rfl rfl rfl Try.underlying22 rfl (by kernel_rfl) (by rw [cA3']; rfl) fA3 ⟨hT4, ?_⟩
    refine at_takeD (i := 9) (m' := 1023) (d := some 50) (v := .pointer (some ⟨g, i, none⟩)) wr11reg rfl (by decide) rfl rfl (y_index_slice rfl rfl rfl rfl Try.underlying34 (by kernel_rfl) hin) hT4 ?_
    simp only [Act.put, List.setIfInBounds_toArray, List.set_cons_zero, List.set_cons_succ]
    obtain ⟨u3, cU3, _⟩ := lp3.word hin
    have cU4 := But.cell cU3 hbA3 (by show g ≠ w2.heap.size; exact Ne.symm hBk.ag)
    obtain ⟨us3, own3, _⟩ := lp3.row
    have own4 : (z3.setCell ⟨w2.heap.size, 0, none⟩ (.slice p5 8 q5)).ownsRow w.heap.size 22 1 (.slice (some ⟨g, 0, none⟩) n C) n us3 :=
      own3.kept (row := some w2.heap.size) ⟨hbA3.os, hbA3.tape, hbA3.output, hbA3.size, fun k hk hne => hbA3.block k hk fun e => hne (by rw [e])⟩ (.inr fun e => hBk.ag (by cases e; rfl))
    have fU4 : (z3.setCell ⟨w2.heap.size, 0, none⟩ (.slice p5 8 q5)).frozen? ⟨g, i, none⟩ = false := owns_free own4 i
    refine at_one (i := 10) (m' := 2047) wr11reg (by decide) rfl ?_
    refine p_store_plain (p := ⟨g, i, none⟩) (ad := some ⟨pb, po + 8, none⟩) (n := 16 - 8) (c := q2 - 8) rfl rfl rfl rfl rfl rfl Try.underlying22 rfl (by kernel_rfl) (by rw [cU4]; rfl) fU4 ⟨?_, ?_⟩
    · exact But.cell hT4 ((But.refl g _).setCell i _) (by show w2.heap.size + 1 ≠ g; exact Ne.symm hBk.gw)
    refine at_done wr11reg (by decide) ?_
    dsimp only [onlyN]
    obtain ⟨_, r4, l9, hl8, hi, hY, hP⟩ := HR.out
    have s23 := hb23.size
    have lp4 := lp3.step hBk hl8 hin (a := numL (Y.take 8) ^^^ P) (v := Y.drop 8) l9 r5 (off_new n5 (by have : z2.drew.heap.size = z2.heap.size := rfl; omega) (by have : z2.drew.heap.size = z2.heap.size := rfl; omega)) (r4.below hb23) (off_new (B := z1.heap.size) (New.at n2') (by omega) (by omega))
    have kf : Kept WL.heap.size W _ := (kept_below8 (keep_trans hbY hb23)).trans ((kept_set8 (W := z3) (q := w2.heap.size) (j := 0) (.slice p5 8 q5) (by omega)).trans (kept_set8 (q := g) (j := i) (.slice (some ⟨pb, po + 8, none⟩) (16 - 8) (q2 - 8)) (by omega)))
    gi_wp2
    exact ⟨kf, lp4, Nat.le_trans HS.out kf.size⟩
  case done =>
    rintro W ⟨lp, hsz⟩ hK
    have hfin := stW_is (thA' key) n (markW, b) (K := K) K (Nat.le_refl _)
    have hS := hstW (finL K K)
    rw [hfin] at lp hS
    obtain ⟨hK6, h2, h5⟩ := HK.out
    obtain ⟨hZ, hb8, _⟩ := HZ.out
    have hwl : wrapL (thA' key) b = be8 (wrN (thA' key) n K (markW, b)).1 ++ (wrN (thA' key) n K (markW, b)).2 := by unfold wrapL; rw [show b.length / 8 = n by omega, hK6]
    have HWL := hide hwl
    clear hwl
    generalize wrN (thA' key) n K (markW, b) = s at *
    have hl8 := hS.len
    obtain ⟨av, cA, rA, oA⟩ := lp.ba
    have lA := be8_len s.1
    have tA := tidy_8 rA lA
    obtain ⟨aa, ac, rfl, _⟩ := rA.opens lA
    have cA0 := cA.cell
    have cW := lp.bw.cell
    have rw0 := lp.rows hl8
    have hfl : (segs s.2 n).flatten = s.2 := by rw [segs_flat, List.take_of_length_le (by omega)]
    have hj := fun y (hb : Below W.heap.size W y) => join_any _ _ y (rw0.below hb) (by rw [hfl, hl8]; omega)
    rw [hfl] at hj
    have hSf : ∀ y, Below W.heap.size W y → y.cell? ⟨w2.heap.size, 0, none⟩ = some (.slice aa 8 ac) ∧ y.cell? ⟨w2.heap.size + 1, 0, none⟩ = some (.slice (some ⟨g, 0, none⟩) n C) := fun y hb => ⟨keep_cell cA0 hb, keep_cell cW hb⟩
    have hbd : Below W.heap.size W W.drew := (Below.refl _ _).drew
    have hS0 := hSf _ hbd
    have lpf := fun y (hb : Below W.heap.size W y) => lp.below hb
    have HSt := hide (And.intro hS (And.intro hl8 (And.intro hK6 (And.intro hZ hb8))))
    clear hS hK6 hZ hb8 hfl rw0
    gi_wp2
    refine at_begin_wide (ops := opsA (cLA (cRA (cRA (cRA (cRA (Try.f6.body.getD .skip))))))) (k := 7) (fun y => y.cell? ⟨w2.heap.size, 0, none⟩ = some (.slice aa 8 ac) ∧ y.cell? ⟨w2.heap.size + 1, 0, none⟩ = some (.slice (some ⟨g, 0, none⟩) n C)) (by kernel_rfl) (by kernel_rfl) ?_
    refine at_takeD (i := 0) (m' := 1) (d := some 51) (v := .slice aa 8 ac) wr12reg rfl (by decide) rfl rfl (y_load_plain rfl rfl rfl Try.underlying22 rfl (fun _ h => h.1)) hS0 ?_
    simp only [Act.put, List.setIfInBounds_toArray, List.set_cons_zero, List.set_cons_succ]
    refine at_takeD (i := 1) (m' := 3) (d := some 52) (v := .slice (some ⟨g, 0, none⟩) n C) wr12reg rfl (by decide) rfl rfl (y_load_plain rfl rfl rfl Try.underlying34 rfl (fun _ h => h.2)) hS0 ?_
    simp only [Act.put, List.setIfInBounds_toArray, List.set_cons_zero, List.set_cons_succ]
    refine at_one (i := 2) (m' := 7) wr12reg (by decide) rfl ?_
    refine p_call1 (u := .slice (some ⟨g, 0, none⟩) n C) (d := some 53) rfl rfl rfl rfl rfl Try.call16 ((hj _ hbd).mono ?_)
    rintro e z1 ⟨v1, rfl, o1, hb1⟩
    have hbz := keep_trans hbd hb1
    have r1 := o1.row
    obtain ⟨p1, q1, rfl, _, _, e1⟩ := r1.opens hl8
    have t1 : Tidy (.slice p1 (8 * n) q1) := by
      obtain ⟨b1, o1, rfl, _⟩ := e1 (by omega)
      intro n c e
      cases e
    refine ⟨_, rfl, hSf _ hbz, ?_⟩
    simp only [Act.put, List.setIfInBounds_toArray, List.set_cons_zero, List.set_cons_succ]
    have hbA := keep_trans hbz (keep_alloc z1 (.cells #[.slice aa 8 ac, .slice p1 (8 * n) q1] 22))
    refine at_one (i := 3) (m' := 15) wr12reg (by decide) rfl ?_
    refine p_build2 (d := some 54) rfl rfl rfl rfl rfl rfl Try.underlying33 hti hts htz ⟨hSf _ hbA, ?_⟩
    simp only [Act.put, List.setIfInBounds_toArray, List.set_cons_zero, List.set_cons_succ]
    have hj2 := join_any _ _ _ (rows_lit2C (rA.below hbz) tA r1 t1) (by simp only [List.flatten_cons, List.flatten_nil, List.append_nil, List.length_append]; omega)
    rw [show [be8 s.1, s.2].flatten = be8 s.1 ++ s.2 by simp] at hj2
    refine at_one (i := 4) (m' := 31) wr12reg (by decide) rfl ?_
    refine p_call1 (u := .slice (some ⟨z1.heap.size, 0, none⟩) 2 2) (d := some 55) rfl rfl rfl rfl rfl Try.call16 (hj2.mono ?_)
    rintro e z2 ⟨v2, rfl, o2, hb2⟩
    have hbY := keep_trans hbA hb2
    have lp2 := lpf _ hbY
    have r2 := o2.row
    have n2 := o2.new
    have lY : (be8 s.1 ++ s.2).length = 8 + 8 * n := by rw [List.length_append]; omega
    obtain ⟨p2, q2, rfl, _, _, e2⟩ := r2.opens lY
    refine ⟨_, rfl, hSf _ hbY, ?_⟩
    simp only [Act.put, List.setIfInBounds_toArray, List.set_cons_zero, List.set_cons_succ]
    have c4 := lp2.b4.cell
    have hb4 : But (w.heap.size + 1) z2 (z2.setCell ⟨w.heap.size + 1, 0, none⟩ (.slice p2 (8 + 8 * n) q2)) := (But.refl _ _).setCell 0 _
    have b45 : Boxed (z2.setCell ⟨w.heap.size + 1, 0, none⟩ (.slice p2 (8 + 8 * n) q2)) (w.heap.size + 1 + 1) 24 (.int .i64 0) := (hb4.block _ lp2.b5.lt (by omega)).trans lp2.b5
    have hS4 := And.intro (But.cell (hSf _ hbY).1 hb4 (by show w2.heap.size ≠ w.heap.size + 1; exact hBk.a4)) (But.cell (hSf _ hbY).2 hb4 (by show w2.heap.size + 1 ≠ w.heap.size + 1; omega))
    refine at_one (i := 5) (m' := 63) wr12reg (by decide) rfl ?_
    refine p_store_plain (p := ⟨w.heap.size + 1, 0, none⟩) (ad := p2) (n := 8 + 8 * n) (c := q2) rfl rfl rfl rfl rfl rfl Try.underlying22 rfl (by kernel_rfl) (by rw [c4]; rfl) lp2.b4.frozen ⟨hS4, ?_⟩
    have b44 : Boxed (z2.setCell ⟨w.heap.size + 1, 0, none⟩ (.slice p2 (8 + 8 * n) q2)) (w.heap.size + 1) 22 (.slice p2 (8 + 8 * n) q2) := lp2.b4.set _
    have n4 : (z2.setCell ⟨w.heap.size + 1, 0, none⟩ (.slice p2 (8 + 8 * n) q2)).heap[WL.heap.size]? = some (.deferred (some [])) := (hb4.block _ (Nat.lt_of_lt_of_le (Array.getElem?_eq_some_iff.1 hK).1 hbY.size) (by omega)).trans ((hbY.block _ (Array.getElem?_eq_some_iff.1 hK).1).trans hK)
    have rF : Row .u8 256 (z2.setCell ⟨w.heap.size + 1, 0, none⟩ (.slice p2 (8 + 8 * n) q2)) (.slice p2 (8 + 8 * n) q2) (be8 s.1 ++ s.2) := row_set8 r2 (fun e => by have := n2 _ e; have := hbA.size; omega)
    have bF : Below w.heap.size w (z2.setCell ⟨w.heap.size + 1, 0, none⟩ (.slice p2 (8 + 8 * n) q2)) := lp2.bel.trans (hb4.below (by omega) lp2.bel.size)
    have nF : New w.heap.size (.slice p2 (8 + 8 * n) q2) := n2.mono (by have := hbA.size; have := lp.bel.size; omega)
    generalize z2.setCell ⟨w.heap.size + 1, 0, none⟩ (.slice p2 (8 + 8 * n) q2) = z4 at *
    have c5 := b45.cell
    have hb5 : But (w.heap.size + 1 + 1) z4 (z4.setCell ⟨w.heap.size + 1 + 1, 0, none⟩ (.int .i64 0)) := (But.refl _ _).setCell 0 _
    refine at_one (i := 6) (m' := 127) wr12reg (by decide) rfl ?_
    refine p_store (p := ⟨w.heap.size + 1 + 1, 0, none⟩) (k := .i64) (z := 0) rfl rfl rfl rfl rfl rfl Try.underlying24 (by kernel_rfl) (by rw [c5]; rfl) b45.frozen ⟨And.intro (But.cell hS4.1 hb5 (by show w2.heap.size ≠ w.heap.size + 1 + 1; exact hBk.a5)) (But.cell hS4.2 hb5 (by show w2.heap.size + 1 ≠ w.heap.size + 1 + 1; omega)), ?_⟩
    refine at_done wr12reg (by decide) ?_
    have b54 : Boxed (z4.setCell ⟨w.heap.size + 1 + 1, 0, none⟩ (.int .i64 0)) (w.heap.size + 1) 22 (.slice p2 (8 + 8 * n) q2) := (hb5.block _ b44.lt (by omega)).trans b44
    have b55 : Boxed (z4.setCell ⟨w.heap.size + 1 + 1, 0, none⟩ (.int .i64 0)) (w.heap.size + 1 + 1) 24 (.int .i64 0) := b45.set _
    have n5 : (z4.setCell ⟨w.heap.size + 1 + 1, 0, none⟩ (.int .i64 0)).heap[WL.heap.size]? = some (.deferred (some [])) := (hb5.block _ (Array.getElem?_eq_some_iff.1 n4).1 (by omega)).trans n4
    have rF5 : Row .u8 256 (z4.setCell ⟨w.heap.size + 1 + 1, 0, none⟩ (.int .i64 0)) (.slice p2 (8 + 8 * n) q2) (be8 s.1 ++ s.2) := row_set8 rF (fun e => by have := n2 _ e; have := hbA.size; omega)
    have bF5 : Below w.heap.size w (z4.setCell ⟨w.heap.size + 1 + 1, 0, none⟩ (.int .i64 0)) := bF.trans (hb5.below (by omega) bF.size)
    generalize z4.setCell ⟨w.heap.size + 1 + 1, 0, none⟩ (.int .i64 0) = z5 at *
    have hg5 : z5.grownBy (z5.putObj WL.heap.size (.deferred none)) (some WL.heap.size) := grownBy_putObj' _ _ _
    have hr5 : ∀ r, some WL.heap.size = some r → ∃ o : Obj, z5.heap[r]? = some o ∧ o.isCells = false := fun r e => by cases e; exact ⟨_, n5, rfl⟩
    gi_wp2
    refine ⟨by simp, .inl ⟨_, _, rfl, run_takeDeferred n5, ?_⟩⟩
    rw [HWL.out]
    exact ⟨_, results_cells2 rfl _ _ (w.heap.size + 1) (w.heap.size + 1 + 1) _ _ rfl rfl (loadVar_plain _ _ _ _ _ _ (cells_kept8 hg5 hr5 b54) Try.underlying22 rfl) (loadVar_plain _ _ _ _ _ _ (cells_kept8 hg5 hr5 b55) Try.underlying24 rfl), _, rfl, row_own8 rF5 hg5 hr5, nF, bF5.grown hg5 bF5.size (fun r e => by cases e; omega)⟩
end Go.Proofs.Ytjnlkihhmenfnaa
