/- Trees of trees, the program's own: Vector. -/
import Derived.Test.YtogiballdmgcpaaGreatDoorLhI
import Derived.Test.YtogiballdmgcpaaGreatDoorLhO
import Derived.Test.YtogiballdmgcpaaGreatDoorLsE
namespace Go.Proofs.YtogiballdmgcpaaGreatDoor
open Go.RowKit Go.Shelf
set_option linter.unusedVariables false
set_option linter.unusedSimpArgs false
attribute [local go_sem] Oper.semAt_some

theorem owns_keptH {A B : World} {row : Option Nat} {base : Nat} {e : TypeId} {v : Value} {n : Nat} {xs : List Value} (h : A.ownsRow base e 1 v n xs) (hg : A.grownBy B row) (hr : ∀ r, row = some r → ∃ o : Obj, A.heap[r]? = some o ∧ o.isCells = false) : B.ownsRow base e 1 v n xs := by
  refine h.kept hg ?_
  rcases h.2 with ⟨rfl, _⟩ | ⟨g, cap, cur, rfl, _, hgb, _⟩
  · exact .inl rfl
  · refine .inr fun e' => ?_
    obtain ⟨o, ho, hc⟩ := hr g (by simpa [Value.ownBlock] using e'.symm)
    rw [hgb] at ho; cases ho; cases hc
theorem owns_butH {A B : World} {k base : Nat} {e : TypeId} {v : Value} {n : Nat} {xs : List Value} (h : A.ownsRow base e 1 v n xs) (hb : But k A B) (hk : ∀ q, v.ownBlock = some q → q ≠ k) : B.ownsRow base e 1 v n xs := by
  obtain ⟨h1, h2⟩ := h
  refine ⟨h1, ?_⟩
  rcases h2 with h2 | ⟨g, cap, cur, rfl, h4, h5, h6⟩
  · exact .inl h2
  · exact .inr ⟨g, cap, cur, rfl, h4, (hb.block _ (Array.getElem?_eq_some_iff.1 h5).1 (hk g (by simp [Value.ownBlock]))).trans h5, h6⟩
theorem take_setH (l : List Nat) (N i : Nat) (hl : l.length = N) (hi : i < N) : (l.take i ++ List.replicate (N - i) 0).set i (el l i) = l.take (i + 1) ++ List.replicate (N - (i + 1)) 0 := by
  have hr : List.replicate (N - i) 0 = 0 :: List.replicate (N - (i + 1)) 0 := by rw [show N - i = (N - (i + 1)) + 1 by omega, List.replicate_succ]
  have hlen : (l.take i).length = i := by rw [List.length_take]; omega
  rw [hr, List.set_append_right _ _ (by omega), hlen, Nat.sub_self, List.set_cons_zero, List.take_succ_eq_append_getElem (by omega), List.append_assoc]
  congr 2
  unfold el
  rw [List.getElem?_eq_getElem (by omega)]
  rfl
/-- where Vector stands -/
structure VcJ (w : World) (Y L N B2 n : Nat) (vs : List Nat) (i : Nat) (W : World) : Prop where
  bl : Boxed W Y 49 (.slice (some ⟨L, 0, none⟩) N N)
  bq : Boxed W B2 26 (.int .u64 (n : Int))
  how : W.ownsRow L 52 1 (.slice (some ⟨L, 0, none⟩) N N) N (vals .u32 (vs.take i ++ List.replicate (N - i) 0))
  bel : Below w.heap.size w W
theorem VcJ.own {w W W' : World} {Y L N B2 n i D : Nat} {vs : List Nat} (q : VcJ w Y L N B2 n vs i W) (hD : w.heap.size ≤ D) {row : Option Nat} (hg : W.grownBy W' row) (hr : ∀ r, row = some r → D ≤ r ∧ ∃ o : Obj, W.heap[r]? = some o ∧ o.isCells = false) : VcJ w Y L N B2 n vs i W' := by
  have hr2 := fun r e => (hr r e).2
  exact ⟨cells_keptL hg hr2 q.bl, cells_keptL hg hr2 q.bq, owns_keptH q.how hg hr2, q.bel.grown hg q.bel.size fun r e => by have := (hr r e).1; omega⟩
theorem VcJ.but {w W W' : World} {Y L N B2 n i g : Nat} {vs : List Nat} (q : VcJ w Y L N B2 n vs i W) (hb : But g W W') (h1 : Y ≠ g) (h2 : B2 ≠ g) (h3 : L ≠ g) (h4 : w.heap.size ≤ g) : VcJ w Y L N B2 n vs i W' :=
  ⟨boxed_butL q.bl hb h1, boxed_butL q.bq hb h2, owns_butH q.how hb (fun k hk => by have : L = k := by simpa [Value.ownBlock] using hk
                                                                                    omega), q.bel.trans (hb.below h4 q.bel.size)⟩
set_option maxHeartbeats 8000000 in
set_option maxRecDepth 100000 in
theorem cvec_ok (ts : List (Int × Int)) (tv iv sv : Value) (id seed : List Nat) (n : Nat) (w : World) (ht : TrS w tv ts) (ri : Row .u8 256 w iv id) (ti : Tidy iv) (rs : Row .u8 256 w sv seed) (tis : Tidy sv) (hT : Roots w) (hK : FitK ts id.length seed.length) (hn : n < lvN ts) :
    Calls Tryz.prog 18 #[.agg #[tv, iv, sv], .int .u64 (n : Int)] w fun e w' => ∃ v, e = .returned (.tuple #[v, .int .i64 0]) ∧ Own 52 .u32 4294967296 w' w.heap.size v (vecF ts n) ∧ Below w.heap.size w w' := by
  have hid := hK.2.2.2.2.1
  have hsd := hK.2.2.2.2.2
  have hn60 : n < 18446744073709551616 := by have := lvN_lt hK.2.2.2.1; omega
  have hE0 : vcE ts 16 32 n = 0 := by unfold vcE; rw [if_neg (by rw [hid, hsd] at hK; simpa using hK), if_neg (by omega)]
  have hvl := vecF_len ts n
  have hvu := vecF_under hK.2.2.1 n
  obtain ⟨ia, ic, rfl, _⟩ := ri.opens hid
  obtain ⟨sa, sc, rfl, _⟩ := rs.opens hsd
  have hha := fun y (h : Below w.heap.size w y) => chasK_any ts tv ia sa 16 ic 32 sc n y (ht.below h) hn60
  rw [hE0] at hha
  have hlv := fun y => levels_any tv ia sa 16 ic 32 sc n y (by obtain ⟨a, c, h, _⟩ := ht; exact ⟨_, _, _, h⟩)
  have hIT := fun (m B1 B2 : Nat) (w0 : World) (V : World → Prop) (hm : 2 ≤ m) hV b1 hB2 => lv1_own m hm B1 B2 n ts tv (.slice ia 16 ic) (.slice sa 32 sc) id seed w w0 V ht hK ri ti rs tis hT hn60 hV b1 hB2
  obtain ⟨ta, tc, rfl, t1, t2, tcell⟩ := ht
  obtain ⟨N, hN⟩ : ∃ N, ts.length = N := ⟨_, rfl⟩
  have hN8 : 1 ≤ N ∧ N ≤ 8 := ⟨by have := hK.1; omega, by have := hK.2.1; omega⟩
  rw [hN] at hha hlv hIT hvl
  rw [hN]
  obtain ⟨vc, hvc⟩ : ∃ v, v = vecF ts n := ⟨_, rfl⟩
  rw [← hvc] at hvl hvu hIT ⊢
  have b0 := BxK.new w (.slice ta N tc) (.slice ia 16 ic) (.slice sa 32 sc)
  have hb0 := keep_alloc w (.cells #[.slice ta N tc, .slice ia 16 ic, .slice sa 32 sc] 25)
  have hc0 := b0.c0
  obtain ⟨i0, hi0, hz0, hz1, hz2⟩ := info_parts Tryz.info52
  have HX := hide (And.intro hvl (And.intro hvu hN8))
  clear hK hn hn60 hE0 hvc tcell ri ti rs tis hT hN t1 t2 hid hsd hvl hvu hN8
  refine (callsIn_wide (n := 8)).1 (callsIn_of_wp_marks Tryz.func18 rfl trivial (wpIn_wide.2 ?_) rfl)
  simp only [Tryz.ntmps18, List.size_toArray, List.length_cons, List.length_nil, Nat.reduceAdd, Nat.reduceSub, Array.replicate_succ, Array.replicate_zero, List.push_toArray, List.append_toArray, List.nil_append, List.cons_append]
  go_wp2_with (first
    | (refine wpList_load_row rfl 25 _ (by rfl) w.heap.size (by rfl) _ _ _ _ b0.here Tryz.underlying25 rfl (by kernel_rfl) ?_)
    | (go_at_call 25; refine (hha _ hb0).mono ?_; rintro e w1 ⟨rfl, g1⟩; have b1 := b0.below g1; have k1 := keep_trans hb0 g1; have q0 := b1.c0; clear b0 hc0)
    | (at_make; refine wpList_make_full _ rfl _ _ 49 rfl w1.heap.size 52 i0 (.int .u32 0) 1 Tryz.underlying49 hi0 hz0 hz1 _ _ _ _ N rfl rfl rfl rfl (by rw [hz2]; have := HX.out.2.2; omega) (by unfold maxLen; have := HX.out.2.2; omega) (Nat.le_refl _) ?_; intro w3 hown hgrow; rw [made_u32] at hown; have g3 := (Below.refl w1.heap.size w1).grown hgrow (Nat.le_refl _) (fun k h => by cases h); have b3 := (b1.below g3).below (keep_alloc w3 (.cells #[.slice (some ⟨w1.heap.size, 0, none⟩) N N] 49)))
    | (refine wpList_load_row rfl 25 _ (by rfl) w.heap.size (by rfl) _ _ _ _ b3.here Tryz.underlying25 rfl (by kernel_rfl) ?_)
    | (go_at_call 26; refine (hlv _).mono ?_; rintro e w4 ⟨rfl, rfl⟩)
    | fail)
  have hkk := keep_trans k1 g3
  have hL1 : w.heap.size < w1.heap.size := b1.lt
  obtain ⟨L, hL⟩ : ∃ L, w1.heap.size = L := ⟨_, rfl⟩
  obtain ⟨Y, hY⟩ : ∃ Y, w3.heap.size = Y := ⟨_, rfl⟩
  rw [hL] at hown hL1 ⊢
  have hLY : L < Y := by
    rcases hown.2 with ⟨h, _⟩ | ⟨g, _, _, h, _, h3, _⟩
    · cases h
    · have := (Array.getElem?_eq_some_iff.1 h3).1
      simp only [Value.slice.injEq, Option.some.injEq, Addr.mk.injEq] at h
      omega
  obtain ⟨w4, hw4⟩ : ∃ W, W = ((w3.alloc (.cells #[.slice (some ⟨L, 0, none⟩) N N] 49)).alloc (.cells #[.slice ta N tc, .slice ia 16 ic, .slice sa 32 sc] 25)).alloc (.cells #[.int .u64 (n : Int)] 26) := ⟨_, rfl⟩
  have kA := keep_trans (keep_trans (keep_alloc w3 (.cells #[.slice (some ⟨L, 0, none⟩) N N] 49)) (keep_alloc _ (.cells #[.slice ta N tc, .slice ia 16 ic, .slice sa 32 sc] 25))) (keep_alloc _ (.cells #[.int .u64 (n : Int)] 26))
  have sz4 : w4.heap.size = Y + 3 := by rw [hw4]; simp [hY]
  have bl4 : Boxed w4 Y 49 (.slice (some ⟨L, 0, none⟩) N N) := by
    have := boxed_belowL (Boxed.new w3 49 (.slice (some ⟨L, 0, none⟩) N N)) (keep_trans (keep_alloc _ (.cells #[.slice ta N tc, .slice ia 16 ic, .slice sa 32 sc] 25)) (keep_alloc _ (.cells #[.int .u64 (n : Int)] 26)))
    rw [hY] at this; rw [hw4]; exact this
  have bk4 : BxK w4 (Y + 1) (.slice ta N tc) (.slice ia 16 ic) (.slice sa 32 sc) := by
    have := (BxK.new (w3.alloc (.cells #[.slice (some ⟨L, 0, none⟩) N N] 49)) (.slice ta N tc) (.slice ia 16 ic) (.slice sa 32 sc)).below (keep_alloc _ (.cells #[.int .u64 (n : Int)] 26))
    rw [World.size_alloc, hY] at this; rw [hw4]; exact this
  have bq4 : Boxed w4 (Y + 1 + 1) 26 (.int .u64 (n : Int)) := by
    have := Boxed.new ((w3.alloc (.cells #[.slice (some ⟨L, 0, none⟩) N N] 49)).alloc (.cells #[.slice ta N tc, .slice ia 16 ic, .slice sa 32 sc] 25)) 26 (.int .u64 (n : Int))
    rw [World.size_alloc, World.size_alloc, hY] at this; rw [hw4]; exact this
  have how4 : w4.ownsRow L 52 1 (.slice (some ⟨L, 0, none⟩) N N) N (vals .u32 (vc.take 0 ++ List.replicate (N - 0) 0)) := by
    rw [hw4, Nat.sub_zero, List.take_zero, List.nil_append]
    exact own_belowA hown kA
  have bel4 : Below w.heap.size w w4 := by rw [hw4]; exact keep_trans hkk kA
  have hI4 : VcJ w Y L N (Y + 1 + 1) n vc 0 w4 := ⟨bl4, bq4, how4, bel4⟩
  have hwz : w.heap.size ≤ w4.heap.size := bel4.size
  have hown4 := hIT 7 (Y + 1) (Y + 1 + 1) w4 (fun W => Below w.heap.size w W ∧ Boxed W (Y + 1 + 1) 26 (.int .u64 (n : Int))) (by decide) (fun W h => h) bk4 (by omega)
  rw [hY, ← hw4]
  clear hw4 hown hgrow g3 b3 hkk kA bl4 bk4 bq4 how4 bel4 hY hL k1 g1 b1 q0 hha hlv hIT
  refine wpIn_wide.1 (range_rel (n := 8) rfl (enters_of Tryz.func49 (by kernel_rfl) rfl) hown4 (fun i D vs W h => by obtain ⟨iv, sv, rfl, _⟩ := h; rfl)
    (fun i W => VcJ w Y L N (Y + 1 + 1) n vc i W ∧ w4.heap.size ≤ W.heap.size)
    (fun i A B row hs hg hr => ⟨hs.1.own (D := w4.heap.size) hwz hg hr, Nat.le_trans hs.2 hg.size⟩) (fun i W h => ⟨h.1.bel, h.1.bq⟩) ⟨hI4, Nat.le_refl _⟩
    (fun i D0 vs a' W => ∃ (Z : Nat) (iv sv : Value), a' = { tmps := #[.agg #[.slice ta N tc, .slice ia 16 ic, .slice sa 32 sc], .int .u64 (n : Int), .pointer (some ⟨w.heap.size, 0, none⟩), undef, .slice none 0 0, .int .i64 0, .int .i64 0, .pointer (some ⟨Y, 0, none⟩), .int .i64 (i : Int), .pointer (some ⟨Z, 0, none⟩), .agg #[.slice ta N tc, .slice ia 16 ic, .slice sa 32 sc], .int .u64 (n : Int), .int .i64 0, .int .i64 0, .bool false, undef, .pointer (some ⟨w.heap.size, 0, none⟩), .slice ta N tc, .int .i64 (N : Int), .slice (some ⟨L, 0, none⟩) N N, .agg #[.slice ta N tc, .slice ia 16 ic, .slice sa 32 sc], .int .u64 (n : Int), .func (.func 49) #[] #[.pointer (some ⟨Y + 1, 0, none⟩), .pointer (some ⟨Y + 1 + 1, 0, none⟩)], .int .i64 (i : Int), .agg #[.int .i64 (trA ts i).1, .int .i64 (trA ts i).2, iv, sv, .int .u32 (el vc i : Nat)], undef, undef, undef, undef, undef, undef], defers := [] } ∧ BxH W Z (.int .i64 (trA ts i).1) (.int .i64 (trA ts i).2) iv sv (.int .u32 (el vc i : Nat)) ∧ VcJ w Y L N (Y + 1 + 1) n vc i W ∧ w4.heap.size + 3 ≤ W.heap.size ∧ w4.heap.size ≤ D0 ∧ w4.heap.size + 3 ≤ Z)
    (fun i D0 vs a' u A B row hs hg hr => by
      obtain ⟨Z, iv, sv, h1, h2, h3, h4, h5, h6⟩ := hs
      exact ⟨Z, iv, sv, h1, ⟨cells_keptL hg (fun r e => (hr r e).2) h2.here⟩, h3.own (D := w4.heap.size) hwz hg hr, Nat.le_trans h4 hg.size, h5, h6⟩) ?assign ?body ?done)
  case assign =>
    rintro l i vs W0 W K ⟨lp, hsz⟩ hbt hs0 hs1 hlt ⟨iv, sv, rfl, hLT, hwho⟩ hK
    have hst := hLT.ri.opens rfl
    have hsv := hLT.rs.opens rfl
    obtain ⟨ja, jc, rfl, _⟩ := hst
    obtain ⟨ka, kc, rfl, _⟩ := hsv
    have lpW : VcJ w Y L N (Y + 1 + 1) n vc i W := lp.but hbt (by omega) (by omega) (by omega) (by omega)
    gi_wp2
    refine hK _ _ (keep_alloc _ _) ⟨W.heap.size, _, _, rfl, BxH.new W _ _ _ _ _, lpW.own (D := w4.heap.size) hwz (grown_belowH (keep_alloc _ _)) (fun r e => by cases e), Nat.le_trans hs1 (keep_alloc W _).size, by omega, hs1⟩
  case body =>
    rintro l i D0 vs a' W ⟨Z, iv, sv, rfl, bz, lp, hs3, hD0, hZ⟩ hlt
    have c7 := lp.bl.cell
    have c4 := bz.c4
    have cJ : W.cell? ⟨L, i, none⟩ = some (.int .u32 (0 : Int)) := by
      rw [lp.how.cellAt i (by omega), vals_get _ _ _ (by rw [List.length_append, List.length_replicate, List.length_take]; have := HX.out.1; omega)]
      rw [show el (vc.take i ++ List.replicate (N - i) 0) i = 0 by
        unfold el
        rw [List.getElem?_append_right (by rw [List.length_take]; omega), List.getElem?_replicate]
        split <;> rfl]
      rfl
    have fJ := lp.how.frozenAt i
    have hsto := (lp.how.stored i (.int .u32 (el vc i : Nat))).1
    rw [vals_set, take_setH vc N i HX.out.1 hlt] at hsto
    have hB := (But.refl L W).setCell i (.int .u32 (el vc i : Nat))
    have hbl := lp.bl
    have hbq := lp.bq
    have hbel := lp.bel
    have hlti : (i : Int) < (N : Int) := by omega
    have hge0 : (0 : Int) ≤ (i : Int) := Int.natCast_nonneg _
    have HQ := hide (And.intro hsto (And.intro hbl (And.intro hbq (And.intro hbel (And.intro hB (And.intro hs3 (And.intro hD0 hlt)))))))
    clear lp bz hsto hB hbl hbq hbel hs3 hD0 hZ
    gi_wp2
    obtain ⟨hsto, hbl, hbq, hbel, hB, hs3, hD0, hlt⟩ := HQ.out
    exact ⟨kept_setL _ (by omega), fun k h1 h2 => hB.block k (by omega) (by omega), ⟨boxed_butL hbl hB (by omega), boxed_butL hbq hB (by omega), hsto, hbel.trans (hB.below (by omega) hbel.size)⟩, Nat.le_trans (by omega) hB.size⟩
  case done =>
    rintro W ⟨lp, hsz⟩ hK
    have lpF := lp.own (D := w4.heap.size) hwz (grownBy_putObj' W w4.heap.size (.deferred none)) (fun r e => by cases e; exact ⟨Nat.le_refl _, _, hK, rfl⟩)
    have cG := lp.bl.cell
    have hhow := lpF.how
    rw [List.take_of_length_le (by have := HX.out.1; omega), Nat.sub_self, List.replicate_zero, List.append_nil] at hhow
    have hbb := lpF.bel
    clear lp lpF
    go_wp2
    refine ⟨by simp, .inl ⟨_, _, rfl, run_takeDeferred hK, ?_⟩⟩
    refine ⟨_, results_tmp2 rfl _ _ _, .slice (some ⟨L, 0, none⟩) N N, rfl, ⟨?_, HX.out.2.1⟩, hbb⟩
    rw [HX.out.1]
    exact ownsRow_base hhow (by omega)
end Go.Proofs.YtogiballdmgcpaaGreatDoor

/- Trees of leaves that sign once, the program's own: Verify by nothing. -/
namespace Go.Proofs.YtogiballdmgcpaaGreatDoor
open Go.RowKit Go.Shelf
set_option linter.unusedVariables false
set_option linter.unusedSimpArgs false

set_option maxHeartbeats 4000000 in
set_option maxRecDepth 100000 in
theorem ctree_short (pa : Option Addr) (L pc : Nat) (w : World) (h56 : ¬ L = 56) :
    Calls Tryz.prog 59 #[.slice pa L pc] w fun e w' => e = .returned (.tuple #[.agg #[.int .i64 0, .int .i64 0, .slice none 0 0], .int .i64 10]) ∧ Below w.heap.size w w' := by
  have hi : ¬ (L : Int) = 56 := by omega
  have hib : ((L : Int) != 56) = true := by simp; omega
  have z0 := BxD.new w (.int .i64 0) (.int .i64 0) (.slice none 0 0)
  have hbw := keep_alloc w (.cells #[.int .i64 0, .int .i64 0, .slice none 0 0] 96)
  clear h56
  go_enter Tryz.func59, Tryz.ntmps59
  go_wp2_with (first
    | (refine wpList_store_row rfl 96 _ _ (by rfl) w.heap.size #[.int .i64 0, .int .i64 0, .slice none 0 0] (by rfl) (by rfl) _ _ z0.here (by kernel_rfl) rfl (by simp [Value.oneCell']) ?_)
    | fail)
  refine bodyPost_ret (z0.row.ret rfl _ rfl rfl) rfl ⟨rfl, below_setRow hbw (Nat.le_refl _)⟩
end Go.Proofs.YtogiballdmgcpaaGreatDoor
