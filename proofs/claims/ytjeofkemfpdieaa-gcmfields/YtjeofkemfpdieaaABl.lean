/- The document's Sized, Block, Back. -/
import Derived.Test.YtjeofkemfpdieaaAKy
import Derived.Test.YtjeofkemfpdieaaQcV
import Derived.Test.YtjeofkemfpdieaaAesW
import Derived.Test.YtjeofkemfpdieaaGGh
namespace Go.Proofs.Ytjeofkemfpdieaa
open Go.RowKit
set_option linter.unusedVariables false
set_option linter.unusedSimpArgs false

/-- may a key have so many bytes? -/
def SzK (key : List Nat) : Prop := key.length = 16 ∨ key.length = 24 ∨ key.length = 32
/-- a block behind the cipher, and back -/
def blkA (key b : List Nat) : List Nat := thN (key.length / 4 + 6) (keysL key) (key.length / 4 + 6) b
def bakA (key b : List Nat) : List Nat := bkN (key.length / 4 + 6) (keysL key) (key.length / 4 + 6) b
theorem blkA_b {key b : List Nat} (hk : Under 256 key) (hb : B16 b) : B16 (blkA key b) := thN_b (keysL_under hk) hb _
theorem bakA_b {key b : List Nat} (hk : Under 256 key) (hb : B16 b) : B16 (bakA key b) := bkN_b (keysL_under hk) _ hb
theorem bak_blk {key b : List Nat} (hk : Under 256 key) (hb : B16 b) : bakA key (blkA key b) = b := bk_th (keysL_under hk) hb _
theorem blk_bak {key b : List Nat} (hk : Under 256 key) (hb : B16 b) : blkA key (bakA key b) = b := th_bk (keysL_under hk) _ hb

set_option maxHeartbeats 2000000 in
set_option maxRecDepth 100000 in
theorem rsz_any (key : List Nat) (kv : Value) (w : World) (rk : Row .u8 256 w kv key) :
    Calls Try.prog 30 #[kv] w fun e w' => e = .returned (.bool (decide (key.length = 16 ∨ key.length = 24 ∨ key.length = 32))) ∧ w' = w := by
  obtain ⟨ka, kc, rfl, lc1, lc2, _⟩ := rk.opens rfl
  generalize key.length = L at *
  by_cases h16 : L = 16
  · subst h16
    go_enter Try.func30, Try.ntmps30
    go_wp2
    go_ret
    exact ⟨by simp, rfl⟩
  · by_cases h24 : L = 24
    · subst h24
      go_enter Try.func30, Try.ntmps30
      go_wp2
      go_ret
      exact ⟨by simp, rfl⟩
    · have i16 : ¬ ((L : Int) = 16) := by omega
      have i24 : ¬ ((L : Int) = 24) := by omega
      by_cases h32 : L = 32
      · subst h32
        go_enter Try.func30, Try.ntmps30
        go_wp2
        go_ret
        exact ⟨by simp, rfl⟩
      · have i32 : ¬ ((L : Int) = 32) := by omega
        go_enter Try.func30, Try.ntmps30
        go_wp2
        go_ret
        exact ⟨by simp [h16, h24, h32]; omega, rfl⟩
end Go.Proofs.Ytjeofkemfpdieaa

/- The document's Block, Back, where they answer. -/
namespace Go.Proofs.Ytjeofkemfpdieaa
open Go.RowKit
set_option linter.unusedVariables false
set_option linter.unusedSimpArgs false

theorem range_belowA {w w' : World} {b o : Nat} {cs : List Value} (h : w.rangeAt b o cs) (hb : Below w.heap.size w w') : w'.rangeAt b o cs := fun j v hv => keep_cell (h j v hv) hb
theorem SzK.words {key : List Nat} (h : SzK key) : ∃ k, (k = 4 ∨ k = 6 ∨ k = 8) ∧ key.length = 4 * k ∧ key.length / 4 = k := by
  rcases h with h | h | h
  · exact ⟨4, .inl rfl, h, by rw [h]⟩
  · exact ⟨6, .inr (.inl rfl), h, by rw [h]⟩
  · exact ⟨8, .inr (.inr rfl), h, by rw [h]⟩
def blolt : List Lt := [(0, some 18, [0]), (0, some 19, [6]), (3, some 20, [18, 19]), (0, some 21, [1]), (0, some 22, [6]), (28, some 23, [20, 21, 22]), (63, some 4, [23]), (127, some 5, [])]
section
variable {Q : Exit → Act → World → Prop}
end
def baolt : List Lt := [(0, some 18, [0]), (0, some 19, [6]), (3, some 20, [18, 19]), (0, some 21, [1]), (0, some 22, [7]), (28, some 23, [20, 21, 22]), (63, some 4, [23]), (127, some 5, [])]
section
variable {Q : Exit → Act → World → Prop}
end
end Go.Proofs.Ytjeofkemfpdieaa

/- The document's Chain. -/
namespace Go.Proofs.Ytjeofkemfpdieaa
open Go.RowKit
set_option linter.unusedVariables false
set_option linter.unusedSimpArgs false

theorem row_grownA {k : IntKind} {m : Nat} {w w' : World} {v : Value} {l : List Nat} {row : Option Nat} (h : Row k m w v l) (hg : w.grownBy w' row) (hne : ∀ q, v.ownBlock = some q → some q ≠ row) : Row k m w' v l := by
  obtain ⟨a, cap, rfl, h1, h2, h3, h4⟩ := h
  refine ⟨a, cap, rfl, h1, h2, fun hl => ?_, h4⟩
  obtain ⟨b, off, rfl, hc⟩ := h3 hl
  exact ⟨b, off, rfl, fun i hi => hg.cell (hc i hi) (hne b rfl)⟩
theorem xrL_xr2 {a b : List Nat} (ha : a.length = 16) (hb : b.length = 16) : xrL a b = xr2 a b := by
  refine ext16 (by simp [xrL, ha, hb]) (of16_len _) fun i hi => ?_
  unfold xrL xr2
  rw [of16_el _ hi, el_at (by simp [ha, hb]; omega)]
  simp
theorem two_tabs (y : World) (BL UL : List Value) (h : BL = vals .u8 boxT ∧ UL = vals .u8 unT) :
    Lies .u8 74 ((y.alloc (.cells (arr .u8 (zA 256)) 74)).alloc (.cells (arr .u8 (zA 256)) 74)) y.heap.size (zA 256) ∧ Lies .u8 74 (((y.alloc (.cells (arr .u8 (zA 256)) 74)).alloc (.cells (arr .u8 (zA 256)) 74)).setRow y.heap.size BL.toArray) (y.heap.size + 1) (zA 256) ∧
    ((((y.alloc (.cells (arr .u8 (zA 256)) 74)).alloc (.cells (arr .u8 (zA 256)) 74)).setRow y.heap.size BL.toArray).setRow (y.heap.size + 1) UL.toArray).rangeAt y.heap.size 0 BL ∧ ((((y.alloc (.cells (arr .u8 (zA 256)) 74)).alloc (.cells (arr .u8 (zA 256)) 74)).setRow y.heap.size BL.toArray).setRow (y.heap.size + 1) UL.toArray).rangeAt (y.heap.size + 1) 0 UL ∧ Below y.heap.size y ((((y.alloc (.cells (arr .u8 (zA 256)) 74)).alloc (.cells (arr .u8 (zA 256)) 74)).setRow y.heap.size BL.toArray).setRow (y.heap.size + 1) UL.toArray) := by
  have L0 := (Lies.new .u8 74 y (zA 256)).alloc (.cells (arr .u8 (zA 256)) 74)
  have L1 := Lies.new .u8 74 (y.alloc (.cells (arr .u8 (zA 256)) 74)) (zA 256)
  rw [World.size_alloc] at L1
  have L2 : Lies .u8 74 (((y.alloc (.cells (arr .u8 (zA 256)) 74)).alloc (.cells (arr .u8 (zA 256)) 74)).setRow y.heap.size BL.toArray) (y.heap.size + 1) (zA 256) := L1.but ((But.refl _ _).setRow _) (by omega)
  have bN : But y.heap.size _ _ := (But.refl y.heap.size ((y.alloc (.cells (arr .u8 (zA 256)) 74)).alloc (.cells (arr .u8 (zA 256)) 74))).setRow BL.toArray
  have bM : But (y.heap.size + 1) _ _ := (But.refl (y.heap.size + 1) (((y.alloc (.cells (arr .u8 (zA 256)) 74)).alloc (.cells (arr .u8 (zA 256)) 74)).setRow y.heap.size BL.toArray)).setRow UL.toArray
  have M0 : Lies .u8 74 ((((y.alloc (.cells (arr .u8 (zA 256)) 74)).alloc (.cells (arr .u8 (zA 256)) 74)).setRow y.heap.size BL.toArray).setRow (y.heap.size + 1) UL.toArray) y.heap.size boxT := by
    refine Lies.but ?_ bM (by omega)
    rw [h.1]
    exact L0.row
  have M1 : Lies .u8 74 ((((y.alloc (.cells (arr .u8 (zA 256)) 74)).alloc (.cells (arr .u8 (zA 256)) 74)).setRow y.heap.size BL.toArray).setRow (y.heap.size + 1) UL.toArray) (y.heap.size + 1) unT := by
    rw [h.2]
    exact L2.row
  have hb2 := keep_trans (keep_alloc y (.cells (arr .u8 (zA 256)) 74)) (keep_alloc _ (.cells (arr .u8 (zA 256)) 74))
  have hb3 := hb2.trans (bN.below (by omega) hb2.size)
  have R0 := lies_rangeA M0
  have R1 := lies_rangeA M1
  rw [← h.1] at R0
  rw [← h.2] at R1
  exact ⟨L0, L2, R0, R1, hb3.trans (bM.below (by omega) hb3.size)⟩
/-- a text being filled up -/
def padK (p : List Nat) (i : Nat) : List Nat := p ++ List.replicate i (padN p)
theorem padK_next (p : List Nat) (i : Nat) : padK p (i + 1) = padK p i ++ [padN p] := by unfold padK; rw [List.replicate_succ', List.append_assoc]
theorem padK_all (p : List Nat) : padK p (padN p) = padL p := rfl
def ChA (B : Nat) (w : World) (p : List Nat) (v vi : Value) (wr : World) : Prop := ∃ i : Nat, i ≤ padN p ∧ vi = .int .i64 (i : Int) ∧ wr.ownsRow B 5 1 v (p.length + i) (vals .u8 (padK p i)) ∧ Below B w wr
/-- where the loop of blocks stands -/
def ChB (x : World) (T : List Nat → List Nat) (f L : List Nat) (n : Nat) (vo vl vi : Value) (wr : World) : Prop := ∃ j : Nat, j ≤ n ∧ vi = .int .i64 ((16 * j : Nat) : Int) ∧ wr.ownsRow x.heap.size 5 1 vo (16 * j) (vals .u8 (outC T f L j)) ∧ Row .u8 256 wr vl (lastC T f L j) ∧ Below x.heap.size x wr
end Go.Proofs.Ytjeofkemfpdieaa

/- The document's Many: blocks behind the cipher, one by one. -/
namespace Go.Proofs.Ytjeofkemfpdieaa
open Go.RowKit
set_option linter.unusedVariables false
set_option linter.unusedSimpArgs false

/-- texts of the call's own, one behind the other -/
def OwnT (w : World) (us : List Value) (l : List (List Nat)) : Prop := us.length = l.length ∧ ∀ i, i < l.length → ∃ u, us[i]? = some u ∧ Own 5 .u8 256 w 0 u (tx l i)
theorem OwnT.nil (w : World) : OwnT w [] [] := ⟨rfl, fun i hi => by simp at hi⟩
theorem OwnT.below {w w' : World} {us : List Value} {l : List (List Nat)} (h : OwnT w us l) (hb : Below w.heap.size w w') : OwnT w' us l :=
  ⟨h.1, fun i hi => by obtain ⟨u, hu, ho⟩ := h.2 i hi; exact ⟨u, hu, own_belowA ho.1 hb, ho.2⟩⟩
theorem OwnT.grown {w w' : World} {us : List Value} {l : List (List Nat)} {base n : Nat} {v : Value} {xs : List Value} (h : OwnT w us l) (how : w.ownsRow base 22 1 v n xs) (hg : w.grownBy w' v.ownBlock) : OwnT w' us l := by
  refine ⟨h.1, fun i hi => ?_⟩
  obtain ⟨u, hu, ho⟩ := h.2 i hi
  refine ⟨u, hu, ho.1.kept hg ?_, ho.2⟩
  rcases ho.1.2 with ⟨rfl, _⟩ | ⟨g, cap, cur, rfl, _, hg1, _⟩
  · exact .inl rfl
  · refine .inr fun e => ?_
    rcases how.2 with ⟨rfl, _⟩ | ⟨g', cap', cur', rfl, _, hg2, _⟩
    · cases e
    · have e2 : g = g' := by simpa [Value.ownBlock] using e
      subst e2
      rw [hg1] at hg2
      exact absurd hg2 (by simp)
theorem OwnT.snoc {w : World} {us : List Value} {l : List (List Nat)} {u : Value} {x : List Nat} (h : OwnT w us l) (ho : Own 5 .u8 256 w 0 u x) : OwnT w (us ++ [u]) (l ++ [x]) := by
  refine ⟨by rw [List.length_append, List.length_append, h.1]; rfl, fun i hi => ?_⟩
  rw [List.length_append] at hi
  by_cases hl : i < l.length
  · obtain ⟨v, hv, hr⟩ := h.2 i hl
    refine ⟨v, by rw [List.getElem?_append_left (by rw [h.1]; exact hl)]; exact hv, ?_⟩
    have e : tx (l ++ [x]) i = tx l i := by unfold tx; rw [List.getElem?_append_left hl]
    rw [e]; exact hr
  · have e0 : i = l.length := by simp at hi; omega
    subst e0
    refine ⟨u, by rw [List.getElem?_append_right (by rw [h.1]; exact Nat.le_refl _), h.1, Nat.sub_self]; rfl, ?_⟩
    have e : tx (l ++ [x]) l.length = x := by unfold tx; rw [List.getElem?_append_right (Nat.le_refl _), Nat.sub_self]; rfl
    rw [e]; exact ho
theorem OwnT.texts {w : World} {us : List Value} {l : List (List Nat)} (h : OwnT w us l) : Texts w us l :=
  ⟨h.1, fun i hi => by obtain ⟨u, hu, ho⟩ := h.2 i hi; exact ⟨u, hu, ho.row, own_tidyG ho⟩⟩
def MnL (x : World) (T : List Nat → List Nat) (ls : List (List Nat)) (vo vi : Value) (wr : World) : Prop := ∃ (k : Nat) (us : List Value), k ≤ ls.length ∧ vi = .int .i64 (k : Int) ∧ wr.ownsRow x.heap.size 22 1 vo k us ∧ OwnT wr us ((ls.take k).map T) ∧ Below x.heap.size x wr
set_option maxHeartbeats 10000000 in
set_option maxRecDepth 100000 in
theorem rmany_ok (key : List Nat) (ls : List (List Nat)) (kv lv : Value) (w : World) (rk : Row .u8 256 w kv key) (rl : Rows2 w lv ls) (hk : SzK key) (hls : ∀ i, i < ls.length → B16 (tx ls i)) (hn : ls.length ≤ 100000) :
    Calls Try.prog 48 #[kv, lv] w fun e w' => ∃ v, e = .returned v ∧ ∃ us B, w.heap.size ≤ B ∧ w'.ownsRow B 22 1 v ls.length us ∧ OwnT w' us (ls.map (blkA key)) ∧ Below w.heap.size w w' := by
  have hz := zero256
  obtain ⟨k, hk4, hl, hd4⟩ := hk.words
  have hkU := rk.under
  have hky := fun y (r : Row .u8 256 y kv key) => rky_any k key _ y hk4 hl r
  have hth := fun y wv sv (s : List Nat) (hs : B16 s) (rw : Row .u8 256 y wv (keysL key)) (rb2 : Row .u8 256 y sv s) => rth_any (k + 6) (keysL key) s wv sv y (by omega) (by omega) (by rw [keysL_len hl]) hs rw rb2
  have hbk : ∀ s, thN (k + 6) (keysL key) (k + 6) s = blkA key s := fun s => by unfold blkA; rw [hd4]
  simp only [hbk] at hth
  obtain ⟨BL, hBL⟩ : ∃ l, l = vals .u8 boxT := ⟨_, rfl⟩
  obtain ⟨UL, hUL⟩ : ∃ l, l = vals .u8 unT := ⟨_, rfl⟩
  have e1 : arr .u8 boxT = BL.toArray := by rw [hBL]; rfl
  have e2 : arr .u8 unT = UL.toArray := by rw [hUL]; rfl
  have s1 : (Try.prog.info? 74).map (·.size) = some BL.length := by rw [hBL, vals_length, boxT_len]; kernel_rfl
  have s2 : (Try.prog.info? 74).map (·.size) = some UL.length := by rw [hUL, vals_length, unT_len]; kernel_rfl
  have q1 : BL.length = 256 := by rw [hBL, vals_length, boxT_len]
  have q2 : UL.length = 256 := by rw [hUL, vals_length, unT_len]
  have a1 : (BL.toArray).all (·.oneCell') = true := by rw [← e1]; exact arr_one _ _
  have a2 : (UL.toArray).all (·.oneCell') = true := by rw [← e2]; exact arr_one _ _
  have hu : Try.prog.underlying 74 = some (.array 256 5) := Try.underlying74
  have hbx := fun y => rboxes_any y
  rw [e1] at hky hth
  rw [e1, e2] at hbx
  have HE : Hid (BL = vals .u8 boxT ∧ UL = vals .u8 unT) := hide (And.intro hBL hUL)
  clear hBL hUL e1 e2 hd4 hl hk4 hk hbk
  generalize hT : blkA key = T at *
  clear hT
  obtain ⟨n, hnn⟩ : ∃ x : Nat, x = ls.length := ⟨_, rfl⟩
  have rl' := rl
  obtain ⟨la, lc, rfl, m1, m2, hc⟩ := rl'
  unfold maxLen at m2
  rw [← hnn] at m1 hc hn ⊢
  have HN := hide (And.intro hnn (And.intro hc hls))
  have HT := hide hth
  clear hnn hc hls hth
  go_enter Try.func48, Try.ntmps48
  go_wp2_with (first
    | (go_at_call 55; refine (hbx _).mono ?_; rintro e w2 ⟨rfl, hb2⟩; obtain ⟨L0, L2, R0, R1, hbX⟩ := two_tabs w2 BL UL HE.out)
    | (refine wpList_store_row rfl 74 _ _ (by rfl) w2.heap.size BL.toArray (by rfl) (by rfl) 74 _ L0 (by rw [List.size_toArray]; exact s1) (by rw [arr_size, zA_len, List.size_toArray, q1]) a1 ?_)
    | (refine wpList_store_row rfl 74 _ _ (by rfl) (w2.heap.size + 1) UL.toArray (by rfl) (by rfl) 74 _ L2 (by rw [List.size_toArray]; exact s2) (by rw [arr_size, zA_len, List.size_toArray, q2]) a2 ?_)
    | (refine wpList_load_mid rfl 74 _ (by rfl) w2.heap.size 0 (by rfl) BL (.array 256 5) R0 hu rfl s1 ?_)
    | (go_at_call 56; refine (hky _ ((rk.below hb2).below hbX)).mono ?_; rintro e w3 ⟨v3, rfl, o3, hb3⟩)
    | fail)
  have hbw3 := keep_trans (keep_trans hb2 hbX) hb3
  have R3 := range_belowA R0 hb3
  have r3 := o3.row
  have rl3 := rl.below hbw3
  have hGl : w2.heap.size < w3.heap.size := by
    have h1 := (World.block_lt_of_cell? _ _ (R0 0 _ (List.getElem?_eq_getElem (by omega))))
    exact Nat.lt_of_lt_of_le h1 hb3.size
  have H1 : Hid (MnL w3 T ls (.slice none 0 0) (.int .i64 0) w3) := hide ⟨0, [], Nat.zero_le _, rfl, ⟨rfl, .inl ⟨rfl, rfl⟩⟩, OwnT.nil _, Below.refl _ _⟩
  have HR := hide (And.intro rl3 (And.intro R3 (And.intro r3 (And.intro hbw3 hGl))))
  clear rl3 R3 r3 R0 R1 L0 L2 hb2 hbX hb3 hbw3 rk o3 hbx rl hGl
  generalize hG : w2.heap.size = G at *
  clear hG
  go_loopw [8, 9] (fun vo vi wr => MnL w3 T ls vo vi wr) (fun _ vi _ => n - (intOf vi).toNat)
  case atStart => exact H1.out
  case round =>
    obtain ⟨j, us, hj, rfl, how, hot, hbr⟩ := hrel
    clear H1
    rename World => wr
    obtain ⟨hnn, hc, hls⟩ := HN.out
    obtain ⟨rl3, R3, r3, hbw3, hGl⟩ := HR.out
    obtain ⟨oa, oc, rfl⟩ := own_sliceA how
    by_cases hlt : j < n
    · have hli : (j : Int) < (n : Int) := by omega
      have z_j : (0 : Int) ≤ (j : Int) := Int.natCast_nonneg _
      obtain ⟨la', lc', he, _, _, h3⟩ := rl3.below hbr
      simp only [Value.slice.injEq] at he
      obtain ⟨rfl, _, rfl⟩ := he
      obtain ⟨lb, lo, rfl, hcc⟩ := h3 (by omega)
      obtain ⟨u, hcu, hru, _⟩ := hcc j (by omega)
      have hB := hls j (by omega)
      obtain ⟨ua, uc, rfl, _⟩ := hru.opens hB.1
      have hbd : Below wr.heap.size wr wr.drew := (Below.refl _ _).drew
      have Rd := range_belowA (range_belowA R3 hbr) hbd
      have hth := HT.out wr.drew _ _ (tx ls j) hB ((r3.below hbr).below hbd) (hru.below hbd)
      have hmp : (ls.take (j + 1)).map T = (ls.take j).map T ++ [T (tx ls j)] := by rw [take_tx (by omega), List.map_append]; rfl
      obtain ⟨i0, hi, hz0, hz1, hz2⟩ := info_text
      have HX := hide (And.intro Rd (And.intro how (And.intro hot (And.intro hbr (And.intro hmp (And.intro hGl (And.intro hlt hn)))))))
      have R4 := range_belowA R3 hbr
      have HR4 := hide R4
      have hlb : lb < w3.heap.size := by
        obtain ⟨_, _, he, _, _, h4⟩ := rl3
        simp only [Value.slice.injEq] at he
        obtain ⟨he, _⟩ := he
        obtain ⟨lb2, lo2, he2, hc2⟩ := h4 (by omega)
        rw [he2] at he
        obtain ⟨u2, hcu2, _⟩ := hc2 j (by omega)
        have := World.block_lt_of_cell? _ _ hcu2
        simp only [Option.some.injEq, Addr.mk.injEq] at he
        rw [he.1]
        exact this
      have HLB := hide hlb
      have HCU := hide hcu
      have HCD := hide (keep_cell hcu hbd)
      clear rl3 R3 r3 hbw3 Rd how hot hbr hmp h3 hcc hru hB hGl hc hls hj hlt R4 hnn hn hcu hlb
      go_wp2
      go_region_held3 (fun y => y.rangeAt G 0 BL ∧ y.cell? ⟨lb, lo + j, none⟩ = some (.slice ua 16 uc))
        (first
          | with_reducible exact ⟨HX.out.1, HCD.out⟩
          | with_reducible exact ⟨range_belowA HX.out.1 hb5, keep_cell HCD.out hb5⟩
          | with_reducible exact ⟨range_belowA (range_belowA HX.out.1 hb5) (keep_alloc _ _), keep_cell (keep_cell HCD.out hb5) (keep_alloc _ _)⟩
          | with_reducible exact ⟨HR4.out, HCU.out⟩
          | (refine ⟨fun jj vv hv => hg7.cell (range_belowA (range_belowA HX.out.1 hb5) (keep_alloc _ _) jj vv hv) (fun he => ?_), hg7.cell (keep_cell (keep_cell HCD.out hb5) (keep_alloc _ _)) (fun he => ?_)⟩
             · have h2 : some G = (Value.slice oa j oc).ownBlock := he
               have g2 := (HX.out.2.1.lt G (by rw [h2])).1
               have g3 := HX.out.2.2.2.2.2.1
               omega
             · have h2 : some lb = (Value.slice oa j oc).ownBlock := he
               have g2 := (HX.out.2.1.lt lb (by rw [h2])).1
               have g3 := HLB.out
               omega))
        (first
          | (go_at_call 57; refine hth.mono ?_; rintro e w5 ⟨v5, rfl, o5, hb5⟩; obtain ⟨a5, c5, rfl⟩ := own_sliceA o5.1; have hb5' := keep_trans (un_drew hb5) (keep_alloc w5 (.cells #[.slice a5 (T (tx ls j)).length c5] 22)); have how6 := own_belowA HX.out.2.1 hb5'; have hsz6 : w3.heap.size ≤ (w5.alloc (.cells #[.slice a5 (T (tx ls j)).length c5] 22)).heap.size := Nat.le_trans HX.out.2.2.2.1.size hb5'.size)
          | (refine step_append_rows _ (by rfl) _ _ 37 37 22 (by rfl) Try.underlying37 w3.heap.size 22 i0 (.slice none 0 0) 24 Try.underlying37 hi hz0 hz1 hz2 rfl _ _ _ (by rfl) how6 (some ⟨w5.heap.size, 0, none⟩) 1 1 [.slice a5 (T (tx ls j)).length c5] (by rfl) rfl (fun _ => ⟨_, _, rfl, fun jj uu h => by
              have : jj = 0 := by have := (List.getElem?_eq_some_iff.1 h).1; simp at this; exact this
              subst this
              rw [World.cell?_alloc_at _ _ _ _ rfl]; simpa using h⟩) (fun uu hu => by simp at hu; rw [hu]; rfl) (by unfold maxLen; have := HX.out; omega) (by have := HX.out; omega) hsz6 ?_; intro v7 w7 how7 hg7))
      go_wp2
      obtain ⟨_, how, hot, hbr, hmp, hGl, hlt, hn⟩ := HX.out
      have hbz := (hbr.trans (hb5'.mono hbr.size)).grown hg7 hsz6 (fun k h => (how6.lt k h).1)
      refine ⟨⟨j + 1, us ++ [.slice a5 (T (tx ls j)).length c5], by have := HN.out.1; omega, by go_num, how7, ?_, hbz⟩, by simp [intOf]; omega⟩
      rw [hmp]
      exact ((hot.below (keep_trans (un_drew hb5) (keep_alloc _ _))).snoc ⟨own_belowA (o5.mono (Nat.zero_le _)).1 (keep_alloc _ _), o5.2⟩).grown how6 hg7
    · have hge : ¬ ((j : Int) < (n : Int)) := by omega
      obtain rfl : j = n := by omega
      have HX := hide (And.intro how (And.intro hot (And.intro hbr (And.intro hbw3 hnn))))
      clear rl3 R3 r3 hbw3 how hot hbr hc hls hj hlt hGl hnn
      go_wp2
      go_ret
      obtain ⟨g1, g2, g3, g4, g5⟩ := HX.out
      rw [g5, List.take_of_length_le (Nat.le_refl _)] at g2
      exact ⟨_, rfl, us, w3.heap.size, g4.size, g1, g2, g4.trans (g3.mono g4.size)⟩
end Go.Proofs.Ytjeofkemfpdieaa
