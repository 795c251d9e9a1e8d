/- Where the code's Chain and Unchain refuse. -/
import Derived.Test.YteiknfcegchbcaaJPd
import Derived.Test.YteiknfcegchbcaaABl
import Derived.Test.YteiknfcegchbcaaAesW
namespace Go.Proofs.Yteiknfcegchbcaa
open Go.RowKit Go.Shelf
set_option linter.unusedVariables false
set_option linter.unusedSimpArgs false

set_option maxHeartbeats 2000000 in
set_option maxRecDepth 100000 in
theorem cch_key (key : List Nat) (kv fv pv : Value) (w : World) (rk : Row .u8 256 w kv key) (hk : ¬ Sz3 key.length) :
    Calls Try.prog 13 #[kv, fv, pv] w fun e w' => e = .returned (.tuple #[.slice none 0 0, .int .i64 10]) ∧ Below w.heap.size w w' := by
  have hf := fit_key key kv fv w rk hk
  go_enter Try.func13, Try.ntmps13
  go_wp2_with (first | (go_at_call 21; refine hf.mono ?_; rintro e w1 ⟨rfl, hy⟩; obtain rfl := hy.symm) | fail)
  go_ret2
  exact ⟨rfl, Below.refl _ _⟩
set_option maxHeartbeats 2000000 in
set_option maxRecDepth 100000 in
theorem cch_size (key f : List Nat) (kv fv pv : Value) (w : World) (rk : Row .u8 256 w kv key) (rf : Row .u8 256 w fv f) (hk : Sz3 key.length) (hf : f.length ≠ 16) :
    Calls Try.prog 13 #[kv, fv, pv] w fun e w' => e = .returned (.tuple #[.slice none 0 0, .int .i64 14]) ∧ Below w.heap.size w w' := by
  have hf := fit_size key f kv fv w rk rf hk hf
  go_enter Try.func13, Try.ntmps13
  go_wp2_with (first | (go_at_call 21; refine hf.mono ?_; rintro e w1 ⟨rfl, hy⟩; obtain rfl := hy.symm) | fail)
  go_ret2
  exact ⟨rfl, Below.refl _ _⟩
set_option maxHeartbeats 2000000 in
set_option maxRecDepth 100000 in
theorem cun_key (key : List Nat) (kv fv pv : Value) (w : World) (rk : Row .u8 256 w kv key) (hk : ¬ Sz3 key.length) :
    Calls Try.prog 15 #[kv, fv, pv] w fun e w' => e = .returned (.tuple #[.slice none 0 0, .int .i64 10]) ∧ Below w.heap.size w w' := by
  have hf := fit_key key kv fv w rk hk
  go_enter Try.func15, Try.ntmps15
  go_wp2_with (first | (go_at_call 21; refine hf.mono ?_; rintro e w1 ⟨rfl, hy⟩; obtain rfl := hy.symm) | fail)
  go_ret2
  exact ⟨rfl, Below.refl _ _⟩
set_option maxHeartbeats 2000000 in
set_option maxRecDepth 100000 in
theorem cun_size1 (key f : List Nat) (kv fv pv : Value) (w : World) (rk : Row .u8 256 w kv key) (rf : Row .u8 256 w fv f) (hk : Sz3 key.length) (hf : f.length ≠ 16) :
    Calls Try.prog 15 #[kv, fv, pv] w fun e w' => e = .returned (.tuple #[.slice none 0 0, .int .i64 14]) ∧ Below w.heap.size w w' := by
  have hf := fit_size key f kv fv w rk rf hk hf
  go_enter Try.func15, Try.ntmps15
  go_wp2_with (first | (go_at_call 21; refine hf.mono ?_; rintro e w1 ⟨rfl, hy⟩; obtain rfl := hy.symm) | fail)
  go_ret2
  exact ⟨rfl, Below.refl _ _⟩
set_option maxHeartbeats 2000000 in
set_option maxRecDepth 100000 in
theorem cun_size2 (key f p : List Nat) (kv fv pv : Value) (w : World) (rk : Row .u8 256 w kv key) (rf : Row .u8 256 w fv f) (rp : Row .u8 256 w pv p) (hk : Sz3 key.length) (hf : f.length = 16) (hp : p.length = 0) :
    Calls Try.prog 15 #[kv, fv, pv] w fun e w' => e = .returned (.tuple #[.slice none 0 0, .int .i64 14]) ∧ Below w.heap.size w w' := by
  have hf := fit_ok key f kv fv w rk rf hk hf
  obtain ⟨pa, pc, rfl, _⟩ := rp.opens hp
  go_enter Try.func15, Try.ntmps15
  go_wp2_with (first | (go_at_call 21; refine hf.mono ?_; rintro e w1 ⟨rfl, hy⟩; obtain rfl := hy.symm) | fail)
  go_ret2
  exact ⟨rfl, Below.refl _ _⟩
set_option maxHeartbeats 2000000 in
set_option maxRecDepth 100000 in
theorem cun_size3 (key f p : List Nat) (kv fv pv : Value) (w : World) (rk : Row .u8 256 w kv key) (rf : Row .u8 256 w fv f) (rp : Row .u8 256 w pv p) (hk : Sz3 key.length) (hf : f.length = 16) (hp : p.length % 16 ≠ 0) :
    Calls Try.prog 15 #[kv, fv, pv] w fun e w' => e = .returned (.tuple #[.slice none 0 0, .int .i64 14]) ∧ Below w.heap.size w w' := by
  have hf := fit_ok key f kv fv w rk rf hk hf
  obtain ⟨Z, hZ⟩ : ∃ x : Nat, x = p.length := ⟨_, rfl⟩
  obtain ⟨pa, pc, rfl, _⟩ := rp.opens hZ.symm
  obtain ⟨Q, hQ⟩ : ∃ x : Nat, x = Z % 16 := ⟨_, rfl⟩
  have e_Q : (Z : Int) % 16 = (Q : Int) := by omega
  have t_Q : (Z : Int).tmod 16 = (Q : Int) := by rw [Int.tmod_eq_emod_of_nonneg (by omega)]; exact e_Q
  have z_0 : ¬ ((Z : Int) = 0) := by omega
  have z_Q : ¬ ((Q : Int) = 0) := by omega
  have z_0b : ((Z : Int) == 0) = false := beq_eq_false_iff_ne.2 z_0
  have z_Qb : ((Q : Int) == 0) = false := beq_eq_false_iff_ne.2 z_Q
  have z_Qn : ((Q : Int) != 0) = true := by simp [bne, z_Qb]
  clear hp hZ hQ
  go_enter Try.func15, Try.ntmps15
  go_wp2_with (first | (go_at_call 21; refine hf.mono ?_; rintro e w1 ⟨rfl, hy⟩; obtain rfl := hy.symm) | fail)
  go_ret2
  exact ⟨rfl, Below.refl _ _⟩
end Go.Proofs.Yteiknfcegchbcaa

/- The document's Chain. -/
namespace Go.Proofs.Yteiknfcegchbcaa
open Go.RowKit
set_option linter.unusedVariables false
set_option linter.unusedSimpArgs false

theorem row_grownA {k : IntKind} {m : Nat} {w w' : World} {v : Value} {l : List Nat} {row : Option Nat} (h : Row k m w v l) (hg : w.grownBy w' row) (hne : ∀ q, v.ownBlock = some q → some q ≠ row) : Row k m w' v l := by
  obtain ⟨a, cap, rfl, h1, h2, h3, h4⟩ := h
  refine ⟨a, cap, rfl, h1, h2, fun hl => ?_, h4⟩
  obtain ⟨b, off, rfl, hc⟩ := h3 hl
  exact ⟨b, off, rfl, fun i hi => hg.cell (hc i hi) (hne b rfl)⟩
theorem xrL_xr2 {a b : List Nat} (ha : a.length = 16) (hb : b.length = 16) : xrL a b = xr2 a b := by
  refine ext16 (by simp [xrL, ha, hb]) (of16_len _) fun i hi => ?_
  unfold xrL xr2
  rw [of16_el _ hi, el_at (by simp [ha, hb]; omega)]
  simp
theorem two_tabs (y : World) (BL UL : List Value) (h : BL = vals .u8 boxT ∧ UL = vals .u8 unT) :
    Lies .u8 47 ((y.alloc (.cells (arr .u8 (zA 256)) 47)).alloc (.cells (arr .u8 (zA 256)) 47)) y.heap.size (zA 256) ∧ Lies .u8 47 (((y.alloc (.cells (arr .u8 (zA 256)) 47)).alloc (.cells (arr .u8 (zA 256)) 47)).setRow y.heap.size BL.toArray) (y.heap.size + 1) (zA 256) ∧
    ((((y.alloc (.cells (arr .u8 (zA 256)) 47)).alloc (.cells (arr .u8 (zA 256)) 47)).setRow y.heap.size BL.toArray).setRow (y.heap.size + 1) UL.toArray).rangeAt y.heap.size 0 BL ∧ ((((y.alloc (.cells (arr .u8 (zA 256)) 47)).alloc (.cells (arr .u8 (zA 256)) 47)).setRow y.heap.size BL.toArray).setRow (y.heap.size + 1) UL.toArray).rangeAt (y.heap.size + 1) 0 UL ∧ Below y.heap.size y ((((y.alloc (.cells (arr .u8 (zA 256)) 47)).alloc (.cells (arr .u8 (zA 256)) 47)).setRow y.heap.size BL.toArray).setRow (y.heap.size + 1) UL.toArray) := by
  have L0 := (Lies.new .u8 47 y (zA 256)).alloc (.cells (arr .u8 (zA 256)) 47)
  have L1 := Lies.new .u8 47 (y.alloc (.cells (arr .u8 (zA 256)) 47)) (zA 256)
  rw [World.size_alloc] at L1
  have L2 : Lies .u8 47 (((y.alloc (.cells (arr .u8 (zA 256)) 47)).alloc (.cells (arr .u8 (zA 256)) 47)).setRow y.heap.size BL.toArray) (y.heap.size + 1) (zA 256) := L1.but ((But.refl _ _).setRow _) (by omega)
  have bN : But y.heap.size _ _ := (But.refl y.heap.size ((y.alloc (.cells (arr .u8 (zA 256)) 47)).alloc (.cells (arr .u8 (zA 256)) 47))).setRow BL.toArray
  have bM : But (y.heap.size + 1) _ _ := (But.refl (y.heap.size + 1) (((y.alloc (.cells (arr .u8 (zA 256)) 47)).alloc (.cells (arr .u8 (zA 256)) 47)).setRow y.heap.size BL.toArray)).setRow UL.toArray
  have M0 : Lies .u8 47 ((((y.alloc (.cells (arr .u8 (zA 256)) 47)).alloc (.cells (arr .u8 (zA 256)) 47)).setRow y.heap.size BL.toArray).setRow (y.heap.size + 1) UL.toArray) y.heap.size boxT := by
    refine Lies.but ?_ bM (by omega)
    rw [h.1]
    exact L0.row
  have M1 : Lies .u8 47 ((((y.alloc (.cells (arr .u8 (zA 256)) 47)).alloc (.cells (arr .u8 (zA 256)) 47)).setRow y.heap.size BL.toArray).setRow (y.heap.size + 1) UL.toArray) (y.heap.size + 1) unT := by
    rw [h.2]
    exact L2.row
  have hb2 := keep_trans (keep_alloc y (.cells (arr .u8 (zA 256)) 47)) (keep_alloc _ (.cells (arr .u8 (zA 256)) 47))
  have hb3 := hb2.trans (bN.below (by omega) hb2.size)
  have R0 := lies_rangeA M0
  have R1 := lies_rangeA M1
  rw [← h.1] at R0
  rw [← h.2] at R1
  exact ⟨L0, L2, R0, R1, hb3.trans (bM.below (by omega) hb3.size)⟩
/-- a text being filled up -/
def padK (p : List Nat) (i : Nat) : List Nat := p ++ List.replicate i (padN p)
theorem padK_next (p : List Nat) (i : Nat) : padK p (i + 1) = padK p i ++ [padN p] := by unfold padK; rw [List.replicate_succ', List.append_assoc]
theorem padK_all (p : List Nat) : padK p (padN p) = padL p := rfl
def ChA (B : Nat) (w : World) (p : List Nat) (v vi : Value) (wr : World) : Prop := ∃ i : Nat, i ≤ padN p ∧ vi = .int .i64 (i : Int) ∧ wr.ownsRow B 5 1 v (p.length + i) (vals .u8 (padK p i)) ∧ Below B w wr
/-- where the loop of blocks stands -/
def ChB (x : World) (T : List Nat → List Nat) (f L : List Nat) (n : Nat) (vo vl vi : Value) (wr : World) : Prop := ∃ j : Nat, j ≤ n ∧ vi = .int .i64 ((16 * j : Nat) : Int) ∧ wr.ownsRow x.heap.size 5 1 vo (16 * j) (vals .u8 (outC T f L j)) ∧ Row .u8 256 wr vl (lastC T f L j) ∧ Below x.heap.size x wr
set_option maxHeartbeats 10000000 in
set_option maxRecDepth 100000 in
theorem rch_ok (key f p : List Nat) (kv fv pv : Value) (w : World) (rk : Row .u8 256 w kv key) (rf : Row .u8 256 w fv f) (rp : Row .u8 256 w pv p) (tp : Tidy pv) (hk : SzK key) (hf : f.length = 16) (hp : p.length ≤ 100000) :
    Calls Try.prog 14 #[kv, fv, pv] w fun e w' => ∃ v, e = .returned (.tuple #[v, .int .i64 0]) ∧ Row .u8 256 w' v (outC (blkA key) f (padL p) (p.length / 16 + 1)) ∧ New w.heap.size v ∧ Below w.heap.size w w' := by
  obtain ⟨i0, hi, hz0, hz1, hz2⟩ := info_parts Try.info5
  have hz := zero256
  have hzd : decide (key.length = 16 ∨ key.length = 24 ∨ key.length = 32) = true := decide_eq_true hk
  have hsz := rsz_any key kv w rk
  rw [hzd] at hsz
  obtain ⟨k, hk4, hl, hd4⟩ := hk.words
  have hfB : B16 f := ⟨hf, rf.under⟩
  have hkU := rk.under
  have hpU := rp.under
  obtain ⟨fa, fc, rfl, l1, l2, _⟩ := rf.opens hf
  obtain ⟨ka, kc, rfl, l3, l4, _⟩ := rk.opens rfl
  obtain ⟨pa, pc, rfl, l5, l6, _⟩ := rp.opens rfl
  have hky := fun y (r : Row .u8 256 y (.slice ka key.length kc) key) => rky_any k key _ y hk4 hl r
  have hth := fun y wv sv (s : List Nat) (hs : B16 s) (rw : Row .u8 256 y wv (keysL key)) (rb2 : Row .u8 256 y sv s) => rth_any (k + 6) (keysL key) s wv sv y (by omega) (by omega) (by rw [keysL_len hl]) hs rw rb2
  have hbk : ∀ s, thN (k + 6) (keysL key) (k + 6) s = blkA key s := fun s => by unfold blkA; rw [hd4]
  simp only [hbk] at hth
  have hTb : ∀ s, B16 s → B16 (blkA key s) := fun s h => blkA_b hkU h
  obtain ⟨BL, hBL⟩ : ∃ l, l = vals .u8 boxT := ⟨_, rfl⟩
  obtain ⟨UL, hUL⟩ : ∃ l, l = vals .u8 unT := ⟨_, rfl⟩
  have e1 : arr .u8 boxT = BL.toArray := by rw [hBL]; rfl
  have e2 : arr .u8 unT = UL.toArray := by rw [hUL]; rfl
  have s1 : (Try.prog.info? 47).map (·.size) = some BL.length := by rw [hBL, vals_length, boxT_len]; kernel_rfl
  have s2 : (Try.prog.info? 47).map (·.size) = some UL.length := by rw [hUL, vals_length, unT_len]; kernel_rfl
  have q1 : BL.length = 256 := by rw [hBL, vals_length, boxT_len]
  have q2 : UL.length = 256 := by rw [hUL, vals_length, unT_len]
  have a1 : (BL.toArray).all (·.oneCell') = true := by rw [← e1]; exact arr_one _ _
  have a2 : (UL.toArray).all (·.oneCell') = true := by rw [← e2]; exact arr_one _ _
  have hu : Try.prog.underlying 47 = some (.array 256 5) := Try.underlying47
  have hbx := fun y => rboxes_any y
  rw [e1] at hky hth
  rw [e1, e2] at hbx
  have HE := hide (And.intro hBL hUL)
  have HP := hide (And.intro s1 (And.intro s2 (And.intro q1 (And.intro q2 (And.intro a1 (And.intro a2 hu))))))
  have HK := hide (And.intro hky (And.intro hth hTb))
  have HU := hide (And.intro hfB (And.intro hkU hpU))
  clear hBL hUL e1 e2 hd4 hzd hl hk4 hk hf s1 s2 q1 q2 a1 a2 hu hky hth hTb hbk hfB hkU hpU
  generalize hT : blkA key = T at *
  clear hT
  obtain ⟨N, hN⟩ : ∃ x : Nat, x = padN p := ⟨_, rfl⟩
  have hN16 := padN_le p
  obtain ⟨M, hM⟩ : ∃ x : Nat, x = p.length % 16 := ⟨_, rfl⟩
  have e_M : (p.length : Int) % 16 = (M : Int) := by omega
  have t_M : (p.length : Int).tmod 16 = (M : Int) := by rw [Int.tmod_eq_emod_of_nonneg (by omega)]; exact e_M
  have e_N : (16 : Int) - (M : Int) = (N : Int) := by have : padN p = 16 - p.length % 16 := rfl; omega
  have s_N : IntKind.i64.wrap (N : Int) = (N : Int) := by rw [IntKind.wrap_i64]; omega
  have s_N8 : IntKind.u8.wrap (N : Int) = (N : Int) := by rw [IntKind.wrap_u8]; omega
  have hpl : ¬ ((1048576 : Int) < (p.length : Int)) := by omega
  have hN1 : 1 ≤ N ∧ N ≤ 16 := by rw [hN]; exact hN16
  have HN := hide (And.intro hN hN1)
  clear hN hM hN16 hN1
  have hnil : w.ownsRow w.heap.size 5 1 (.slice none 0 0) 0 (vals .u8 []) := ⟨rfl, .inl ⟨rfl, rfl⟩⟩
  go_enter Try.func14, Try.ntmps14
  go_wp2_with (first
    | (go_at_call 26; refine hsz.mono ?_; rintro e yy ⟨rfl, hy⟩; obtain rfl := hy.symm)
    | (at_builtin; refine wpList_appA rfl _ _ rfl w.heap.size _ _ 0 [] p rfl hnil rfl rp tp (by decide) (by omega) (Nat.le_refl _) ?_; intro v1 w1 how hg1)
    | fail)
  have hb1 := below_append' (Below.refl _ _) (Nat.le_refl _) hnil hg1
  have H0 : Hid (ChA w.heap.size w p v1 (.int .i64 0) w1) := hide ⟨0, Nat.zero_le _, rfl, by rw [Nat.zero_add] at how; show w1.ownsRow _ _ 1 v1 (p.length + 0) (vals .u8 (p ++ [])); rw [List.append_nil, Nat.add_zero]; simpa using how, hb1⟩
  clear how hg1 hb1 hnil
  go_loopw [9, 10] (fun v vi wr => ChA w.heap.size w p v vi wr) (fun _ vi _ => 16 - (intOf vi).toNat)
  case atStart => exact H0.out
  case round =>
    obtain ⟨i, hiN, rfl, how, hbr⟩ := hrel
    clear H0
    obtain ⟨va, vc, rfl⟩ := own_sliceA how
    obtain ⟨hNp, hN1, hN2⟩ := HN.out
    by_cases hlt : i < N
    · have hlti : (i : Int) < (N : Int) := by omega
      have hlit : Row .u8 256 (wr.alloc (.cells #[.int .u8 (N : Int)] 5)) (.slice (some ⟨wr.heap.size, 0, none⟩) 1 1) [N] := lit_row .u8 256 wr [N] 5 (Under.one (by omega)) (by show 1 ≤ maxLen; decide)
      have how2 := own_belowA how (keep_alloc wr (.cells #[.int .u8 (N : Int)] 5))
      have hbr2 := hbr.trans ((keep_alloc wr (.cells #[.int .u8 (N : Int)] 5)).mono hbr.size)
      have HB2 := hide hbr2
      have hsz2 : w.heap.size ≤ (wr.alloc (.cells #[.int .u8 (N : Int)] 5)).heap.size := hbr2.size
      have HSZ := hide hsz2
      obtain ⟨n4, hn4⟩ : ∃ x : Nat, x = p.length + i := ⟨_, rfl⟩
      have ln4 : n4 ≤ 1000000 := by omega
      rw [← hn4] at how2 ⊢
      have HN4 := hide hn4
      have HNP := hide hNp
      clear hn4 hbr2 how hNp hN1 hN2 hsz2
      go_wp2_with (first
        | (at_builtin; refine wpList_appA rfl _ _ rfl w.heap.size _ _ n4 _ [N] rfl how2 rfl hlit (tidy_atA _ _ _) ln4 (show 1 ≤ 1000000 by decide) HSZ.out ?_; intro v2 w2 how3 hg2)
        | fail)
      refine ⟨⟨i + 1, by have := HNP.out; omega, by go_num, ?_, HB2.out.grown hg2 HSZ.out (fun k h => (how2.lt k h).1)⟩, by simp [intOf]; omega⟩
      rw [padK_next, ← HNP.out, show p.length + (i + 1) = n4 + 1 by have := HN4.out; omega]
      exact how3
    · have hge : ¬ ((i : Int) < (N : Int)) := by omega
      obtain rfl : i = padN p := by omega
      rw [padK_all] at how
      have hLl := padL_len p
      have hpn : p.length + padN p = 16 * (p.length / 16 + 1) := by rw [← hLl]; unfold padL; rw [List.length_append, List.length_replicate]
      rw [hpn] at how ⊢
      have hLu := padL_under HU.out.2.2
      have rL : Row .u8 256 wr _ (padL p) := Own.row (e := 5) (B := w.heap.size) ⟨by rw [hLl]; exact how, hLu⟩
      have rk1 := rk.below hbr
      have rf1 := rf.below hbr
      obtain ⟨s1, s2, q1, q2, a1, a2, hu⟩ := HP.out
      obtain ⟨hky, hth, hTb⟩ := HK.out
      have hfB := HU.out.1
      obtain ⟨n, hn⟩ : ∃ x : Nat, x = p.length / 16 + 1 := ⟨_, rfl⟩
      rw [← hn] at how hLl rL ⊢
      have HNN := hide hn
      have hn7 : n ≤ 7000 := by omega
      clear hn hpn how hp hpl e_M t_M e_N s_N s_N8
      generalize hL : padL p = L at *
      have HL := hide hL
      have HLL := hide hLl
      clear hL hLl
      obtain ⟨Z, hZ⟩ : ∃ x : Nat, x = 16 * n := ⟨_, rfl⟩
      rw [← hZ] at rL ⊢
      have HZ := hide hZ
      clear hZ
      go_wp2_with (first
        | (go_at_call 27; refine (hbx _).mono ?_; rintro e w2 ⟨rfl, hb2⟩; obtain ⟨L0, L2, R0, R1, hbX⟩ := two_tabs w2 BL UL HE.out)
        | (refine wpList_store_row rfl 47 _ _ (by rfl) w2.heap.size BL.toArray (by rfl) (by rfl) 47 _ L0 (by rw [List.size_toArray]; exact s1) (by rw [arr_size, zA_len, List.size_toArray, q1]) a1 ?_)
        | (refine wpList_store_row rfl 47 _ _ (by rfl) (w2.heap.size + 1) UL.toArray (by rfl) (by rfl) 47 _ L2 (by rw [List.size_toArray]; exact s2) (by rw [arr_size, zA_len, List.size_toArray, q2]) a2 ?_)
        | (refine wpList_load_mid rfl 47 _ (by rfl) w2.heap.size 0 (by rfl) BL (.array 256 5) R0 hu rfl s1 ?_)
        | (go_at_call 29; refine (hky _ ((rk1.below hb2).below hbX)).mono ?_; rintro e w3 ⟨v3, rfl, o3, hb3⟩)
        | fail)
      have hb23 := keep_trans (keep_trans hb2 hbX) hb3
      have hbw3 := keep_trans (hbr.trans ((Below.refl _ _).mono hbr.size)) hb23
      have rL3 := rL.below hb23
      have rf3 := rf1.below hb23
      have R3 := range_belowA R0 hb3
      have r3 := o3.row
      have H1 : Hid (ChB w3 T f L n (.slice none 0 0) (.slice fa 16 fc) (.int .i64 0) w3) := hide ⟨0, Nat.zero_le _, rfl, ⟨rfl, .inl ⟨rfl, rfl⟩⟩, rf3, Below.refl _ _⟩
      have HR := hide (And.intro rL3 (And.intro R3 (And.intro r3 hbw3)))
      clear rL rL3 rf3 R3 r3 R0 R1 L0 L2 hb2 hbX hb3 hb23 hbw3 rk1 rf1 o3 hbr hbx hsz
      generalize hG : w2.heap.size = G at *
      clear hG
      go_loopw [14, 15, 16] (fun vo vl vi wr => ChB w3 T f L n vo vl vi wr) (fun _ _ vi _ => 16 * n - (intOf vi).toNat)
      case atStart => exact H1.out
      case round =>
        obtain ⟨j, hj, rfl, how, rl, hbr⟩ := hrel
        clear H1
        obtain ⟨rL3, R3, r3, hbw3⟩ := HR.out
        have rL4 := rL3.below hbr
        have R4 := range_belowA R3 hbr
        have r4 := r3.below hbr
        obtain ⟨oa, oc, rfl⟩ := own_sliceA how
        have hLl := HLL.out
        have hZ := HZ.out
        by_cases hlt : j < n
        · have bl := blkOf_b (i := j) hLu (by omega)
          have bla := lastC_b hTb hfB hLu j (by omega)
          have bx := xr2_b bl bla
          obtain ⟨P, hP⟩ : ∃ x : Nat, x = 16 * j := ⟨_, rfl⟩
          obtain ⟨Q, hQ⟩ : ∃ x : Nat, x = P + 16 := ⟨_, rfl⟩
          have hPZ : (P : Int) < (Z : Int) := by omega
          have e_Q : (P : Int) + 16 = (Q : Int) := by omega
          have s_Q : IntKind.i64.wrap (Q : Int) = (Q : Int) := by rw [IntKind.wrap_i64]; omega
          obtain ⟨_, Lc, he, lc1, lc2, g3⟩ := rL4.opens (N := Z) (by omega)
          simp only [Value.slice.injEq] at he
          obtain ⟨rfl, _, rfl⟩ := he
          obtain ⟨Lb, Lo, rfl, _⟩ := g3 (by omega)
          have rB := rL4.mid (i := P) (j := Q) (by omega) (by omega)
          rw [show Q - P = 16 by omega, show ((L.drop P).take 16) = blkOf L j by rw [hP]; rfl] at rB
          have z_P : (0 : Int) ≤ (P : Int) := Int.natCast_nonneg _
          have l_PQ : (P : Int) ≤ (Q : Int) := by omega
          have l_Qc : (Q : Int) ≤ (vc : Int) := by omega
          have d_QP : Q - P = 16 := by omega
          have n_cP : ¬ vc = P := by omega
          have hnx : lastC T f L (j + 1) = T (xr2 (blkOf L j) (lastC T f L j)) := rfl
          have hbd : Below wr.heap.size wr wr.drew := (Below.refl _ _).drew
          have hxo := rxr_any _ _ _ _ wr.drew (rB.below hbd) (rl.below hbd) (by rw [bl.1]; decide)
          rw [xrL_xr2 bl.1 bla.1] at hxo
          have bT := hTb _ bx
          have Rd := range_belowA R4 hbd
          have rd := r4.below hbd
          have HX := hide (And.intro Rd (And.intro rd (And.intro how (And.intro hbr R4))))
          obtain ⟨la, lc, rfl, _⟩ := rl.opens bla.1
          have HJ := hide (And.intro hP (And.intro hQ (And.intro hnx (And.intro bx bT))))
          rw [← hP]
          clear hP hQ hnx R4 Rd rd how rB rl rL4 r4 hLl hZ g3 rL3 R3 r3 hbr bl bla
          generalize hXX : xr2 (blkOf L j) (lastC T f L j) = XX at *
          have HXX := hide hXX
          clear hXX
          go_wp2
          go_region_held3 (fun y => y.rangeAt G 0 BL)
            (first
              | with_reducible exact HX.out.1
              | with_reducible exact range_belowA HX.out.1 hb5
              | with_reducible exact range_belowA (range_belowA HX.out.1 hb5) hb6
              | with_reducible exact HX.out.2.2.2.2)
            (first
              | (go_at_call 37; refine hxo.mono ?_; rintro e w5 ⟨v5, rfl, o5, hb5⟩)
              | (go_at_call 28; refine (hth _ _ _ _ HJ.out.2.2.2.1 (HX.out.2.1.below hb5) o5.row).mono ?_; rintro e w6 ⟨v6, rfl, o6, hb6⟩))
          have hb56 := keep_trans (un_drew hb5) hb6
          have how6 := own_belowA HX.out.2.2.1 hb56
          obtain ⟨la6, lc6, rfl, _⟩ := o6.row.opens HJ.out.2.2.2.2.1
          have l6 := HJ.out.2.2.2.2.1
          have ln4 : P ≤ 1000000 := by have := HJ.out.1; omega
          have hsz6 : w3.heap.size ≤ w6.heap.size := Nat.le_trans HX.out.2.2.2.1.size hb56.size
          rw [← HJ.out.1] at how6
          go_wp2_with (first
            | (at_builtin; refine wpList_appA rfl _ _ rfl w3.heap.size _ _ P _ (T XX) rfl how6 rfl o6.row (row_tidyA o6.row (by rw [l6]; decide)) ln4 (by rw [l6]; decide) hsz6 ?_; intro v7 w7 how7 hg7)
            | fail)
          obtain ⟨hP, hQ, hnx, _, bT⟩ := HJ.out
          obtain ⟨_, _, how, hbr, _⟩ := HX.out
          have hbz := (hbr.trans (hb56.mono hbr.size)).grown hg7 hsz6 (fun k h => (how6.lt k h).1)
          refine ⟨⟨j + 1, by omega, vint (by omega), ?_, ?_, hbz⟩, by simp [intOf]; omega⟩
          · show w7.ownsRow _ _ 1 v7 (16 * (j + 1)) (vals .u8 (outC T f L j ++ lastC T f L (j + 1)))
            rw [hnx, show 16 * (j + 1) = P + (T XX).length by rw [l6]; omega]
            exact how7
          · rw [hnx]
            refine row_grownA o6.row hg7 (fun q hq he => ?_)
            have g1 := o6.new q hq
            have h2 : some q = (Value.slice oa P oc).ownBlock := he
            have g2 := (how.lt q (by rw [h2]; cases oa <;> rfl)).2
            have g3 := (un_drew hb5).size
            omega
        · have hge : ¬ (((16 * j : Nat) : Int) < (Z : Int)) := by omega
          obtain rfl : j = n := by omega
          have hU := outC_under hTb hfB hLu j (by omega)
          have hOl := outC_len hTb hfB hLu j (by omega)
          have oo : Own 5 .u8 256 wr w3.heap.size (.slice oa (16 * j) oc) (outC T f L j) := ⟨by rw [hOl]; exact how, hU⟩
          have hbz := hbw3.trans (hbr.mono hbw3.size)
          obtain ⟨P, hP⟩ : ∃ x : Nat, x = 16 * j := ⟨_, rfl⟩
          rw [← hP] at hge oo ⊢
          clear hP how hLl hZ rL4 hOl
          go_wp2
          go_ret2
          rw [HL.out, ← HNN.out]
          exact ⟨_, rfl, oo.row, (oo.mono hbw3.size).new, hbz⟩
end Go.Proofs.Yteiknfcegchbcaa
