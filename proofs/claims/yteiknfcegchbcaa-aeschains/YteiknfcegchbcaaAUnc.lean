/- The document's Unchain. -/
import Derived.Test.YteiknfcegchbcaaJRf
import Derived.Test.YteiknfcegchbcaaJCh
namespace Go.Proofs.Yteiknfcegchbcaa
open Go.RowKit
set_option linter.unusedVariables false
set_option linter.unusedSimpArgs false

/-- append of a row that is not empty onto one of the call's own, as a step of a drawn region -/
theorem step_appA {w : World} {ops : Array Oper} {o : Oper} {a : Act} {K : Act → World → Prop} {Q : Exit → Act → World → Prop} {E : Prop} (hgd : o.guard = none) (s x : Operand) (ho : o.op = .call { callee := .builtin .append, args := #[s, x], argTypes := #[22, 22] })
    (base : Nat) (v bv : Value) (n : Nat) (l b : List Nat) (hs : a.eval s = v) (hown : w.ownsRow base 5 1 v n (vals .u8 l)) (hx : a.eval x = bv) (rb : Row .u8 256 w bv b) (hb0 : 0 < b.length) (hn : n ≤ 1000000) (hb : b.length ≤ 1000000) (hbase : base ≤ w.heap.size)
    (h : ∀ v' w', w'.ownsRow base 5 1 v' (n + b.length) (vals .u8 (l ++ b)) → w.grownBy w' v.ownBlock → K (a.put o.dst v') w') :
    if Region.wanted o (yielded ops a.tmps) = true then Oper.wp Try.prog o a w K Q else E := by
  have hw : Region.wanted o (yielded ops a.tmps) = true := by simp [Region.wanted, hgd]
  rw [if_pos hw]
  obtain ⟨i0, hi, hz0, hz1, hz2⟩ := info_parts Try.info5
  obtain ⟨ba, bc, rfl, h1, h2, h3, h4⟩ := rb
  have h3' := h3
  obtain ⟨bb, off, rfl, _⟩ := h3 hb0
  obtain ⟨v', w', hr, r1, r2, _⟩ := run_append_own (P := Try.prog) w base 22 o.type 5 i0 (.int .u8 0) 1 1 Try.underlying22 hi hz0 hz1 hz2 rfl (by decide) v n _ hown ⟨bb, off, none⟩ b.length bc (vals .u8 b) (by rw [vals_length, Nat.mul_one]) (cells_news h3') (vals_one _ _) (by unfold maxLen; omega) (by omega) hbase
  unfold Oper.wp execOp
  simp only [ho, resolve, invoke, builtin, Sem.run_bind, Sem.run_pure, Result.andThen_ok, List.map_toArray, List.map_cons, List.map_nil, hs, hx, hr]
  exact h v' w' (by rw [vals_append]; exact r1) r2
/-- where the loop of blocks stands -/
def UnB (x : World) (B : List Nat → List Nat) (f C : List Nat) (n : Nat) (vo vl vi : Value) (wr : World) : Prop := ∃ j : Nat, j ≤ n ∧ vi = .int .i64 ((16 * j : Nat) : Int) ∧ wr.ownsRow x.heap.size 5 1 vo (16 * j) (vals .u8 (outU B f C j)) ∧ Row .u8 256 wr vl (prevU f C j) ∧ Below x.heap.size x wr
set_option maxHeartbeats 10000000 in
set_option maxRecDepth 100000 in
theorem run_ok (key f p : List Nat) (kv fv pv : Value) (w : World) (rk : Row .u8 256 w kv key) (rf : Row .u8 256 w fv f) (rp : Row .u8 256 w pv p) (hk : SzK key) (hf : f.length = 16) (hp : p.length ≤ 100000) (n : Nat) (hpn : p.length = 16 * n) (hn1 : 1 ≤ n) :
    Calls Try.prog 16 #[kv, fv, pv] w fun e w' => ∃ v, e = .returned (.tuple #[v, .int .i64 (unpC (outU (bakA key) f p n))]) ∧ Row .u8 256 w' v (unpX (outU (bakA key) f p n)) ∧ New w.heap.size v ∧ Below w.heap.size w w' := by
  obtain ⟨i0, hi, hz0, hz1, hz2⟩ := info_parts Try.info5
  have hz := zero256
  have hzd : decide (key.length = 16 ∨ key.length = 24 ∨ key.length = 32) = true := decide_eq_true hk
  have hsz := rsz_any key kv w rk
  rw [hzd] at hsz
  obtain ⟨k, hk4, hl, hd4⟩ := hk.words
  have hfB : B16 f := ⟨hf, rf.under⟩
  have hkU := rk.under
  have hpU := rp.under
  obtain ⟨fa, fc, rfl, l1, l2, _⟩ := rf.opens hf
  obtain ⟨ka, kc, rfl, l3, l4, _⟩ := rk.opens rfl
  obtain ⟨pa, pc, rfl, l5, l6, _⟩ := rp.opens rfl
  have hky := fun y (r : Row .u8 256 y (.slice ka key.length kc) key) => rky_any k key _ y hk4 hl r
  have hth := fun y wv sv (s : List Nat) (hs : B16 s) (rw : Row .u8 256 y wv (keysL key)) (rb2 : Row .u8 256 y sv s) => rbk_any (k + 6) (keysL key) s wv sv y (by omega) (by rw [keysL_len hl]) hs rw rb2
  have hbk : ∀ s, bkN (k + 6) (keysL key) (k + 6) s = bakA key s := fun s => by unfold bakA; rw [hd4]
  simp only [hbk] at hth
  have hTb : ∀ s, B16 s → B16 (bakA key s) := fun s h => bakA_b hkU h
  obtain ⟨BL, hBL⟩ : ∃ l, l = vals .u8 boxT := ⟨_, rfl⟩
  obtain ⟨UL, hUL⟩ : ∃ l, l = vals .u8 unT := ⟨_, rfl⟩
  have e1 : arr .u8 boxT = BL.toArray := by rw [hBL]; rfl
  have e2 : arr .u8 unT = UL.toArray := by rw [hUL]; rfl
  have s1 : (Try.prog.info? 47).map (·.size) = some BL.length := by rw [hBL, vals_length, boxT_len]; kernel_rfl
  have s2 : (Try.prog.info? 47).map (·.size) = some UL.length := by rw [hUL, vals_length, unT_len]; kernel_rfl
  have q1 : BL.length = 256 := by rw [hBL, vals_length, boxT_len]
  have q2 : UL.length = 256 := by rw [hUL, vals_length, unT_len]
  have a1 : (BL.toArray).all (·.oneCell') = true := by rw [← e1]; exact arr_one _ _
  have a2 : (UL.toArray).all (·.oneCell') = true := by rw [← e2]; exact arr_one _ _
  have hu : Try.prog.underlying 47 = some (.array 256 5) := Try.underlying47
  have hbx := fun y => rboxes_any y
  rw [e1] at hky
  rw [e2] at hth
  rw [e1, e2] at hbx
  have HE := hide (And.intro hBL hUL)
  have HP := hide (And.intro s1 (And.intro s2 (And.intro q1 (And.intro q2 (And.intro a1 (And.intro a2 hu))))))
  have HK := hide (And.intro hky (And.intro hth hTb))
  have HU := hide (And.intro hfB (And.intro hkU hpU))
  clear hBL hUL e1 e2 hd4 hzd hl hk4 hk hf s1 s2 q1 q2 a1 a2 hu hky hth hTb hbk hfB hkU hpU
  generalize hT : bakA key = T at *
  clear hT
  have c_0 : ¬ ((p.length : Int) = 0) := by omega
  have c_0b : ((p.length : Int) == 0) = false := beq_eq_false_iff_ne.2 c_0
  have e_M : (p.length : Int) % 16 = 0 := by omega
  have t_M : (p.length : Int).tmod 16 = 0 := by rw [Int.tmod_eq_emod_of_nonneg (by omega)]; exact e_M
  have hpl : ¬ ((1048592 : Int) < (p.length : Int)) := by omega
  have HPN := hide (And.intro hpn (And.intro hn1 hp))
  clear hpn
  obtain ⟨s1, s2, q1, q2, a1, a2, hu⟩ := HP.out
  obtain ⟨hky, hth, hTb⟩ := HK.out
  have hfB := HU.out.1
  have hLu := HU.out.2.2
  have rL := rp
  generalize hZ : p.length = Z at *
  have HZ := hide hZ
  clear hZ
  go_enter Try.func16, Try.ntmps16
  go_wp2_with (first
    | (go_at_call 26; refine hsz.mono ?_; rintro e yy ⟨rfl, hy⟩; obtain rfl := hy.symm)
    | (go_at_call 27; refine (hbx _).mono ?_; rintro e w2 ⟨rfl, hb2⟩; obtain ⟨L0, L2, R0, R1, hbX⟩ := two_tabs w2 BL UL HE.out)
    | (refine wpList_store_row rfl 47 _ _ (by rfl) w2.heap.size BL.toArray (by rfl) (by rfl) 47 _ L0 (by rw [List.size_toArray]; exact s1) (by rw [arr_size, zA_len, List.size_toArray, q1]) a1 ?_)
    | (refine wpList_store_row rfl 47 _ _ (by rfl) (w2.heap.size + 1) UL.toArray (by rfl) (by rfl) 47 _ L2 (by rw [List.size_toArray]; exact s2) (by rw [arr_size, zA_len, List.size_toArray, q2]) a2 ?_)
    | (refine wpList_load_mid rfl 47 _ (by rfl) w2.heap.size 0 (by rfl) BL (.array 256 5) R0 hu rfl s1 ?_)
    | (go_at_call 29; refine (hky _ ((rk.below hb2).below hbX)).mono ?_; rintro e w3 ⟨v3, rfl, o3, hb3⟩)
    | fail)
  have hb23 := keep_trans (keep_trans hb2 hbX) hb3
  have rL3 := rL.below hb23
  have rf3 := rf.below hb23
  have R3 := range_belowA R1 hb3
  have r3 := o3.row
  have hG3 : w2.heap.size + 1 < w3.heap.size := by
    have g1 := World.block_lt_of_cell? _ _ (R3 0 _ (List.getElem?_eq_getElem (by rw [q2]; decide)))
    exact g1
  have H1 : Hid (UnB w3 T f p n (.slice none 0 0) (.slice fa 16 fc) (.int .i64 0) w3) := hide ⟨0, Nat.zero_le _, rfl, ⟨rfl, .inl ⟨rfl, rfl⟩⟩, rf3, Below.refl _ _⟩
  have HR := hide (And.intro rL3 (And.intro R3 (And.intro r3 (And.intro hb23 hG3))))
  clear rL rL3 rf3 R3 r3 R0 R1 L0 L2 hb2 hbX hb3 hb23 o3 hbx hsz rp rk rf hG3
  generalize hG : w2.heap.size = G at *
  clear hG
  go_loopw [11, 12, 13] (fun vo vl vi wr => UnB w3 T f p n vo vl vi wr) (fun _ _ vi _ => 16 * n - (intOf vi).toNat)
  case atStart => exact H1.out
  case round =>
    obtain ⟨j, hj, rfl, how, rl, hbr⟩ := hrel
    clear H1
    obtain ⟨rL3, R3, r3, hbw3, hG3⟩ := HR.out
    have rL4 := rL3.below hbr
    have R4 := range_belowA R3 hbr
    have r4 := r3.below hbr
    obtain ⟨oa, oc, rfl⟩ := own_sliceA how
    obtain ⟨hZn, hn1, hZb⟩ := HPN.out
    have hLl := HZ.out
    by_cases hlt : j < n
    · have bl := blkOf_b (L := p) (i := j) hLu (by omega)
      have bla := prevU_b hfB hLu j (by omega)
      obtain ⟨P, hP⟩ : ∃ x : Nat, x = 16 * j := ⟨_, rfl⟩
      obtain ⟨Q, hQ⟩ : ∃ x : Nat, x = P + 16 := ⟨_, rfl⟩
      have hPZ : (P : Int) < (Z : Int) := by omega
      have e_Q : (P : Int) + 16 = (Q : Int) := by omega
      have s_Q : IntKind.i64.wrap (Q : Int) = (Q : Int) := by rw [IntKind.wrap_i64]; omega
      obtain ⟨_, _, he, lc1, lc2, g3⟩ := rL4.opens (N := Z) (by omega)
      simp only [Value.slice.injEq] at he
      obtain ⟨rfl, _, rfl⟩ := he
      obtain ⟨Lb, Lo, rfl, _⟩ := g3 (by omega)
      have rB := rL4.mid (i := P) (j := Q) (by omega) (by omega)
      rw [show Q - P = 16 by omega, show ((p.drop P).take 16) = blkOf p j by rw [hP]; rfl] at rB
      have z_P : (0 : Int) ≤ (P : Int) := Int.natCast_nonneg _
      have l_PQ : (P : Int) ≤ (Q : Int) := by omega
      have l_Qc : (Q : Int) ≤ (pc : Int) := by omega
      have d_QP : Q - P = 16 := by omega
      have n_cP : ¬ pc = P := by omega
      have hnx : outU T f p (j + 1) = outU T f p j ++ xr2 (T (blkOf p j)) (prevU f p j) := rfl
      have hpv : prevU f p (j + 1) = blkOf p j := rfl
      have hbd : Below wr.heap.size wr wr.drew := (Below.refl _ _).drew
      have hbk := hth wr.drew v3 _ _ bl (r4.below hbd) (rB.below hbd)
      have bT := hTb _ bl
      have Rd := range_belowA R4 hbd
      have HX := hide (And.intro Rd (And.intro rB (And.intro how (And.intro hbr (And.intro R4 (And.intro rl hG3))))))
      obtain ⟨la, lc, rfl, _⟩ := rl.opens bla.1
      have HJ := hide (And.intro hP (And.intro hQ (And.intro hnx (And.intro hpv (And.intro bT bla)))))
      rw [← hP]
      clear hP hQ hnx hpv R4 Rd how rB rl rL4 r4 hLl hZn hn1 hZb g3 rL3 R3 r3 hbr bl hG3 hbw3
      generalize T (blkOf p j) = TX at *
      go_wp2
      go_region_held3 (fun y => y.rangeAt (G + 1) 0 UL)
        (first
          | with_reducible exact HX.out.1
          | with_reducible exact range_belowA HX.out.1 hb5
          | with_reducible exact range_belowA (range_belowA HX.out.1 hb5) hb6
          | with_reducible exact HX.out.2.2.2.2.1
          | (exact fun jj vv hv => hg7.cell (range_belowA (range_belowA HX.out.1 hb5) hb6 jj vv hv) (fun he => by
              have h2 : some (G + 1) = (Value.slice oa P oc).ownBlock := he
              have g2 := (HX.out.2.2.1.lt (G + 1) (by rw [h2]; cases oa <;> rfl)).1
              have g3 := HX.out.2.2.2.2.2.2
              omega)))
        (first
          | (go_at_call 32; refine hbk.mono ?_; rintro e w5 ⟨v5, rfl, o5, hb5⟩)
          | (go_at_call 37; refine (rxr_any _ _ _ _ _ o5.row (HX.out.2.2.2.2.2.1.below (un_drew hb5)) (by rw [HJ.out.2.2.2.2.1.1]; decide)).mono ?_; rintro e w6 ⟨v6, rfl, o6, hb6⟩; rw [xrL_xr2 HJ.out.2.2.2.2.1.1 HJ.out.2.2.2.2.2.1] at o6; have hb56 := keep_trans (un_drew hb5) hb6; have how6 := own_belowA HX.out.2.2.1 hb56; rw [← HJ.out.1] at how6; have hsz6 : w3.heap.size ≤ w6.heap.size := Nat.le_trans HX.out.2.2.2.1.size hb56.size; have ln4 : P ≤ 1000000 := by have := HJ.out.1; have := HPN.out; omega)
          | (refine step_appA (by rfl) _ _ (by rfl) w3.heap.size _ _ P _ (xr2 TX (prevU f p j)) (by rfl) how6 (by rfl) o6.row (by rw [show (xr2 TX (prevU f p j)).length = 16 from of16_len _]; decide) ln4 (by rw [show (xr2 TX (prevU f p j)).length = 16 from of16_len _]; decide) hsz6 ?_; intro v7 w7 how7 hg7))
      go_wp2
      obtain ⟨hP, hQ, hnx, hpv, bT, bla2⟩ := HJ.out
      obtain ⟨_, rB, how, hbr, _⟩ := HX.out
      have hbz := (hbr.trans (hb56.mono hbr.size)).grown hg7 hsz6 (fun k h => (how6.lt k h).1)
      refine ⟨⟨j + 1, by omega, vint (by omega), ?_, ?_, hbz⟩, by simp [intOf]; omega⟩
      · rw [hnx, show 16 * (j + 1) = P + (xr2 TX (prevU f p j)).length by rw [show (xr2 TX (prevU f p j)).length = 16 from of16_len _]; omega]
        exact how7
      · rw [hpv]
        refine row_grownA (rB.below hb56) hg7 (fun q hq he => ?_)
        have h2 : some q = (Value.slice oa P oc).ownBlock := he
        have g2 := (how6.lt q (by rw [h2])).1
        have hq' : q = Lb := by simpa [Value.ownBlock] using hq.symm
        have g4 := Row.old HR.out.1 (by have := HZ.out; have := HPN.out; omega) (q := Lb) rfl
        omega
    · obtain rfl : j = n := by omega
      have hU := outU_under hTb hfB hLu j (by omega)
      have hOl := outU_len (B := T) (f := f) (C := p) j
      have oo : Own 5 .u8 256 wr w3.heap.size (.slice oa (16 * j) oc) (outU T f p j) := ⟨by rw [hOl]; exact how, hU⟩
      have hbz := keep_trans hbw3 hbr
      have hnew := (oo.mono hbw3.size).new
      rw [← hZn] at oo hOl hnew ⊢
      have hge : ¬ ((Z : Int) < (Z : Int)) := by omega
      have hZ1 : 16 ≤ Z := by omega
      have hZ6 : Z ≤ 100000 := hZb
      generalize hX0 : outU T f p j = X at *
      have HX0 := hide hX0
      clear hX0
      have rX := oo.row
      obtain ⟨_, _, he, lo1, lo2, go3⟩ := rX.opens hOl
      simp only [Value.slice.injEq] at he
      obtain ⟨rfl, _, rfl⟩ := he
      obtain ⟨Xb, Xo, rfl, hcX⟩ := go3 (by omega)
      obtain ⟨Z1, hZ1'⟩ : ∃ x : Nat, x = Z - 1 := ⟨_, rfl⟩
      have e_Z1 : (Z : Int) - 1 = (Z1 : Int) := by omega
      have s_Z1 : IntKind.i64.wrap (Z1 : Int) = (Z1 : Int) := by rw [IntKind.wrap_i64]; omega
      have l_Z1 : (Z1 : Int) < (Z : Int) := by omega
      have cZ := hcX Z1 (by omega)
      have hx := el_lt hU (by decide) Z1
      have hno := unpO_no (X := X)
      have hyes := unpO_yes (X := X)
      rw [hOl, ← hZ1'] at hno hyes
      have hdr := fun h => drop_rep (X := X) (Z := Z) (n := el X Z1) hOl h
      have hrp := fun t h => rep_at (X := X) (Z := Z) (n := el X Z1) (t := t) hOl h
      have hcut := fun M (hM : M ≤ X.length) => rX.cut hM
      have HH := hide (And.intro hno (And.intro hyes (And.intro hdr (And.intro hrp (And.intro hcut (And.intro hbz (And.intro hnew hOl)))))))
      clear hno hyes hdr hrp hcut hbz hnew oo how hLl hZn hZb rL4 R4 r4 rL3 R3 r3 rl hbr go3 rX hZ1' hn1 hx hlt
      have hx := el_lt hU (by decide) Z1
      generalize hn0 : el X Z1 = n0 at *
      have HN0 := hide hn0
      clear hn0
      have s_n0 : IntKind.i64.wrap (n0 : Int) = (n0 : Int) := by rw [IntKind.wrap_i64]; omega
      by_cases hA : 1 ≤ n0 ∧ n0 ≤ 16
      · obtain ⟨hA1, hA2⟩ := hA
        have i_1 : ¬ ((n0 : Int) < 1) := by omega
        have i_2 : ¬ ((16 : Int) < (n0 : Int)) := by omega
        obtain ⟨S, hS⟩ : ∃ x : Nat, x = Z - n0 := ⟨_, rfl⟩
        have e_S : (Z : Int) - (n0 : Int) = (S : Int) := by omega
        have s_S : IntKind.i64.wrap (S : Int) = (S : Int) := by rw [IntKind.wrap_i64]; omega
        have HS := hide hS
        have hSZ : S ≤ Z := by omega
        clear hS
        have HCX := hide hcX
        clear hcX
        go_wp2
        go_loop [15] (fun vi => ∃ i : Nat, S ≤ i ∧ i ≤ Z ∧ vi = .int .i64 (i : Int) ∧ Hid (∀ t, S ≤ t → t < i → el X t = n0)) (fun vi => Z - (intOf vi).toNat)
        case atStart => exact ⟨S, Nat.le_refl _, hSZ, rfl, hide (fun t h1 h2 => by omega)⟩
        case round =>
          obtain ⟨i, hi1, hi2, rfl, HT⟩ := hrel
          by_cases hlt : i < Z
          · have hlti : (i : Int) < (Z : Int) := by omega
            have ci := HCX.out i hlt
            have hxi := el_lt hU (by decide) i
            have s_x : IntKind.i64.wrap (el X i : Int) = (el X i : Int) := by rw [IntKind.wrap_i64]; omega
            by_cases hq : el X i = n0
            · have HT2 : Hid (∀ t, S ≤ t → t < i + 1 → el X t = n0) := hide (fun t h1 h2 => by
                by_cases e : t = i
                · rw [e]; exact hq
                · exact HT.out t h1 (by omega))
              rw [hq] at ci
              clear hq s_x
              go_wp2
              exact ⟨⟨i + 1, by omega, by omega, by go_num, HT2⟩, by simp [intOf]; omega⟩
            · have hqi : ¬ ((el X i : Int) = (n0 : Int)) := by omega
              have HQ := hide hq
              generalize hxx : el X i = xi at *
              have HXI := hide hxx
              clear hxx hq
              go_wp2
              go_ret2
              obtain ⟨hno, hyes, hdr, hrp, hcut, hbz, hnew, hOl⟩ := HH.out
              have hN : unpO X = none := hno (fun h => HQ.out (by rw [← HXI.out]; exact hrp i h.2.2 (by have := HS.out; omega) hlt (by omega)))
              obtain ⟨u1, u2⟩ := unp_no hN
              rw [HX0.out, u1, u2]
              exact ⟨_, rfl, Row.nil _ _ _, New.nil _ _ _, hbz⟩
          · obtain rfl : i = Z := by omega
            have l_Sc : (S : Int) ≤ (oc : Int) := by omega
            have z_S : (0 : Int) ≤ (S : Int) := Int.natCast_nonneg _
            clear hlt
            go_wp2
            go_ret2
            obtain ⟨hno, hyes, hdr, hrp, hcut, hbz, hnew, hOl⟩ := HH.out
            have hS := HS.out
            have hY := hyes ⟨hA1, hA2, hdr (by omega) (fun t h1 h2 => HT.out t (by omega) h2)⟩
            obtain ⟨u1, u2⟩ := unp_yes hY
            rw [HX0.out, u1, u2, ← hS]
            exact ⟨_, rfl, hcut S (by omega), fun q hq => hnew q (by simpa [Value.ownBlock] using hq), hbz⟩
      · have hN : unpO X = none := HH.out.1 (fun h => hA ⟨h.1, h.2.1⟩)
        obtain ⟨u1, u2⟩ := unp_no hN
        have HU1 := hide (And.intro u1 u2)
        clear u1 u2 hN
        by_cases hA0 : 1 ≤ n0
        · have i_1 : ¬ ((n0 : Int) < 1) := by omega
          have i_2 : (16 : Int) < (n0 : Int) := by omega
          clear hA
          go_wp2
          go_ret2
          rw [HX0.out, HU1.out.1, HU1.out.2]
          exact ⟨_, rfl, Row.nil _ _ _, New.nil _ _ _, HH.out.2.2.2.2.2.1⟩
        · have i_1 : (n0 : Int) < 1 := by omega
          clear hA
          go_wp2
          go_ret2
          rw [HX0.out, HU1.out.1, HU1.out.2]
          exact ⟨_, rfl, Row.nil _ _ _, New.nil _ _ _, HH.out.2.2.2.2.2.1⟩
end Go.Proofs.Yteiknfcegchbcaa

/- The document's Chain, Unchain, where they refuse. -/
namespace Go.Proofs.Yteiknfcegchbcaa
open Go.RowKit
set_option linter.unusedVariables false
set_option linter.unusedSimpArgs false

set_option maxHeartbeats 2000000 in
set_option maxRecDepth 100000 in
theorem rch_key (key f p : List Nat) (kv fv pv : Value) (w : World) (rk : Row .u8 256 w kv key) (rf : Row .u8 256 w fv f) (rp : Row .u8 256 w pv p) (hk : ¬ SzK key) :
    Calls Try.prog 14 #[kv, fv, pv] w fun e w' => e = .returned (.tuple #[.slice none 0 0, .int .i64 10]) ∧ Below w.heap.size w w' := by
  have hzd : decide (key.length = 16 ∨ key.length = 24 ∨ key.length = 32) = false := decide_eq_false hk
  have hsz := rsz_any key kv w rk
  rw [hzd] at hsz
  obtain ⟨fa, fc, rfl, l1, l2, _⟩ := rf.opens rfl
  obtain ⟨pa, pc, rfl, l5, l6, _⟩ := rp.opens rfl
  clear hzd hk rk
  go_enter Try.func14, Try.ntmps14
  go_wp2_with (first | (go_at_call 26; refine hsz.mono ?_; rintro e yy ⟨rfl, hy⟩; obtain rfl := hy.symm) | fail)
  go_ret2
  exact ⟨rfl, Below.refl _ _⟩
set_option maxHeartbeats 2000000 in
set_option maxRecDepth 100000 in
theorem rch_size (key f p : List Nat) (kv fv pv : Value) (w : World) (rk : Row .u8 256 w kv key) (rf : Row .u8 256 w fv f) (rp : Row .u8 256 w pv p) (hk : SzK key) (hf : f.length ≠ 16) :
    Calls Try.prog 14 #[kv, fv, pv] w fun e w' => e = .returned (.tuple #[.slice none 0 0, .int .i64 14]) ∧ Below w.heap.size w w' := by
  have hzd : decide (key.length = 16 ∨ key.length = 24 ∨ key.length = 32) = true := decide_eq_true hk
  have hsz := rsz_any key kv w rk
  rw [hzd] at hsz
  obtain ⟨fa, fc, rfl, l1, l2, _⟩ := rf.opens rfl
  obtain ⟨pa, pc, rfl, l5, l6, _⟩ := rp.opens rfl
  clear hzd hk rk
  have h1 : ¬ ((f.length : Int) = 16) := by omega
  clear hf
  go_enter Try.func14, Try.ntmps14
  go_wp2_with (first | (go_at_call 26; refine hsz.mono ?_; rintro e yy ⟨rfl, hy⟩; obtain rfl := hy.symm) | fail)
  go_ret2
  exact ⟨rfl, Below.refl _ _⟩
set_option maxHeartbeats 2000000 in
set_option maxRecDepth 100000 in
theorem run_key (key f p : List Nat) (kv fv pv : Value) (w : World) (rk : Row .u8 256 w kv key) (rf : Row .u8 256 w fv f) (rp : Row .u8 256 w pv p) (hk : ¬ SzK key) :
    Calls Try.prog 16 #[kv, fv, pv] w fun e w' => e = .returned (.tuple #[.slice none 0 0, .int .i64 10]) ∧ Below w.heap.size w w' := by
  have hzd : decide (key.length = 16 ∨ key.length = 24 ∨ key.length = 32) = false := decide_eq_false hk
  have hsz := rsz_any key kv w rk
  rw [hzd] at hsz
  obtain ⟨fa, fc, rfl, l1, l2, _⟩ := rf.opens rfl
  obtain ⟨pa, pc, rfl, l5, l6, _⟩ := rp.opens rfl
  clear hzd hk rk
  go_enter Try.func16, Try.ntmps16
  go_wp2_with (first | (go_at_call 26; refine hsz.mono ?_; rintro e yy ⟨rfl, hy⟩; obtain rfl := hy.symm) | fail)
  go_ret2
  exact ⟨rfl, Below.refl _ _⟩
set_option maxHeartbeats 2000000 in
set_option maxRecDepth 100000 in
theorem run_size1 (key f p : List Nat) (kv fv pv : Value) (w : World) (rk : Row .u8 256 w kv key) (rf : Row .u8 256 w fv f) (rp : Row .u8 256 w pv p) (hk : SzK key) (hf : f.length ≠ 16) :
    Calls Try.prog 16 #[kv, fv, pv] w fun e w' => e = .returned (.tuple #[.slice none 0 0, .int .i64 14]) ∧ Below w.heap.size w w' := by
  have hzd : decide (key.length = 16 ∨ key.length = 24 ∨ key.length = 32) = true := decide_eq_true hk
  have hsz := rsz_any key kv w rk
  rw [hzd] at hsz
  obtain ⟨fa, fc, rfl, l1, l2, _⟩ := rf.opens rfl
  obtain ⟨pa, pc, rfl, l5, l6, _⟩ := rp.opens rfl
  clear hzd hk rk
  have h1 : ¬ ((f.length : Int) = 16) := by omega
  have h1b : ((f.length : Int) == 16) = false := beq_eq_false_iff_ne.2 h1
  clear hf
  go_enter Try.func16, Try.ntmps16
  go_wp2_with (first | (go_at_call 26; refine hsz.mono ?_; rintro e yy ⟨rfl, hy⟩; obtain rfl := hy.symm) | fail)
  go_ret2
  exact ⟨rfl, Below.refl _ _⟩
set_option maxHeartbeats 2000000 in
set_option maxRecDepth 100000 in
theorem run_size2 (key f p : List Nat) (kv fv pv : Value) (w : World) (rk : Row .u8 256 w kv key) (rf : Row .u8 256 w fv f) (rp : Row .u8 256 w pv p) (hk : SzK key) (hf : f.length = 16) (hp : p.length = 0) :
    Calls Try.prog 16 #[kv, fv, pv] w fun e w' => e = .returned (.tuple #[.slice none 0 0, .int .i64 14]) ∧ Below w.heap.size w w' := by
  have hzd : decide (key.length = 16 ∨ key.length = 24 ∨ key.length = 32) = true := decide_eq_true hk
  have hsz := rsz_any key kv w rk
  rw [hzd] at hsz
  obtain ⟨fa, fc, rfl, l1, l2, _⟩ := rf.opens rfl
  obtain ⟨pa, pc, rfl, l5, l6, _⟩ := rp.opens rfl
  clear hzd hk rk
  rw [hf, hp]
  clear hf hp l1 l5
  go_enter Try.func16, Try.ntmps16
  go_wp2_with (first | (go_at_call 26; refine hsz.mono ?_; rintro e yy ⟨rfl, hy⟩; obtain rfl := hy.symm) | fail)
  go_ret2
  exact ⟨rfl, Below.refl _ _⟩
set_option maxHeartbeats 2000000 in
set_option maxRecDepth 100000 in
theorem run_size3 (key f p : List Nat) (kv fv pv : Value) (w : World) (rk : Row .u8 256 w kv key) (rf : Row .u8 256 w fv f) (rp : Row .u8 256 w pv p) (hk : SzK key) (hf : f.length = 16) (hp : p.length % 16 ≠ 0) :
    Calls Try.prog 16 #[kv, fv, pv] w fun e w' => e = .returned (.tuple #[.slice none 0 0, .int .i64 14]) ∧ Below w.heap.size w w' := by
  have hzd : decide (key.length = 16 ∨ key.length = 24 ∨ key.length = 32) = true := decide_eq_true hk
  have hsz := rsz_any key kv w rk
  rw [hzd] at hsz
  obtain ⟨fa, fc, rfl, l1, l2, _⟩ := rf.opens rfl
  obtain ⟨pa, pc, rfl, l5, l6, _⟩ := rp.opens rfl
  clear hzd hk rk
  rw [hf]
  obtain ⟨M, hM⟩ : ∃ x : Nat, x = p.length % 16 := ⟨_, rfl⟩
  have h0 : ¬ ((p.length : Int) = 0) := by omega
  have h0b : ((p.length : Int) == 0) = false := beq_eq_false_iff_ne.2 h0
  have e_M : (p.length : Int) % 16 = (M : Int) := by omega
  have t_M : (p.length : Int).tmod 16 = (M : Int) := by rw [Int.tmod_eq_emod_of_nonneg (by omega)]; exact e_M
  have m0 : ¬ ((M : Int) = 0) := by omega
  have m0b : ((M : Int) == 0) = false := beq_eq_false_iff_ne.2 m0
  clear hf hp hM
  go_enter Try.func16, Try.ntmps16
  go_wp2_with (first | (go_at_call 26; refine hsz.mono ?_; rintro e yy ⟨rfl, hy⟩; obtain rfl := hy.symm) | fail)
  go_ret2
  exact ⟨rfl, Below.refl _ _⟩
end Go.Proofs.Yteiknfcegchbcaa

/- Chain and Unchain of both sides, whatever comes. -/
namespace Go.Proofs.Yteiknfcegchbcaa
open Go.RowKit
set_option linter.unusedVariables false
set_option linter.unusedSimpArgs false

theorem both_ch (key f p : List Nat) (kv fv pv : Value) (w : World) (rk : Row .u8 256 w kv key) (rf : Row .u8 256 w fv f) (rp : Row .u8 256 w pv p) (tp : Tidy pv) (hp : p.length ≤ 100000) :
    ∃ (c : Int) (X : List Nat), (∀ y, Below w.heap.size w y → Calls Try.prog 13 #[kv, fv, pv] y (TellsW y X c)) ∧ (∀ y, Below w.heap.size w y → Calls Try.prog 14 #[kv, fv, pv] y (TellsW y X c)) := by
  by_cases hk : Sz3 key.length
  · by_cases hf : f.length = 16
    · exact ⟨0, outC (thA' key) f (padL p) (p.length / 16 + 1), fun y h => cch_ok key f p kv fv pv y (rk.below h) (rf.below h) (rp.below h) tp hk hf hp, fun y h => rch_ok key f p kv fv pv y (rk.below h) (rf.below h) (rp.below h) tp hk hf hp⟩
    · refine ⟨14, [], fun y h => (cch_size key f kv fv pv y (rk.below h) (rf.below h) hk hf).mono ?_, fun y h => (rch_size key f p kv fv pv y (rk.below h) (rf.below h) (rp.below h) hk hf).mono ?_⟩ <;> (rintro e y' ⟨he, hbb⟩; exact tells_nil he hbb)
  · refine ⟨10, [], fun y h => (cch_key key kv fv pv y (rk.below h) hk).mono ?_, fun y h => (rch_key key f p kv fv pv y (rk.below h) (rf.below h) (rp.below h) hk).mono ?_⟩ <;> (rintro e y' ⟨he, hbb⟩; exact tells_nil he hbb)
theorem both_un (key f p : List Nat) (kv fv pv : Value) (w : World) (rk : Row .u8 256 w kv key) (rf : Row .u8 256 w fv f) (rp : Row .u8 256 w pv p) (hp : p.length ≤ 100000) :
    ∃ (c : Int) (X : List Nat), (∀ y, Below w.heap.size w y → Calls Try.prog 15 #[kv, fv, pv] y (TellsW y X c)) ∧ (∀ y, Below w.heap.size w y → Calls Try.prog 16 #[kv, fv, pv] y (TellsW y X c)) := by
  by_cases hk : Sz3 key.length
  · by_cases hf : f.length = 16
    · by_cases h0 : p.length = 0
      · refine ⟨14, [], fun y h => (cun_size2 key f p kv fv pv y (rk.below h) (rf.below h) (rp.below h) hk hf h0).mono ?_, fun y h => (run_size2 key f p kv fv pv y (rk.below h) (rf.below h) (rp.below h) hk hf h0).mono ?_⟩ <;> (rintro e y' ⟨he, hbb⟩; exact tells_nil he hbb)
      · by_cases h16 : p.length % 16 = 0
        · obtain ⟨N, hN⟩ : ∃ N, p.length = 16 * N := ⟨p.length / 16, by omega⟩
          exact ⟨unpC (outU (bkA' key) f p N), unpX (outU (bkA' key) f p N), fun y h => (cun_ok key f p kv fv pv y (rk.below h) (rf.below h) (rp.below h) hk hf hp N hN (by omega)).mono (fun e y' ⟨v, h1, h2, h3, h4, _⟩ => ⟨v, h1, h2, h3, h4⟩), fun y h => run_ok key f p kv fv pv y (rk.below h) (rf.below h) (rp.below h) hk hf hp N hN (by omega)⟩
        · refine ⟨14, [], fun y h => (cun_size3 key f p kv fv pv y (rk.below h) (rf.below h) (rp.below h) hk hf h16).mono ?_, fun y h => (run_size3 key f p kv fv pv y (rk.below h) (rf.below h) (rp.below h) hk hf h16).mono ?_⟩ <;> (rintro e y' ⟨he, hbb⟩; exact tells_nil he hbb)
    · refine ⟨14, [], fun y h => (cun_size1 key f kv fv pv y (rk.below h) (rf.below h) hk hf).mono ?_, fun y h => (run_size1 key f p kv fv pv y (rk.below h) (rf.below h) (rp.below h) hk hf).mono ?_⟩ <;> (rintro e y' ⟨he, hbb⟩; exact tells_nil he hbb)
  · refine ⟨10, [], fun y h => (cun_key key kv fv pv y (rk.below h) hk).mono ?_, fun y h => (run_key key f p kv fv pv y (rk.below h) (rf.below h) (rp.below h) hk).mono ?_⟩ <;> (rintro e y' ⟨he, hbb⟩; exact tells_nil he hbb)
end Go.Proofs.Yteiknfcegchbcaa
