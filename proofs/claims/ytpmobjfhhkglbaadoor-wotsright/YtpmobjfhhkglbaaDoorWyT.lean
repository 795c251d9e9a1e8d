/- Keys of chains, the program's own: what tells sums, as it is chosen. -/
import Derived.Test.YtpmobjfhhkglbaaDoorWyS
import Derived.Great.BuildSlice
namespace Go.Proofs.YtpmobjfhhkglbaaDoor
open Go.RowKit
set_option linter.unusedVariables false
set_option linter.unusedSimpArgs false

theorem digD_3 (b : List Nat) : endS (wide 3) (ini 3) b b.length (outn 3) = digD 3 b := rfl
/-- sums of SHA-2 at a place, by the short one's closure or by SHA-512 -/
def sumE (N : Nat) (pub a t : List Nat) : List Nat := if N < t.length then (digD 3 (pub ++ (List.replicate (128 - N) 0 ++ (shA a ++ t)))).take N else (digD 1 ((pub ++ List.replicate (64 - N) 0) ++ (shA a ++ t))).take N
def es3lt : List Lt := [(0, some 19, [4]), (1, some 20, [19]), (0, some 21, [5]), (6, some 22, [21]), (0, some 23, [1]), (26, some 24, [20, 22, 23]), (40, some 25, [24]), (64, some 26, [25]), (128, some 18, [26]), (256, some 27, [18]), (256, some 28, [18]), (1023, some 8, [27]), (4095, some 9, [28])]
theorem es3reg : Reg (opsA (cLA (cRA (cRA (Tryd.f48.body.getD .skip))))) es3lt := ⟨by kernel_rfl, by kernel_rfl⟩
set_option maxHeartbeats 4000000 in
set_option maxRecDepth 100000 in
theorem tl_either {rn rf rp N : Nat} {pub : List Nat} {pv : Value} {fn : FuncId} {cap : Array Value} {InvS : World → Prop} (tP : Tidy pv) (hpl : pub.length = N) (hN : 16 ≤ N ∧ N ≤ 32)
    (hD : Tl (fun a t => (digD 1 ((pub ++ List.replicate (64 - N) 0) ++ (shA a ++ t))).take N) fn cap InvS) :
    Tl (fun a t => sumE N pub a t) 48 #[.pointer (some ⟨rn, 0, none⟩), .pointer (some ⟨rf, 0, none⟩), .pointer (some ⟨rp, 0, none⟩)]
      (fun x => Roots x ∧ x.cell? ⟨rn, 0, none⟩ = some (.int .i64 (N : Int)) ∧ x.cell? ⟨rf, 0, none⟩ = some (.func (.func fn) #[] cap) ∧ x.cell? ⟨rp, 0, none⟩ = some pv ∧ Row .u8 256 x pv pub ∧ InvS x) := by
  refine ⟨Tryd.call48, fun x y h k => ⟨h.1.below k, keep_cell h.2.1 k, keep_cell h.2.2.1 k, keep_cell h.2.2.2.1 k, h.2.2.2.2.1.below k, hD.keep _ _ h.2.2.2.2.2 k⟩, fun x a text tv hI ha rt tt htl => ?_⟩
  obtain ⟨hT, hn, hf, hp, hR, hIS⟩ := hI
  show Calls Tryd.prog 48 #[.agg (arr .u8 a), tv, .pointer (some ⟨rn, 0, none⟩), .pointer (some ⟨rf, 0, none⟩), .pointer (some ⟨rp, 0, none⟩)] x _
  obtain ⟨ta, tc, rfl, _⟩ := rt.opens rfl
  obtain ⟨W0, hW0⟩ : ∃ W0 : World, W0 = x.alloc (.cells (arr .u8 a) 23) := ⟨_, rfl⟩
  have k0 : Below x.heap.size x W0 := by rw [hW0]; exact keep_alloc _ _
  have L0 : Lies .u8 23 W0 x.heap.size a := by rw [hW0]; exact Lies.new .u8 23 x a
  have kw := k0
  have n0 := keep_cell hn kw
  have f0 := keep_cell hf kw
  have p0 := keep_cell hp kw
  have rp0 := hR.below kw
  have hT0 := hT.below kw
  have rt0 := rt.below k0
  have hal := ha.1
  by_cases hlt : N < text.length
  · have hsl := shA_len ha.1
    have hsh := fun y => wsho_any a y ha
    have hfl := fun y (r : Row .u8 256 y pv pub) => wfil_any pub pv 128 y r tP (by omega) (by decide)
    rw [hpl] at hfl
    have hjn : ∀ y lv, Rows2 y lv [pub ++ List.replicate (128 - N) 0, shA a, text] → Calls Tryd.prog 15 #[lv] y fun e w' => ∃ v, e = .returned v ∧ Own 5 .u8 256 w' y.heap.size v (pub ++ (List.replicate (128 - N) 0 ++ (shA a ++ text))) ∧ Below y.heap.size y w' := fun y lv r => by
      have := join_any lv _ y r (by simp only [List.flatten_cons, List.flatten_nil, List.append_nil, List.length_append, List.length_replicate, hsl, hpl]; omega)
      simpa using this
    have hs3 : ∀ y jv, Below W0.heap.size W0 y → Row .u8 256 y jv (pub ++ (List.replicate (128 - N) 0 ++ (shA a ++ text))) → Tidy jv → Calls Tryd.prog 49 #[.int .i64 3, jv] y fun e w' => ∃ v', e = .returned (.tuple #[v', .int .i64 0]) ∧ Own 5 .u8 256 w' y.heap.size v' (digD 3 (pub ++ (List.replicate (128 - N) 0 ++ (shA a ++ text)))) ∧ Below y.heap.size y w' := fun y jv k r t => by
      have := sum_3 jv _ y (hT0.below k) r t (by simp only [List.length_append, List.length_replicate, hsl, hpl]; omega)
      rw [digD_3] at this
      exact this
    have hdl : (digD 3 (pub ++ (List.replicate (128 - N) 0 ++ (shA a ++ text)))).length = 64 := digD_length (by decide) _
    have eE : sumE N pub a text = (digD 3 (pub ++ (List.replicate (128 - N) 0 ++ (shA a ++ text)))).take N := by unfold sumE; rw [if_pos hlt]
    rw [eE]
    have hFl : (pub ++ List.replicate (128 - N) 0).length = 128 := by rw [List.length_append, List.length_replicate, hpl]; omega
    generalize digD 3 (pub ++ (List.replicate (128 - N) 0 ++ (shA a ++ text))) = OUT at *
    generalize pub ++ (List.replicate (128 - N) 0 ++ (shA a ++ text)) = JJ at *
    generalize pub ++ List.replicate (128 - N) 0 = FF at *
    generalize shA a = SA at *
    have hle : ¬ ((text.length : Int) ≤ (N : Int)) := by omega
    obtain ⟨pa, pc, rfl, _⟩ := rp0.opens hpl
    have hbd : Below W0.heap.size W0 W0.drew := (Below.refl _ _).drew
    obtain ⟨i0, hi0, hz0, hz1, hz2⟩ := info_text
    clear hn hf hp hR hT rt hD hIS eE hlt kw
    subst hW0
    go_enter Tryd.func48, Tryd.ntmps48
    go_wp2
    generalize x.alloc (.cells (arr .u8 a) 23) = W0 at *
    refine at_begin (ops := opsA (cLA (cRA (cRA (Tryd.f48.body.getD .skip))))) (n := 13) (fun y => Below W0.heap.size W0 y) (by kernel_rfl) (by kernel_rfl) ?_
    refine at_takeD (i := 0) (m' := 1) (d := some 19) (v := .slice pa N pc) es3reg rfl (by decide) rfl rfl (y_plainG (wanted_free rfl) rfl rfl Tryd.underlying26 rfl (fun _ h => keep_cell p0 h)) hbd ?_
    simp only [Act.put, List.setIfInBounds_toArray, List.set_cons_zero, List.set_cons_succ]
    refine at_takeD (i := 2) (m' := 5) (d := some 21) (v := .agg (arr .u8 a)) es3reg rfl (by decide) rfl rfl (y_rowG (cs := vals .u8 a) (wanted_free rfl) rfl rfl Tryd.underlying23 rfl (by rw [vals_length, ha.1]; kernel_rfl) (fun _ h => lies_rangeW (L0.below h))) hbd ?_
    simp only [Act.put, List.setIfInBounds_toArray, List.set_cons_zero, List.set_cons_succ]
    refine at_takeD (i := 4) (m' := 21) (d := some 23) (v := .slice ta text.length tc) es3reg rfl (by decide) rfl rfl (y_moveG (wanted_free rfl) rfl rfl) hbd ?_
    simp only [Act.put, List.setIfInBounds_toArray, List.set_cons_zero, List.set_cons_succ]
    refine at_one (i := 1) (m' := 23) es3reg (by decide) rfl ?_
    refine p_callG (args := #[.slice pa N pc, .int .i64 128]) (d := some 20) rfl (wanted_free rfl) rfl (by simp only [List.map_toArray, List.map_cons, List.map_nil]; rfl) rfl Tryd.call44 ((hfl W0.drew (rp0.below hbd)).mono ?_)
    rintro e y4 ⟨fv, rfl, of, g4⟩
    have rf := of.row
    have tf := of.tidy
    obtain ⟨fa, fc, rfl, _⟩ := rf.opens hFl
    have hb4 := keep_trans hbd g4
    refine ⟨_, rfl, hb4, ?_⟩
    simp only [Act.put, List.setIfInBounds_toArray, List.set_cons_zero, List.set_cons_succ]
    refine at_one (i := 3) (m' := 31) es3reg (by decide) rfl ?_
    refine p_callG (args := #[.agg (arr .u8 a)]) (d := some 22) rfl (wanted_free rfl) rfl (by simp only [List.map_toArray, List.map_cons, List.map_nil]; rfl) rfl Tryd.call47 ((hsh y4).mono ?_)
    rintro e y5 ⟨sv, rfl, os, g5⟩
    have rs := os.row
    have ts := os.tidy
    obtain ⟨sa, sc, rfl, _⟩ := rs.opens hsl
    replace rf := rf.below g5
    have hb5 := keep_trans hb4 g5
    refine ⟨_, rfl, hb5, ?_⟩
    simp only [Act.put, List.setIfInBounds_toArray, List.set_cons_zero, List.set_cons_succ]
    refine at_one (i := 5) (m' := 63) es3reg (by decide) rfl ?_
    refine p_build3G (d := some 24) rfl (wanted_free rfl) rfl rfl rfl rfl rfl Tryd.underlying38 hi0 hz1 hz0 ?_
    have hb6 := keep_trans hb5 (keep_alloc y5 (.cells #[.slice fa 128 fc, .slice sa 22 sc, .slice ta text.length tc] 26))
    have rr := rows_litL (B := y5.heap.size) (k := 3) (texts_cons rf tf (texts_cons rs ts (texts_cons (rt0.below hb5) tt (Texts.nil _)))) rfl rfl (by decide)
    refine ⟨hb6, ?_⟩
    simp only [Act.put, List.setIfInBounds_toArray, List.set_cons_zero, List.set_cons_succ]
    refine at_one (i := 6) (m' := 127) es3reg (by decide) rfl ?_
    refine p_callG (args := #[.slice (some ⟨y5.heap.size, 0, none⟩) 3 3]) (d := some 25) rfl (wanted_free rfl) rfl (by simp only [List.map_toArray, List.map_cons, List.map_nil]; rfl) rfl Tryd.call15 ((hjn (y5.alloc (.cells #[.slice fa 128 fc, .slice sa 22 sc, .slice ta text.length tc] 26)) _ rr).mono ?_)
    rintro e y7 ⟨jv, rfl, oj, g7⟩
    have rj := oj.row
    have tj := oj.tidy
    have hb7 := keep_trans hb6 g7
    refine ⟨_, rfl, hb7, ?_⟩
    simp only [Act.put, List.setIfInBounds_toArray, List.set_cons_zero, List.set_cons_succ]
    refine at_one (i := 7) (m' := 255) es3reg (by decide) rfl ?_
    refine p_callG (args := #[.int .i64 3, jv]) (d := some 26) rfl (wanted_free rfl) rfl (by simp only [List.map_toArray, List.map_cons, List.map_nil]; rfl) rfl Tryd.call49 ((hs3 y7 _ hb7 rj tj).mono ?_)
    rintro e y8 ⟨ov, rfl, oo, g8⟩
    have ybs := (hb7).size
    have ro := oo.row
    have no := oo.new
    obtain ⟨oa, oc, rfl, lo, _⟩ := ro.opens hdl
    have hb8 := keep_trans hb7 g8
    refine ⟨_, rfl, hb8, ?_⟩
    simp only [Act.put, List.setIfInBounds_toArray, List.set_cons_zero, List.set_cons_succ]
    refine at_takeD (i := 8) (m' := 511) (d := some 18) (v := .tuple #[.slice oa 64 oc, .int .i64 0]) es3reg rfl (by decide) rfl rfl (y_moveG (wanted_free rfl) rfl rfl) hb8 ?_
    simp only [Act.put, List.setIfInBounds_toArray, List.set_cons_zero, List.set_cons_succ]
    refine at_takeD (i := 9) (m' := 1023) (d := some 27) (v := .slice oa 64 oc) es3reg rfl (by decide) rfl rfl (y_extractG (wanted_free rfl) rfl rfl rfl) hb8 ?_
    simp only [Act.put, List.setIfInBounds_toArray, List.set_cons_zero, List.set_cons_succ]
    refine at_takeD (i := 10) (m' := 2047) (d := some 28) (v := .int .i64 0) es3reg rfl (by decide) rfl rfl (y_extractG (wanted_free rfl) rfl rfl rfl) hb8 ?_
    simp only [Act.put, List.setIfInBounds_toArray, List.set_cons_zero, List.set_cons_succ]
    refine at_takeD (i := 11) (m' := 4095) (d := some 8) (v := .slice oa 64 oc) es3reg rfl (by decide) rfl rfl (y_assignG (wanted_free rfl) rfl rfl) hb8 ?_
    simp only [Act.put, List.setIfInBounds_toArray, List.set_cons_zero, List.set_cons_succ]
    refine at_takeD (i := 12) (m' := 8191) (d := some 9) (v := .int .i64 0) es3reg rfl (by decide) rfl rfl (y_assignG (wanted_free rfl) rfl rfl) hb8 ?_
    simp only [Act.put, List.setIfInBounds_toArray, List.set_cons_zero, List.set_cons_succ]
    refine at_done es3reg (by decide) ?_
    have cN := keep_cell n0 hb8
    have hkc : N ≤ oc := by omega
    go_wp2
    go_ret
    exact ⟨_, rfl, ro.cut (by omega), fun b hb => (no.mono (Nat.le_trans k0.size ybs)) b (own_lenW.trans hb), keep_trans k0 hb8⟩
  · have hle : (text.length : Int) ≤ (N : Int) := by omega
    have eE : sumE N pub a text = (digD 1 ((pub ++ List.replicate (64 - N) 0) ++ (shA a ++ text))).take N := by unfold sumE; rw [if_neg hlt]
    rw [eE]
    have hen := hD.enters
    have hca := hD.calls W0 a text _ (hD.keep _ _ hIS kw) ha rt0 tt htl
    generalize (digD 1 ((pub ++ List.replicate (64 - N) 0) ++ (shA a ++ text))).take N = OUT at *
    clear hn hf hp hR hT rt hD hIS eE hlt kw
    subst hW0
    go_enter Tryd.func48, Tryd.ntmps48
    go_wp2_with (first
      | (refine wpList_load_row rfl 23 _ (by rfl) x.heap.size (by rfl) _ _ _ (.array 32 5) L0 (by kernel_rfl) rfl (by rw [arr_size, hal]; kernel_rfl) ?_)
      | fail)
    refine hca.mono ?_
    rintro e w2 ⟨v2, rfl, r2, n2, g2⟩
    go_wp2
    go_ret
    exact ⟨_, rfl, r2, n2.mono k0.size, keep_trans k0 g2⟩
set_option maxHeartbeats 4000000 in
set_option maxRecDepth 100000 in
theorem wshk_any (N : Nat) (pub : List Nat) (pv : Value) (wb w : World) (kb : Below wb.heap.size wb w) (hCb : Csts wb) (hp : Row .u8 256 w pv pub) (hN : N ≤ 1000) (hpl : pub.length ≤ 1000) :
    Calls Tryd.prog 34 #[.int .i64 (N : Int), pv] w fun e w' => ∃ fn cap Inv, e = .returned (.func (.func fn) #[] cap) ∧ Tl (fun a t => sumK 7 (pub ++ (a ++ t)) N) fn cap Inv ∧ Inv w' ∧ Bt wb.heap.size w.heap.size Inv ∧ Below w.heap.size w w' := by
  have hC := hCb.below kb
  have hmf : ∀ (fn : Fn) (first cap : Array Value) (w : World), (Instr.makeFunc fn first cap).run Tryd.prog w = .ok (.func fn first cap) w := fun _ _ _ _ => rfl
  have hz8 := zero28
  have hb0 := keep_alloc w (.cells #[.int .i64 (N : Int)] 3)
  have hc0 : (w.alloc (.cells #[.int .i64 (N : Int)] 3)).cell? ⟨w.heap.size, 0, none⟩ = some (.int .i64 (N : Int)) := by rw [World.cell?_alloc_at _ _ _ _ rfl]; rfl
  have hcc := fun x (hb : Below (w.alloc (.cells #[.int .i64 (N : Int)] 3)).heap.size (w.alloc (.cells #[.int .i64 (N : Int)] 3)) x) => keep_cell hc0 hb
  have hknew := fun x => cnew_ok 7 x (by decide)
  have hadd := fun x (hb : Below w.heap.size w x) => spK_abs 7 [] pub pv x (hC.below hb) (by decide) (hp.below hb) (by omega)
  simp only [List.nil_append] at hadd
  have e0 : spK 7 [] = (sl 7 (zs 25) 0 false).toArray := rfl
  rw [← e0] at hknew
  have hsz0 : (sl 0 (zs 25) 0 false).toArray.size = 28 := by simp [sl_len (zs_len 25)]
  have z1 := spK_size 7 []
  have o1 := spK_one 7 []
  have z2 := spK_size 7 pub
  have o2 := spK_one 7 pub
  obtain ⟨pa, pc, rfl, _⟩ := hp.opens rfl
  have HT := hide hC
  clear hp hC hc0 e0
  generalize hS1 : spK 7 [] = S1 at *
  generalize hS2 : spK 7 pub = S2 at *
  have HS2 := hide hS2
  clear hS1 hS2
  go_enter Tryd.func34, Tryd.ntmps34
  go_wp2_with (first
    | (go_at_call 38; refine (hknew _).mono ?_; rintro e x3 ⟨rfl, hb3⟩; have hR3 : (x3.alloc (.cells (sl 0 (zs 25) 0 false).toArray 70)).heap[x3.heap.size]? = some (.cells (sl 0 (zs 25) 0 false).toArray 70 (0, 0)) := heap_alloc_last x3 _)
    | (refine wpList_store_row rfl 70 _ _ (by rfl) x3.heap.size S1 (by rfl) (by rfl) _ _ hR3 (by rw [z1]; kernel_rfl) (by rw [hsz0, z1]) o1 ?_; have hfu := setRow_heap (x3.alloc (.cells (sl 0 (zs 25) 0 false).toArray 70)) x3.heap.size _ S1 70 _ hR3; have hb4 := (keep_trans hb3 (keep_alloc x3 (.cells (sl 0 (zs 25) 0 false).toArray 70))).trans ((But.setRow (But.refl x3.heap.size (x3.alloc (.cells (sl 0 (zs 25) 0 false).toArray 70))) S1).below hb3.size (by have := hb3.size; simp at this ⊢; omega)))
    | (refine wpList_load_row rfl 70 _ (by rfl) x3.heap.size (by rfl) _ _ _ _ hfu Tryd.underlying70 rfl (by rw [z1]; kernel_rfl) ?_)
    | (go_at_call 39; refine (hadd _ (keep_trans hb0 hb4)).mono ?_; rintro e x5 ⟨rfl, hb5⟩; have hB5 := (hb5.block _ (heap_ltW hfu)).trans hfu)
    | (refine wpList_store_row rfl 70 _ _ (by rfl) x3.heap.size S2 (by rfl) (by rfl) _ _ hB5 (by rw [z2]; kernel_rfl) (by rw [z1, z2]) o2 ?_)
    | fail)
  go_ret
  have hBf : But x3.heap.size x5 (x5.setRow x3.heap.size S2) := (But.refl _ _).setRow _
  have hbw := keep_trans hb4 hb5
  have hb6 := hbw.trans (hBf.below hb3.size hbw.size)
  have hb7 := keep_trans hb0 hb6
  have hfin := setRow_heap x5 x3.heap.size _ S2 70 _ hB5
  rw [← HS2.out] at hfin hb7 hb6 ⊢
  refine ⟨_, _, _, rfl, tl_shake hN hpl, ⟨HT.out.below hb7, hfin, hcc _ hb6⟩, ?_, hb7⟩
  intro x y g hI hB hbg hgm
  have h1 := csts_lt hCb
  have h2 := hb3.size
  have h3 := hb0.size
  exact ⟨csts_but hI.1 hB (by omega), (hB.block _ (heap_ltW hI.2.1) (by omega)).trans hI.2.1, But.cell hI.2.2 hB (by show w.heap.size ≠ g; omega)⟩
/-- a struct loaded out of a box, as a step that stands alone -/
theorem p_loadRowW {ops : Array Oper} {K : Act → World → Prop} {Q : Exit → Act → World → Prop} {i : Nat} {o : Oper} {a : Act} {w : World} {t t' : TypeId} {x : Operand} {q : Nat} {cs : List Value} {fs : _} {d : Option Nat} (hd : o.dst = d) (hi : ops[i]? = some o) (hw : Region.wanted o (yielded ops a.tmps) = true) (ho : o.op = .load t x) (hx : a.eval x = .pointer (some ⟨q, 0, none⟩)) (hq : w.heap[q]? = some (.cells cs.toArray t' (0, 0)))
    (hu : Tryd.prog.underlying t = some (.struct fs)) (hs : (Tryd.prog.info? t).map (·.size) = some cs.length) (h : K (a.put d (.agg cs.toArray)) w) : wpOp Tryd.prog ops Q i K a w := by
  unfold wpOp
  simp only [hi]
  rw [if_pos hw]
  left
  exact wp_load_row t x ho q hx t' cs.toArray (0, 0) (.struct fs) hq hu rfl (by simpa using hs) (by rw [hd]; exact h)
def ss2lt : List Lt := [(0, some 11, [5]), (0, some 12, [1]), (2, some 13, [12]), (5, some 14, [11, 13]), (15, none, [5, 14])]
theorem ss2reg : Reg (opsA (cLA (cRA (cRA (Tryd.f35.body.getD .skip))))) ss2lt := ⟨by kernel_rfl, by kernel_rfl⟩
theorem tlH_nilW : tlH 1 [] = [] := by unfold tlH left; simp
set_option maxHeartbeats 4000000 in
set_option maxRecDepth 100000 in
theorem wsha_any (N : Nat) (pub : List Nat) (pv : Value) (wb w : World) (kb : Below wb.heap.size wb w) (hTb : Roots wb) (hp : Row .u8 256 w pv pub) (tP : Tidy pv) (hN : N ≤ 32) (hpl : pub.length = N) :
    Calls Tryd.prog 35 #[.int .i64 (N : Int), pv] w fun e w' => ∃ fn cap Inv, e = .returned (.func (.func fn) #[] cap) ∧ Tl (fun a t => (digD 1 ((pub ++ List.replicate (64 - N) 0) ++ (shA a ++ t))).take N) fn cap Inv ∧ Inv w' ∧ Bt wb.heap.size w.heap.size Inv ∧ Below w.heap.size w w' := by
  have hT := hTb.below kb
  have hmf : ∀ (fn : Fn) (first cap : Array Value) (w : World), (Instr.makeFunc fn first cap).run Tryd.prog w = .ok (.func fn first cap) w := fun _ _ _ _ => rfl
  have hz : ∀ w, (zeroValue 79).run Tryd.prog w = .ok (.agg (hv 0 [0, 0, 0, 0, 0, 0, 0, 0] (.slice none 0 0) 0)) w := fun _ => by kernel_rfl
  have hb0 := keep_alloc w (.cells #[.int .i64 (N : Int)] 3)
  have hc0 : (w.alloc (.cells #[.int .i64 (N : Int)] 3)).cell? ⟨w.heap.size, 0, none⟩ = some (.int .i64 (N : Int)) := by rw [World.cell?_alloc_at _ _ _ _ rfl]; rfl
  have hcc := fun x (hb : Below (w.alloc (.cells #[.int .i64 (N : Int)] 3)).heap.size (w.alloc (.cells #[.int .i64 (N : Int)] 3)) x) => keep_cell hc0 hb
  have hnew := fun x (hb : Below w.heap.size w x) => new_1 x (hT.below hb)
  have hfl := fun y (r : Row .u8 256 y pv pub) => wfil_any pub pv 64 y r tP (by omega) (by decide)
  rw [hpl] at hfl
  have hPl : (pub ++ List.replicate (64 - N) 0).length = 64 := by rw [List.length_append, List.length_replicate, hpl]; omega
  have had := fun y bv (k : Below w.heap.size w y) (r : Row .u8 256 y bv (pub ++ List.replicate (64 - N) 0)) (t : Tidy bv) => wadd [] (pub ++ List.replicate (64 - N) 0) (.slice none 0 0) bv y (hT.below k) (by rw [tlH_nilW]; exact Row.nil _ _ _) tidy_nil r t (by decide) (by omega)
  simp only [List.nil_append] at had
  have e0 : hvP 1 [] (.slice none 0 0) = hv 1 (ini 1) (.slice none 0 0) 0 := rfl
  rw [e0] at had
  have HP := hide (And.intro hp tP)
  obtain ⟨pa, pc, rfl, _⟩ := hp.opens hpl
  have HT := hide hT
  have HTB := hide (And.intro hTb kb)
  have htl0 : tlH 1 (pub ++ List.replicate (64 - N) 0) = [] := by
    unfold tlH left
    rw [hPl]
    exact List.drop_eq_nil_of_le (by rw [hPl]; decide)
  clear hp hT hc0 e0 tP hTb kb
  generalize pub ++ List.replicate (64 - N) 0 = P0 at *
  obtain ⟨cs0, hcs0, hcl0⟩ : ∃ cs : List Value, cs.toArray = hv 1 (ini 1) (.slice none 0 0) 0 ∧ cs.length = 11 := ⟨(hv 1 (ini 1) (.slice none 0 0) 0).toList, by simp, rfl⟩
  have hoz : (hv 0 [0, 0, 0, 0, 0, 0, 0, 0] (.slice none 0 0) 0).size = 11 := rfl
  have h1o : (hv 1 (ini 1) (.slice none 0 0) 0).all (·.oneCell') = true := hv_one rfl
  rw [← hcs0] at hnew had h1o
  clear hcs0
  go_enter Tryd.func35, Tryd.ntmps35
  go_wp2_with (first
    | (go_at_call 42; refine (hnew _ hb0).mono ?_; rintro e x1 ⟨rfl, hb1⟩; have hR1 : (x1.alloc (.cells (hv 0 [0, 0, 0, 0, 0, 0, 0, 0] (.slice none 0 0) 0) 79)).heap[x1.heap.size]? = some (.cells (hv 0 [0, 0, 0, 0, 0, 0, 0, 0] (.slice none 0 0) 0) 79 (0, 0)) := heap_alloc_last x1 _)
    | (refine wpList_store_row rfl 79 _ _ (by rfl) x1.heap.size cs0.toArray (by rfl) (by rfl) _ _ hR1 (by rw [List.size_toArray, hcl0]; kernel_rfl) (by rw [hoz, List.size_toArray, hcl0]) h1o ?_)
    | fail)
  obtain ⟨x2, hx2⟩ : ∃ x2 : World, x2 = (x1.alloc (.cells (hv 0 [0, 0, 0, 0, 0, 0, 0, 0] (.slice none 0 0) 0) 79)).setRow x1.heap.size cs0.toArray := ⟨_, rfl⟩
  have hq : x2.heap[x1.heap.size]? = some (.cells cs0.toArray 79 (0, 0)) := by rw [hx2]; exact setRow_heap _ x1.heap.size _ cs0.toArray 79 _ hR1
  have hb2 : Below (w.alloc (.cells #[.int .i64 (N : Int)] 3)).heap.size (w.alloc (.cells #[.int .i64 (N : Int)] 3)) x2 := by
    rw [hx2]
    exact (keep_trans hb1 (keep_alloc x1 (.cells (hv 0 [0, 0, 0, 0, 0, 0, 0, 0] (.slice none 0 0) 0) 79))).trans ((But.setRow (But.refl x1.heap.size _) cs0.toArray).below hb1.size (by have := hb1.size; simp at this ⊢; omega))
  rw [← hx2]
  have hge := hb1.size
  obtain ⟨q, hqe⟩ : ∃ q : Nat, x1.heap.size = q := ⟨_, rfl⟩
  rw [hqe] at hq hge ⊢
  clear hx2 hR1 hqe hb1
  have hbd : Below (w.alloc (.cells #[.int .i64 (N : Int)] 3)).heap.size (w.alloc (.cells #[.int .i64 (N : Int)] 3)) x2.drew := hb2.drew
  refine at_begin (ops := opsA (cLA (cRA (cRA (Tryd.f35.body.getD .skip))))) (n := 5) (fun y => Below (w.alloc (.cells #[.int .i64 (N : Int)] 3)).heap.size (w.alloc (.cells #[.int .i64 (N : Int)] 3)) y) (by kernel_rfl) (by kernel_rfl) ?_
  refine at_takeD (i := 1) (m' := 2) (d := some 12) (v := .slice pa N pc) ss2reg rfl (by decide) rfl rfl (y_moveG (wanted_free rfl) rfl rfl) hbd ?_
  simp only [Act.put, List.setIfInBounds_toArray, List.set_cons_zero, List.set_cons_succ]
  refine at_two (i := 0) (j := 2) (m1 := 3) (m2 := 6) ss2reg (by decide) rfl rfl ?_ ?_
  · refine p_loadRowW (d := some 11) rfl rfl (wanted_free rfl) rfl rfl hq Tryd.underlying79 (by rw [hcl0]; kernel_rfl) ?_
    have hb2 := hbd
    refine ⟨hb2, ?_⟩
    simp only [Act.put, List.setIfInBounds_toArray, List.set_cons_zero, List.set_cons_succ]
    refine at_one (i := 2) (m' := 7) ss2reg (by decide) rfl ?_
    refine p_callG (args := #[.slice pa N pc, .int .i64 64]) (d := some 13) rfl (wanted_free rfl) rfl (by simp only [List.map_toArray, List.map_cons, List.map_nil]; rfl) rfl Tryd.call44 ((hfl x2.drew (HP.out.1.below (keep_trans hb0 hb2))).mono ?_)
    rintro e y3 ⟨fv, rfl, of, g3⟩
    have rf := of.row
    have tf := of.tidy
    replace hq := (g3.block _ (heap_ltW hq)).trans hq
    have hb3 := keep_trans hb2 g3
    refine ⟨_, rfl, hb3, ?_⟩
    simp only [Act.put, List.setIfInBounds_toArray, List.set_cons_zero, List.set_cons_succ]
    refine at_one (i := 3) (m' := 15) ss2reg (by decide) rfl ?_
    refine p_callG (args := #[.agg cs0.toArray, fv]) (d := some 14) rfl (wanted_free rfl) rfl (by simp only [List.map_toArray, List.map_cons, List.map_nil]; rfl) rfl Tryd.call43 ((had y3 _ (keep_trans hb0 hb3) rf tf).mono ?_)
    rintro e y4 ⟨hv2, rfl, rH, tH, nH, g4⟩
    have hlq := heap_ltW hq
    replace hq := (g4.block _ (heap_ltW hq)).trans hq
    have hb4 := keep_trans hb3 g4
    refine ⟨_, rfl, hb4, ?_⟩
    simp only [Act.put, List.setIfInBounds_toArray, List.set_cons_zero, List.set_cons_succ]
    refine at_one (i := 4) (m' := 31) ss2reg (by decide) rfl ?_
    refine p_rowA (cells := hvP 1 P0 hv2) rfl rfl rfl rfl rfl rfl hq (by kernel_rfl) (by rw [List.size_toArray, hcl0]; rfl) (hv_one rH.cell1) ?_
    have hB : But q y4 (y4.setRow q (hvP 1 P0 hv2)) := (But.refl q _).setRow _
    have hfin := setRow_heap y4 q _ (hvP 1 P0 hv2) 79 _ hq
    have rF := rH.but (fun _ b hb => by have := nH b hb; omega) hB
    have hb5 := (hb4).trans (hB.below hge (hb4).size)
    refine ⟨hb5, ?_⟩
    refine at_done ss2reg (by decide) ?_
    go_wp2
    go_ret
    refine ⟨_, _, _, rfl, tl_sha tH hN (by omega), ⟨HT.out.below (keep_trans hb0 hb5), hfin, rF, hcc _ hb5⟩, ?_, keep_trans hb0 hb5⟩
    intro x y g hI hB hbg hgm
    have h1 := roots_lt HTB.out.1
    have h3 := hb0.size
    exact ⟨roots_but hI.1 hB (by omega) (by omega), (hB.block _ (heap_ltW hI.2.1) (by omega)).trans hI.2.1, hI.2.2.1.but (fun hl => by rw [htl0] at hl; simp at hl) hB, But.cell hI.2.2.2 hB (by show w.heap.size ≠ g; omega)⟩
  · refine p_callG (args := #[.slice pa N pc, .int .i64 64]) (d := some 13) rfl (wanted_free rfl) rfl (by simp only [List.map_toArray, List.map_cons, List.map_nil]; rfl) rfl Tryd.call44 ((hfl x2.drew (HP.out.1.below (keep_trans hb0 hbd))).mono ?_)
    rintro e y2 ⟨fv, rfl, of, g2⟩
    have rf := of.row
    have tf := of.tidy
    replace hq := (g2.block _ (heap_ltW hq)).trans hq
    have hb2 := keep_trans hbd g2
    refine ⟨_, rfl, hb2, ?_⟩
    simp only [Act.put, List.setIfInBounds_toArray, List.set_cons_zero, List.set_cons_succ]
    refine at_one (i := 0) (m' := 7) ss2reg (by decide) rfl ?_
    refine p_loadRowW (d := some 11) rfl rfl (wanted_free rfl) rfl rfl hq Tryd.underlying79 (by rw [hcl0]; kernel_rfl) ?_
    have hb3 := hb2
    refine ⟨hb3, ?_⟩
    simp only [Act.put, List.setIfInBounds_toArray, List.set_cons_zero, List.set_cons_succ]
    refine at_one (i := 3) (m' := 15) ss2reg (by decide) rfl ?_
    refine p_callG (args := #[.agg cs0.toArray, fv]) (d := some 14) rfl (wanted_free rfl) rfl (by simp only [List.map_toArray, List.map_cons, List.map_nil]; rfl) rfl Tryd.call43 ((had y2 _ (keep_trans hb0 hb3) rf tf).mono ?_)
    rintro e y4 ⟨hv2, rfl, rH, tH, nH, g4⟩
    have hlq := heap_ltW hq
    replace hq := (g4.block _ (heap_ltW hq)).trans hq
    have hb4 := keep_trans hb3 g4
    refine ⟨_, rfl, hb4, ?_⟩
    simp only [Act.put, List.setIfInBounds_toArray, List.set_cons_zero, List.set_cons_succ]
    refine at_one (i := 4) (m' := 31) ss2reg (by decide) rfl ?_
    refine p_rowA (cells := hvP 1 P0 hv2) rfl rfl rfl rfl rfl rfl hq (by kernel_rfl) (by rw [List.size_toArray, hcl0]; rfl) (hv_one rH.cell1) ?_
    have hB : But q y4 (y4.setRow q (hvP 1 P0 hv2)) := (But.refl q _).setRow _
    have hfin := setRow_heap y4 q _ (hvP 1 P0 hv2) 79 _ hq
    have rF := rH.but (fun _ b hb => by have := nH b hb; omega) hB
    have hb5 := (hb4).trans (hB.below hge (hb4).size)
    refine ⟨hb5, ?_⟩
    refine at_done ss2reg (by decide) ?_
    go_wp2
    go_ret
    refine ⟨_, _, _, rfl, tl_sha tH hN (by omega), ⟨HT.out.below (keep_trans hb0 hb5), hfin, rF, hcc _ hb5⟩, ?_, keep_trans hb0 hb5⟩
    intro x y g hI hB hbg hgm
    have h1 := roots_lt HTB.out.1
    have h3 := hb0.size
    exact ⟨roots_but hI.1 hB (by omega) (by omega), (hB.block _ (heap_ltW hI.2.1) (by omega)).trans hI.2.1, hI.2.2.1.but (fun hl => by rw [htl0] at hl; simp at hl) hB, But.cell hI.2.2.2 hB (by show w.heap.size ≠ g; omega)⟩
/-- where a row lies -/
theorem row_blockW {k : IntKind} {m : Nat} {w : World} {v : Value} {l : List Nat} (h : Row k m w v l) (hl : 0 < l.length) : ∀ b, v.ownBlock = some b → b < w.heap.size := by
  obtain ⟨a, c, rfl, _, _, h3, _⟩ := h
  obtain ⟨b0, o, rfl, hc⟩ := h3 hl
  intro b hb
  have hbb : b0 = b := by simpa [Value.ownBlock] using hb
  subst hbb
  exact World.block_lt_of_cell? w _ (hc 0 hl)
/-- what tells sums of kinds above 16 that don't shake -/
theorem wei_any (N : Nat) (pub : List Nat) (pv : Value) (wb w : World) (kb : Below wb.heap.size wb w) (hTb : Roots wb) (hpb : Row .u8 256 wb pv pub) (tP : Tidy pv) (hN : 16 ≤ N ∧ N ≤ 32) (hpl : pub.length = N) :
    Calls Tryd.prog 36 #[.int .i64 (N : Int), pv] w fun e w' => ∃ fn cap Inv, e = .returned (.func (.func fn) #[] cap) ∧ Tl (fun a t => sumE N pub a t) fn cap Inv ∧ Inv w' ∧ Bt wb.heap.size w.heap.size Inv ∧ Below w.heap.size w w' := by
  have hT := hTb.below kb
  have hp := hpb.below kb
  have hmf : ∀ (fn : Fn) (first cap : Array Value) (w : World), (Instr.makeFunc fn first cap).run Tryd.prog w = .ok (.func fn first cap) w := fun _ _ _ _ => rfl
  have hb0 := keep_trans (keep_alloc w (.cells #[.int .i64 (N : Int)] 3)) (keep_alloc (w.alloc (.cells #[.int .i64 (N : Int)] 3)) (.cells #[pv] 26))
  have hc0 : ((w.alloc (.cells #[.int .i64 (N : Int)] 3)).alloc (.cells #[pv] 26)).cell? ⟨w.heap.size, 0, none⟩ = some (.int .i64 (N : Int)) := keep_cell (by rw [World.cell?_alloc_at _ _ _ _ rfl]; rfl) (keep_alloc _ _)
  have hp0 : ((w.alloc (.cells #[.int .i64 (N : Int)] 3)).alloc (.cells #[pv] 26)).cell? ⟨w.heap.size + 1, 0, none⟩ = some pv := by
    rw [World.cell?_alloc_at _ _ _ _ (by simp)]
    rfl
  have hzf : ∀ w, (zeroValue 33).run Tryd.prog w = .ok .nilFunc w := fun _ => by kernel_rfl
  have hsh := fun y (k : Below w.heap.size w y) => wsha_any N pub pv wb y (keep_trans kb k) hTb (hp.below k) tP hN.2 hpl
  have HP := hide (And.intro hp (And.intro tP hT))
  have HPB := hide (row_blockW hpb (by omega))
  obtain ⟨pa, pc, rfl, _⟩ := hp.opens hpl
  clear hp tP hT hpb
  go_enter Tryd.func36, Tryd.ntmps36
  go_wp2_with (first
    | (go_at_call 35; refine (hsh _ hb0).mono ?_; rintro e x1 ⟨fn, cap, InvS, rfl, hD, hIS, hBt, hb1⟩; have hn1 : (x1.alloc (.cells #[Value.nilFunc] 33)).heap[x1.heap.size]? = some (.cells #[Value.nilFunc] 33 (0, 0)) := heap_alloc_last x1 _)
    | (refine wpList_store_oneTo rfl 33 _ _ (by rfl) (by rfl) x1.heap.size (.func (.func fn) #[] cap) (by rfl) (by rfl) rfl 33 .nilFunc hn1 (by kernel_rfl) ?_)
    | fail)
  go_ret
  have ka := keep_alloc x1 (.cells #[Value.nilFunc] 33)
  have hB : But x1.heap.size (x1.alloc (.cells #[Value.nilFunc] 33)) ((x1.alloc (.cells #[Value.nilFunc] 33)).setRow x1.heap.size #[.func (.func fn) #[] cap]) := (But.refl _ _).setRow _
  have k1 : Below x1.heap.size x1 ((x1.alloc (.cells #[Value.nilFunc] 33)).setRow x1.heap.size #[.func (.func fn) #[] cap]) := ka.trans (hB.below (Nat.le_refl _) ka.size)
  have hfb := setRow_heap (x1.alloc (.cells #[Value.nilFunc] 33)) x1.heap.size _ #[.func (.func fn) #[] cap] 33 _ hn1
  have hfc : ((x1.alloc (.cells #[Value.nilFunc] 33)).setRow x1.heap.size #[.func (.func fn) #[] cap]).cell? ⟨x1.heap.size, 0, none⟩ = some (.func (.func fn) #[] cap) := by
    rw [cell_of_row _ _ 0 _ _ _ hfb]; rfl
  have k2 := keep_trans hb1 k1
  have kw := keep_trans hb0 k2
  refine ⟨_, _, _, rfl, tl_either HP.out.2.1 hpl hN hD, ⟨HP.out.2.2.below kw, keep_cell hc0 k2, hfc, keep_cell hp0 k2, HP.out.1.below kw, hD.keep _ _ hIS k1⟩, ?_, kw⟩
  intro x y g hI hB hbg hgm
  have h1 := roots_lt hTb
  have h2 := hb1.size
  have h3 := hb0.size
  exact ⟨roots_but hI.1 hB (by omega) (by omega), But.cell hI.2.1 hB (by show w.heap.size ≠ g; omega), But.cell hI.2.2.1 hB (by show x1.heap.size ≠ g; omega), But.cell hI.2.2.2.1 hB (by show w.heap.size + 1 ≠ g; omega), hI.2.2.2.2.1.but (fun _ b hb => by have := HPB.out b hb; omega) hB, hBt x y g hI.2.2.2.2.2 hB hbg (by omega)⟩
end Go.Proofs.YtpmobjfhhkglbaaDoor
