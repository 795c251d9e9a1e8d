/- der's reader: kids, under what value tells one layer below. -/
import Derived.Test.YtjkciheoknjfhaaDoorNum
import Derived.Test.YtjkciheoknjfhaaDoorEFts
namespace Go.Proofs.YtjkciheoknjfhaaDoor
open Go.RowKit Go.Deep
set_option linter.unusedVariables false

def GLow (P : Nat) : Prop := 0 < P ∧ 1 < P
theorem GLow.mono {P Q : Nat} (h : GLow P) (hl : P ≤ Q) : GLow Q := ⟨Nat.lt_of_lt_of_le h.1 hl, Nat.lt_of_lt_of_le h.2 hl⟩
theorem UTabs.low {w : World} (h : UTabs w) : GLow w.heap.size :=
  ⟨World.block_lt_of_cell? w _ (h.1 0 (by decide)), World.block_lt_of_cell? w _ (h.2 0 (by decide)).1⟩
theorem UTabs.turn {P : Nat} {w w' : World} (h : UTabs w) (hP : GLow P) (ht : Turn P w w') : UTabs w' := by
  refine ⟨fun c hc => ?_, fun i hi => ⟨?_, ?_⟩⟩
  · rw [ht.1.cell (p := ⟨_, c, none⟩) hP.1]; exact h.1 c hc
  · rw [ht.1.cell (p := ⟨_, 2 * i, none⟩) hP.2]; exact (h.2 i hi).1
  · rw [ht.1.cell (p := ⟨_, 2 * i + 1, none⟩) hP.2]; exact (h.2 i hi).2
/-- what value tells -/
def ValE (FB : Int → List Nat → Bool) (deep B0 P d : Nat) (l : List Nat) (w : World) (e : Ending) (w' : World) : Prop :=
  ((∃ er, rd FB deep l = .err er ∧ 0 < er ∧ e = thr er) ∨
   (∃ x m dd c0 c1 c2 v', rd FB deep l = .ok (x, m) ∧ e = .returned (.agg #[c0, c1, c2]) ∧ NdIn (fun k => k < B0 ∨ w.heap.size ≤ k) w' dd c0 c1 c2 x ∧ RB w' P v' d ∧ TX B0 w' v' (l.drop m))) ∧ Turn P w w'
def ValC (FB : Int → List Nat → Bool) (deep : Nat) : Prop := ∀ (B0 P d : Nat) (v : Value) (l : List Nat) (w : World), RB w P v d → TX B0 w v l → B0 ≤ P → GLow B0 → d + deep = 33 → l.length ≤ 60000 → UTabs w →
    Calls Tryd.prog 29 #[.pointer (some ⟨P, 0, none⟩)] w fun e w' => ValE FB deep B0 P d l w e w'
/-- what kids tells -/
def KidsE (FB : Int → List Nat → Bool) (deep B0 : Nat) (t : Int) (I : List Nat) (w : World) (e : Ending) (w' : World) : Prop :=
  ((∃ er, rdk (rd FB deep) I.length I = .err er ∧ 0 < er ∧ e = thr er) ∨ (∃ xs, rdk (rd FB deep) I.length I = .ok xs ∧ (t = 49 ∧ sortedB (xs.map (·.2)) = false) ∧ e = thr 6) ∨
   (∃ xs kv dd, rdk (rd FB deep) I.length I = .ok xs ∧ ¬ (t = 49 ∧ sortedB (xs.map (·.2)) = false) ∧ e = .returned kv ∧ NdIn (fun q => q < B0 ∨ w.heap.size ≤ q) w' dd (.int .i64 t) (.slice none 0 0) kv (.mk t [] (xs.map (·.1))))) ∧ Below w.heap.size w w'

set_option maxRecDepth 100000 in
set_option maxHeartbeats 8000000 in
theorem kids_any (FB : Int → List Nat → Bool) (deep : Nat) (ih : ValC FB deep) (B0 P d : Nat) (t : Int) (v c : Value) (I : List Nat) (w : World) (hr : RB w P v d) (hx : TX B0 w c I) (hB : B0 ≤ P) (hG : GLow B0) (hd : d + 1 + deep = 33) (hl : I.length ≤ 60000) (hT : UTabs w) (ht : I64 t) :
    Calls Tryd.prog 44 #[.pointer (some ⟨P, 0, none⟩), .int .i64 t, c] w fun e w' => KidsE FB deep B0 t I w e w' := by
  obtain ⟨c0, c1, f0, f1⟩ := cells2 hr
  have hPl := hr.lt
  have hdi : (d : Int) + 1 < 100 := by omega
  have hrow := hx.1
  obtain ⟨a, cap, rfl, g1, g2, g3, g4⟩ := hrow
  unfold maxLen at g2
  go_enter Tryd.func44, Tryd.ntmps44
  go_wp2_with fail
  have hbx : RB (w.alloc (.cells #[.slice a I.length cap, .int .i64 ((d : Int) + 1)] 55)) w.heap.size (.slice a I.length cap) (d + 1) := by
    unfold RB
    rw [heap_alloc_new]
    rfl
  have hB1 : Below w.heap.size w (w.alloc (.cells #[.slice a I.length cap, .int .i64 ((d : Int) + 1)] 55)) := keep_alloc _ _
  have hx1 := hx.turn (P := w.heap.size) (by omega) (Turn.below hB1 (Nat.le_refl _))
  have HG : Hid (rdk (rd FB deep) I.length I = preR [] (rdk (rd FB deep) I.length I)) := hide (preR_nil _).symm
  generalize w.alloc (.cells #[.slice a I.length cap, .int .i64 ((d : Int) + 1)] 55) = w1 at *
  generalize hQ : w.heap.size = Q at *
  have HQ := hide hQ
  clear hQ
  go_loopg [8, 9] (I.length + 1) (fun gk kv tv wr => ∃ (J : List Nat) (vj : Value) (xs : List (Nd × List Nat)) (f : Nat), RB wr Q vj (d + 1) ∧ TX B0 wr vj J ∧ Hid (J.length ≤ f ∧ rdk (rd FB deep) I.length I = preR xs (rdk (rd FB deep) f J)) ∧ xs.length + J.length ≤ 60000 ∧ KidN B0 (Q + 1) wr kv tv (xs.map (fun y => y.1)) ∧ KidT B0 (Q + 1) wr tv (xs.map (fun y => y.2)) ∧ Below Q w wr ∧ J.length < gk)
  case atStart => exact ⟨I, _, [], I.length, hbx, hx1, hide ⟨Nat.le_refl _, HG.out⟩, by simp; omega, KidN.nil _ _ _ _, KidT.nil _ _ _, hB1, by omega⟩
  case round =>
    obtain ⟨J, vj, xs, f, hrb, htx, HF, hxn, hkn, hkt, hbr, hgk⟩ := hrel
    obtain ⟨b0, b1, z0, z1⟩ := cells2 hrb
    have hQl := hrb.lt
    have hksl : (xs.map (fun y => y.1)).length ≤ 60000 ∧ (xs.map (fun y => y.2)).length ≤ 60000 := by rw [List.length_map, List.length_map]; omega
    generalize hks : xs.map (fun y => y.1) = ks at *
    generalize hts : xs.map (fun y => y.2) = ts at *
    have HKS := hide hks
    have HTS := hide hts
    clear hks hts
    have hTr : UTabs wr := hT.below (by rw [HQ.out]; exact hbr)
    have htxr := htx.1
    obtain ⟨ja, jc, rfl, j1, j2, j3, j4⟩ := htxr
    unfold maxLen at j2
    by_cases hlt : 0 < J.length
    · obtain ⟨g', rfl⟩ : ∃ g', gk = g' + 1 := ⟨gk - 1, by omega⟩
      have hih := ih B0 Q (d + 1) _ J wr hrb htx (by omega) hG (by omega) (by omega) hTr
      obtain ⟨jb, jo, rfl, hjc⟩ := j3 hlt
      have hjb : jb < B0 := htx.2.1 jb hlt rfl
      have HJU := hide j4
      clear hjc j3
      generalize hJL : J.length = JL at *
      have HJL := hide hJL
      clear hJL
      go_wp2_with fail
      refine hih.mono ?_
      rintro e w3 ⟨⟨er, her, hpos, rfl⟩ | ⟨x, m, dd, c0, c1, c2, v', hok, rfl, hnd, hrb3, htx3⟩, htn⟩
      · have HR : Hid (rdk (rd FB deep) I.length I = .err er) := hide (by
          rw [HF.out.2, rdk_err (by rw [HJL.out]; exact hlt) (by rw [HJL.out]; exact HF.out.1) her]
          rfl)
        have hbf : Below Q w w3 := hbr.trans htn.1
        clear hih
        unfold thr
        go_wp2_with fail
        exact ⟨rfl, .inl ⟨er, HR.out, hpos, rfl⟩, by rw [HQ.out]; exact hbf⟩
      · obtain ⟨hm2, hmJ, _⟩ := rd_reads FB deep J x m HJU.out (by rw [HJL.out]; omega) hok
        rw [HJL.out] at hmJ
        obtain ⟨f', HF'⟩ : ∃ f', Hid ((J.drop m).length ≤ f' ∧ rdk (rd FB deep) I.length I = preR (xs ++ [(x, J.take m)]) (rdk (rd FB deep) f' (J.drop m))) := by
          obtain ⟨f', h1, h2⟩ := rdk_ok (by rw [HJL.out]; exact hlt) (by rw [HJL.out]; exact HF.out.1) hok (by omega)
          exact ⟨f', hide ⟨h1, by rw [HF.out.2, h2, preR_pre]⟩⟩
        obtain ⟨tt, a1, n1, p1, a2, n2, p2, rfl, rfl, rfl⟩ := hnd.forms
        obtain ⟨hkl, htl⟩ := hksl
        have hs3 : wr.heap.size ≤ w3.heap.size := htn.size
        have hkvl : ∀ q, u8.ownBlock = some q → q < wr.heap.size := by
          obtain ⟨_, _, h1, _⟩ := hkn
          exact fun q hq => (h1.lt q hq).2
        have htvl : ∀ q, u9.ownBlock = some q → Q + 1 ≤ q ∧ q < wr.heap.size := by
          obtain ⟨_, h1, _⟩ := hkt
          exact fun q hq => h1.lt q hq
        have hold3 : ∀ q, q < B0 ∨ Q + 1 ≤ q → q < wr.heap.size → w3.heap[q]? = wr.heap[q]? := fun q hq hl => htn.old hl (by omega)
        have hkn3 := hkn.other hold3
        have hkt3 := hkt.other hold3
        have htxj := htx.turn (by omega) htn
        have hbr3 : Below Q w w3 := hbr.trans htn.1
        clear hih htn hold3 hkn hkt htx hbr hrb b0 b1 z0 z1
        obtain ⟨d0, cs, how, htr⟩ := hkn3
        obtain ⟨iN, hiN, hN0, hN1, hN2⟩ := info_node
        have how' := how.alloc (.cells #[.int .i64 tt, .slice a1 n1 p1, .slice a2 n2 p2] 26)
        go_upto_region 7 with (first
          | (at_builtin; refine wpList_append_lies _ rfl _ _ 24 rfl (Q + 1) 26 iN (.agg #[.int .i64 0, .slice none 0 0, .slice none 0 0]) 3 56 Tryd.underlying24 hiN hN0 hN1 hN2 rfl (by decide) u8 _ cs rfl how' _ 1 1 [.int .i64 tt, .slice a1 n1 p1, .slice a2 n2 p2] rfl rfl (cells_new3 w3 _ _ _ _ rfl) (by simp [Value.oneCell']) (by decide) (by unfold maxLen; omega) (by omega) (by simp; omega) _ rfl ?_; intro g cap4 w4 how4 hg4 hlie4 hlt4)
          | fail)
        have hkn4 := KidN.snoc how htr hnd (by omega) (by omega) hkvl htvl how4 hg4 hlie4
        have hkt4 := hkt3.beside (by omega) how hg4
        have hold4 : ∀ q, q < Q + 1 → q < w3.heap.size → w4.heap[q]? = w3.heap[q]? := fun q h1 h2 => (hg4.block q (by rw [World.size_alloc]; omega) (fun e => by have := (how.lt _ e.symm).1; omega)).trans (heap_alloc_old _ _ h2)
        have hrb4 : RB w4 Q v' (d + 1) := (hold4 Q (by omega) (by omega)).trans hrb3
        have htx4 : TX B0 w4 v' (J.drop m) := ⟨htx3.1.otherIn htx3.2.1 (fun b hb hl => hold4 b (by omega) hl), htx3.2⟩
        have hrow4 := htxj.1.otherIn htxj.2.1 (fun b hb hl => hold4 b (by omega) hl)
        have hbr4 : Below Q w w4 := (hbr3.alloc (by omega) _).grown hg4 (by simp; omega) (fun x hx => by have := (how.lt x hx).1; omega)
        have hs4 : Q < w4.heap.size := hrb4.lt
        have hJM : (J.drop m).length + m = JL := by rw [List.length_drop, HJL.out]; omega
        have htx5 := htx4
        obtain ⟨⟨va, vc, rfl, l1, l2, l3, l4⟩, lin, ltd⟩ := htx5
        unfold maxLen at l2
        generalize hJD : (J.drop m).length = JM at *
        have HJD := hide hJD
        clear hJD l3 lin ltd
        have hsub : (JL : Int) - (JM : Int) = (m : Int) := by omega
        have hpc : Row .u8 256 w4 (.slice (some ⟨jb, jo, none⟩) m jc) (J.take m) := by
          have h1 := hrow4.part (i := 0) (j := m) (Nat.zero_le _) (by rw [HJL.out]; exact hmJ)
          exact h1
        obtain ⟨us, hot, htt, huv⟩ := hkt4
        obtain ⟨iT, hiT, hT0, hT1, hT2⟩ := info_text
        have hot' := hot.alloc (.cells #[.slice (some ⟨jb, jo, none⟩) m jc] 22)
        have hmc : m ≤ jc := by omega
        have hmi : (m : Int) ≤ (jc : Int) := by omega
        obtain ⟨b0, b1, z0, z1⟩ := cells2 hrb4
        clear how4 hg4 hlie4 hlt4 how htr how' hkt3 hnd hrb3 htx3 htxj hkvl htvl hbr3
        go_wp2_with (first
          | (at_builtin; refine wpList_append_lies _ rfl _ _ 60 rfl (Q + 1) 22 iT (.slice none 0 0) 1 24 Tryd.underlying60 hiT hT0 hT1 hT2 rfl (by decide) u9 _ us rfl hot' _ 1 1 [.slice (some ⟨jb, jo, none⟩) m jc] rfl rfl (cells_new w4 _ _) (by simp [Value.oneCell']) (by decide) (by unfold maxLen; omega) (by omega) (by simp; omega) _ rfl ?_; intro g6 cap6 w6 how6 hg6 hlie6 hlt6)
          | fail)
        have hkn6 : KidN B0 (Q + 1) w6 (.slice (some ⟨g, 0, none⟩) (ks.length + 1) cap4) (.slice (some ⟨g6, 0, none⟩) (ts.length + 1) cap6) (ks ++ [x]) := hkn4.beside (by omega) hot hg6 hlie6
        have hkt6 : KidT B0 (Q + 1) w6 (.slice (some ⟨g6, 0, none⟩) (ts.length + 1) cap6) (ts ++ [J.take m]) := KidT.snoc hot htt huv (by omega) hpc (fun a c he => by simp at he) (fun q _ hq => by
          have e : jb = q := by simpa [Value.ownBlock] using hq
          rw [← e]; exact hjb) how6 hg6
        have hold6 : ∀ q, q < Q + 1 → q < w4.heap.size → w6.heap[q]? = w4.heap[q]? := fun q h1 h2 => (hg6.block q (by rw [World.size_alloc]; omega) (fun e => by have := (hot.lt _ e.symm).1; omega)).trans (heap_alloc_old _ _ h2)
        have hrb6 : RB w6 Q _ (d + 1) := (hold6 Q (by omega) (by omega)).trans hrb4
        have htx6 : TX B0 w6 _ (J.drop m) := ⟨htx4.1.otherIn htx4.2.1 (fun b hb hl => hold6 b (by omega) hl), htx4.2⟩
        have hbr6 : Below Q w w6 := (hbr4.alloc (by omega) _).grown hg6 (by simp; omega) (fun x hx => by have := (hot.lt x hx).1; omega)
        have hks' : (xs ++ [(x, J.take m)]).map (fun y => y.1) = ks ++ [x] := by rw [List.map_append, HKS.out]; rfl
        have hts' : (xs ++ [(x, J.take m)]).map (fun y => y.2) = ts ++ [J.take m] := by rw [List.map_append, HTS.out]; rfl
        rw [← hks'] at hkn6
        rw [← hts'] at hkt6
        go_roundg g'
        case measure => omega
        case rel => exact ⟨J.drop m, _, xs ++ [(x, J.take m)], f', hrb6, htx6, hide ⟨by rw [HJD.out]; exact HF'.out.1, HF'.out.2⟩, by rw [HJD.out, List.length_append]; simp; omega, hkn6, hkt6, hbr6, by rw [HJD.out]; omega⟩
    · have hJ0 : J = [] := List.eq_nil_of_length_eq_zero (by omega)
      subst hJ0
      have HK : Hid (rdk (rd FB deep) I.length I = .ok xs) := hide (by
        rw [HF.out.2, rdk_nil]
        show Res.ok (xs ++ []) = _
        rw [List.append_nil])
      obtain ⟨dN, hN⟩ := hkn.node (C := Q) (by omega) t ht
      have hio := inOrder_any t u9 ts wr hkt.rows
      obtain ⟨ka, kc, rfl⟩ : ∃ a c, u8 = .slice a ks.length c := by
        obtain ⟨_, _, h1, _⟩ := hkn
        exact own_slices h1
      by_cases hso : t = 49 ∧ sortedB ts = false
      · rw [decide_eq_false (not_not_intro hso)] at hio
        have HS : Hid (t = 49 ∧ sortedB (xs.map (fun y => y.2)) = false) := hide (by rw [HTS.out]; exact hso)
        clear hso
        go_wp2_with fail
        refine hio.mono ?_
        rintro e w4 ⟨rfl, hd4⟩
        have hbf : Below Q w w4 := hbr.trans (hd4.below.mono (by omega))
        clear hio
        go_wp2_with fail
        exact ⟨rfl, .inr (.inl ⟨xs, HK.out, HS.out, rfl⟩), by rw [HQ.out]; exact hbf⟩
      · rw [decide_eq_true hso] at hio
        have HS : Hid (¬ (t = 49 ∧ sortedB (xs.map (fun y => y.2)) = false)) := hide (by rw [HTS.out]; exact hso)
        clear hso
        go_wp2_with fail
        refine hio.mono ?_
        rintro e w4 ⟨rfl, hd4⟩
        have hbf : Below Q w w4 := hbr.trans (hd4.below.mono (by omega))
        have hN4 := hN.turn (w' := w4) (T := fun q => q < B0 ∨ Q ≤ q) (fun b hs hl => ⟨hd4.below.block b hl, hs⟩)
        clear hio
        go_wp2_with fail
        go_ret
        refine ⟨.inr (.inr ⟨xs, _, dN, HK.out, HS.out, rfl, ?_⟩), by rw [HQ.out]; exact hbf⟩
        rw [HQ.out, HKS.out]
        exact hN4
end Go.Proofs.YtjkciheoknjfhaaDoor
