/- der's writer: content. -/
import Derived.Test.YtlddpjcacnahmaaGreatDoorEWCt
import Derived.Test.YtlddpjcacnahmaaGreatDoorEJon
import Derived.Deep.RegionHeld3
namespace Go.Proofs.YtlddpjcacnahmaaGreatDoor
open Go.RowKit Go.Deep
set_option linter.unusedVariables false

/-- what a writer's value tells -/
def WvE (FB : Int → List Nat → Bool) (deep d P : Nat) (x : Nd) (L : Int) (w : World) (e : Ending) (w' : World) : Prop :=
  ((∃ l v, wrD FB deep x = some l ∧ e = .returned (.tuple #[v, .bool true]) ∧ Own 5 .u8 256 w' w.heap.size v l) ∨ (wrD FB deep x = none ∧ e = .returned (.tuple #[.slice none 0 0, .bool false]))) ∧
  (∃ M, WB w' P M ∧ L - 5 * (szF d x : Nat) ≤ M ∧ M ≤ L) ∧ Turn P w w'
def WvC (FB : Int → List Nat → Bool) (deep : Nat) : Prop := ∀ (d B0 P dep : Nat) (c0 c1 c2 : Value) (x : Nd) (L : Int) (w : World), NdIn (fun k => k < B0) w d c0 c1 c2 x → WB w P L → B0 ≤ P → GLow B0 → dep + deep = 33 → szF d x ≤ 10000 → 5 * (szF d x : Nat) ≤ L → L ≤ 1048576 → UTabs w →
    Calls Tryz.prog 114 #[.pointer (some ⟨P, 0, none⟩), .agg #[c0, c1, c2], .int .i64 dep] w fun e w' => WvE FB deep d P x L w e w'
/-- what a writer's content tells -/
def CtE (FB : Int → List Nat → Bool) (deep S P : Nat) (x : Nd) (L : Int) (w : World) (e : Ending) (w' : World) : Prop :=
  ((∃ l a c, ctD FB deep x = some l ∧ e = .returned (.tuple #[.slice a l.length c, .bool true]) ∧ Row .u8 256 w' (.slice a l.length c) l ∧ ValIn (fun k => k ≠ P) (.slice a l.length c)) ∨ (∃ a n c, ctD FB deep x = none ∧ e = .returned (.tuple #[.slice a n c, .bool false]))) ∧
  (∃ M, WB w' P M ∧ L - 5 * (S : Int) ≤ M ∧ M ≤ L) ∧ Turn P w w'
theorem Row.sl {k : IntKind} {m : Nat} {w : World} {v : Value} {l : List Nat} (h : Row k m w v l) : ∃ a c, v = .slice a l.length c := by
  obtain ⟨a, c, rfl, _⟩ := h
  exact ⟨a, c, rfl⟩

set_option maxRecDepth 100000 in
set_option maxHeartbeats 8000000 in
set_option maxRecDepth 100000 in
theorem content_any (FB : Int → List Nat → Bool) (hFB : FBok FB) (deep : Nat) (ih : WvC FB deep) (d B0 P dep : Nat) (c1 c2 : Value) (t : Int) (b : List Nat) (ks : List Nd) (L : Int) (w : World) (hn : NdIn (fun k => k < B0) w (d + 1) (.int .i64 t) c1 c2 (.mk t b ks)) (hw : WB w P L) (hB : B0 ≤ P) (hG : GLow B0) (hd : dep + 1 + deep = 33) (hs : szF (d + 1) (.mk t b ks) ≤ 10000) (hL0 : 5 * (((ks.map (szF d)).sum : Nat) : Int) ≤ L) (hL : L ≤ 1048576) (hT : UTabs w) :
    Calls Tryz.prog 140 #[.pointer (some ⟨P, 0, none⟩), .agg #[.int .i64 t, c1, c2], .int .i64 dep] w fun e w' => CtE FB deep ((ks.map (szF d)).sum) P (.mk t b ks) L w e w' := by
  have hn' := hn
  obtain ⟨_, ht, hrb, htb, htk, hib, hik, ka, kcap, rfl, hk1, hk2, hk3⟩ := hn'
  unfold maxLen at hk2
  obtain ⟨ba, bcap, rfl⟩ := hrb.sl
  have hPw := hw.lt
  have hb0 : Below w.heap.size w (w.alloc (.cells #[.int .i64 t, .slice ba b.length bcap, .slice ka ks.length kcap] 28)) := keep_alloc _ _
  obtain ⟨x0, x1, x2⟩ := box_cell w (.int .i64 t) (.slice ba b.length bcap) (.slice ka ks.length kcap) 28
  have htw : Turn P w _ := Turn.below hb0 (Nat.le_of_lt hPw)
  have hbx := boxed_any t (w.alloc (.cells #[.int .i64 t, .slice ba b.length bcap, .slice ka ks.length kcap] 28))
  have hw0 := hw.below hb0
  have hrb0 := hrb.below hb0
  have hT0 := hT.below hb0
  have hsz : 1 + b.length + (ks.map (szF d)).sum = szF (d + 1) (.mk t b ks) := by rw [szF]
  cases hbb : boxedB t with
  | false =>
    rw [hbb] at hbx
    have HC : Hid (ctD FB deep (.mk t b ks) = if ks.length = 0 ∧ plainB t = true ∧ FB t b = true then some b else none) := hide (by rw [ctD, if_pos hbb])
    by_cases hk0 : ks.length = 0
    · have hk0i : ((ks.length : Int) == 0) = true := beq_iff_eq.2 (by omega)
      have HK0 := hide hk0
      clear hk0
      go_enter Tryz.func140, Tryz.ntmps140
      go_wp2_with fail
      refine hbx.mono ?_
      rintro e w1 ⟨rfl, hw1⟩
      rw [← hw1] at hb0 x0 x1 x2 htw hw0 hrb0 hT0
      clear hw1 hbx
      have hkd : Below w1.heap.size w1 w1.drew := (Below.refl _ _).drew
      have hfit := fits_any FB hFB t _ b w1.drew (hrb0.below hkd) (hT0.below hkd) (by omega)
      go_wp2_with fail
      go_region_held3 (fun w' => w'.cell? ⟨w.heap.size, 0, none⟩ = some (.int .i64 t) ∧ w'.cell? ⟨w.heap.size, 1, none⟩ = some (.slice ba b.length bcap) ∧ w'.cell? ⟨w.heap.size, 2, none⟩ = some (.slice ka ks.length kcap))
        (first
          | exact ⟨x0, x1, x2⟩
          | exact ⟨Below.cells (w := w1.drew) hb2 x0, Below.cells (w := w1.drew) hb2 x1, Below.cells (w := w1.drew) hb2 x2⟩)
        (first
          | (go_at_call 152; refine hfit.mono ?_; rintro e w2 ⟨rfl, hb2⟩)
          | fail)
      have hb3 := keep_trans hkd hb2
      have hwf := hw0.below hb3
      have hrf := hrb0.below hb3
      have htf : Turn P w w2 := htw.trans (Turn.below hb3 (by have := htw.size; omega))
      clear hfit x0 x1 x2 hb2 hkd
      cases hr : (plainB t && FB t b) with
      | true =>
        rw [Bool.and_eq_true] at hr
        have HR : Hid (ctD FB deep (.mk t b ks) = some b) := hide (by rw [HC.out, if_pos ⟨HK0.out, hr.1, hr.2⟩])
        clear hr
        go_wp2_with fail
        go_ret2
        exact ⟨.inl ⟨b, ba, bcap, HR.out, rfl, hrf, fun q h1 h2 => by have := hib q h1 h2; omega⟩, ⟨L, hwf, by omega, Int.le_refl _⟩, htf⟩
      | false =>
        have HR : Hid (ctD FB deep (.mk t b ks) = none) := hide (by
          rw [HC.out, if_neg]
          rintro ⟨_, h1, h2⟩
          rw [h1, h2] at hr
          cases hr)
        clear hr
        go_wp2_with fail
        go_ret2
        exact ⟨.inr ⟨ba, b.length, bcap, HR.out, rfl⟩, ⟨L, hwf, by omega, Int.le_refl _⟩, htf⟩
    · have hk0i : ((ks.length : Int) == 0) = false := beq_eq_false_iff_ne.2 (by omega)
      have HR : Hid (ctD FB deep (.mk t b ks) = none) := hide (by rw [HC.out, if_neg (fun h => hk0 h.1)])
      clear hk0
      go_enter Tryz.func140, Tryz.ntmps140
      go_wp2_with fail
      refine hbx.mono ?_
      rintro e w1 ⟨rfl, hw1⟩
      rw [← hw1] at hb0 x0 x1 x2 htw hw0
      clear hw1 hbx
      go_wp2_with fail
      go_quiet (fail)
      have hkq : Below w1.heap.size w1 (w1.drewN nq) := below_drewNv (Below.refl _ _) nq
      have hwf := hw0.below hkq
      have htf : Turn P w (w1.drewN nq) := htw.trans (Turn.below hkq (by have := htw.size; omega))
      go_wp2_with fail
      go_ret2
      exact ⟨.inr ⟨ba, b.length, bcap, HR.out, rfl⟩, ⟨L, hwf, by omega, Int.le_refl _⟩, htf⟩
  | true =>
    rw [hbb] at hbx
    by_cases hbz : 0 < b.length
    · have hbzi : (0 : Int) < (b.length : Int) := by omega
      have HR : Hid (ctD FB deep (.mk t b ks) = none) := hide (by rw [ctD, if_neg (by rw [hbb]; decide), if_pos (by omega)])
      go_enter Tryz.func140, Tryz.ntmps140
      go_wp2_with fail
      refine hbx.mono ?_
      rintro e w1 ⟨rfl, hw1⟩
      rw [← hw1] at hb0 x0 x1 x2 htw hw0
      clear hw1 hbx
      go_wp2_with fail
      go_ret2
      exact ⟨.inr ⟨none, 0, 0, HR.out, rfl⟩, ⟨L, hw0, by omega, Int.le_refl _⟩, htw⟩
    · have hbz0 : b = [] := List.eq_nil_of_length_eq_zero (by omega)
      subst hbz0
      have hbzi : ¬ (0 : Int) < (([] : List Nat).length : Int) := by simp
      have HC : Hid (ctD FB deep (.mk t [] ks) = match allS (wrD FB deep) ks with | none => none | some bs => if t = 49 ∧ sortedB bs = false then none else some bs.flatten) := hide (by
        rw [ctD, if_neg (by rw [hbb]; decide), if_neg (by simp)]
        cases allS (wrD FB deep) ks <;> rfl)
      clear hbb
      simp only [List.length_nil] at hbx hb0 x0 x1 x2 htw hw0 hrb0 hT0
      obtain ⟨i1, hj, hy0, hy1, hy2⟩ := info_text
      go_enter Tryz.func140, Tryz.ntmps140
      go_wp2_with fail
      refine hbx.mono ?_
      rintro e w1 ⟨rfl, hw1⟩
      rw [← hw1] at hb0 x0 x1 x2 htw hw0 hT0
      have hsw : w1.heap.size = w.heap.size + 1 := by rw [hw1, World.size_alloc]
      clear hw1 hbx hrb0
      go_wp2_with fail
      go_loopw [8, 37] (fun vo iv wr => ∃ (k : Nat) (o : List (List Nat)) (M : Int), k ≤ ks.length ∧ iv = .int .i64 k ∧ o.length = k ∧ Outs w1.heap.size wr vo o ∧ Hid (allS (wrD FB deep) (ks.take k) = some o) ∧ WB wr P M ∧ L - 5 * ((((ks.take k).map (szF d)).sum : Nat) : Int) ≤ M ∧ M ≤ L ∧ Turn P w1 wr) (fun _ iv _ => ks.length - (intOf iv).toNat)
      case atStart => exact ⟨0, [], L, Nat.zero_le _, rfl, rfl, Outs.nil _ _, hide rfl, hw0, by simp, Int.le_refl _, Turn.refl _ _⟩
      case round =>
        obtain ⟨k, o, M, hk, rfl, hok, hO, HA, hwr, hM0, hM1, htr⟩ := hrel
        have hsr := htr.size
        have htwr := htw.trans htr
        by_cases hlt : k < ks.length
        · obtain ⟨bk, ok, rfl, hck⟩ := hk3 (by omega)
          obtain ⟨y0, y1, y2, yc, yn⟩ := hck k hlt
          have hbk : bk < B0 := hik bk (by simp [lenV]; omega) rfl
          obtain ⟨yc0, yc1, yc2⟩ := yc.other (w' := wr) (htwr.old (World.block_lt_of_cell? w _ yc.1) (by omega))
          have yn1 := yn.turn (w' := wr) (T := fun k => k < B0) (fun b hb hl => ⟨htwr.old hl (by omega), hb⟩)
          obtain ⟨tt, a1, n1, p1, a2, n2, p2, rfl, rfl, rfl⟩ := yn.forms
          have hbx1 : Below wr.heap.size wr (wr.alloc (.cells #[.int .i64 tt, .slice a1 n1 p1, .slice a2 n2 p2] 28)) := keep_alloc _ _
          have yn2 := yn1.turn (w' := wr.alloc (.cells #[.int .i64 tt, .slice a1 n1 p1, .slice a2 n2 p2] 28)) (T := fun k => k < B0) (fun b hb hl => ⟨hbx1.block b hl, hb⟩)
          obtain ⟨e0, e1, e2⟩ := box_cell wr (.int .i64 tt) (.slice a1 n1 p1) (.slice a2 n2 p2) 28
          have hst := sum_take (szF d) hlt
          have hsl := sum_le (szF d) ks (k + 1)
          have hwr1 := hwr.below hbx1
          have hT1 : UTabs (wr.alloc (.cells #[.int .i64 tt, .slice a1 n1 p1, .slice a2 n2 p2] 28)) := (hT.turn (hG.mono hB) htwr).below hbx1
          have hih := ih d B0 P (dep + 1) _ _ _ (kx ks k) M _ yn2 hwr1 hB hG (by omega) (by omega) (by omega) (by omega) hT1
          have hdi : (dep : Int) + 1 < 100 := by omega
          have hkl : ks.length ≤ 10000 := by
            have h1 := len_le_sum (d := d) (by cases d with | zero => exact yn.elim | succ d => omega) ks
            omega
          have hsa : (wr.alloc (.cells #[.int .i64 tt, .slice a1 n1 p1, .slice a2 n2 p2] 28)).heap.size = wr.heap.size + 1 := World.size_alloc _ _
          clear hck yc yn yn1 yn2
          have hdc : ((dep + 1 : Nat) : Int) = (dep : Int) + 1 := by omega
          rw [hdc] at hih
          go_wp2_with fail
          refine hih.mono ?_
          rintro e w3 ⟨⟨l, v3, hwl, rfl, ho3⟩ | ⟨hwl, rfl⟩, ⟨M3, hw3, hM30, hM31⟩, ht3⟩
          · obtain ⟨va3, vc3, rfl⟩ := own_slice ho3.1
            have hold3 : ∀ q, w1.heap.size ≤ q → q < wr.heap.size → w3.heap[q]? = wr.heap[q]? := fun q h1 h2 => (ht3.old (by omega) (by omega)).trans (hbx1.block q h2)
            have hO3 : Outs w1.heap.size w3 u8 o := hO.other hold3
            have hs3 := ht3.size
            have ho3' : Own 5 .u8 256 w3 w1.heap.size (.slice va3 l.length vc3) l := ho3.mono (by omega)
            have HAS : Hid (allS (wrD FB deep) (ks.take (k + 1)) = some (o ++ [l])) := hide (by rw [take_kx hlt]; exact allS_snoc _ _ _ _ _ HA.out hwl)
            have ht13 : Turn P w1 w3 := htr.trans ((Turn.below hbx1 (by omega)).trans ht3)
            obtain ⟨us, hus, hul, hel⟩ := hO3
            have HEL := hide hel
            have HOK := hide hok
            have hol : o.length ≤ 10000 := by omega
            clear hih hwl hO ho3 HA hel ht3 hold3 hok
            go_wp2_with (first
              | (at_builtin; refine wpList_append_rows _ rfl _ _ 112 112 22 rfl Tryz.underlying112 w1.heap.size 22 i1 (.slice none 0 0) 24 Tryz.underlying112 hj hy0 hy1 hy2 rfl _ _ _ rfl (hus.alloc _) (some ⟨w3.heap.size, 0, none⟩) 1 1 [.slice va3 l.length vc3] rfl rfl (fun _ => ⟨_, _, rfl, cells_new1 w3 _ _⟩) (by simp [Value.oneCell']) (by unfold maxLen; omega) (by omega) (by simp; omega) ?_; intro v4 w4 how4 hg4)
              | fail)
            have hO4 : Outs w1.heap.size w4 v4 (o ++ [l]) := Outs.snoc hus hul HEL.out (grown_refl _ _) ho3' how4 hg4
            have hold4 : ∀ q, q < w1.heap.size → w4.heap[q]? = w3.heap[q]? := fun q h1 => (hg4.block q (by rw [World.size_alloc]; omega) (fun e => by have := (hus.lt q e.symm).1; omega)).trans (heap_alloc_old _ _ (by omega))
            have hw4 : WB w4 P M3 := (hold4 P (by omega)).trans hw3
            have hb34 : Below w1.heap.size w3 w4 := ((Below.refl _ _).alloc (by omega) _).grown hg4 (by simp; omega) (fun x hx => (hus.lt x hx).1)
            have ht14 : Turn P w1 w4 := ⟨ht13.1.trans (hb34.mono (by omega)), fun q h1 h2 => (hold4 q h2).trans (ht13.2 q h1 h2)⟩
            have hMk : L - 5 * ((((ks.take (k + 1)).map (szF d)).sum : Nat) : Int) ≤ M3 := by rw [hst]; omega
            clear how4 hg4 hus hul ho3' hold4 hb34 ht13 hw3
            first
              | exact ⟨⟨k + 1, o ++ [l], M3, by omega, by simp, by rw [List.length_append, HOK.out]; rfl, hO4, HAS, hw4, hMk, by omega, ht14⟩, by simp [intOf]; omega⟩
              | (go_roundw
                 case rel => exact ⟨k + 1, o ++ [l], M3, by omega, by go_num, by rw [List.length_append, HOK.out]; rfl, hO4, HAS, hw4, hMk, by omega, ht14⟩
                 case measure => simp [intOf]; omega)
          · have HR : Hid (ctD FB deep (.mk t [] ks) = none) := hide (by rw [HC.out, allS_bad hlt hwl])
            have htf : Turn P w w3 := htw.trans (htr.trans ((Turn.below hbx1 (by omega)).trans ht3))
            have hMf : L - 5 * (((ks.map (szF d)).sum : Nat) : Int) ≤ M3 := by omega
            clear hih hwl
            go_wp2_with fail
            go_ret2
            exact ⟨.inr ⟨none, 0, 0, HR.out, rfl⟩, ⟨M3, hw3, hMf, by omega⟩, htf⟩
        · have hend : ks.take k = ks := List.take_of_length_le (by omega)
          rw [hend] at HA hM0
          have hOt := hO.texts
          have hMf : L - 5 * (((ks.map (szF d)).sum : Nat) : Int) ≤ M := hM0
          have hkd : Below wr.heap.size wr wr.drew := (Below.refl _ _).drew
          have x0r : wr.cell? ⟨w.heap.size, 0, none⟩ = some (.int .i64 t) := by
            rw [World.cell?_of_block (w := w1) (htr.old (k := w.heap.size) (by omega) (by omega))]
            exact x0
          have hfl : o.flatten.length ≤ 2000000 ∧ o.length ≤ 2000000 := by
            have hkn : KidsAt (NdAt w d) w (.slice ka ks.length kcap) ks := (NdIn.at _ _ _ _ _ hn).2.2.2.2.2
            have h1 := len_sum FB d deep (fun y l hy hny => wr_size FB deep d y l hy hny) ks o (kids_nd hkn) HA.out
            have h2 : ks.length ≤ 10000 := by
              by_cases hz : ks.length = 0
              · omega
              · obtain ⟨bk, ok, _, hck⟩ := hk3 (by omega)
                obtain ⟨_, _, _, _, yn⟩ := hck 0 (by omega)
                have h3 := len_le_sum (d := d) (by cases d with | zero => exact yn.elim | succ d => omega) ks
                omega
            exact ⟨by omega, by omega⟩
          have hjn := join_any u8 o wr.drew (hOt.below hkd) hfl.1 hfl.2
          obtain ⟨oa, oc, rfl⟩ : ∃ a c, u8 = .slice a o.length c := by
            obtain ⟨us, h1, _⟩ := hO
            exact own_slice h1
          have HMF := hide hMf
          obtain ⟨F, hF⟩ : ∃ F, o.flatten = F := ⟨_, rfl⟩
          have HF := hide hF
          have hjn : Calls Tryz.prog 153 #[.slice oa o.length oc, .slice none 0 0] wr.drew fun e w' => (∃ v, e = .returned v ∧ Row .u8 256 w' v F ∧ Tidy v ∧ ValIn (fun k => wr.drew.heap.size ≤ k) v) ∧ Below wr.drew.heap.size wr.drew w' := by rw [← hF]; exact hjn
          obtain ⟨rr, hrr⟩ : ∃ rr : Bool, decide (¬ (t = 49 ∧ sortedB o = false)) = rr := ⟨_, rfl⟩
          have hio : ∀ w', Rows2 w' (.slice oa o.length oc) o → Calls Tryz.prog 154 #[.int .i64 t, .slice oa o.length oc] w' fun e w'' => e = .returned (.bool rr) ∧ Drew w' w'' := fun w' h => by rw [← hrr]; exact inOrder_any t _ o w' h
          have HRR := hide hrr
          clear hF hrr
          clear hMf hM0 hok hend hk
          go_wp2_with fail
          go_region_held3 (fun w' => w'.cell? ⟨w.heap.size, 0, none⟩ = some (.int .i64 t))
            (first
              | exact x0r
              | exact Below.cells hd6.below (Below.cells (w := wr.drew) hb5 x0r)
              | exact Below.cells (w := wr.drew) hb5 x0r)
            (first
              | (go_at_call 153; refine hjn.mono ?_; rintro e w5 ⟨⟨v5, rfl, hr5, htd5, hin5⟩, hb5⟩; obtain ⟨a5, c5, rfl⟩ := hr5.sl)
              | (go_at_call 154; refine (hio w5 ((hOt.below hkd).below hb5)).mono ?_; rintro e w6 ⟨rfl, hd6⟩)
              | fail)
          have hb6 : Below wr.heap.size wr w6 := keep_trans hkd (keep_trans hb5 hd6.below)
          have hw6 := hwr.below hb6
          have hr6 := hr5.below hd6.below
          have htf : Turn P w w6 := htwr.trans (Turn.below hb6 (by omega))
          clear hjn hb5 hd6 hr5 x0r hOt hO hio
          cases rr with
          | false =>
            have HR : Hid (ctD FB deep (.mk t [] ks) = none) := hide (by
              rw [HC.out, HA.out]
              dsimp only
              rw [if_pos (Classical.not_not.1 (of_decide_eq_false HRR.out))])
            go_wp2_with fail
            go_ret2
            exact ⟨.inr ⟨a5, _, c5, HR.out, rfl⟩, ⟨M, hw6, HMF.out, hM1⟩, htf⟩
          | true =>
            have HR : Hid (ctD FB deep (.mk t [] ks) = some F) := hide (by
              rw [HC.out, HA.out]
              dsimp only
              rw [if_neg (of_decide_eq_true HRR.out), HF.out])
            go_wp2_with fail
            go_ret2
            exact ⟨.inl ⟨F, a5, c5, HR.out, rfl, hr6, fun q h1 h2 => by have h3 : wr.heap.size ≤ q := hin5 q h1 h2; omega⟩, ⟨M, hw6, HMF.out, hM1⟩, htf⟩
end Go.Proofs.YtlddpjcacnahmaaGreatDoor
