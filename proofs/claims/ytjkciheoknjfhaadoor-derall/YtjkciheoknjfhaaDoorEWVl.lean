/- der's writer: value; Bytes, Fit. -/
import Derived.Test.YtjkciheoknjfhaaDoorEWCn
namespace Go.Proofs.YtjkciheoknjfhaaDoor
open Go.RowKit Go.Deep
set_option linter.unusedVariables false

theorem lsz_le (n : Nat) : lsz n ≤ 3 := by unfold lsz; (repeat' split) <;> omega
set_option maxRecDepth 100000 in
set_option maxHeartbeats 8000000 in
theorem wvalue_any (FB : Int → List Nat → Bool) (hFB : FBok FB) : ∀ deep, WvC FB deep := by
  intro deep
  induction deep with
  | zero =>
    intro d B0 P dep c0 c1 c2 x L w hn hw hB hG hd hs hL0 hL hT
    have hdi : (32 : Int) < (dep : Int) := by omega
    have hb0 : Below w.heap.size w (w.alloc (.cells #[c0, c1, c2] 26)) := keep_alloc _ _
    obtain ⟨tt, a1, n1, p1, a2, n2, p2, rfl, rfl, rfl⟩ := hn.forms
    go_enter Tryd.func23, Tryd.ntmps23
    go_wp2_with fail
    go_ret2
    exact ⟨.inr ⟨by rw [wrD], rfl⟩, ⟨L, hw.below hb0, by omega, Int.le_refl _⟩, Turn.below hb0 (Nat.le_of_lt hw.lt)⟩
  | succ deep ih =>
    intro d B0 P dep c0 c1 c2 x L w hn hw hB hG hd hs hL0 hL hT
    have hdi : ¬ (32 : Int) < (dep : Int) := by omega
    have hdd : decide ((32 : Int) < (dep : Int)) = false := decide_eq_false hdi
    cases d with
    | zero => exact hn.elim
    | succ d =>
      obtain ⟨t, b, ks⟩ := x
      have hn' := hn
      obtain ⟨rfl, ht, hrb, htb, htk, hib, hik, hkids⟩ := hn'
      obtain ⟨ba, bcap, rfl⟩ := hrb.sl
      obtain ⟨ka, kcap, rfl⟩ : ∃ a c, c2 = .slice a ks.length c := by obtain ⟨a, c, h, _⟩ := hkids; exact ⟨a, c, h⟩
      have hPw := hw.lt
      have hb0 : Below w.heap.size w (w.alloc (.cells #[.int .i64 t, .slice ba b.length bcap, .slice ka ks.length kcap] 26)) := keep_alloc _ _
      obtain ⟨x0, x1, x2⟩ := box_cell w (.int .i64 t) (.slice ba b.length bcap) (.slice ka ks.length kcap) 26
      have htw : Turn P w _ := Turn.below hb0 (Nat.le_of_lt hPw)
      have hsz : 1 + b.length + (ks.map (szF d)).sum = szF (d + 1) (.mk t b ks) := by rw [szF]
      have hsp := spend_any P (2 + b.length) L _ (hw.below hb0) (by omega) hL
      have hWR := hide (wr_ct (FB := FB) (deep := deep) (NdIn.at _ _ _ _ _ hn) (by omega))
      have hs0 : (w.alloc (.cells #[.int .i64 t, .slice ba b.length bcap, .slice ka ks.length kcap] 26)).heap.size = w.heap.size + 1 := World.size_alloc _ _
      have hcb : ((2 + b.length : Nat) : Int) = 2 + (b.length : Int) := by omega
      rw [hcb] at hsp
      go_enter Tryd.func23, Tryd.ntmps23
      go_wp2_with fail
      refine hsp.mono ?_
      rintro e w1 ⟨rfl, hw1, ht1⟩
      have hs1 := ht1.size
      have htw1 := htw.trans ht1
      have hcell : ∀ o v, (w.alloc (.cells #[.int .i64 t, .slice ba b.length bcap, .slice ka ks.length kcap] 26)).cell? ⟨w.heap.size, o, none⟩ = some v → w1.cell? ⟨w.heap.size, o, none⟩ = some v := fun o v h => by
        rw [World.cell?_of_block (w := w.alloc (.cells #[.int .i64 t, .slice ba b.length bcap, .slice ka ks.length kcap] 26)) (ht1.old (k := w.heap.size) (by omega) (by omega))]
        exact h
      have y0 := hcell 0 _ x0
      have y1 := hcell 1 _ x1
      have y2 := hcell 2 _ x2
      have hn1 := hn.turn (w' := w1) (T := fun k => k < B0) (fun q hq hl => ⟨htw1.old hl (by omega), hq⟩)
      have hct := content_any FB hFB deep ih d B0 P dep _ _ t b ks (L - ((2 + b.length : Nat) : Int)) w1 hn1 hw1 hB hG (by omega) (by omega) (by omega) (by omega) (hT.turn (hG.mono hB) htw1)
      clear hcell x0 x1 x2 hsp hn1
      go_wp2_with fail
      refine hct.mono ?_
      rintro e w2 ⟨⟨l, ca, cc, hcd, rfl, hrl, hcin⟩ | ⟨ca, cn, cc, hcd, rfl⟩, ⟨M, hw2, hM0, hM1⟩, ht2⟩
      · have HW : Hid (wrD FB (deep + 1) (.mk t b ks) = some (t.toNat :: lenE l.length ++ l)) := hide (by rw [hWR.out, hcd]; rfl)
        have hll : l.length ≤ 100000 := by
          have h1 := wr_size FB (deep + 1) (d + 1) (.mk t b ks) _ HW.out ⟨w, _, _, _, NdIn.at _ _ _ _ _ hn⟩
          simp only [List.length_append, List.length_cons] at h1
          omega
        have htt : taggedB t = true := by
          cases ht' : taggedB t with
          | true => rfl
          | false =>
            have h := HW.out
            rw [wrD, if_pos ht'] at h
            cases h
        obtain ⟨tn, rfl⟩ : ∃ tn : Nat, t = (tn : Int) := ⟨t.toNat, by have := tagged_range htt; omega⟩
        have htn : tn < 256 := by have := tagged_range htt; omega
        have hs2 := ht2.size
        have z0 : w2.cell? ⟨w.heap.size, 0, none⟩ = some (.int .i64 tn) := by
          rw [World.cell?_of_block (w := w1) (ht2.old (k := w.heap.size) (by omega) (by omega))]
          exact y0
        have hls := lengthSize_any l.length (by omega) w2
        have hlz := lsz_le l.length
        have hsp2 := spend_any P (lsz l.length) M w2 hw2 (by omega) (by omega)
        generalize lsz l.length = Z at *
        have ht12 := htw1.trans ht2
        clear hct hcd y0 y1 y2 htt
        go_wp2_with (first
          | (go_at_call 37; refine hls.mono ?_; rintro e w3 ⟨rfl, hw3⟩; obtain rfl := hw3.symm; clear hls)
          | fail)
        refine hsp2.mono ?_
        rintro e w4 ⟨rfl, hw4, ht4⟩
        have hs4 := ht4.size
        have z4 : w4.cell? ⟨w.heap.size, 0, none⟩ = some (.int .i64 tn) := by
          rw [World.cell?_of_block (w := w2) (ht4.old (k := w.heap.size) (by omega) (by omega))]
          exact z0
        have hrl4 : Row .u8 256 w4 (.slice ca l.length cc) l := hrl.otherIn hcin (fun q hq hl => ht4.old hl hq)
        have ht14 := ht12.trans ht4
        obtain ⟨i0, hi, hz0, hz1, hz2⟩ := info_byte
        clear hsp2 z0
        go_wp2_with fail
        refine (head_any tn l.length w4 htn (by omega)).mono ?_
        rintro e w5 ⟨⟨v5, rfl, ho5⟩, hb5⟩
        have hn5 := (row_news (hrl4.below hb5)).2
        have hs5 := hb5.size
        have hw5 := hw4.below hb5
        have hhl := (lenE_len l.length).2
        have hol : (tn :: lenE l.length).length ≤ 5 := by simp only [List.length_cons]; omega
        have HLL := hide (rfl : (vals .u8 l).length = (vals .u8 l).length)
        clear z4
        go_wp2_with (first
          | (at_builtin; refine wpList_append_rows _ rfl _ _ 22 22 5 (by rfl) Tryd.underlying22 w4.heap.size 5 i0 (.int .u8 0) 1 Tryd.underlying22 hi hz0 hz1 hz2 rfl _ _ _ (by rfl) ho5.1 ca l.length cc (vals .u8 l) (by rfl) (vals_length _ _) hn5 (vals_one _ _) (by unfold maxLen; omega) (by omega) (by omega) ?_; intro v6 w6 ho6 hg6)
          | fail)
        have hb46 : Below w4.heap.size w4 w6 := below_append' hb5 hs5 ho5.1 hg6
        have hw6 := hw4.below hb46
        have ho7 : Own 5 .u8 256 w6 w.heap.size v6 (tn :: lenE l.length ++ l) := Own.mono (B := w4.heap.size) ⟨by rw [vals_append, List.length_append]; exact ho6, ho5.2.append hrl4.under⟩ (by omega)
        have htf := ht14.trans (Turn.below hb46 (by omega))
        have hbd : L - 5 * ((szF (d + 1) (.mk (tn : Int) b ks) : Nat) : Int) ≤ M - (Z : Int) := by omega
        go_ret2
        exact ⟨.inl ⟨_, v6, HW.out, rfl, ho7⟩, ⟨M - (Z : Int), hw6, hbd, by omega⟩, htf⟩
      · have HW : Hid (wrD FB (deep + 1) (.mk t b ks) = none) := hide (by rw [hWR.out, hcd]; rfl)
        have hbd : L - 5 * ((szF (d + 1) (.mk t b ks) : Nat) : Int) ≤ M := by omega
        have htf := htw1.trans ht2
        clear hct hcd
        go_wp2_with fail
        go_ret2
        exact ⟨.inr ⟨HW.out, rfl⟩, ⟨M, hw2, hbd, by omega⟩, htf⟩
end Go.Proofs.YtjkciheoknjfhaaDoor
