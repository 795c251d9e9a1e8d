/- der's writer: value; Bytes, Fit. -/
import Derived.Test.YtlddpjcacnahmaaGreatDoorEWCn
import Derived.Test.YtlddpjcacnahmaaGreatDoorDWr
import Derived.Test.YtlddpjcacnahmaaGreatDoorStT
import Derived.Test.YtlddpjcacnahmaaGreatDoorSTwo
namespace Go.Proofs.YtlddpjcacnahmaaGreatDoor
open Go.RowKit Go.Deep
set_option linter.unusedVariables false

theorem lsz_le (n : Nat) : lsz n ≤ 3 := by unfold lsz; (repeat' split) <;> omega
set_option maxRecDepth 100000 in
set_option maxHeartbeats 8000000 in
set_option maxRecDepth 100000 in
theorem wvalue_any (FB : Int → List Nat → Bool) (hFB : FBok FB) : ∀ deep, WvC FB deep := by
  intro deep
  induction deep with
  | zero =>
    intro d B0 P dep c0 c1 c2 x L w hn hw hB hG hd hs hL0 hL hT
    have hdi : (32 : Int) < (dep : Int) := by omega
    have hb0 : Below w.heap.size w (w.alloc (.cells #[c0, c1, c2] 28)) := keep_alloc _ _
    obtain ⟨tt, a1, n1, p1, a2, n2, p2, rfl, rfl, rfl⟩ := hn.forms
    go_enter Tryz.func114, Tryz.ntmps114
    go_wp2_with fail
    go_ret2
    exact ⟨.inr ⟨by rw [wrD], rfl⟩, ⟨L, hw.below hb0, by omega, Int.le_refl _⟩, Turn.below hb0 (Nat.le_of_lt hw.lt)⟩
  | succ deep ih =>
    intro d B0 P dep c0 c1 c2 x L w hn hw hB hG hd hs hL0 hL hT
    have hdi : ¬ (32 : Int) < (dep : Int) := by omega
    have hdd : decide ((32 : Int) < (dep : Int)) = false := decide_eq_false hdi
    cases d with
    | zero => exact hn.elim
    | succ d =>
      obtain ⟨t, b, ks⟩ := x
      have hn' := hn
      obtain ⟨rfl, ht, hrb, htb, htk, hib, hik, hkids⟩ := hn'
      obtain ⟨ba, bcap, rfl⟩ := hrb.sl
      obtain ⟨ka, kcap, rfl⟩ : ∃ a c, c2 = .slice a ks.length c := by obtain ⟨a, c, h, _⟩ := hkids; exact ⟨a, c, h⟩
      have hPw := hw.lt
      have hb0 : Below w.heap.size w (w.alloc (.cells #[.int .i64 t, .slice ba b.length bcap, .slice ka ks.length kcap] 28)) := keep_alloc _ _
      obtain ⟨x0, x1, x2⟩ := box_cell w (.int .i64 t) (.slice ba b.length bcap) (.slice ka ks.length kcap) 28
      have htw : Turn P w _ := Turn.below hb0 (Nat.le_of_lt hPw)
      have hsz : 1 + b.length + (ks.map (szF d)).sum = szF (d + 1) (.mk t b ks) := by rw [szF]
      have hsp := spend_any P (2 + b.length) L _ (hw.below hb0) (by omega) hL
      have hWR := hide (wr_ct (FB := FB) (deep := deep) (NdIn.at _ _ _ _ _ hn) (by omega))
      have hs0 : (w.alloc (.cells #[.int .i64 t, .slice ba b.length bcap, .slice ka ks.length kcap] 28)).heap.size = w.heap.size + 1 := World.size_alloc _ _
      have hcb : ((2 + b.length : Nat) : Int) = 2 + (b.length : Int) := by omega
      rw [hcb] at hsp
      go_enter Tryz.func114, Tryz.ntmps114
      go_wp2_with fail
      refine hsp.mono ?_
      rintro e w1 ⟨rfl, hw1, ht1⟩
      have hs1 := ht1.size
      have htw1 := htw.trans ht1
      have hcell : ∀ o v, (w.alloc (.cells #[.int .i64 t, .slice ba b.length bcap, .slice ka ks.length kcap] 28)).cell? ⟨w.heap.size, o, none⟩ = some v → w1.cell? ⟨w.heap.size, o, none⟩ = some v := fun o v h => by
        rw [World.cell?_of_block (w := w.alloc (.cells #[.int .i64 t, .slice ba b.length bcap, .slice ka ks.length kcap] 28)) (ht1.old (k := w.heap.size) (by omega) (by omega))]
        exact h
      have y0 := hcell 0 _ x0
      have y1 := hcell 1 _ x1
      have y2 := hcell 2 _ x2
      have hn1 := hn.turn (w' := w1) (T := fun k => k < B0) (fun q hq hl => ⟨htw1.old hl (by omega), hq⟩)
      have hct := content_any FB hFB deep ih d B0 P dep _ _ t b ks (L - ((2 + b.length : Nat) : Int)) w1 hn1 hw1 hB hG (by omega) (by omega) (by omega) (by omega) (hT.turn (hG.mono hB) htw1)
      clear hcell x0 x1 x2 hsp hn1
      go_wp2_with fail
      refine hct.mono ?_
      rintro e w2 ⟨⟨l, ca, cc, hcd, rfl, hrl, hcin⟩ | ⟨ca, cn, cc, hcd, rfl⟩, ⟨M, hw2, hM0, hM1⟩, ht2⟩
      · have HW : Hid (wrD FB (deep + 1) (.mk t b ks) = some (t.toNat :: lenE l.length ++ l)) := hide (by rw [hWR.out, hcd]; rfl)
        have hll : l.length ≤ 100000 := by
          have h1 := wr_size FB (deep + 1) (d + 1) (.mk t b ks) _ HW.out ⟨w, _, _, _, NdIn.at _ _ _ _ _ hn⟩
          simp only [List.length_append, List.length_cons] at h1
          omega
        have htt : taggedB t = true := by
          cases ht' : taggedB t with
          | true => rfl
          | false =>
            have h := HW.out
            rw [wrD, if_pos ht'] at h
            cases h
        obtain ⟨tn, rfl⟩ : ∃ tn : Nat, t = (tn : Int) := ⟨t.toNat, by have := tagged_range htt; omega⟩
        have htn : tn < 256 := by have := tagged_range htt; omega
        have hs2 := ht2.size
        have z0 : w2.cell? ⟨w.heap.size, 0, none⟩ = some (.int .i64 tn) := by
          rw [World.cell?_of_block (w := w1) (ht2.old (k := w.heap.size) (by omega) (by omega))]
          exact y0
        have hls := lengthSize_any l.length (by omega) w2
        have hlz := lsz_le l.length
        have hsp2 := spend_any P (lsz l.length) M w2 hw2 (by omega) (by omega)
        generalize lsz l.length = Z at *
        have ht12 := htw1.trans ht2
        clear hct hcd y0 y1 y2 htt
        go_wp2_with (first
          | (go_at_call 141; refine hls.mono ?_; rintro e w3 ⟨rfl, hw3⟩; obtain rfl := hw3.symm; clear hls)
          | fail)
        refine hsp2.mono ?_
        rintro e w4 ⟨rfl, hw4, ht4⟩
        have hs4 := ht4.size
        have z4 : w4.cell? ⟨w.heap.size, 0, none⟩ = some (.int .i64 tn) := by
          rw [World.cell?_of_block (w := w2) (ht4.old (k := w.heap.size) (by omega) (by omega))]
          exact z0
        have hrl4 : Row .u8 256 w4 (.slice ca l.length cc) l := hrl.otherIn hcin (fun q hq hl => ht4.old hl hq)
        have ht14 := ht12.trans ht4
        obtain ⟨i0, hi, hz0, hz1, hz2⟩ := info_byte
        clear hsp2 z0
        go_wp2_with fail
        refine (head_any tn l.length w4 htn (by omega)).mono ?_
        rintro e w5 ⟨⟨v5, rfl, ho5⟩, hb5⟩
        have hn5 := (row_news (hrl4.below hb5)).2
        have hs5 := hb5.size
        have hw5 := hw4.below hb5
        have hhl := (lenE_len l.length).2
        have hol : (tn :: lenE l.length).length ≤ 5 := by simp only [List.length_cons]; omega
        have HLL := hide (rfl : (vals .u8 l).length = (vals .u8 l).length)
        clear z4
        go_wp2_with (first
          | (at_builtin; refine wpList_append_rows _ rfl _ _ 22 22 5 (by rfl) Tryz.underlying22 w4.heap.size 5 i0 (.int .u8 0) 1 Tryz.underlying22 hi hz0 hz1 hz2 rfl _ _ _ (by rfl) ho5.1 ca l.length cc (vals .u8 l) (by rfl) (vals_length _ _) hn5 (vals_one _ _) (by unfold maxLen; omega) (by omega) (by omega) ?_; intro v6 w6 ho6 hg6)
          | fail)
        have hb46 : Below w4.heap.size w4 w6 := below_append' hb5 hs5 ho5.1 hg6
        have hw6 := hw4.below hb46
        have ho7 : Own 5 .u8 256 w6 w.heap.size v6 (tn :: lenE l.length ++ l) := Own.mono (B := w4.heap.size) ⟨by rw [vals_append, List.length_append]; exact ho6, ho5.2.append hrl4.under⟩ (by omega)
        have htf := ht14.trans (Turn.below hb46 (by omega))
        have hbd : L - 5 * ((szF (d + 1) (.mk (tn : Int) b ks) : Nat) : Int) ≤ M - (Z : Int) := by omega
        go_ret2
        exact ⟨.inl ⟨_, v6, HW.out, rfl, ho7⟩, ⟨M - (Z : Int), hw6, hbd, by omega⟩, htf⟩
      · have HW : Hid (wrD FB (deep + 1) (.mk t b ks) = none) := hide (by rw [hWR.out, hcd]; rfl)
        have hbd : L - 5 * ((szF (d + 1) (.mk t b ks) : Nat) : Int) ≤ M := by omega
        have htf := htw1.trans ht2
        clear hct hcd
        go_wp2_with fail
        go_ret2
        exact ⟨.inr ⟨HW.out, rfl⟩, ⟨M, hw2, hbd, by omega⟩, htf⟩
end Go.Proofs.YtlddpjcacnahmaaGreatDoor

/- The document's Bytes, Fit. -/
namespace Go.Proofs.YtlddpjcacnahmaaGreatDoor
open Go.RowKit Go.Deep
set_option linter.unusedVariables false

/-- what Bytes tells -/
def BytesE (FB : Int → List Nat → Bool) (x : Nd) (w : World) (e : Ending) (w' : World) : Prop :=
  ((∃ l v, bytesD FB x = some l ∧ e = .returned (.tuple #[v, .int .i64 0]) ∧ Own 5 .u8 256 w' w.heap.size v l) ∨ (bytesD FB x = none ∧ e = .returned (.tuple #[.slice none 0 0, .int .i64 1]))) ∧ Below w.heap.size w w'

set_option maxHeartbeats 2000000 in
set_option maxRecDepth 100000 in
theorem rbytesN_any (FB : Int → List Nat → Bool) (hFB : FBok FB) (d : Nat) (c0 c1 c2 : Value) (x : Nd) (w : World) (h : NdAt w d c0 c1 c2 x) (hs : szF d x ≤ 1000000) :
    Calls Tryz.prog 78 #[.agg #[c0, c1, c2]] w fun e w' => BytesE FB x w e w' := by
  have hcall := rwrite_any FB hFB 32 d c0 c1 c2 x (w.alloc (.cells #[c0, c1, c2] 28)) (NdAt.below (keep_alloc w _) _ _ _ _ _ h) hs (by omega)
  have pp := box_cell w c0 c1 c2 28
  go_enter Tryz.func78, Tryz.ntmps78
  go_wp2_with fail
  refine hcall.mono ?_
  rintro e w1 ⟨⟨l, v, hl, rfl, ho⟩ | ⟨hl, rfl⟩, hb1⟩
  · obtain ⟨va, vc, rfl⟩ := own_slice ho.1
    have hb := keep_trans (keep_alloc w _) hb1
    by_cases hbig : 1048576 < l.length
    · have hbigi : (1048576 : Int) < (l.length : Int) := by omega
      have HN : Hid (bytesD FB x = none) := hide (by unfold bytesD; rw [hl]; simp only; rw [if_pos hbig])
      go_wp2_with fail
      go_ret2
      exact ⟨.inr ⟨HN.out, rfl⟩, hb⟩
    · have hbigi : ¬ (1048576 : Int) < (l.length : Int) := by omega
      have hbigd : decide ((1048576 : Int) < (l.length : Int)) = false := decide_eq_false hbigi
      have hbige : decide (1048576 < l.length) = false := decide_eq_false hbig
      have HN : Hid (bytesD FB x = some l) := hide (by unfold bytesD; rw [hl]; simp only; rw [if_neg hbig])
      have HO := hide (ho.mono (B' := w.heap.size) (by simp))
      clear ho
      go_wp2_with fail
      go_ret2
      exact ⟨.inl ⟨l, _, HN.out, rfl, HO.out⟩, hb⟩
  · have HN : Hid (bytesD FB x = none) := hide (by unfold bytesD; rw [hl])
    go_wp2_with fail
    go_ret2
    exact ⟨.inr ⟨HN.out, rfl⟩, keep_trans (keep_alloc w _) hb1⟩

set_option maxHeartbeats 2000000 in
set_option maxRecDepth 100000 in
theorem rfitN_any (FB : Int → List Nat → Bool) (hFB : FBok FB) (d : Nat) (c0 c1 c2 : Value) (x : Nd) (w : World) (h : NdAt w d c0 c1 c2 x) (hs : szF d x ≤ 1000000) :
    Calls Tryz.prog 45 #[.agg #[c0, c1, c2]] w fun e w' => e = .returned (.bool (bytesD FB x).isSome) ∧ Below w.heap.size w w' := by
  have hcall := rbytesN_any FB hFB d c0 c1 c2 x (w.alloc (.cells #[c0, c1, c2] 28)) (NdAt.below (keep_alloc w _) _ _ _ _ _ h) hs
  go_enter Tryz.func45, Tryz.ntmps45
  go_wp2_with fail
  refine hcall.mono ?_
  rintro e w1 ⟨⟨l, v, hl, rfl, ho⟩ | ⟨hl, rfl⟩, hb1⟩
  · have HL := hide hl
    clear hl
    go_wp2_with fail
    go_ret
    exact ⟨ret_bool (by rw [HL.out]; rfl), keep_trans (keep_alloc w _) hb1⟩
  · have HL := hide hl
    clear hl
    go_wp2_with fail
    go_ret
    exact ⟨ret_bool (by rw [HL.out]; rfl), keep_trans (keep_alloc w _) hb1⟩
end Go.Proofs.YtlddpjcacnahmaaGreatDoor

/- der's Bytes, Fit. -/
namespace Go.Proofs.YtlddpjcacnahmaaGreatDoor
open Go.RowKit Go.Deep
set_option linter.unusedVariables false

/-- a value that is small has few bytes -/
theorem bytes_small {FB : Int → List Nat → Bool} {d : Nat} {x : Nd} {w : World} {c0 c1 c2 : Value} (hn : NdAt w d c0 c1 c2 x) (hs : szF d x ≤ 10000) : bytesD FB x = wrD FB 32 x := by
  unfold bytesD
  cases h : wrD FB 32 x with
  | none => rfl
  | some l =>
    have := wr_size FB 32 d x l h ⟨w, c0, c1, c2, hn⟩
    simp only
    rw [if_neg (by omega)]
/-- what Bytes tells -/
def BytE (r : Option (List Nat)) (w : World) (e : Ending) (w' : World) : Prop :=
  ((∃ l v, r = some l ∧ e = .returned (.tuple #[v, .int .i64 0]) ∧ Row .u8 256 w' v l ∧ Tidy v) ∨ (r = none ∧ e = .returned (.tuple #[.slice none 0 0, .int .i64 1]))) ∧ Below w.heap.size w w'
set_option maxHeartbeats 2000000 in
set_option maxRecDepth 100000 in
theorem bytes_der (FB : Int → List Nat → Bool) (hFB : FBok FB) (d : Nat) (c0 c1 c2 : Value) (x : Nd) (w : World) (hn : NdAt w d c0 c1 c2 x) (hs : szF d x ≤ 10000) (hT : UTabs w) :
    Calls Tryz.prog 86 #[.agg #[c0, c1, c2]] w fun e w' => BytE (bytesD FB x) w e w' := by
  rw [bytes_small hn hs]
  obtain ⟨tt, a1, n1, p1, a2, n2, p2, rfl, rfl, rfl⟩ := (NdAt.inOld _ _ _ _ _ hn).forms
  go_enter Tryz.func86, Tryz.ntmps86
  go_wp2_with fail
  have hb0 : Below w.heap.size w ((w.alloc (.cells #[.int .i64 tt, .slice a1 n1 p1, .slice a2 n2 p2] 28)).alloc (.cells #[.int .i64 1048576] 141)) := keep_trans (keep_alloc _ _) (keep_alloc _ _)
  have hsw : ((w.alloc (.cells #[.int .i64 tt, .slice a1 n1 p1, .slice a2 n2 p2] 28)).alloc (.cells #[.int .i64 1048576] 141)).heap.size = w.heap.size + 2 := by rw [World.size_alloc, World.size_alloc]
  have hwb : WB ((w.alloc (.cells #[.int .i64 tt, .slice a1 n1 p1, .slice a2 n2 p2] 28)).alloc (.cells #[.int .i64 1048576] 141)) (w.heap.size + 1) 1048576 := by
    unfold WB
    have := heap_alloc_new (w.alloc (.cells #[.int .i64 tt, .slice a1 n1 p1, .slice a2 n2 p2] 28)) (.cells #[.int .i64 1048576] 141)
    rwa [World.size_alloc] at this
  have hn1 := (NdAt.inOld _ _ _ _ _ hn).turn (w' := ((w.alloc (.cells #[.int .i64 tt, .slice a1 n1 p1, .slice a2 n2 p2] 28)).alloc (.cells #[.int .i64 1048576] 141))) (T := fun k => k < w.heap.size) (fun b hb hl => ⟨hb0.block b hl, hb⟩)
  have hT1 := hT.below hb0
  generalize (w.alloc (.cells #[.int .i64 tt, .slice a1 n1 p1, .slice a2 n2 p2] 28)).alloc (.cells #[.int .i64 1048576] 141) = W at *
  refine (wvalue_any FB hFB 32 d w.heap.size (w.heap.size + 1) 1 _ _ _ x 1048576 W hn1 hwb (by omega) hT.low (by omega) hs (by omega) (by omega) hT1).mono ?_
  rintro e w1 ⟨⟨l, v, hl, rfl, ho⟩ | ⟨hl, rfl⟩, _, ht1⟩
  · obtain ⟨va, vc, rfl⟩ := own_slice ho.1
    have hbf : Below w.heap.size w w1 := hb0.trans (ht1.1.mono (by omega))
    have HL := hide hl
    have HR := hide ho.row
    have HT := hide (own_tidy ho.1)
    clear hl ho
    go_wp2_with fail
    go_ret2
    exact ⟨.inl ⟨l, _, HL.out, rfl, HR.out, HT.out⟩, hbf⟩
  · have hbf : Below w.heap.size w w1 := hb0.trans (ht1.1.mono (by omega))
    have HL := hide hl
    clear hl
    go_wp2_with fail
    go_ret2
    exact ⟨.inr ⟨HL.out, rfl⟩, hbf⟩

set_option maxHeartbeats 2000000 in
set_option maxRecDepth 100000 in
theorem fit_der (FB : Int → List Nat → Bool) (hFB : FBok FB) (d : Nat) (c0 c1 c2 : Value) (x : Nd) (w : World) (hn : NdAt w d c0 c1 c2 x) (hs : szF d x ≤ 10000) (hT : UTabs w) :
    Calls Tryz.prog 47 #[.agg #[c0, c1, c2]] w fun e w' => e = .returned (.bool (bytesD FB x).isSome) ∧ Below w.heap.size w w' := by
  obtain ⟨tt, a1, n1, p1, a2, n2, p2, rfl, rfl, rfl⟩ := (NdAt.inOld _ _ _ _ _ hn).forms
  have hcall := bytes_der FB hFB d _ _ _ x (w.alloc (.cells #[.int .i64 tt, .slice a1 n1 p1, .slice a2 n2 p2] 28)) (NdAt.below (keep_alloc w _) _ _ _ _ _ hn) hs (hT.below (keep_alloc _ _))
  go_enter Tryz.func47, Tryz.ntmps47
  go_wp2_with fail
  refine hcall.mono ?_
  rintro e w1 ⟨⟨l, v, hl, rfl, hr, _⟩ | ⟨hl, rfl⟩, hb1⟩
  · have HL := hide hl
    clear hl
    go_wp2_with fail
    go_ret
    exact ⟨ret_bool (by rw [HL.out]; rfl), keep_trans (keep_alloc w _) hb1⟩
  · have HL := hide hl
    clear hl
    go_wp2_with fail
    go_ret
    exact ⟨ret_bool (by rw [HL.out]; rfl), keep_trans (keep_alloc w _) hb1⟩
theorem rbytes_der (FB : Int → List Nat → Bool) (hFB : FBok FB) (d : Nat) (c0 c1 c2 : Value) (x : Nd) (w : World) (h : NdAt w d c0 c1 c2 x) (hs : szF d x ≤ 10000) :
    Calls Tryz.prog 78 #[.agg #[c0, c1, c2]] w fun e w' => BytE (bytesD FB x) w e w' := by
  refine (rbytesN_any FB hFB d c0 c1 c2 x w h (by omega)).mono ?_
  rintro e w1 ⟨⟨l, v, hl, rfl, ho⟩ | ⟨hl, rfl⟩, hb1⟩
  · exact ⟨.inl ⟨l, v, hl, rfl, ho.row, own_tidy ho.1⟩, hb1⟩
  · exact ⟨.inr ⟨hl, rfl⟩, hb1⟩
end Go.Proofs.YtlddpjcacnahmaaGreatDoor

/- Contracts of dateOf's closure, sort.Search at it, dateOf. -/
namespace Go.Proofs.YtlddpjcacnahmaaGreatDoor
open Go.RowKit
set_option linter.unusedVariables false

set_option maxHeartbeats 1000000 in
theorem clo_any (z n k : Nat) (w : World) (hc : w.cell? ⟨k, 0, none⟩ = some (.int .i64 n)) (hz : z + 2 ≤ 10000) :
    Calls Tryz.prog 116 #[.int .i64 z, .pointer (some ⟨k, 0, none⟩)] w fun e w' => e = .returned (.bool (decide (n < yrs (z + 2)))) ∧ ∃ q, w' = w.drewN q := by
  have hcall := fun w => ahead_any (z + 2) w (by omega) hz
  have HZ : Hid ((z : Int) + 2 = ((z + 2 : Nat) : Int)) := hide (by omega)
  generalize yrs (z + 2) = Y at *
  go_enter Tryz.func116, Tryz.ntmps116
  go_wp2
  go_quiet (first | (go_at_call 117; rw [HZ.out]; exact (hcall _).mono (by rintro e w' ⟨rfl, rfl⟩; exact ⟨rfl, _, rfl⟩)) | fail)
  go_wp2
  go_ret
  exact ⟨ret_bool (by simp), _, rfl⟩

theorem cell_drewN {w : World} {k : Nat} {v : Value} (h : w.cell? ⟨k, 0, none⟩ = some v) (q : Nat) : (w.drewN q).cell? ⟨k, 0, none⟩ = some v := by simpa using h

set_option maxHeartbeats 2000000 in
theorem search_any (n k : Nat) (w : World) (hc : w.cell? ⟨k, 0, none⟩ = some (.int .i64 n)) (hn : n ≤ 3652058) :
    Calls Tryz.prog 115 #[.int .i64 9998, .func (.func 116) #[] #[.pointer (some ⟨k, 0, none⟩)]] w
      fun e w' => ∃ z : Nat, e = .returned (.int .i64 z) ∧ z ≤ 9998 ∧ yrs (z + 1) ≤ n ∧ n < yrs (z + 2) ∧ ∃ q, w' = w.drewN q := by
  have HN0 : Hid (yrs (0 + 1) ≤ n) := hide (by rw [show yrs (0 + 1) = 0 by decide]; omega)
  have HN1 : Hid (n < yrs (9998 + 2)) := hide (by rw [show yrs (9998 + 2) = 3652059 by decide]; omega)
  go_enter Tryz.func115, Tryz.ntmps115
  go_wp2
  go_loopw [5, 6] (fun i j wr => ∃ a b q : Nat, i = .int .i64 a ∧ j = .int .i64 b ∧ a ≤ b ∧ b ≤ 9998 ∧ Hid (yrs (a + 1) ≤ n) ∧ Hid (n < yrs (b + 2)) ∧ wr = w.drewN q) (fun i j _ => (intOf j).toNat - (intOf i).toNat)
  case atStart => exact ⟨0, 9998, 0, rfl, rfl, by omega, by omega, HN0, HN1, rfl⟩
  case round =>
    obtain ⟨a, b, q, rfl, rfl, hab, hb, HA, HB, rfl⟩ := hrel
    by_cases hlt : a < b
    · have hcall := fun (m : Nat) (hm : m + 2 ≤ 10000) => clo_any m n k (w.drewN q) (cell_drewN hc q) hm
      have g1 : (a : Int) < (b : Int) := by omega
      obtain ⟨m, HM, hm1, hm2⟩ : ∃ m : Nat, Hid (((a : Int) + (b : Int)) / 2 = (m : Int)) ∧ a ≤ m ∧ m < b := ⟨(a + b) / 2, hide (by omega), by omega, by omega⟩
      have hcall := hcall m (by omega)
      by_cases hd : n < yrs (m + 2)
      · rw [decide_eq_true hd] at hcall
        have HD := hide hd
        clear hd
        go_wp2_with fail
        rw [HM.out]
        refine hcall.mono ?_
        rintro e w1 ⟨rfl, q1, rfl⟩
        go_wp2
        go_roundw
        case rel => exact ⟨a, m, q + q1, rfl, rfl, hm1, by omega, HA, HD, rfl⟩
        case measure => simp [intOf]; omega
      · rw [decide_eq_false hd] at hcall
        have HD : Hid (yrs (m + 1 + 1) ≤ n) := hide (Nat.le_of_not_lt hd)
        clear hd
        go_wp2_with fail
        rw [HM.out]
        refine hcall.mono ?_
        rintro e w1 ⟨rfl, q1, rfl⟩
        go_wp2
        go_roundw
        case rel => exact ⟨m + 1, b, q + q1, by simp, rfl, by omega, hb, HD, HB, rfl⟩
        case measure => simp [intOf]; omega
    · obtain rfl : a = b := by omega
      go_wp2
      go_ret
      exact ⟨a, rfl, hb, HA.out, HB.out, q, rfl⟩
end Go.Proofs.YtlddpjcacnahmaaGreatDoor
