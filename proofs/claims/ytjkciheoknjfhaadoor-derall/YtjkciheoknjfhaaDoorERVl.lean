/- der's reader: value. -/
import Derived.Test.YtjkciheoknjfhaaDoorERKd
import Derived.Test.YtjkciheoknjfhaaDoorDRd
namespace Go.Proofs.YtjkciheoknjfhaaDoor
open Go.RowKit Go.Deep
set_option linter.unusedVariables false

theorem Turn.setNew {P S o : Nat} {w w' : World} {v : Value} (h : Turn P w w') (hS : w.heap.size ≤ S) (hP : P < S) : Turn P w (w'.setCell ⟨S, o, none⟩ v) :=
  ⟨h.1.setCell (by show P ≤ S; omega) _, fun k h1 h2 => (heap_setCell_other _ _ _ _ (by show k ≠ S; omega)).trans (h.2 k h1 h2)⟩
theorem Turn.set3 {P S : Nat} {w w' : World} {v0 v1 v2 : Value} (h : Turn P w w') (hS : w.heap.size ≤ S) (hP : P < S) : Turn P w (((w'.setCell ⟨S, 0, none⟩ v0).setCell ⟨S, 1, none⟩ v1).setCell ⟨S, 2, none⟩ v2) :=
  ((h.setNew hS hP).setNew hS hP).setNew hS hP
theorem other3 {w : World} {S k : Nat} {v0 v1 v2 : Value} (h : k ≠ S) : (((w.setCell ⟨S, 0, none⟩ v0).setCell ⟨S, 1, none⟩ v1).setCell ⟨S, 2, none⟩ v2).heap[k]? = w.heap[k]? := by
  rw [heap_setCell_other _ _ _ _ (by exact h), heap_setCell_other _ _ _ _ (by exact h), heap_setCell_other _ _ _ _ (by exact h)]
theorem rd_short {FB : Int → List Nat → Bool} {deep t : Nat} {r : List Nat} (ht : taggedB (t : Int) = true) (h : (lenD r).2 = 0 ∨ r.length - (lenD r).2 < (lenD r).1) : rd FB (deep + 1) (t :: r) = .err 1 := by
  rw [rd, if_neg (by rw [ht]; decide), if_pos h]
theorem rd_plain {FB : Int → List Nat → Bool} {deep t : Nat} {r : List Nat} (ht : taggedB (t : Int) = true) (h : ¬ ((lenD r).2 = 0 ∨ r.length - (lenD r).2 < (lenD r).1)) (hb : boxedB (t : Int) = false) :
    rd FB (deep + 1) (t :: r) = if FB (t : Int) ((r.drop (lenD r).2).take (lenD r).1) = false then .err 5 else .ok (.mk (t : Int) ((r.drop (lenD r).2).take (lenD r).1) [], 1 + (lenD r).2 + (lenD r).1) := by
  rw [rd, if_neg (by rw [ht]; decide), if_neg h, if_pos hb]
theorem rd_box {FB : Int → List Nat → Bool} {deep t : Nat} {r : List Nat} (ht : taggedB (t : Int) = true) (h : ¬ ((lenD r).2 = 0 ∨ r.length - (lenD r).2 < (lenD r).1)) (hb : boxedB (t : Int) = true) :
    rd FB (deep + 1) (t :: r) = match rdk (rd FB deep) (lenD r).1 ((r.drop (lenD r).2).take (lenD r).1) with
      | .err e => .err e
      | .ok l => if t = 49 ∧ sortedB (l.map (·.2)) = false then .err 6 else .ok (.mk (t : Int) [] (l.map (·.1)), 1 + (lenD r).2 + (lenD r).1) := by
  rw [rd, if_neg (by rw [ht]; decide), if_neg h, if_neg (by rw [hb]; decide)]
  cases rdk (rd FB deep) (lenD r).1 ((r.drop (lenD r).2).take (lenD r).1) <;> rfl

set_option maxRecDepth 100000 in
set_option maxHeartbeats 8000000 in
theorem value_any (FB : Int → List Nat → Bool) (hFB : FBok FB) : ∀ deep, ValC FB deep := by
  intro deep
  induction deep with
  | zero =>
    intro B0 P d v l w hr hx hB hG hd hl hT
    have hb0 : Below w.heap.size w (w.alloc (.cells #[.int .i64 0, .slice none 0 0, .slice none 0 0] 26)) := keep_alloc _ _
    obtain ⟨c0, c1, f0, f1⟩ := cells2 (hr.below hb0)
    have hdi : (32 : Int) < (d : Int) := by omega
    go_enter Tryd.func29, Tryd.ntmps29
    go_wp2_with fail
    exact ⟨rfl, .inl ⟨3, by rw [rd], by decide, rfl⟩, Turn.below hb0 (Nat.le_of_lt hr.lt)⟩
  | succ deep ih =>
    intro B0 P d v l w hr hx hB hG hd hl hT
    have hPw := hr.lt
    have hb0 : Below w.heap.size w (w.alloc (.cells #[.int .i64 0, .slice none 0 0, .slice none 0 0] 26)) := keep_alloc _ _
    have hS0 : (w.alloc (.cells #[.int .i64 0, .slice none 0 0, .slice none 0 0] 26)).heap[w.heap.size]? = some (.cells #[.int .i64 0, .slice none 0 0, .slice none 0 0] 26) := heap_alloc_new _ _
    have hr0 := hr.below hb0
    have htw : Turn P w _ := Turn.below hb0 (Nat.le_of_lt hr.lt)
    have hx0 := hx.turn hB htw
    have hT0 := hT.below hb0
    have hs0 : w.heap.size + 1 = (w.alloc (.cells #[.int .i64 0, .slice none 0 0, .slice none 0 0] 26)).heap.size := (World.size_alloc _ _).symm
    obtain ⟨c0, c1, f0, f1⟩ := cells2 hr0
    have hdi : ¬ (32 : Int) < (d : Int) := by omega
    have htag := tag_any B0 P d v l _ hr0 hx0 hB
    generalize hw0 : w.alloc (.cells #[.int .i64 0, .slice none 0 0, .slice none 0 0] 26) = w0 at *
    go_enter Tryd.func29, Tryd.ntmps29
    go_wp2_with fail
    clear hw0
    refine htag.mono ?_
    rintro e w1 ⟨⟨rfl, rfl⟩ | ⟨t, r, rfl, htt, rfl⟩ | ⟨t, r, v1, rfl, htt, rfl, hr1, hx1⟩, ht1⟩
    · unfold thr
      go_wp2_with fail
      exact ⟨rfl, .inl ⟨1, by rw [rd], by decide, rfl⟩, htw.trans ht1⟩
    · have HR : Hid (rd FB (deep + 1) (t :: r) = .err 4) := hide (by rw [rd, if_pos htt])
      unfold thr
      clear htt
      go_wp2_with fail
      exact ⟨rfl, .inl ⟨4, HR.out, by decide, rfl⟩, htw.trans ht1⟩
    · have ht8 : t < 256 := hx.1.under t (by simp)
      have hur : Under 256 r := fun x hxx => hx.1.under x (by simp [hxx])
      have hlr : r.length ≤ 60000 := by simp at hl; omega
      have HTT := hide htt
      clear htt htag
      have hlen := length_any B0 P d v1 r w1 hr1 hx1 hB
      go_wp2_with fail
      refine hlen.mono ?_
      rintro e w2 ⟨⟨hk0, rfl⟩ | ⟨hk0, v2, rfl, hr2, hx2⟩, ht2⟩
      · have HR := hide (rd_short (FB := FB) (deep := deep) HTT.out (.inl hk0))
        unfold thr
        clear hk0 hlen
        go_wp2_with fail
        exact ⟨rfl, .inl ⟨1, HR.out, by decide, rfl⟩, htw.trans (ht1.trans ht2)⟩
      · have hle := len_enc hur (n := (lenD r).1) (k := (lenD r).2) rfl hk0
        have hkl := hle.2.2
        have hnl : (lenD r).1 ≤ 100000000 := by have := hle.2.1; omega
        have htk := take_any B0 P d (lenD r).1 v2 (r.drop (lenD r).2) w2 hr2 hx2 hB hnl
        have HSH := hide (fun h => rd_short (FB := FB) (deep := deep) (r := r) HTT.out (.inr h))
        have HPL := hide (fun h => rd_plain (FB := FB) (deep := deep) (r := r) HTT.out h)
        have HBX := hide (fun h => rd_box (FB := FB) (deep := deep) (r := r) HTT.out h)
        generalize hn : (lenD r).1 = n at *
        generalize hk : (lenD r).2 = k at *
        clear hn hk hle hlen
        go_wp2_with fail
        refine htk.mono ?_
        rintro e w3 ⟨⟨hlt, rfl⟩ | ⟨hle3, u, v3, rfl, hu3, hr3, hx3⟩, ht3⟩
        · have HR := hide (HSH.out (by rw [List.length_drop] at hlt; exact hlt))
          unfold thr
          clear hlt htk
          go_wp2_with fail
          exact ⟨rfl, .inl ⟨1, HR.out, by decide, rfl⟩, htw.trans ((ht1.trans ht2).trans ht3)⟩
        · have hg : ¬ (k = 0 ∨ r.length - k < n) := by rw [List.length_drop] at hle3; omega
          have HPL' := hide (HPL.out hg)
          have HBX' := hide (HBX.out hg)
          have htr := (ht1.trans ht2).trans ht3
          have hT3 : UTabs w3 := hT0.turn (hG.mono hB) htr
          have hS3 : w3.heap[w.heap.size]? = _ := (htr.old (by omega) (by omega)).trans hS0
          have hIl : ((r.drop k).take n).length = n := by rw [List.length_take]; omega
          have HDR : Hid ((t :: r).drop (1 + k + n) = (r.drop k).drop n) := hide (by rw [show 1 + k + n = (k + n) + 1 by omega, List.drop_succ_cons, List.drop_drop])
          clear HSH HPL HBX ht1 ht2 ht3 hg hk0 htk hr2 hx2
          generalize hI : (r.drop k).take n = I at *
          generalize (r.drop k).drop n = R at *
          have hIn : n ≤ 60000 := by rw [← hIl, ← hI, List.length_take, List.length_drop]; omega
          clear hI
          subst hIl
          have hbox := boxed_any (t : Int) w3
          have hrt := htr.size
          cases hb : boxedB (t : Int) with
          | true =>
            rw [hb] at hbox
            have HB := hide (HBX'.out hb)
            have hkd := kids_any FB deep ih B0 P d (t : Int) v3 u I w3 hr3 hu3 hB hG (by omega) (by omega) hT3 (by unfold I64; omega)
            clear HPL' HBX' hb
            obtain ⟨ua, uc, rfl, _⟩ := hu3.1
            go_wp2_with fail
            refine hbox.mono ?_
            rintro e w4 ⟨rfl, rfl⟩
            clear hbox
            go_wp2_with fail
            refine hkd.mono ?_
            rintro e w5 ⟨⟨er, her, hpos, rfl⟩ | ⟨xs, hok, hso, rfl⟩ | ⟨xs, kv, dd, hok, hns, rfl, hnd⟩, hb5⟩
            · have HR : Hid (rd FB (deep + 1) (t :: r) = .err er) := hide (by rw [HB.out, her])
              unfold thr
              clear hkd her
              go_wp2_with fail
              exact ⟨rfl, .inl ⟨er, HR.out, hpos, rfl⟩, htw.trans (htr.trans (Turn.below hb5 (by omega)))⟩
            · have HR : Hid (rd FB (deep + 1) (t :: r) = .err 6) := hide (by
                rw [HB.out, hok]
                show (if t = 49 ∧ _ then _ else _) = _
                rw [if_pos ⟨by omega, hso.2⟩])
              unfold thr
              clear hkd hok hso
              go_wp2_with fail
              exact ⟨rfl, .inl ⟨6, HR.out, by decide, rfl⟩, htw.trans (htr.trans (Turn.below hb5 (by omega)))⟩
            · have HR : Hid (rd FB (deep + 1) (t :: r) = .ok (.mk (t : Int) [] (xs.map (·.1)), 1 + k + I.length)) := hide (by
                rw [HB.out, hok]
                show (if t = 49 ∧ _ then _ else _) = _
                rw [if_neg (fun h => hns ⟨by omega, h.2⟩)])
              obtain ⟨_, _, _, _, ka, kn, kp, _, _, rfl⟩ := hnd.forms
              have hS5 : w5.heap[w.heap.size]? = _ := (hb5.block _ (by omega)).trans hS3
              obtain ⟨y0, y1, y2, z0, z1, z2⟩ := cells3 hS5
              have htf := htw.trans (htr.trans (Turn.below hb5 (by omega)))
              have hr5 := hr3.below hb5
              have hx5 := hx3.turn hB (Turn.below (P := P) hb5 (by omega))
              clear hkd hok hns HB
              go_wp2_with fail
              have hsz3 : w.heap.size + 1 ≤ w4.heap.size := by omega
              have hNX := hnd.turn (w' := (((w5.setCell ⟨w.heap.size, 0, none⟩ (.int .i64 t)).setCell ⟨w.heap.size, 1, none⟩ (.slice none 0 0)).setCell ⟨w.heap.size, 2, none⟩ (.slice ka kn kp))) (T := fun q => q < B0 ∨ w.heap.size ≤ q) (fun b hs hl => ⟨other3 (by omega), by omega⟩)
              obtain ⟨s0, s1, s2, _⟩ := cells3 (set3 hS5 (.int .i64 t) (.slice none 0 0) (.slice ka kn kp))
              refine bodyPost_ret (v := .agg #[.int .i64 t, .slice none 0 0, .slice ka kn kp]) (by simp [results, Tryd.results29, go_sem, s0, s1, s2]) rfl ⟨.inr ⟨_, _, dd, _, _, _, v3, HR.out, rfl, hNX, ?_, ?_⟩, htf.set3 (Nat.le_refl _) hPw⟩
              · unfold RB
                rw [other3 (by omega)]
                exact hr5
              · rw [HDR.out]
                exact ⟨hx5.1.otherIn hx5.2.1 (fun b hb hl => other3 (by omega)), hx5.2⟩
          | false =>
            rw [hb] at hbox
            have HB := hide (HPL'.out hb)
            have hfit := fits_any FB hFB (t : Int) u I w3 hu3.1 hT3 (by omega)
            have hpt : plainB (t : Int) = true := by
              have := HTT.out
              rw [tagged_or, hb, Bool.or_false] at this
              exact this
            rw [hpt, Bool.true_and] at hfit
            clear HPL' HBX' hb hpt
            have hu4 := hu3.1
            obtain ⟨ua, uc, rfl, q1, q2, q3, q4⟩ := hu4
            unfold maxLen at q2
            have hrw3 := hu3.1
            obtain ⟨i0, hi, hz0, hz1, hz2⟩ := info_byte
            go_wp2_with fail
            refine hbox.mono ?_
            rintro e w4 ⟨rfl, rfl⟩
            clear hbox
            go_wp2_with fail
            refine hfit.mono ?_
            rintro e w5 ⟨rfl, hb5⟩
            cases hf : FB (t : Int) I with
            | false =>
              rw [hf, if_pos rfl] at HB
              clear hf hfit
              go_wp2_with fail
              exact ⟨rfl, .inl ⟨5, HB.out, by decide, rfl⟩, htw.trans (htr.trans (Turn.below hb5 (by omega)))⟩
            | true =>
              rw [hf, if_neg (by decide)] at HB
              have hS5 : w5.heap[w.heap.size]? = _ := (hb5.block _ (by omega)).trans hS3
              have hn5 := row_news (hrw3.below hb5)
              have hsz5 := hb5.size
              have hsz6 : w.heap.size < w5.heap.size := by omega
              clear hf hfit
              go_wp2_with (first
                | (at_builtin; refine wpList_append_rows _ rfl _ _ 22 22 5 (by rfl) Tryd.underlying22 w5.heap.size 5 i0 (.int .u8 0) 1 Tryd.underlying22 hi hz0 hz1 hz2 rfl _ _ _ (by rfl) (World.ownsRow_nil _ _ _ _) ua I.length uc (vals .u8 I) (by rfl) (vals_length _ _) hn5.2 (vals_one _ _) (by unfold maxLen; simp; omega) (by simp; omega) (Nat.le_refl _) ?_; intro v6 w6 ho6 hg6; obtain ⟨va, vc, rfl⟩ := own_slice ho6; have hS6 : w6.heap[w.heap.size]? = _ := (hg6.block _ (by omega) (fun e => by simp [Value.ownBlock] at e)).trans hS5; obtain ⟨y0, y1, y2, z0, z1, z2⟩ := cells3 hS6)
                | fail)
              have hlt6 : w5.heap.size ≤ w6.heap.size := hg6.size
              rw [Nat.zero_add] at ho6
              have hb6 : Below w5.heap.size w5 w6 := (Below.refl _ _).grown hg6 (Nat.le_refl _) (fun k hk => by simp [Value.ownBlock] at hk)
              have htf := htw.trans (htr.trans (Turn.below (keep_trans hb5 hb6) (by omega)))
              have hr6 := (hr3.below hb5).below hb6
              have hx6 := (hx3.turn hB (Turn.below (P := P) hb5 (by omega))).turn hB (Turn.below (P := P) hb6 (by have := hb5.size; omega))
              have hN6 : NdIn (fun q => q < B0 ∨ w4.heap.size ≤ q) w6 1 (.int .i64 t) (.slice va I.length vc) (.slice none 0 0) (.mk (t : Int) I []) := by
                have hrw6 : Row .u8 256 w6 (.slice va I.length vc) I := Own.row (e := 5) (B := w5.heap.size) ⟨by simpa using ho6, q4⟩
                refine ⟨rfl, by unfold I64; omega, hrw6, own_tidy ho6, fun a c he => by simp at he; omega, fun b _ hb => .inr ?_, fun b hb => by simp [lenV] at hb, none, 0, rfl, Nat.le_refl _, Nat.zero_le _, fun h => by simp at h⟩
                have := (ho6.lt b hb).1
                have := hb5.size
                omega
              have hsz3 : w.heap.size + 1 ≤ w4.heap.size := by omega
              have hNX := hN6.turn (w' := (((w6.setCell ⟨w.heap.size, 0, none⟩ (.int .i64 t)).setCell ⟨w.heap.size, 1, none⟩ (.slice va I.length vc)).setCell ⟨w.heap.size, 2, none⟩ (.slice none 0 0))) (T := fun q => q < B0 ∨ w.heap.size ≤ q) (fun b hs hl => ⟨other3 (by omega), by omega⟩)
              obtain ⟨s0, s1, s2, _⟩ := cells3 (set3 hS6 (.int .i64 t) (.slice va I.length vc) (.slice none 0 0))
              refine bodyPost_ret (v := .agg #[.int .i64 t, .slice va I.length vc, .slice none 0 0]) (by simp [results, Tryd.results29, go_sem, s0, s1, s2]) rfl ⟨.inr ⟨_, _, 1, _, _, _, v3, HB.out, rfl, hNX, ?_, ?_⟩, htf.set3 (Nat.le_refl _) hPw⟩
              · unfold RB
                rw [other3 (by omega)]
                exact hr6
              · rw [HDR.out]
                exact ⟨hx6.1.otherIn hx6.2.1 (fun b hb hl => other3 (by omega)), hx6.2⟩
end Go.Proofs.YtjkciheoknjfhaaDoor
