/- A value's bytes: the document's write, Bytes, Fit. -/
import Derived.Test.YtlddpjcacnahmaaGreatDoorEWHd
import Derived.Test.YtlddpjcacnahmaaGreatDoorDFit
import Derived.Test.YtlddpjcacnahmaaGreatDoorNum
import Derived.Test.YtlddpjcacnahmaaGreatDoorApp2
import Derived.Deep.RegionHeld3
namespace Go.Proofs.YtlddpjcacnahmaaGreatDoor
open Go.RowKit Go.Deep
set_option linter.unusedVariables false

theorem allS_snoc (g : Nd → Option (List Nat)) : ∀ (ks : List Nd) (x : Nd) (o : List (List Nat)) (l : List Nat), allS g ks = some o → g x = some l → allS g (ks ++ [x]) = some (o ++ [l])
  | [], x, o, l, h, hx => by rw [allS] at h; cases h; simp [allS, hx]
  | y :: ks, x, o, l, h, hx => by
    rw [allS] at h
    cases hy : g y with
    | none => rw [hy] at h; cases h
    | some b =>
      rw [hy] at h
      cases hk : allS g ks with
      | none => rw [hk] at h; cases h
      | some bs =>
        rw [hk] at h
        cases h
        have := allS_snoc g ks x bs l hk hx
        rw [List.cons_append, allS, hy, this]; rfl
theorem take_kx {ks : List Nd} {k : Nat} (h : k < ks.length) : ks.take (k + 1) = ks.take k ++ [kx ks k] := by rw [List.take_succ_eq_append_getElem h, kx_at h]
theorem allS_pre (g : Nd → Option (List Nat)) : ∀ (ks : List Nd) (bs : List (List Nat)), allS g ks = some bs → ∀ k, allS g (ks.take k) = some (bs.take k)
  | [], bs, h, k => by rw [allS] at h; cases h; simp [allS]
  | y :: ks, bs, h, 0 => by simp [allS]
  | y :: ks, bs, h, k + 1 => by
    rw [allS] at h
    cases hy : g y with
    | none => rw [hy] at h; cases h
    | some b =>
      rw [hy] at h
      cases hk : allS g ks with
      | none => rw [hk] at h; cases h
      | some cs =>
        rw [hk] at h
        cases h
        rw [List.take_succ_cons, List.take_succ_cons, allS, hy, allS_pre g ks cs hk k]
theorem allS_bad {g : Nd → Option (List Nat)} {ks : List Nd} {k : Nat} (h : k < ks.length) (hx : g (kx ks k) = none) : allS g ks = none := by
  cases ha : allS g ks with
  | none => rfl
  | some bs =>
    exfalso
    have h1 := allS_pre g ks bs ha (k + 1)
    rw [take_kx h] at h1
    have : ∀ (l : List Nd) (x : Nd), g x = none → allS g (l ++ [x]) = none := by
      intro l
      induction l with
      | nil => intro x hx; simp [allS, hx]
      | cons y l ih => intro x hx; rw [List.cons_append, allS, ih x hx]; cases g y <;> rfl
    rw [this _ _ hx] at h1
    cases h1
theorem flat_take_le (bs : List (List Nat)) (k : Nat) : (bs.take k).flatten.length ≤ bs.flatten.length := flat_le bs k
/-- a box that is not fit, for its parts are none, or too many bytes -/
theorem wr_box_none {FB : Int → List Nat → Bool} {d : Nat} {t : Int} {ks : List Nd} (ht : taggedB t = true) (hb : boxedB t = true) (h : ∀ bs, allS (wrD FB d) ks = some bs → 1048576 < bs.flatten.length ∨ (t = 49 ∧ sortedB bs = false)) : wrD FB (d + 1) (.mk t [] ks) = none := by
  rw [wrD, if_neg (by rw [ht]; decide), if_neg (by rw [hb]; decide), if_neg (by simp)]
  cases ha : allS (wrD FB d) ks with
  | none => rfl
  | some bs => simp only; rw [if_pos (h bs ha)]
theorem wr_box_some {FB : Int → List Nat → Bool} {d : Nat} {t : Int} {ks : List Nd} {bs : List (List Nat)} (ht : taggedB t = true) (hb : boxedB t = true) (ha : allS (wrD FB d) ks = some bs) (h1 : bs.flatten.length ≤ 1048576) (h2 : ¬ (t = 49 ∧ sortedB bs = false)) :
    wrD FB (d + 1) (.mk t [] ks) = some (t.toNat :: lenE bs.flatten.length ++ bs.flatten) := by
  rw [wrD, if_neg (by rw [ht]; decide), if_neg (by rw [hb]; decide), if_neg (by simp), ha]
  simp only
  rw [if_neg (by intro h; rcases h with h | h; omega; exact h2 h)]
theorem wr_len {FB : Int → List Nat → Bool} : ∀ {d : Nat} {x : Nd} {l : List Nat}, wrD FB d x = some l → l.length ≤ 1048581
  | 0, x, l, h => by rw [wrD] at h; cases h
  | d + 1, .mk t b ks, l, h => by
    rw [wrD] at h
    split at h
    · cases h
    · split at h
      · split at h
        · cases h
        · cases h
          have := lenE_len b.length
          simp at *
          omega
      · split at h
        · cases h
        · cases ha : allS (wrD FB d) ks with
          | none => rw [ha] at h; cases h
          | some bs =>
            rw [ha] at h
            simp only at h
            split at h
            · cases h
            · cases h
              have := lenE_len bs.flatten.length
              rw [List.length_append, List.length_cons]
              omega
theorem len_le_sum {d : Nat} (hd : 0 < d) (ks : List Nd) : ks.length ≤ (ks.map (szF d)).sum := by
  induction ks with
  | nil => exact Nat.le_refl _
  | cons x ks ih =>
    have : 1 ≤ szF d x := by
      obtain ⟨d', rfl⟩ : ∃ d', d = d' + 1 := ⟨d - 1, by omega⟩
      obtain ⟨t, b, k⟩ := x
      rw [szF]; omega
    simp only [List.length_cons, List.map_cons, List.sum_cons]
    omega
/-- what write tells -/
def WriteE (FB : Int → List Nat → Bool) (deep : Nat) (x : Nd) (w : World) (e : Ending) (w' : World) : Prop :=
  ((∃ l v, wrD FB deep x = some l ∧ e = .returned (.tuple #[v, .bool true]) ∧ Own 5 .u8 256 w' w.heap.size v l) ∨ (wrD FB deep x = none ∧ e = .returned (.tuple #[.slice none 0 0, .bool false]))) ∧ Below w.heap.size w w'
theorem WriteE.no {FB : Int → List Nat → Bool} {deep : Nat} {x : Nd} {w w' : World} (h : wrD FB deep x = none) (hb : Below w.heap.size w w') : WriteE FB deep x w (.returned (.tuple #[.slice none 0 0, .bool false])) w' := ⟨.inr ⟨h, rfl⟩, hb⟩

theorem grown_cell {w w' : World} {r : Option Nat} {a : Addr} {v : Value} (h : w.cell? a = some v) (hg : w.grownBy w' r) (hne : some a.block ≠ r) : w'.cell? a = some v := hg.cell h hne
theorem own_far {w : World} {B p : Nat} {l : List Nat} {v : Value} (h : Own 5 .u8 256 w B v l) (hp : p < B) : some p ≠ v.ownBlock := by
  intro e
  have := (h.1.lt p e.symm).1
  omega

set_option maxHeartbeats 8000000 in
set_option maxRecDepth 100000 in
theorem rwrite_any (FB : Int → List Nat → Bool) (hFB : FBok FB) : ∀ (deep d : Nat) (c0 c1 c2 : Value) (x : Nd) (w : World), NdAt w d c0 c1 c2 x → szF d x ≤ 1000000 → deep ≤ 100 →
    Calls Tryz.prog 112 #[.agg #[c0, c1, c2], .int .i64 deep] w fun e w' => WriteE FB deep x w e w' := by
  intro deep
  induction deep with
  | zero =>
    intro d c0 c1 c2 x w h hs hd
    go_enter Tryz.func112, Tryz.ntmps112
    go_wp2_with fail
    go_ret2
    exact WriteE.no (by rw [wrD]) (keep_alloc _ _)
  | succ deep ih =>
    intro d c0 c1 c2 x w h hs hd
    cases d with
    | zero => exact h.elim
    | succ d =>
      obtain ⟨t, b, ks⟩ := x
      obtain ⟨rfl, ht, hrb, htb, htk, ka, kcap, rfl, hk1, hk2, hk3⟩ := h
      unfold maxLen at hk2
      have hbw : Below w.heap.size w (w.alloc (.cells #[.int .i64 t, c1, .slice ka ks.length kcap] 28)) := keep_alloc w _
      have pp := box_cell w (.int .i64 t) c1 (.slice ka ks.length kcap) 28
      have p0 : (w.alloc (.cells #[.int .i64 t, c1, .slice ka ks.length kcap] 28)).cell? ⟨w.heap.size, 0, none⟩ = some (.int .i64 t) := pp.1
      have p1 : (w.alloc (.cells #[.int .i64 t, c1, .slice ka ks.length kcap] 28)).cell? ⟨w.heap.size, 1, none⟩ = some c1 := pp.2.1
      have p2 : (w.alloc (.cells #[.int .i64 t, c1, .slice ka ks.length kcap] 28)).cell? ⟨w.heap.size, 2, none⟩ = some (.slice ka ks.length kcap) := pp.2.2
      clear pp
      have hrow := hrb.below hbw
      have hsz : w.heap.size + 1 ≤ (w.alloc (.cells #[.int .i64 t, c1, .slice ka ks.length kcap] 28)).heap.size := by simp
      obtain ⟨ba, bcap, rfl, hb1, hb2, _, _⟩ := hrb
      unfold maxLen at hb2
      have hbl : b.length ≤ 1000000 := by rw [szF] at hs; omega
      have HSZ := hide hs
      clear hs
      have hdi : ((deep : Int) + 1 == 0) = false := beq_eq_false_iff_ne.2 (by omega)
      have htag := rtagged_any t (w.alloc (.cells #[.int .i64 t, .slice ba b.length bcap, .slice ka ks.length kcap] 28))
      have hbox := rboxed_any t (w.alloc (.cells #[.int .i64 t, .slice ba b.length bcap, .slice ka ks.length kcap] 28))
      cases ht1 : taggedB t with
      | false =>
        rw [ht1] at htag
        go_enter Tryz.func112, Tryz.ntmps112
        go_wp2_with fail
        refine htag.mono ?_
        rintro e w1 ⟨rfl, rfl⟩
        go_wp2_with fail
        go_ret2
        exact WriteE.no (by rw [wrD, if_pos ht1]) hbw
      | true =>
        rw [ht1] at htag
        obtain ⟨tn, rfl⟩ : ∃ tn : Nat, t = (tn : Int) := ⟨t.toNat, by have := tagged_range ht1; omega⟩
        have htn : tn < 256 := by have := tagged_range ht1; omega
        go_enter Tryz.func112, Tryz.ntmps112
        go_wp2_with fail
        refine htag.mono ?_
        rintro e w1 ⟨rfl, hw1⟩
        rw [← hw1] at hbox hrow hsz p0 p1 p2
        have hbw1 : Below w.heap.size w w1 := by rw [hw1]; exact hbw
        clear htag hw1 hbw
        go_wp2_with fail
        refine hbox.mono ?_
        rintro e w2 ⟨rfl, rfl⟩
        clear hbox
        cases hbx : boxedB (tn : Int) with
        | false =>
          by_cases hks : 0 < ks.length
          · have hksi : (0 : Int) < (ks.length : Int) := by omega
            have HN : Hid (wrD FB (deep + 1) (.mk (tn : Int) b ks) = none) := hide (by rw [wrD, if_neg (by rw [ht1]; decide), if_pos hbx, if_pos (.inl (by omega))])
            go_wp2_with fail
            go_ret2
            exact WriteE.no HN.out hbw1
          · have hksi : ¬ (0 : Int) < (ks.length : Int) := by omega
            have hksd : decide ((0 : Int) < (ks.length : Int)) = false := decide_eq_false hksi
            have hkse : decide (0 < ks.length) = false := decide_eq_false hks
            have hbli : ¬ (1048576 : Int) < (b.length : Int) := by omega
            have hbld : decide ((1048576 : Int) < (b.length : Int)) = false := decide_eq_false hbli
            have hble : decide (1048576 < b.length) = false := decide_eq_false (by omega)
            have hfit := rfitb_any FB hFB (tn : Int) (.slice ba b.length bcap) b w2 hrow hbl
            cases hf : FB (tn : Int) b with
            | false =>
              rw [hf] at hfit
              have HN : Hid (wrD FB (deep + 1) (.mk (tn : Int) b ks) = none) := hide (by rw [wrD, if_neg (by rw [ht1]; decide), if_pos hbx, if_pos (.inr (.inr hf))])
              clear hf
              go_wp2_with fail
              refine hfit.mono ?_
              rintro e w3 ⟨rfl, hb3⟩
              go_wp2_with fail
              go_ret2
              exact WriteE.no HN.out (keep_trans hbw1 hb3)
            | true =>
              rw [hf] at hfit
              have HN : Hid (wrD FB (deep + 1) (.mk (tn : Int) b ks) = some (tn :: lenE b.length ++ b)) := hide (by rw [wrD, if_neg (by rw [ht1]; decide), if_pos hbx, if_neg (by rw [hf]; intro h; rcases h with h | h | h; omega; omega; cases h)]; rfl)
              clear hf
              go_wp2_with fail
              refine hfit.mono ?_
              rintro e w3 ⟨rfl, hb3⟩
              have q0 := Below.cells hb3 p0
              have q1 := Below.cells hb3 p1
              have hrow3 := hrow.below hb3
              have hbw3 := keep_trans hbw1 hb3
              obtain ⟨i0, hi, hz0, hz1, hz2⟩ := info_byte
              have hll := (lenE_len b.length).2
              have hlt4 : w.heap.size < w3.drew.heap.size := by show w.heap.size < w3.heap.size; have := hb3.size; omega
              have hk3 : Below w3.heap.size w3 w3.drew := (Below.refl _ _).drew
              clear hfit hrow p0 p1 p2 hb3 hbw1
              go_wp2_with fail
              go_region_held3 (fun w' => w'.cell? ⟨w.heap.size, 0, none⟩ = some (.int .i64 tn) ∧ w'.cell? ⟨w.heap.size, 1, none⟩ = some (.slice ba b.length bcap))
                (first
                  | exact ⟨q0, q1⟩
                  | exact ⟨grown_cell (Below.cells (w := w3.drew) hb4 q0) hg5 (own_far ho4 hlt4), grown_cell (Below.cells (w := w3.drew) hb4 q1) hg5 (own_far ho4 hlt4)⟩
                  | exact ⟨Below.cells (w := w3.drew) hb4 q0, Below.cells (w := w3.drew) hb4 q1⟩)
                (first
                  | (go_at_call 136; refine (rhead_any tn b.length _ htn (by omega)).mono ?_; rintro e w4 ⟨v4, rfl, ho4, hb4⟩; have hsz4 := hb4.size; have hn4 := row_news (hrow3.below (keep_trans hk3 hb4)))
                  | (refine step_append_rows _ (by rfl) _ _ 22 22 5 (by rfl) Tryz.underlying22 w3.drew.heap.size 5 i0 (.int .u8 0) 1 Tryz.underlying22 hi hz0 hz1 hz2 rfl _ _ _ (by rfl) ho4.1 ba b.length bcap (vals .u8 b) (by rfl) (vals_length _ _) hn4.2 (vals_one _ _) (by unfold maxLen; simp; omega) (by simp; omega) hsz4 ?_; intro v5 w5 ho5 hg5)
                  | fail)
              have ho : Own 5 .u8 256 w5 w.heap.size v5 (tn :: lenE b.length ++ b) := Own.mono (B := w3.drew.heap.size) ⟨by rw [vals_append, List.length_append]; exact ho5, ho4.2.append hrow3.under⟩ (by omega)
              have hbf := keep_trans hbw3 (keep_trans hk3 (below_append' hb4 hsz4 ho4.1 hg5))
              clear ho4 ho5 hg5 hn4 hb4 q0 q1
              go_wp2_with fail
              go_ret2
              exact ⟨.inl ⟨_, v5, HN.out, rfl, ho⟩, hbf⟩
        | true =>
          by_cases hbz : 0 < b.length
          · have hbzi : (0 : Int) < (b.length : Int) := by omega
            have HN : Hid (wrD FB (deep + 1) (.mk (tn : Int) b ks) = none) := hide (by rw [wrD, if_neg (by rw [ht1]; decide), if_neg (by rw [hbx]; decide), if_pos (by omega)])
            go_wp2_with fail
            go_ret2
            exact WriteE.no HN.out hbw1
          · have hb0 : b = [] := List.eq_nil_of_length_eq_zero (by omega)
            subst hb0
            clear hbz hrow
            obtain ⟨i1, hj, hy0, hy1, hy2⟩ := info_text
            obtain ⟨i0, hi, hz0, hz1, hz2⟩ := info_byte
            have HT1 := hide ht1
            have HB1 := hide hbx
            clear ht1 hbx
            go_wp2_with fail
            go_loopw [6, 7, 8] (fun vo sv i wr => ∃ (k : Nat) (o : List (List Nat)), k ≤ ks.length ∧ i = .int .i64 k ∧ sv = .int .i64 (o.flatten.length : Nat) ∧ o.length = k ∧ o.flatten.length ≤ 1048576 ∧ Outs w2.heap.size wr vo o ∧ Hid (allS (wrD FB deep) (ks.take k) = some o) ∧ Below w2.heap.size w2 wr) (fun _ _ i _ => ks.length - (intOf i).toNat)
            case atStart => exact ⟨0, [], Nat.zero_le _, rfl, rfl, rfl, by simp, Outs.nil _ _, hide rfl, Below.refl _ _⟩
            case round =>
              obtain ⟨k, o, hk, rfl, rfl, hok, hof, hO, HA, hbr⟩ := hrel
              have q0 := Below.cells hbr p0
              have q2 := Below.cells hbr p2
              have hbwr := keep_trans hbw1 hbr
              by_cases hlt : k < ks.length
              · obtain ⟨bk, ok, rfl, hck⟩ := hk3 (by omega)
                obtain ⟨x0, x1, x2, xc, xn⟩ := hck k hlt
                obtain ⟨xc0, xc1, xc2⟩ := xc.below hbwr
                have hih := ih d x0 x1 x2 (kx ks k) wr (NdAt.below hbwr _ _ _ _ _ xn) (by have := HSZ.out; have := sz_kid (d := d) (t := (tn : Int)) (b := []) hlt; omega) (by omega)
                have hkl : ks.length ≤ 1000000 := by
                  have h1 := len_le_sum (d := d) (by cases d with | zero => exact xn.elim | succ d => omega) ks
                  have h2 := HSZ.out
                  rw [szF] at h2
                  omega
                clear hck xc xn
                generalize hF : o.flatten.length = F at *
                have HF := hide hF
                clear hF
                go_wp2_with fail
                refine hih.mono ?_
                rintro e w3 ⟨⟨l, v3, hl, rfl, ho3⟩ | ⟨hl, rfl⟩, hb3⟩
                · obtain ⟨va3, vc3, rfl⟩ := own_slice ho3.1
                  have hO3 : Outs w2.heap.size w3 u6 o := hO.other (fun k h1 h2 => hb3.block k h2)
                  have hsz3 : w2.heap.size ≤ w3.heap.size := Nat.le_trans hbr.size hb3.size
                  have ho3' : Own 5 .u8 256 w3 w2.heap.size (.slice va3 l.length vc3) l := ho3.mono hbr.size
                  have HAS : Hid (allS (wrD FB deep) (ks.take (k + 1)) = some (o ++ [l])) := hide (by rw [take_kx hlt]; exact allS_snoc _ _ _ _ _ HA.out hl)
                  have HFL : Hid ((o ++ [l]).flatten.length = F + l.length) := hide (by rw [← HF.out]; simp)
                  have HWL := hide (wr_len hl)
                  obtain ⟨us, hus, hul, hel⟩ := hO3
                  have HEL := hide hel
                  clear hih hl hO ho3 HA hel
                  generalize hL : l.length = L at *
                  have HL := hide hL
                  clear hL
                  have hLb : L ≤ 1048581 := HWL.out
                  by_cases hbig : 1048576 < F + L
                  · have hbigi : (1048576 : Int) < (F : Int) + (L : Int) := by omega
                    have HN : Hid (wrD FB (deep + 1) (.mk (tn : Int) [] ks) = none) := hide (wr_box_none HT1.out HB1.out (fun bs hbs => .inl (by
                      have h1 := allS_pre _ _ _ hbs (k + 1)
                      rw [HAS.out] at h1
                      have h2 := flat_take_le bs (k + 1)
                      rw [← Option.some.inj h1, HFL.out] at h2
                      omega)))
                    go_wp2_with fail
                    go_ret2
                    exact WriteE.no HN.out (keep_trans hbwr hb3)
                  · have hbigi : ¬ (1048576 : Int) < (F : Int) + (L : Int) := by omega
                    have hbigd : decide ((1048576 : Int) < (F : Int) + (L : Int)) = false := decide_eq_false hbigi
                    go_wp2_with (first
                      | (at_builtin; refine wpList_append_rows _ rfl _ _ 112 112 22 rfl Tryz.underlying112 w2.heap.size 22 i1 (.slice none 0 0) 24 Tryz.underlying112 hj hy0 hy1 hy2 rfl _ _ _ rfl (hus.alloc _) (some ⟨w3.heap.size, 0, none⟩) 1 1 [.slice va3 L vc3] rfl rfl (fun _ => ⟨_, _, rfl, cells_new1 w3 _ _⟩) (by simp [Value.oneCell']) (by unfold maxLen; omega) (by omega) (by simp; omega) ?_; intro v4 w4 how4 hg4)
                      | fail)
                    have hO4 : Outs w2.heap.size w4 v4 (o ++ [l]) := Outs.snoc hus hul HEL.out (grown_refl _ _) ho3' how4 hg4
                    have hb4 : Below w2.heap.size w2 w4 := ((keep_trans hbr hb3).alloc hsz3 _).grown hg4 (by simp; omega) (fun x hx => (hus.lt x hx).1)
                    clear how4 hg4 hus hul ho3' hb3 hbr q0 q2 xc0 xc1 xc2
                    have hres : ∃ (k' : Nat) (o' : List (List Nat)), k' ≤ ks.length ∧ Value.int .i64 ((k : Int) + 1) = .int .i64 k' ∧ Value.int .i64 ((F : Int) + (L : Int)) = .int .i64 (o'.flatten.length : Nat) ∧ o'.length = k' ∧ o'.flatten.length ≤ 1048576 ∧ Outs w2.heap.size w4 v4 o' ∧ Hid (allS (wrD FB deep) (ks.take k') = some o') ∧ Below w2.heap.size w2 w4 :=
                      ⟨k + 1, o ++ [l], by omega, by go_num, vint (by have := HFL.out; omega), by simp [hok], by have := HFL.out; omega, hO4, HAS, hb4⟩
                    first
                      | exact ⟨hres, by simp [intOf]; omega⟩
                      | (go_roundw
                         case rel => exact hres
                         case measure => simp [intOf]; omega)
                · have HN : Hid (wrD FB (deep + 1) (.mk (tn : Int) [] ks) = none) := hide (wr_box_none HT1.out HB1.out (fun bs hbs => by rw [allS_bad hlt hl] at hbs; cases hbs))
                  clear hih hl
                  go_wp2_with fail
                  go_ret2
                  exact WriteE.no HN.out (keep_trans hbwr hb3)
              · have hend : ks.take k = ks := List.take_of_length_le (by omega)
                rw [hend] at HA
                have hOt := hO.texts
                have hwsz : w.heap.size ≤ wr.heap.size := hbwr.size
                generalize hF : o.flatten.length = F at *
                have HF := hide hF
                clear hF
                by_cases h49 : tn = 49
                · have h49i : ((tn : Int) == 49) = true := beq_iff_eq.2 (by omega)
                  have hsrt := rsorted_any u6 o wr hOt
                  cases hso : sortedB o with
                  | false =>
                    rw [hso] at hsrt
                    have HN : Hid (wrD FB (deep + 1) (.mk (tn : Int) [] ks) = none) := hide (wr_box_none HT1.out HB1.out (fun bs hbs => .inr ⟨by omega, by
                      rw [HA.out] at hbs
                      rw [← Option.some.inj hbs]
                      exact hso⟩))
                    clear hso
                    go_wp2_with fail
                    refine hsrt.mono ?_
                    rintro e w4 ⟨rfl, hd4⟩
                    go_wp2_with fail
                    go_ret2
                    exact WriteE.no HN.out (keep_trans hbwr hd4.below)
                  | true =>
                    rw [hso] at hsrt
                    have HY : Hid (wrD FB (deep + 1) (.mk (tn : Int) [] ks) = some (tn :: lenE F ++ o.flatten)) := hide (by rw [wr_box_some HT1.out HB1.out HA.out (by rw [HF.out]; exact hof) (by rw [hso]; intro h; cases h.2), HF.out]; rfl)
                    clear hso h49
                    go_wp2_with fail
                    refine hsrt.mono ?_
                    rintro e w4 ⟨rfl, hd4⟩
                    have hs4 := hd4.below.size
                    have q04 := Below.cells hd4.below q0
                    go_wp2_with fail
                    refine (rhead_any tn F _ htn (by omega)).mono ?_
                    rintro e w5 ⟨v5, rfl, ho5, hb5⟩
                    have hO5 : Rows2 w5 u6 o := (hOt.below hd4.below).below hb5
                    go_wp2_with fail
                    refine (rjoin_any u6 o w5 hO5 (by rw [HF.out]; omega)).mono ?_
                    rintro e w6 ⟨v6, rfl, ho6, hb6⟩
                    obtain ⟨a6, c6, rfl⟩ := own_slice ho6.1
                    have hn6 := row_news ho6.row
                    have hown6 := own_kept ho5.1 hb6
                    have hsz6 := hb6.size
                    have hsz5 := hb5.size
                    have hll := (lenE_len F).2
                    rw [HF.out] at ho6 hn6 ⊢
                    go_wp2_with (first
                      | (at_builtin; refine wpList_append_rows _ rfl _ _ 22 22 5 rfl Tryz.underlying22 w4.heap.size 5 i0 (.int .u8 0) 1 Tryz.underlying22 hi hz0 hz1 hz2 rfl _ _ _ rfl hown6 a6 F c6 (vals .u8 o.flatten) rfl (by rw [vals_length, HF.out]) hn6.2 (vals_one _ _) (by unfold maxLen; simp; omega) (by simp; omega) (by omega) ?_; intro v7 w7 how7 hg7)
                      | fail)
                    have ho : Own 5 .u8 256 w7 w.heap.size v7 (tn :: lenE F ++ o.flatten) := Own.mono (B := w4.heap.size) ⟨by rw [vals_append, List.length_append, HF.out]; exact how7, ho5.2.append ho6.2⟩ (by omega)
                    have hbf := keep_trans (keep_trans hbwr hd4.below) (below_append' (keep_trans hb5 hb6) (by omega) hown6 hg7)
                    clear how7 hg7 hown6 hn6 ho5 ho6
                    go_ret2
                    exact ⟨.inl ⟨_, v7, HY.out, rfl, ho⟩, hbf⟩
                · have h49i : ((tn : Int) == 49) = false := beq_eq_false_iff_ne.2 (by omega)
                  have HY : Hid (wrD FB (deep + 1) (.mk (tn : Int) [] ks) = some (tn :: lenE F ++ o.flatten)) := hide (by rw [wr_box_some HT1.out HB1.out HA.out (by rw [HF.out]; exact hof) (by omega), HF.out]; rfl)
                  clear h49
                  go_wp2_with fail
                  refine (rhead_any tn F _ htn (by omega)).mono ?_
                  rintro e w5 ⟨v5, rfl, ho5, hb5⟩
                  have hO5 : Rows2 w5 u6 o := hOt.below hb5
                  go_wp2_with fail
                  refine (rjoin_any u6 o w5 hO5 (by rw [HF.out]; omega)).mono ?_
                  rintro e w6 ⟨v6, rfl, ho6, hb6⟩
                  obtain ⟨a6, c6, rfl⟩ := own_slice ho6.1
                  have hn6 := row_news ho6.row
                  have hown6 := own_kept ho5.1 hb6
                  have hsz6 := hb6.size
                  have hsz5 := hb5.size
                  have hll := (lenE_len F).2
                  rw [HF.out] at ho6 hn6 ⊢
                  go_wp2_with (first
                    | (at_builtin; refine wpList_append_rows _ rfl _ _ 22 22 5 rfl Tryz.underlying22 wr.heap.size 5 i0 (.int .u8 0) 1 Tryz.underlying22 hi hz0 hz1 hz2 rfl _ _ _ rfl hown6 a6 F c6 (vals .u8 o.flatten) rfl (by rw [vals_length, HF.out]) hn6.2 (vals_one _ _) (by unfold maxLen; simp; omega) (by simp; omega) (by omega) ?_; intro v7 w7 how7 hg7)
                    | fail)
                  have ho : Own 5 .u8 256 w7 w.heap.size v7 (tn :: lenE F ++ o.flatten) := Own.mono (B := wr.heap.size) ⟨by rw [vals_append, List.length_append, HF.out]; exact how7, ho5.2.append ho6.2⟩ (by omega)
                  have hbf := keep_trans hbwr (below_append' (keep_trans hb5 hb6) (by omega) hown6 hg7)
                  clear how7 hg7 hown6 hn6 ho5 ho6
                  go_ret2
                  exact ⟨.inl ⟨_, v7, HY.out, rfl, ho⟩, hbf⟩
end Go.Proofs.YtlddpjcacnahmaaGreatDoor
