/- For every two values, every place and every text: apostillelaw05.DerAll returns true, and each argument reads afterwards as it read before; the library's two tables of characters are as the program's text lays them. No other condition. -/
import Derived.Test.YtjkciheoknjfhaaDoorELaw
import Derived.WalkKit
import Derived.ProofKit
import Derived.OpenShut
import Derived.ShutString
import Derived.ChangeOld
import Derived.Below
namespace Go.Proofs.YtjkciheoknjfhaaDoor.derAll
open Go.ChangeShapes Go.WideShapes Go.ChangeAt Go.RowKit
open Go.ChangeMaps (open_string shut_string)
set_option linter.unusedVariables false

set_option maxRecDepth 100000 in
set_option maxHeartbeats 4000000 in
theorem walk (ct0 cb0 ck0 : Value) (dd0 : Nat) (xx0 : Nd) (ct1 cb1 ck1 : Value) (dd1 : Nat) (xx1 : Nd) (a2 : Int) (a3 : Option Addr) (len3 cap3 : Nat) (z3 : List Int) (w : World) (w0 : NdAt w dd0 ct0 cb0 ck0 xx0) (w1 : NdAt w dd1 ct1 cb1 ck1 xx1) (w2 : (Lit.int .i64 a2).wf = true) (w3 : IsRow .u8 w a3 len3 cap3 z3) (hV : Vars w) :
    Calls Tryd.prog 6 #[.agg #[ct0, cb0, ck0], .agg #[ct1, cb1, ck1], .int .i64 a2, .slice a3 len3 cap3] w fun e w' => e = .returned (.bool true) ∧ Below w.heap.size w w' := by
  have hT : UTabs w := hV
  have htd := isRow_tidy w3
  obtain ⟨l, rfl, hr⟩ := w3.row wf_u8
  clear w3 w2 hV
  obtain ⟨FB, hFB⟩ := exists_FB
  have hcap : l.length ≤ cap3 := by obtain ⟨_, _, he, h1, _⟩ := hr; simp at he; omega
  obtain ⟨tt, a1', n1, p1, a2', n2, p2, rfl, rfl, rfl⟩ := w0.forms
  obtain ⟨uu, b1', m1, q1, b2', m2, q2, rfl, rfl, rfl⟩ := w1.forms
  have hbA := keep_alloc w (.cells #[.int .i64 tt, .slice a1' n1 p1, .slice a2' n2 p2] 26)
  have hbB := keep_alloc (w.alloc (.cells #[.int .i64 tt, .slice a1' n1 p1, .slice a2' n2 p2] 26)) (.cells #[.int .i64 uu, .slice b1' m1 q1, .slice b2' m2 q2] 26)
  have hbAB := keep_trans hbA hbB
  obtain ⟨x0, x1, x2⟩ := box_cell w (.int .i64 tt) (.slice a1' n1 p1) (.slice a2' n2 p2) 26
  obtain ⟨z0, z1, z2⟩ := box_cell (w.alloc (.cells #[.int .i64 tt, .slice a1' n1 p1, .slice a2' n2 p2] 26)) (.int .i64 uu) (.slice b1' m1 q1) (.slice b2' m2 q2) 26
  rw [World.size_alloc] at z0 z1 z2
  have x0 := Below.cells hbB x0
  have x1 := Below.cells hbB x1
  have x2 := Below.cells hbB x2
  have hsm := small_der dd0 _ _ _ xx0 _ (NdAt.below hbAB _ _ _ _ _ w0)
  go_enter Tryd.func6, Tryd.ntmps6
  go_wp2_with fail
  refine hsm.mono ?_
  rintro e w3 ⟨⟨r, rfl, hr1, hr2, hr3⟩, hb3⟩
  have hbw3 := keep_trans hbAB hb3
  have x0 := Below.cells hb3 x0
  have x1 := Below.cells hb3 x1
  have x2 := Below.cells hb3 x2
  have z0 := Below.cells hb3 z0
  have z1 := Below.cells hb3 z1
  have z2 := Below.cells hb3 z2
  clear hsm hbA hbB
  by_cases hrn : r < 0
  · have hrd : decide (r < 0) = true := decide_eq_true hrn
    clear hr3
    go_wp2_with fail
    refine (dawake_any _ (hT.below hbw3)).mono ?_
    rintro e wz ⟨rfl, hbz⟩
    go_wp2_with fail
    go_ret
    exact ⟨rfl, keep_trans hbw3 hbz⟩
  have hrd : decide (r < 0) = false := decide_eq_false hrn
  have hsz := hr3 (by omega)
  have hsm := small_der dd1 _ _ _ xx1 w3 (NdAt.below hbw3 _ _ _ _ _ w1)
  clear hr3
  go_wp2_with fail
  refine hsm.mono ?_
  rintro e w4 ⟨⟨s, rfl, hs1, hs2, hs3⟩, hb4⟩
  have hbw4 := keep_trans hbw3 hb4
  have x0 := Below.cells hb4 x0
  have x1 := Below.cells hb4 x1
  have x2 := Below.cells hb4 x2
  have z0 := Below.cells hb4 z0
  have z1 := Below.cells hb4 z1
  have z2 := Below.cells hb4 z2
  clear hsm
  by_cases hsn : s < 0
  · have hsd : decide (s < 0) = true := decide_eq_true hsn
    clear hs3
    go_wp2_with fail
    refine (dawake_any _ (hT.below hbw4)).mono ?_
    rintro e wz ⟨rfl, hbz⟩
    go_wp2_with fail
    go_ret
    exact ⟨rfl, keep_trans hbw4 hbz⟩
  have hsd : decide (s < 0) = false := decide_eq_false hsn
  have hsy := hs3 (by omega)
  clear hs3 hs1 hs2 hr1 hr2
  by_cases hl3 : 3000 < l.length
  · have hli : (3000 : Int) < (l.length : Int) := by omega
    go_wp2_with fail
    refine (dawake_any _ (hT.below hbw4)).mono ?_
    rintro e wz ⟨rfl, hbz⟩
    go_wp2_with fail
    go_ret
    exact ⟨rfl, keep_trans hbw4 hbz⟩
  have hli : ¬ (3000 : Int) < (l.length : Int) := by omega
  have hld : decide ((3000 : Int) < (l.length : Int)) = false := decide_eq_false hli
  have hle : decide (3000 < l.length) = false := decide_eq_false hl3
  have hfit := rfitN_any FB hFB dd0 _ _ _ xx0 w4 (NdAt.below hbw4 _ _ _ _ _ w0) (by omega)
  go_wp2_with fail
  refine hfit.mono ?_
  rintro e w5 ⟨rfl, hb5⟩
  have hbw5 := keep_trans hbw4 hb5
  have x0 := Below.cells hb5 x0
  have x1 := Below.cells hb5 x1
  have x2 := Below.cells hb5 x2
  have z0 := Below.cells hb5 z0
  have z1 := Below.cells hb5 z1
  have z2 := Below.cells hb5 z2
  clear hfit
  cases hbo : bytesD FB xx0 with
  | none =>
    rw [show (Option.none : Option (List Nat)).isSome = false from rfl]
    go_wp2_with fail
    refine (dawake_any _ (hT.below hbw5)).mono ?_
    rintro e wz ⟨rfl, hbz⟩
    go_wp2_with fail
    go_ret
    exact ⟨rfl, keep_trans hbw5 hbz⟩
  | some a =>
  rw [show (some a).isSome = true from rfl]
  have hfit := rfitN_any FB hFB dd1 _ _ _ xx1 w5 (NdAt.below hbw5 _ _ _ _ _ w1) (by omega)
  go_wp2_with fail
  refine hfit.mono ?_
  rintro e w6 ⟨rfl, hb6⟩
  have hbw6 := keep_trans hbw5 hb6
  have x0 := Below.cells hb6 x0
  have x1 := Below.cells hb6 x1
  have x2 := Below.cells hb6 x2
  have z0 := Below.cells hb6 z0
  have z1 := Below.cells hb6 z1
  have z2 := Below.cells hb6 z2
  clear hfit
  cases hbm : bytesD FB xx1 with
  | none =>
    rw [show (Option.none : Option (List Nat)).isSome = false from rfl]
    go_wp2_with fail
    refine (dawake_any _ (hT.below hbw6)).mono ?_
    rintro e wz ⟨rfl, hbz⟩
    go_wp2_with fail
    go_ret
    exact ⟨rfl, keep_trans hbw6 hbz⟩
  | some b =>
  rw [show (some b).isSome = true from rfl]
  have hal : a.length ≤ 15000 := by
    have := wr_size FB 32 dd0 xx0 a (bytes_wr hbo).1 ⟨_, _, _, _, w0⟩
    omega
  have hbl : b.length ≤ 15000 := by
    have := wr_size FB 32 dd1 xx1 b (bytes_wr hbm).1 ⟨_, _, _, _, w1⟩
    omega
  have hbd := (bytes_der FB hFB dd0 _ _ _ xx0 w6 (NdAt.below hbw6 _ _ _ _ _ w0) (by omega) (hT.below hbw6)).mono (fun _ _ h => h.good hbo)
  go_wp2_with fail
  refine hbd.mono ?_
  rintro e w7 ⟨va, rfl, hra, hta, hb7⟩
  have hbw7 := keep_trans hbw6 hb7
  have x0 := Below.cells hb7 x0
  have x1 := Below.cells hb7 x1
  have x2 := Below.cells hb7 x2
  have z0 := Below.cells hb7 z0
  have z1 := Below.cells hb7 z1
  have z2 := Below.cells hb7 z2
  clear hbd
  obtain ⟨aa, ca, rfl⟩ := hra.sl
  have hbd := (bytes_der FB hFB dd1 _ _ _ xx1 w7 (NdAt.below hbw7 _ _ _ _ _ w1) (by omega) (hT.below hbw7)).mono (fun _ _ h => h.good hbm)
  go_wp2_with fail
  refine hbd.mono ?_
  rintro e w8 ⟨vb, rfl, hrb, htb, hb8⟩
  have hbw8 := keep_trans hbw7 hb8
  have x0 := Below.cells hb8 x0
  have x1 := Below.cells hb8 x1
  have x2 := Below.cells hb8 x2
  have z0 := Below.cells hb8 z0
  have z1 := Below.cells hb8 z1
  have z2 := Below.cells hb8 z2
  clear hbd
  obtain ⟨ab, cb, rfl⟩ := hrb.sl
  have hH : HdT w w.heap.size (.int .i64 tt) (.slice a1' n1 p1) (.slice a2' n2 p2) (.int .i64 uu) (.slice b1' m1 q1) (.slice b2' m2 q2) (.slice aa a.length ca) (.slice ab b.length cb) a b w8 := ⟨x0, x1, x2, z0, z1, z2, hra.below hb8, hrb, hbw8⟩
  have hca : a.length ≤ ca := by obtain ⟨_, _, he, h1, _⟩ := hra; simp at he; omega
  have hcb : b.length ≤ cb := by obtain ⟨_, _, he, h1, _⟩ := hrb; simp at he; omega
  obtain ⟨sb, hsb⟩ := same_bool xx0 xx1
  have hhs := head_same hbo hbm hsb
  have hS2 : ∀ w', Below w.heap.size w w' → Calls Tryd.prog 11 #[.agg #[.int .i64 tt, .slice a1' n1 p1, .slice a2' n2 p2], .agg #[.int .i64 uu, .slice b1' m1 q1, .slice b2' m2 q2]] w' _ := fun w' hb => (rsame_der (NdAt.below hb _ _ _ _ _ w0) (NdAt.below hb _ _ _ _ _ w1)).mono (fun _ _ h => sameE_bool h hsb)
  have hdd : (sb != sb) = false := by cases sb <;> rfl
  obtain ⟨i0, hi, hz0, hz1, hz2⟩ := info_byte
  clear hsb hbAB hb3 hb4 hb5 hb6 hb7 hb8 hbw3 hbw4 hbw5 hbw6 hbw7 hbw8 hra hrb htb w0 w1 x0 x1 x2 z0 z1 z2 hrn hrd hsn hsd
  by_cases hlab : a.length ≤ b.length
  · have hR1 : ∀ w', Row .u8 256 w' (.slice aa a.length ca) a → Row .u8 256 w' (.slice ab b.length cb) b → Calls Tryd.prog 17 #[.slice aa a.length ca, .slice ab a.length cb] w' fun e w'' => e = .returned (.bool sb) ∧ Below w'.heap.size w' w'' := fun w' h1 h2 => (rsame_b _ _ a (b.take a.length) w' h1 (h2.cut hlab)).mono (fun _ _ k => ⟨by rw [k.1, hhs], k.2⟩)
    have jq0 : (0 : Int) ≤ (a.length : Int) := by omega
    have jq1 : (a.length : Int) ≤ (b.length : Int) := by omega
    have jq2 : (a.length : Int) ≤ (cb : Int) := by omega
    have jq3 : a.length ≤ cb := by omega
    clear hhs
    go_wp2_with fail
    go_region_held3 (fun w' => w'.cell? ⟨w.heap.size, 0, none⟩ = some (.int .i64 tt) ∧ w'.cell? ⟨w.heap.size, 1, none⟩ = some (.slice a1' n1 p1) ∧ w'.cell? ⟨w.heap.size, 2, none⟩ = some (.slice a2' n2 p2) ∧ w'.cell? ⟨w.heap.size + 1, 0, none⟩ = some (.int .i64 uu) ∧ w'.cell? ⟨w.heap.size + 1, 1, none⟩ = some (.slice b1' m1 q1) ∧ w'.cell? ⟨w.heap.size + 1, 2, none⟩ = some (.slice b2' m2 q2) ∧ HdT w w.heap.size (.int .i64 tt) (.slice a1' n1 p1) (.slice a2' n2 p2) (.int .i64 uu) (.slice b1' m1 q1) (.slice b2' m2 q2) (.slice aa a.length ca) (.slice ab b.length cb) a b w')
      (first | exact HdT.all (HdT.keep (HdT.out (by assumption)) g2) | exact HdT.all (HdT.keep (by assumption) g2) | exact HdT.all (HdT.keep (HdT.out (by assumption)) g1) | exact HdT.all (HdT.keep (by assumption) g1) | exact HdT.all (by assumption) | exact HdT.all (HdT.drew hH) | exact HdT.all (HdT.drew (HdT.out (by assumption))) | exact HdT.all (HdT.drew (by assumption)))
      (first
        | (go_at_call 17; refine (hR1 _ (by exact (HdT.out (w := w) (l := a) (m := b) (by assumption)).r1) (by exact (HdT.out (w := w) (l := a) (m := b) (by assumption)).r2)).mono ?_; rintro e v1 ⟨rfl, g1⟩)
        | (go_at_call 11; refine (hS2 _ (by exact (HdT.out (w := w) (l := a) (m := b) (by assumption)).bel)).mono ?_; rintro e v2 ⟨rfl, g2⟩))
    have hH9 : HdT w w.heap.size (.int .i64 tt) (.slice a1' n1 p1) (.slice a2' n2 p2) (.int .i64 uu) (.slice b1' m1 q1) (.slice b2' m2 q2) (.slice aa a.length ca) (.slice ab b.length cb) a b v2 := (hH.drew.keep g1).keep g2
    clear hH hR1 hS2 g1 g2
    go_upto_region 9 with fail
    by_cases ha0 : (0 : Int) ≤ a2
    · have ha0d : decide ((0 : Int) ≤ a2) = true := decide_eq_true ha0
      by_cases hal : a2 < (a.length : Int)
      · have hald : decide (a2 < (a.length : Int)) = true := decide_eq_true hal
        obtain ⟨k, rfl⟩ := Int.eq_ofNat_of_zero_le ha0
        have hk : k < a.length := by omega
        have i1 : (k : Int) ≤ (a.length : Int) := by omega
        have i2 : (k : Int) ≤ (ca : Int) := by omega
        have i3 : k ≤ ca := by omega
        have hpk := parse_der FB hFB _ (a.take k) v2 (hH9.r1.cut (Nat.le_of_lt hk)) (tidy_cut hta hk) (hT.below hH9.bel) (by rw [List.length_take]; omega)
        have hpk := hpk.mono (fun _ _ h => (show ∃ er : Nat, 0 < er ∧ _ = Ending.returned (.tuple #[nod0, .int .i64 (er : Nat)]) ∧ _ from by
          obtain ⟨⟨er, h1, h2, h3⟩ | ⟨z, d, c0, c1, c2, h1, h2, h3⟩, h4⟩ := h
          · exact ⟨er, h2, h3, h4⟩
          · exact absurd h1 (parse_cut hH9.r1.under hbo hk)))
        go_wp2_with fail
        refine hpk.mono ?_
        rintro e w10 ⟨er, hpos, rfl, hb10⟩
        have heri : ((er : Int) == 0) = false := beq_eq_false_iff_ne.2 (by omega)
        have hk10 := keep_trans hb10 (keep_alloc w10 (.cells #[.int .i64 0, .slice none 0 0, .slice none 0 0] 26))
        have hb11 := keep_trans hH9.bel hk10
        have ra11 := hH9.r1.below hk10
        clear hpk hpos
        unfold nod0
        go_upto_region 13 with fail
        generalize w10.alloc (.cells #[.int .i64 0, .slice none 0 0, .slice none 0 0] 26) = W10 at *
        have hrW := hr.below hb11
        by_cases hl0 : l = []
        · have hli : ((l.length : Int) == 0) = true := by rw [hl0]; rfl
          have HPP : Hid (parseD FB (a ++ l) = .ok xx0) := hide (by rw [hl0, List.append_nil]; exact parse_bytes hbo)
          clear hl0
          go_wp2_with (first
            | (at_builtin; refine wpList_append_rows _ rfl _ _ 22 22 5 (by rfl) Tryd.underlying22 W10.heap.size 5 i0 (.int .u8 0) 1 Tryd.underlying22 hi hz0 hz1 hz2 rfl _ _ _ (by rfl) (own_mt W10 5) aa a.length ca (vals .u8 a) (by rfl) (vals_length _ _) (row_news (ra11.below (keep_alloc _ _))).2 (vals_one _ _) (by unfold maxLen; omega) (by omega) (by simp) ?_; intro t1 y1 how1 hg1; rw [Nat.zero_add, List.nil_append] at how1; have bel1 := below_mt hg1; have hy1 := bel1.size; have hnl := (row_news (hrW.below bel1)).2)
            | (at_builtin; refine wpList_append_rows _ rfl _ _ 22 22 5 (by rfl) Tryd.underlying22 W10.heap.size 5 i0 (.int .u8 0) 1 Tryd.underlying22 hi hz0 hz1 hz2 rfl _ _ _ (by rfl) how1 a3 l.length cap3 (vals .u8 l) (by rfl) (vals_length _ _) hnl (vals_one _ _) (by unfold maxLen; omega) (by omega) (by omega) ?_; intro t2 y2 how2 hg2; have bel2 := below_append' bel1 hy1 how1 hg2)
            | fail)
          have ho2 : Own 5 .u8 256 y2 W10.heap.size t2 (a ++ l) := ⟨by rw [vals_append, List.length_append]; exact how2, ra11.under.append hr.under⟩
          have hby2 := keep_trans hb11 bel2
          refine ((parse_der FB hFB t2 (a ++ l) y2 ho2.row (own_tidy how2) (hT.below hby2) (by rw [List.length_append]; omega)).mono (fun _ _ h => h.good HPP.out)).mono ?_
          rintro e y3 ⟨d5, e0, e1, e2, rfl, hnd5, hb3⟩
          obtain ⟨oo, c1', o1, s1, c2', o2, s2, rfl, rfl, rfl⟩ := hnd5.forms
          have hbf := keep_trans hby2 (keep_trans hb3 (keep_alloc y3 (.cells #[.int .i64 oo, .slice c1' o1 s1, .slice c2' o2 s2] 26)))
          clear how1 how2 hg1 hg2 hnl hnd5
          go_wp2_with fail
          refine (dawake_any _ (hT.below hbf)).mono ?_
          rintro e wz ⟨rfl, hbz⟩
          go_wp2_with fail
          go_ret
          exact ⟨rfl, keep_trans hbf hbz⟩
        · have hli : ((l.length : Int) == 0) = false := beq_eq_false_iff_ne.2 (fun h => hl0 (List.eq_nil_of_length_eq_zero (by omega)))
          have HPP : Hid (parseD FB (a ++ l) = .err 7) := hide (parse_behind hbo hl0 (by rw [List.length_append]; omega))
          clear hl0
          go_wp2_with (first
            | (at_builtin; refine wpList_append_rows _ rfl _ _ 22 22 5 (by rfl) Tryd.underlying22 W10.heap.size 5 i0 (.int .u8 0) 1 Tryd.underlying22 hi hz0 hz1 hz2 rfl _ _ _ (by rfl) (own_mt W10 5) aa a.length ca (vals .u8 a) (by rfl) (vals_length _ _) (row_news (ra11.below (keep_alloc _ _))).2 (vals_one _ _) (by unfold maxLen; omega) (by omega) (by simp) ?_; intro t1 y1 how1 hg1; rw [Nat.zero_add, List.nil_append] at how1; have bel1 := below_mt hg1; have hy1 := bel1.size; have hnl := (row_news (hrW.below bel1)).2)
            | (at_builtin; refine wpList_append_rows _ rfl _ _ 22 22 5 (by rfl) Tryd.underlying22 W10.heap.size 5 i0 (.int .u8 0) 1 Tryd.underlying22 hi hz0 hz1 hz2 rfl _ _ _ (by rfl) how1 a3 l.length cap3 (vals .u8 l) (by rfl) (vals_length _ _) hnl (vals_one _ _) (by unfold maxLen; omega) (by omega) (by omega) ?_; intro t2 y2 how2 hg2; have bel2 := below_append' bel1 hy1 how1 hg2)
            | fail)
          have ho2 : Own 5 .u8 256 y2 W10.heap.size t2 (a ++ l) := ⟨by rw [vals_append, List.length_append]; exact how2, ra11.under.append hr.under⟩
          have hby2 := keep_trans hb11 bel2
          refine ((parse_der FB hFB t2 (a ++ l) y2 ho2.row (own_tidy how2) (hT.below hby2) (by rw [List.length_append]; omega)).mono (fun _ _ h => h.bad HPP.out)).mono ?_
          rintro e y3 ⟨rfl, hb3⟩
          have hbf := keep_trans hby2 (keep_trans hb3 (keep_alloc y3 (.cells #[.int .i64 0, .slice none 0 0, .slice none 0 0] 26)))
          clear how1 how2 hg1 hg2 hnl
          unfold nod0
          go_wp2_with fail
          refine (dawake_any _ (hT.below hbf)).mono ?_
          rintro e wz ⟨rfl, hbz⟩
          go_wp2_with fail
          go_ret
          exact ⟨rfl, keep_trans hbf hbz⟩
      · have hald : decide (a2 < (a.length : Int)) = false := decide_eq_false hal
        have hbW := hH9.bel
        have raW := hH9.r1
        go_upto_region 13 with fail
        have hrW := hr.below hbW
        by_cases hl0 : l = []
        · have hli : ((l.length : Int) == 0) = true := by rw [hl0]; rfl
          have HPP : Hid (parseD FB (a ++ l) = .ok xx0) := hide (by rw [hl0, List.append_nil]; exact parse_bytes hbo)
          clear hl0
          go_wp2_with (first
            | (at_builtin; refine wpList_append_rows _ rfl _ _ 22 22 5 (by rfl) Tryd.underlying22 v2.heap.size 5 i0 (.int .u8 0) 1 Tryd.underlying22 hi hz0 hz1 hz2 rfl _ _ _ (by rfl) (own_mt v2 5) aa a.length ca (vals .u8 a) (by rfl) (vals_length _ _) (row_news (raW.below (keep_alloc _ _))).2 (vals_one _ _) (by unfold maxLen; omega) (by omega) (by simp) ?_; intro t1 y1 how1 hg1; rw [Nat.zero_add, List.nil_append] at how1; have bel1 := below_mt hg1; have hy1 := bel1.size; have hnl := (row_news (hrW.below bel1)).2)
            | (at_builtin; refine wpList_append_rows _ rfl _ _ 22 22 5 (by rfl) Tryd.underlying22 v2.heap.size 5 i0 (.int .u8 0) 1 Tryd.underlying22 hi hz0 hz1 hz2 rfl _ _ _ (by rfl) how1 a3 l.length cap3 (vals .u8 l) (by rfl) (vals_length _ _) hnl (vals_one _ _) (by unfold maxLen; omega) (by omega) (by omega) ?_; intro t2 y2 how2 hg2; have bel2 := below_append' bel1 hy1 how1 hg2)
            | fail)
          have ho2 : Own 5 .u8 256 y2 v2.heap.size t2 (a ++ l) := ⟨by rw [vals_append, List.length_append]; exact how2, raW.under.append hr.under⟩
          have hby2 := keep_trans hbW bel2
          refine ((parse_der FB hFB t2 (a ++ l) y2 ho2.row (own_tidy how2) (hT.below hby2) (by rw [List.length_append]; omega)).mono (fun _ _ h => h.good HPP.out)).mono ?_
          rintro e y3 ⟨d5, e0, e1, e2, rfl, hnd5, hb3⟩
          obtain ⟨oo, c1', o1, s1, c2', o2, s2, rfl, rfl, rfl⟩ := hnd5.forms
          have hbf := keep_trans hby2 (keep_trans hb3 (keep_alloc y3 (.cells #[.int .i64 oo, .slice c1' o1 s1, .slice c2' o2 s2] 26)))
          clear how1 how2 hg1 hg2 hnl hnd5
          go_wp2_with fail
          refine (dawake_any _ (hT.below hbf)).mono ?_
          rintro e wz ⟨rfl, hbz⟩
          go_wp2_with fail
          go_ret
          exact ⟨rfl, keep_trans hbf hbz⟩
        · have hli : ((l.length : Int) == 0) = false := beq_eq_false_iff_ne.2 (fun h => hl0 (List.eq_nil_of_length_eq_zero (by omega)))
          have HPP : Hid (parseD FB (a ++ l) = .err 7) := hide (parse_behind hbo hl0 (by rw [List.length_append]; omega))
          clear hl0
          go_wp2_with (first
            | (at_builtin; refine wpList_append_rows _ rfl _ _ 22 22 5 (by rfl) Tryd.underlying22 v2.heap.size 5 i0 (.int .u8 0) 1 Tryd.underlying22 hi hz0 hz1 hz2 rfl _ _ _ (by rfl) (own_mt v2 5) aa a.length ca (vals .u8 a) (by rfl) (vals_length _ _) (row_news (raW.below (keep_alloc _ _))).2 (vals_one _ _) (by unfold maxLen; omega) (by omega) (by simp) ?_; intro t1 y1 how1 hg1; rw [Nat.zero_add, List.nil_append] at how1; have bel1 := below_mt hg1; have hy1 := bel1.size; have hnl := (row_news (hrW.below bel1)).2)
            | (at_builtin; refine wpList_append_rows _ rfl _ _ 22 22 5 (by rfl) Tryd.underlying22 v2.heap.size 5 i0 (.int .u8 0) 1 Tryd.underlying22 hi hz0 hz1 hz2 rfl _ _ _ (by rfl) how1 a3 l.length cap3 (vals .u8 l) (by rfl) (vals_length _ _) hnl (vals_one _ _) (by unfold maxLen; omega) (by omega) (by omega) ?_; intro t2 y2 how2 hg2; have bel2 := below_append' bel1 hy1 how1 hg2)
            | fail)
          have ho2 : Own 5 .u8 256 y2 v2.heap.size t2 (a ++ l) := ⟨by rw [vals_append, List.length_append]; exact how2, raW.under.append hr.under⟩
          have hby2 := keep_trans hbW bel2
          refine ((parse_der FB hFB t2 (a ++ l) y2 ho2.row (own_tidy how2) (hT.below hby2) (by rw [List.length_append]; omega)).mono (fun _ _ h => h.bad HPP.out)).mono ?_
          rintro e y3 ⟨rfl, hb3⟩
          have hbf := keep_trans hby2 (keep_trans hb3 (keep_alloc y3 (.cells #[.int .i64 0, .slice none 0 0, .slice none 0 0] 26)))
          clear how1 how2 hg1 hg2 hnl
          unfold nod0
          go_wp2_with fail
          refine (dawake_any _ (hT.below hbf)).mono ?_
          rintro e wz ⟨rfl, hbz⟩
          go_wp2_with fail
          go_ret
          exact ⟨rfl, keep_trans hbf hbz⟩
    · have ha0d : decide ((0 : Int) ≤ a2) = false := decide_eq_false ha0
      have hbW := hH9.bel
      have raW := hH9.r1
      go_upto_region 13 with fail
      have hrW := hr.below hbW
      by_cases hl0 : l = []
      · have hli : ((l.length : Int) == 0) = true := by rw [hl0]; rfl
        have HPP : Hid (parseD FB (a ++ l) = .ok xx0) := hide (by rw [hl0, List.append_nil]; exact parse_bytes hbo)
        clear hl0
        go_wp2_with (first
          | (at_builtin; refine wpList_append_rows _ rfl _ _ 22 22 5 (by rfl) Tryd.underlying22 v2.heap.size 5 i0 (.int .u8 0) 1 Tryd.underlying22 hi hz0 hz1 hz2 rfl _ _ _ (by rfl) (own_mt v2 5) aa a.length ca (vals .u8 a) (by rfl) (vals_length _ _) (row_news (raW.below (keep_alloc _ _))).2 (vals_one _ _) (by unfold maxLen; omega) (by omega) (by simp) ?_; intro t1 y1 how1 hg1; rw [Nat.zero_add, List.nil_append] at how1; have bel1 := below_mt hg1; have hy1 := bel1.size; have hnl := (row_news (hrW.below bel1)).2)
          | (at_builtin; refine wpList_append_rows _ rfl _ _ 22 22 5 (by rfl) Tryd.underlying22 v2.heap.size 5 i0 (.int .u8 0) 1 Tryd.underlying22 hi hz0 hz1 hz2 rfl _ _ _ (by rfl) how1 a3 l.length cap3 (vals .u8 l) (by rfl) (vals_length _ _) hnl (vals_one _ _) (by unfold maxLen; omega) (by omega) (by omega) ?_; intro t2 y2 how2 hg2; have bel2 := below_append' bel1 hy1 how1 hg2)
          | fail)
        have ho2 : Own 5 .u8 256 y2 v2.heap.size t2 (a ++ l) := ⟨by rw [vals_append, List.length_append]; exact how2, raW.under.append hr.under⟩
        have hby2 := keep_trans hbW bel2
        refine ((parse_der FB hFB t2 (a ++ l) y2 ho2.row (own_tidy how2) (hT.below hby2) (by rw [List.length_append]; omega)).mono (fun _ _ h => h.good HPP.out)).mono ?_
        rintro e y3 ⟨d5, e0, e1, e2, rfl, hnd5, hb3⟩
        obtain ⟨oo, c1', o1, s1, c2', o2, s2, rfl, rfl, rfl⟩ := hnd5.forms
        have hbf := keep_trans hby2 (keep_trans hb3 (keep_alloc y3 (.cells #[.int .i64 oo, .slice c1' o1 s1, .slice c2' o2 s2] 26)))
        clear how1 how2 hg1 hg2 hnl hnd5
        go_wp2_with fail
        refine (dawake_any _ (hT.below hbf)).mono ?_
        rintro e wz ⟨rfl, hbz⟩
        go_wp2_with fail
        go_ret
        exact ⟨rfl, keep_trans hbf hbz⟩
      · have hli : ((l.length : Int) == 0) = false := beq_eq_false_iff_ne.2 (fun h => hl0 (List.eq_nil_of_length_eq_zero (by omega)))
        have HPP : Hid (parseD FB (a ++ l) = .err 7) := hide (parse_behind hbo hl0 (by rw [List.length_append]; omega))
        clear hl0
        go_wp2_with (first
          | (at_builtin; refine wpList_append_rows _ rfl _ _ 22 22 5 (by rfl) Tryd.underlying22 v2.heap.size 5 i0 (.int .u8 0) 1 Tryd.underlying22 hi hz0 hz1 hz2 rfl _ _ _ (by rfl) (own_mt v2 5) aa a.length ca (vals .u8 a) (by rfl) (vals_length _ _) (row_news (raW.below (keep_alloc _ _))).2 (vals_one _ _) (by unfold maxLen; omega) (by omega) (by simp) ?_; intro t1 y1 how1 hg1; rw [Nat.zero_add, List.nil_append] at how1; have bel1 := below_mt hg1; have hy1 := bel1.size; have hnl := (row_news (hrW.below bel1)).2)
          | (at_builtin; refine wpList_append_rows _ rfl _ _ 22 22 5 (by rfl) Tryd.underlying22 v2.heap.size 5 i0 (.int .u8 0) 1 Tryd.underlying22 hi hz0 hz1 hz2 rfl _ _ _ (by rfl) how1 a3 l.length cap3 (vals .u8 l) (by rfl) (vals_length _ _) hnl (vals_one _ _) (by unfold maxLen; omega) (by omega) (by omega) ?_; intro t2 y2 how2 hg2; have bel2 := below_append' bel1 hy1 how1 hg2)
          | fail)
        have ho2 : Own 5 .u8 256 y2 v2.heap.size t2 (a ++ l) := ⟨by rw [vals_append, List.length_append]; exact how2, raW.under.append hr.under⟩
        have hby2 := keep_trans hbW bel2
        refine ((parse_der FB hFB t2 (a ++ l) y2 ho2.row (own_tidy how2) (hT.below hby2) (by rw [List.length_append]; omega)).mono (fun _ _ h => h.bad HPP.out)).mono ?_
        rintro e y3 ⟨rfl, hb3⟩
        have hbf := keep_trans hby2 (keep_trans hb3 (keep_alloc y3 (.cells #[.int .i64 0, .slice none 0 0, .slice none 0 0] 26)))
        clear how1 how2 hg1 hg2 hnl
        unfold nod0
        go_wp2_with fail
        refine (dawake_any _ (hT.below hbf)).mono ?_
        rintro e wz ⟨rfl, hbz⟩
        go_wp2_with fail
        go_ret
        exact ⟨rfl, keep_trans hbf hbz⟩
  · have jq1 : ¬ (a.length : Int) ≤ (b.length : Int) := by omega
    have jqd : decide ((a.length : Int) ≤ (b.length : Int)) = false := decide_eq_false jq1
    have jqN : decide (a.length ≤ b.length) = false := decide_eq_false hlab
    clear hhs hS2
    go_wp2_with fail
    go_quiet (fail)
    have hH9 : HdT w w.heap.size (.int .i64 tt) (.slice a1' n1 p1) (.slice a2' n2 p2) (.int .i64 uu) (.slice b1' m1 q1) (.slice b2' m2 q2) (.slice aa a.length ca) (.slice ab b.length cb) a b (w8.drewN nq) := hH.keep (below_drewNv (Below.refl _ _) nq)
    clear hH
    generalize w8.drewN nq = w9 at *
    go_upto_region 9 with fail
    by_cases ha0 : (0 : Int) ≤ a2
    · have ha0d : decide ((0 : Int) ≤ a2) = true := decide_eq_true ha0
      by_cases hal : a2 < (a.length : Int)
      · have hald : decide (a2 < (a.length : Int)) = true := decide_eq_true hal
        obtain ⟨k, rfl⟩ := Int.eq_ofNat_of_zero_le ha0
        have hk : k < a.length := by omega
        have i1 : (k : Int) ≤ (a.length : Int) := by omega
        have i2 : (k : Int) ≤ (ca : Int) := by omega
        have i3 : k ≤ ca := by omega
        have hpk := parse_der FB hFB _ (a.take k) w9 (hH9.r1.cut (Nat.le_of_lt hk)) (tidy_cut hta hk) (hT.below hH9.bel) (by rw [List.length_take]; omega)
        have hpk := hpk.mono (fun _ _ h => (show ∃ er : Nat, 0 < er ∧ _ = Ending.returned (.tuple #[nod0, .int .i64 (er : Nat)]) ∧ _ from by
          obtain ⟨⟨er, h1, h2, h3⟩ | ⟨z, d, c0, c1, c2, h1, h2, h3⟩, h4⟩ := h
          · exact ⟨er, h2, h3, h4⟩
          · exact absurd h1 (parse_cut hH9.r1.under hbo hk)))
        go_wp2_with fail
        refine hpk.mono ?_
        rintro e w10 ⟨er, hpos, rfl, hb10⟩
        have heri : ((er : Int) == 0) = false := beq_eq_false_iff_ne.2 (by omega)
        have hk10 := keep_trans hb10 (keep_alloc w10 (.cells #[.int .i64 0, .slice none 0 0, .slice none 0 0] 26))
        have hb11 := keep_trans hH9.bel hk10
        have ra11 := hH9.r1.below hk10
        clear hpk hpos
        unfold nod0
        go_upto_region 13 with fail
        generalize w10.alloc (.cells #[.int .i64 0, .slice none 0 0, .slice none 0 0] 26) = W10 at *
        have hrW := hr.below hb11
        by_cases hl0 : l = []
        · have hli : ((l.length : Int) == 0) = true := by rw [hl0]; rfl
          have HPP : Hid (parseD FB (a ++ l) = .ok xx0) := hide (by rw [hl0, List.append_nil]; exact parse_bytes hbo)
          clear hl0
          go_wp2_with (first
            | (at_builtin; refine wpList_append_rows _ rfl _ _ 22 22 5 (by rfl) Tryd.underlying22 W10.heap.size 5 i0 (.int .u8 0) 1 Tryd.underlying22 hi hz0 hz1 hz2 rfl _ _ _ (by rfl) (own_mt W10 5) aa a.length ca (vals .u8 a) (by rfl) (vals_length _ _) (row_news (ra11.below (keep_alloc _ _))).2 (vals_one _ _) (by unfold maxLen; omega) (by omega) (by simp) ?_; intro t1 y1 how1 hg1; rw [Nat.zero_add, List.nil_append] at how1; have bel1 := below_mt hg1; have hy1 := bel1.size; have hnl := (row_news (hrW.below bel1)).2)
            | (at_builtin; refine wpList_append_rows _ rfl _ _ 22 22 5 (by rfl) Tryd.underlying22 W10.heap.size 5 i0 (.int .u8 0) 1 Tryd.underlying22 hi hz0 hz1 hz2 rfl _ _ _ (by rfl) how1 a3 l.length cap3 (vals .u8 l) (by rfl) (vals_length _ _) hnl (vals_one _ _) (by unfold maxLen; omega) (by omega) (by omega) ?_; intro t2 y2 how2 hg2; have bel2 := below_append' bel1 hy1 how1 hg2)
            | fail)
          have ho2 : Own 5 .u8 256 y2 W10.heap.size t2 (a ++ l) := ⟨by rw [vals_append, List.length_append]; exact how2, ra11.under.append hr.under⟩
          have hby2 := keep_trans hb11 bel2
          refine ((parse_der FB hFB t2 (a ++ l) y2 ho2.row (own_tidy how2) (hT.below hby2) (by rw [List.length_append]; omega)).mono (fun _ _ h => h.good HPP.out)).mono ?_
          rintro e y3 ⟨d5, e0, e1, e2, rfl, hnd5, hb3⟩
          obtain ⟨oo, c1', o1, s1, c2', o2, s2, rfl, rfl, rfl⟩ := hnd5.forms
          have hbf := keep_trans hby2 (keep_trans hb3 (keep_alloc y3 (.cells #[.int .i64 oo, .slice c1' o1 s1, .slice c2' o2 s2] 26)))
          clear how1 how2 hg1 hg2 hnl hnd5
          go_wp2_with fail
          refine (dawake_any _ (hT.below hbf)).mono ?_
          rintro e wz ⟨rfl, hbz⟩
          go_wp2_with fail
          go_ret
          exact ⟨rfl, keep_trans hbf hbz⟩
        · have hli : ((l.length : Int) == 0) = false := beq_eq_false_iff_ne.2 (fun h => hl0 (List.eq_nil_of_length_eq_zero (by omega)))
          have HPP : Hid (parseD FB (a ++ l) = .err 7) := hide (parse_behind hbo hl0 (by rw [List.length_append]; omega))
          clear hl0
          go_wp2_with (first
            | (at_builtin; refine wpList_append_rows _ rfl _ _ 22 22 5 (by rfl) Tryd.underlying22 W10.heap.size 5 i0 (.int .u8 0) 1 Tryd.underlying22 hi hz0 hz1 hz2 rfl _ _ _ (by rfl) (own_mt W10 5) aa a.length ca (vals .u8 a) (by rfl) (vals_length _ _) (row_news (ra11.below (keep_alloc _ _))).2 (vals_one _ _) (by unfold maxLen; omega) (by omega) (by simp) ?_; intro t1 y1 how1 hg1; rw [Nat.zero_add, List.nil_append] at how1; have bel1 := below_mt hg1; have hy1 := bel1.size; have hnl := (row_news (hrW.below bel1)).2)
            | (at_builtin; refine wpList_append_rows _ rfl _ _ 22 22 5 (by rfl) Tryd.underlying22 W10.heap.size 5 i0 (.int .u8 0) 1 Tryd.underlying22 hi hz0 hz1 hz2 rfl _ _ _ (by rfl) how1 a3 l.length cap3 (vals .u8 l) (by rfl) (vals_length _ _) hnl (vals_one _ _) (by unfold maxLen; omega) (by omega) (by omega) ?_; intro t2 y2 how2 hg2; have bel2 := below_append' bel1 hy1 how1 hg2)
            | fail)
          have ho2 : Own 5 .u8 256 y2 W10.heap.size t2 (a ++ l) := ⟨by rw [vals_append, List.length_append]; exact how2, ra11.under.append hr.under⟩
          have hby2 := keep_trans hb11 bel2
          refine ((parse_der FB hFB t2 (a ++ l) y2 ho2.row (own_tidy how2) (hT.below hby2) (by rw [List.length_append]; omega)).mono (fun _ _ h => h.bad HPP.out)).mono ?_
          rintro e y3 ⟨rfl, hb3⟩
          have hbf := keep_trans hby2 (keep_trans hb3 (keep_alloc y3 (.cells #[.int .i64 0, .slice none 0 0, .slice none 0 0] 26)))
          clear how1 how2 hg1 hg2 hnl
          unfold nod0
          go_wp2_with fail
          refine (dawake_any _ (hT.below hbf)).mono ?_
          rintro e wz ⟨rfl, hbz⟩
          go_wp2_with fail
          go_ret
          exact ⟨rfl, keep_trans hbf hbz⟩
      · have hald : decide (a2 < (a.length : Int)) = false := decide_eq_false hal
        have hbW := hH9.bel
        have raW := hH9.r1
        go_upto_region 13 with fail
        have hrW := hr.below hbW
        by_cases hl0 : l = []
        · have hli : ((l.length : Int) == 0) = true := by rw [hl0]; rfl
          have HPP : Hid (parseD FB (a ++ l) = .ok xx0) := hide (by rw [hl0, List.append_nil]; exact parse_bytes hbo)
          clear hl0
          go_wp2_with (first
            | (at_builtin; refine wpList_append_rows _ rfl _ _ 22 22 5 (by rfl) Tryd.underlying22 w9.heap.size 5 i0 (.int .u8 0) 1 Tryd.underlying22 hi hz0 hz1 hz2 rfl _ _ _ (by rfl) (own_mt w9 5) aa a.length ca (vals .u8 a) (by rfl) (vals_length _ _) (row_news (raW.below (keep_alloc _ _))).2 (vals_one _ _) (by unfold maxLen; omega) (by omega) (by simp) ?_; intro t1 y1 how1 hg1; rw [Nat.zero_add, List.nil_append] at how1; have bel1 := below_mt hg1; have hy1 := bel1.size; have hnl := (row_news (hrW.below bel1)).2)
            | (at_builtin; refine wpList_append_rows _ rfl _ _ 22 22 5 (by rfl) Tryd.underlying22 w9.heap.size 5 i0 (.int .u8 0) 1 Tryd.underlying22 hi hz0 hz1 hz2 rfl _ _ _ (by rfl) how1 a3 l.length cap3 (vals .u8 l) (by rfl) (vals_length _ _) hnl (vals_one _ _) (by unfold maxLen; omega) (by omega) (by omega) ?_; intro t2 y2 how2 hg2; have bel2 := below_append' bel1 hy1 how1 hg2)
            | fail)
          have ho2 : Own 5 .u8 256 y2 w9.heap.size t2 (a ++ l) := ⟨by rw [vals_append, List.length_append]; exact how2, raW.under.append hr.under⟩
          have hby2 := keep_trans hbW bel2
          refine ((parse_der FB hFB t2 (a ++ l) y2 ho2.row (own_tidy how2) (hT.below hby2) (by rw [List.length_append]; omega)).mono (fun _ _ h => h.good HPP.out)).mono ?_
          rintro e y3 ⟨d5, e0, e1, e2, rfl, hnd5, hb3⟩
          obtain ⟨oo, c1', o1, s1, c2', o2, s2, rfl, rfl, rfl⟩ := hnd5.forms
          have hbf := keep_trans hby2 (keep_trans hb3 (keep_alloc y3 (.cells #[.int .i64 oo, .slice c1' o1 s1, .slice c2' o2 s2] 26)))
          clear how1 how2 hg1 hg2 hnl hnd5
          go_wp2_with fail
          refine (dawake_any _ (hT.below hbf)).mono ?_
          rintro e wz ⟨rfl, hbz⟩
          go_wp2_with fail
          go_ret
          exact ⟨rfl, keep_trans hbf hbz⟩
        · have hli : ((l.length : Int) == 0) = false := beq_eq_false_iff_ne.2 (fun h => hl0 (List.eq_nil_of_length_eq_zero (by omega)))
          have HPP : Hid (parseD FB (a ++ l) = .err 7) := hide (parse_behind hbo hl0 (by rw [List.length_append]; omega))
          clear hl0
          go_wp2_with (first
            | (at_builtin; refine wpList_append_rows _ rfl _ _ 22 22 5 (by rfl) Tryd.underlying22 w9.heap.size 5 i0 (.int .u8 0) 1 Tryd.underlying22 hi hz0 hz1 hz2 rfl _ _ _ (by rfl) (own_mt w9 5) aa a.length ca (vals .u8 a) (by rfl) (vals_length _ _) (row_news (raW.below (keep_alloc _ _))).2 (vals_one _ _) (by unfold maxLen; omega) (by omega) (by simp) ?_; intro t1 y1 how1 hg1; rw [Nat.zero_add, List.nil_append] at how1; have bel1 := below_mt hg1; have hy1 := bel1.size; have hnl := (row_news (hrW.below bel1)).2)
            | (at_builtin; refine wpList_append_rows _ rfl _ _ 22 22 5 (by rfl) Tryd.underlying22 w9.heap.size 5 i0 (.int .u8 0) 1 Tryd.underlying22 hi hz0 hz1 hz2 rfl _ _ _ (by rfl) how1 a3 l.length cap3 (vals .u8 l) (by rfl) (vals_length _ _) hnl (vals_one _ _) (by unfold maxLen; omega) (by omega) (by omega) ?_; intro t2 y2 how2 hg2; have bel2 := below_append' bel1 hy1 how1 hg2)
            | fail)
          have ho2 : Own 5 .u8 256 y2 w9.heap.size t2 (a ++ l) := ⟨by rw [vals_append, List.length_append]; exact how2, raW.under.append hr.under⟩
          have hby2 := keep_trans hbW bel2
          refine ((parse_der FB hFB t2 (a ++ l) y2 ho2.row (own_tidy how2) (hT.below hby2) (by rw [List.length_append]; omega)).mono (fun _ _ h => h.bad HPP.out)).mono ?_
          rintro e y3 ⟨rfl, hb3⟩
          have hbf := keep_trans hby2 (keep_trans hb3 (keep_alloc y3 (.cells #[.int .i64 0, .slice none 0 0, .slice none 0 0] 26)))
          clear how1 how2 hg1 hg2 hnl
          unfold nod0
          go_wp2_with fail
          refine (dawake_any _ (hT.below hbf)).mono ?_
          rintro e wz ⟨rfl, hbz⟩
          go_wp2_with fail
          go_ret
          exact ⟨rfl, keep_trans hbf hbz⟩
    · have ha0d : decide ((0 : Int) ≤ a2) = false := decide_eq_false ha0
      have hbW := hH9.bel
      have raW := hH9.r1
      go_upto_region 13 with fail
      have hrW := hr.below hbW
      by_cases hl0 : l = []
      · have hli : ((l.length : Int) == 0) = true := by rw [hl0]; rfl
        have HPP : Hid (parseD FB (a ++ l) = .ok xx0) := hide (by rw [hl0, List.append_nil]; exact parse_bytes hbo)
        clear hl0
        go_wp2_with (first
          | (at_builtin; refine wpList_append_rows _ rfl _ _ 22 22 5 (by rfl) Tryd.underlying22 w9.heap.size 5 i0 (.int .u8 0) 1 Tryd.underlying22 hi hz0 hz1 hz2 rfl _ _ _ (by rfl) (own_mt w9 5) aa a.length ca (vals .u8 a) (by rfl) (vals_length _ _) (row_news (raW.below (keep_alloc _ _))).2 (vals_one _ _) (by unfold maxLen; omega) (by omega) (by simp) ?_; intro t1 y1 how1 hg1; rw [Nat.zero_add, List.nil_append] at how1; have bel1 := below_mt hg1; have hy1 := bel1.size; have hnl := (row_news (hrW.below bel1)).2)
          | (at_builtin; refine wpList_append_rows _ rfl _ _ 22 22 5 (by rfl) Tryd.underlying22 w9.heap.size 5 i0 (.int .u8 0) 1 Tryd.underlying22 hi hz0 hz1 hz2 rfl _ _ _ (by rfl) how1 a3 l.length cap3 (vals .u8 l) (by rfl) (vals_length _ _) hnl (vals_one _ _) (by unfold maxLen; omega) (by omega) (by omega) ?_; intro t2 y2 how2 hg2; have bel2 := below_append' bel1 hy1 how1 hg2)
          | fail)
        have ho2 : Own 5 .u8 256 y2 w9.heap.size t2 (a ++ l) := ⟨by rw [vals_append, List.length_append]; exact how2, raW.under.append hr.under⟩
        have hby2 := keep_trans hbW bel2
        refine ((parse_der FB hFB t2 (a ++ l) y2 ho2.row (own_tidy how2) (hT.below hby2) (by rw [List.length_append]; omega)).mono (fun _ _ h => h.good HPP.out)).mono ?_
        rintro e y3 ⟨d5, e0, e1, e2, rfl, hnd5, hb3⟩
        obtain ⟨oo, c1', o1, s1, c2', o2, s2, rfl, rfl, rfl⟩ := hnd5.forms
        have hbf := keep_trans hby2 (keep_trans hb3 (keep_alloc y3 (.cells #[.int .i64 oo, .slice c1' o1 s1, .slice c2' o2 s2] 26)))
        clear how1 how2 hg1 hg2 hnl hnd5
        go_wp2_with fail
        refine (dawake_any _ (hT.below hbf)).mono ?_
        rintro e wz ⟨rfl, hbz⟩
        go_wp2_with fail
        go_ret
        exact ⟨rfl, keep_trans hbf hbz⟩
      · have hli : ((l.length : Int) == 0) = false := beq_eq_false_iff_ne.2 (fun h => hl0 (List.eq_nil_of_length_eq_zero (by omega)))
        have HPP : Hid (parseD FB (a ++ l) = .err 7) := hide (parse_behind hbo hl0 (by rw [List.length_append]; omega))
        clear hl0
        go_wp2_with (first
          | (at_builtin; refine wpList_append_rows _ rfl _ _ 22 22 5 (by rfl) Tryd.underlying22 w9.heap.size 5 i0 (.int .u8 0) 1 Tryd.underlying22 hi hz0 hz1 hz2 rfl _ _ _ (by rfl) (own_mt w9 5) aa a.length ca (vals .u8 a) (by rfl) (vals_length _ _) (row_news (raW.below (keep_alloc _ _))).2 (vals_one _ _) (by unfold maxLen; omega) (by omega) (by simp) ?_; intro t1 y1 how1 hg1; rw [Nat.zero_add, List.nil_append] at how1; have bel1 := below_mt hg1; have hy1 := bel1.size; have hnl := (row_news (hrW.below bel1)).2)
          | (at_builtin; refine wpList_append_rows _ rfl _ _ 22 22 5 (by rfl) Tryd.underlying22 w9.heap.size 5 i0 (.int .u8 0) 1 Tryd.underlying22 hi hz0 hz1 hz2 rfl _ _ _ (by rfl) how1 a3 l.length cap3 (vals .u8 l) (by rfl) (vals_length _ _) hnl (vals_one _ _) (by unfold maxLen; omega) (by omega) (by omega) ?_; intro t2 y2 how2 hg2; have bel2 := below_append' bel1 hy1 how1 hg2)
          | fail)
        have ho2 : Own 5 .u8 256 y2 w9.heap.size t2 (a ++ l) := ⟨by rw [vals_append, List.length_append]; exact how2, raW.under.append hr.under⟩
        have hby2 := keep_trans hbW bel2
        refine ((parse_der FB hFB t2 (a ++ l) y2 ho2.row (own_tidy how2) (hT.below hby2) (by rw [List.length_append]; omega)).mono (fun _ _ h => h.bad HPP.out)).mono ?_
        rintro e y3 ⟨rfl, hb3⟩
        have hbf := keep_trans hby2 (keep_trans hb3 (keep_alloc y3 (.cells #[.int .i64 0, .slice none 0 0, .slice none 0 0] 26)))
        clear how1 how2 hg1 hg2 hnl
        unfold nod0
        go_wp2_with fail
        refine (dawake_any _ (hT.below hbf)).mono ?_
        rintro e wz ⟨rfl, hbz⟩
        go_wp2_with fail
        go_ret
        exact ⟨rfl, keep_trans hbf hbz⟩

set_option maxRecDepth 100000 in
theorem lifted (os : Os) (started : os.Started) (H : Type) (enc : TypeId × Value → H) :
    ReturnsInHanded {} Tryd.checked os 6 .any (fun w args => (Rows.derAllSpec.pre enc Tryd.prog Tryd.f6 Rows.derAllRow.domain false w args ∧ laidMetH Tryd.prog Rows.derAllRow.laid w) ∧ sizedMet enc Tryd.prog Tryd.f6 (OpenSpec.ofChange Rows.derAllSpec) false w args) (Rows.derAllSpec.post enc Tryd.prog Tryd.f6 false true false false) := by
  refine change_laid_shaped (C := Tryd.checked) (X := fun w _ => laidMetH Tryd.prog Rows.derAllRow.laid w) (fun _ _ _ hh h => h.of_heap hh) own started (by kernel_rfl) Tryd.func6
    (ChangeSpec.witness_shaped (enc := enc) (C := Tryd.checked) (os := os) (X := fun w _ => laidMetH Tryd.prog Rows.derAllRow.laid w) false (World.laidAll Tryd.prog os Rows.derAllRow.laid) #[.agg #[.int .i64 0, .slice none 0 0, .slice none 0 0], .agg #[.int .i64 0, .slice none 0 0, .slice none 0 0], .int .i64 0, .slice none 0 0] 8 (World.laidAll_os _ _ _)
      (World.shaped_of_ZipB (by kernel_rfl) (by kernel_rfl)) (by kernel_rfl) (by kernel_rfl) (by kernel_rfl)
      (by rw [MakeChecks.laidMetH_plain _ _ _ (by kernel_rfl)]; exact laidMet_laidAll _ (by kernel_rfl) (by kernel_rfl))) ?_
  intro W base args ds gs before hval0 hW hsz0 hL hsh
  have hVars : Vars W := vars_of_laid hL hsh
  have hval : ∀ (j : Nat) t v, Tryd.f6.params[j]? = some t → args[j]? = some v → Value.okWide Tryd.prog W .any base t v := hval0
  have hW' := hW
  obtain ⟨p, q, hA0, hV, rfl, hfz, hnd⟩ := hW
  have hA : DataW.TrodAll enc Tryd.prog W 0 (fun _ => true) true Tryd.f6.params.toList args.toList ds p := hA0
  rw [Tryd.params6] at hA hval
  obtain ⟨v0, vs0, d0, ds0, p0, q0, hargs, rfl, rfl, h0, r0⟩ := trodAll_cons hA
  obtain ⟨v1, vs1, d1, ds1, p1, q1, rfl, rfl, rfl, h1, r1⟩ := trodAll_cons r0
  obtain ⟨v2, vs2, d2, ds2, p2, q2, rfl, rfl, rfl, h2, r2⟩ := trodAll_cons r1
  obtain ⟨v3, vs3, d3, ds3, p3, q3, rfl, rfl, rfl, h3, r3⟩ := trodAll_cons r2
  obtain ⟨rfl, rfl, rfl⟩ := trodAll_nil r3
  obtain rfl : args = #[v0, v1, v2, v3] := by cases args; simp_all
  obtain ⟨rfl, rfl⟩ := trodVars_none hV
  obtain ⟨cs0, rfl, hcz0⟩ := okWide_struct Tryd.underlying26 (hval 0 26 v0 rfl rfl)
  obtain ⟨ct0, cb0, ck0, rfl⟩ := arr3 (hcz0.trans Tryd.cellsN)
  have k0 := h0
  have lt0 : ∀ x ∈ p0, x.block < W.heap.size := by obtain ⟨m, hm⟩ := k0; exact DataW.trod_lt m _ _ _ hm
  obtain ⟨dd0, xx0, w0⟩ : ∃ d n, NdAt W d ct0 cb0 ck0 n := by
    obtain ⟨fuel, hf⟩ := h0
    exact read_cells fuel _ _ _ _ (by simpa [Value.cells] using hf)
  obtain ⟨cs1, rfl, hcz1⟩ := okWide_struct Tryd.underlying26 (hval 1 26 v1 rfl rfl)
  obtain ⟨ct1, cb1, ck1, rfl⟩ := arr3 (hcz1.trans Tryd.cellsN)
  have k1 := h1
  have lt1 : ∀ x ∈ p1, x.block < W.heap.size := by obtain ⟨m, hm⟩ := k1; exact DataW.trod_lt m _ _ _ hm
  obtain ⟨dd1, xx1, w1⟩ : ∃ d n, NdAt W d ct1 cb1 ck1 n := by
    obtain ⟨fuel, hf⟩ := h1
    exact read_cells fuel _ _ _ _ (by simpa [Value.cells] using hf)
  obtain ⟨a2, rfl, rfl, rfl, w2⟩ := open_int Tryd.underlying3 (hval 2 3 v2 rfl rfl) h2
  obtain ⟨a3, len3, cap3, rfl⟩ := okWide_slice Tryd.underlying22 (hval 3 22 v3 rfl rfl)
  have k3 := h3
  have lt3 : ∀ x ∈ p3, x.block < W.heap.size := by obtain ⟨m, hm⟩ := k3; exact DataW.trod_lt m _ _ _ hm
  obtain ⟨z3, w3⟩ : ∃ zs, IsRow .u8 W a3 len3 cap3 zs := by
    obtain ⟨fuel, hf⟩ := h3
    rcases open_ints Tryd.underlying22 Tryd.underlying5 (by kernel_rfl) hf with ⟨hcs, _⟩ | ⟨x, l, c, zs, hcs, _, hl, hm, hz, _, hcell, hwz⟩
    · simp [Value.cells] at hcs
      obtain ⟨rfl, rfl, rfl⟩ := hcs
      exact ⟨[], .inl ⟨rfl, rfl, rfl, rfl⟩⟩
    · simp [Value.cells] at hcs
      obtain ⟨rfl, rfl, rfl⟩ := hcs
      exact ⟨zs, .inr ⟨_, rfl, hl, hm, by simpa using hz, hcell, hwz⟩⟩
  clear hA0 hval0
  refine (walk ct0 cb0 ck0 dd0 xx0 ct1 cb1 ck1 dd1 xx1 a2 a3 len3 cap3 z3 W w0 w1 w2 w3 hVars).mono fun e W' ⟨he, bel⟩ => ?_
  subst he
  exact ⟨_, rfl, _, _, _, [], _, [], hW', trodAll_mk1 (shut_bool Tryd.underlying4 _), (trodAll_cons_mk (Below.trod laidOut (by kernel_rfl) (of_decide_eq_true (by kernel_rfl)) k0 bel lt0) (trodAll_cons_mk (Below.trod laidOut (by kernel_rfl) (of_decide_eq_true (by kernel_rfl)) k1 bel lt1) (trodAll_cons_mk (shut_int Tryd.underlying3 w2) (trodAll_cons_mk (Below.trod laidOut (by kernel_rfl) (of_decide_eq_true (by kernel_rfl)) k3 bel lt3) trodAll_mk0)))), rfl, bel.frame _, fun h => by cases h⟩

theorem over : Rows.derAllRow.holds Tryd.pinned (OpenSpec.ofChange Rows.derAllSpec) :=
  OpenClaim.holds_of_wide 6 Tryd.f6 rfl rfl rfl rfl rfl rfl rfl ⟨rfl, rfl, rfl, rfl, rfl⟩ rfl rfl rfl rfl rfl (by kernel_rfl) Tryd.func6 (by kernel_rfl)
    (of_decide_eq_true (by kernel_rfl)) (by unfold Func.isWrapper; first | (rw [if_pos (by decide +kernel)]; kernel_rfl) | (rw [if_neg (by decide +kernel)]; exact ⟨rfl, rfl⟩))
    (fun os started H enc _ => lifted os started H enc)

end Go.Proofs.YtjkciheoknjfhaaDoor.derAll
namespace Go.Proofs.YtjkciheoknjfhaaDoor
theorem derAll_card : Rows.DerAllCardSaid :=
  Claim7.holds_tied_plain_at .later [] [.data, .pinned] true (true, "7973f1f7aa88e92370905565be3a04acdac114a7f89cd62829bb056a977e33c6") true
    derAll.over (fun _ h => by cases h) (by kernel_rfl) (fun _ h => by cases h) derAll_row_tie rfl ⟨rfl, rfl⟩ (by kernel_rfl) rfl
    (fun f fn hf hfn => by
      obtain rfl : f = 6 := Option.some.inj ((show Tryd.prog.funcNamed Tryd.f6.name = some 6 by kernel_rfl).symm.trans hf) |>.symm
      obtain rfl : fn = Tryd.f6 := (Option.some.inj (Tryd.func6.symm.trans hfn)).symm
      exact ⟨by kernel_rfl, fun j t ht => by
        rw [Tryd.params6] at ht
        have hm : t ∈ [26, 26, 3, 22] := by simpa using Array.mem_of_getElem? ht
        have hall : ([26, 26, 3, 22].all fun u => !Tryd.prog.wantsStandIn u) = true := by kernel_rfl
        exact (show Tryd.prog.wantsStandIn t = false by simpa using List.all_eq_true.1 hall t hm)⟩)
    (by kernel_rfl)
end Go.Proofs.YtjkciheoknjfhaaDoor
