/- The document's keys. -/
import Derived.Test.YtjeofkemfpdieaaQcV
import Derived.Test.YtjeofkemfpdieaaAesM
import Derived.Test.YtjeofkemfpdieaaAApp
namespace Go.Proofs.Ytjeofkemfpdieaa
open Go.RowKit
set_option linter.unusedVariables false
set_option linter.unusedSimpArgs false

/-- where the loop stands: behind m words -/
def KyL (w0 : World) (k : Nat) (key : List Nat) (v vc vi : Value) (wr : World) : Prop := ∃ m : Nat, m ≤ 3 * k + 28 ∧ vi = .int .i64 ((k + m : Nat) : Int) ∧ vc = .int .u8 ((kX k key m).2 : Nat) ∧ wr.ownsRow w0.heap.size 5 1 v (4 * (k + m)) (vals .u8 (kX k key m).1) ∧ Below w0.heap.size w0 wr

/-- where the inner loop stands: behind j bytes -/
def KiL (B : Nat) (w0 : World) (m q g : Nat) (W T : List Nat) (v vj : Value) (wr : World) : Prop := ∃ j : Nat, j ≤ 4 ∧ vj = .int .i64 (j : Int) ∧ wr.ownsRow B 5 1 v (q + j) (vals .u8 (kQ m W T j)) ∧ (∀ i, i < 4 → wr.cell? ⟨g, i, none⟩ = some (.int .u8 (el T i : Nat))) ∧ v.ownBlock ≠ some g ∧ g < wr.heap.size ∧ Below w0.heap.size w0 wr

set_option maxHeartbeats 16000000 in
set_option maxRecDepth 100000 in
theorem rky_any (k : Nat) (key : List Nat) (kv : Value) (w : World) (hk : k = 4 ∨ k = 6 ∨ k = 8) (hl : key.length = 4 * k) (rk : Row .u8 256 w kv key) :
    Calls Try.prog 56 #[kv, .agg (arr .u8 boxT)] w fun e w' => ∃ v, e = .returned v ∧ Own 5 .u8 256 w' w.heap.size v (keysL key) ∧ Below w.heap.size w w' := by
  obtain ⟨i0, hi0, hz0, hz1, hz2⟩ := info_parts Try.info5
  have hku := rk.under
  have hA := Lies.new .u8 74 w boxT
  have hb0 := keep_alloc w (.cells (arr .u8 boxT) 74)
  have rk0 := rk.below hb0
  have tk := row_tidyA rk (by omega)
  obtain ⟨ka, kc, rfl, lc1, lc2, _⟩ := rk.opens hl
  obtain ⟨N, hN⟩ : ∃ x : Nat, x = 4 * k := ⟨_, rfl⟩
  have HN := hide hN
  have e_n : (N : Int) / 4 = (k : Int) := by omega
  have t_n : (N : Int).tdiv 4 = (k : Int) := by rw [Int.tdiv_eq_ediv_of_nonneg (by omega)]; exact e_n
  have s_n : IntKind.i64.wrap (k : Int) = (k : Int) := by rw [IntKind.wrap_i64]; omega
  rw [← hN] at rk rk0 lc1 hl tk ⊢
  clear hN
  have hnil : (w.alloc (.cells (arr .u8 boxT) 74)).ownsRow (w.alloc (.cells (arr .u8 boxT) 74)).heap.size 5 1 (.slice none 0 0) 0 (vals .u8 []) := ⟨rfl, .inl ⟨rfl, rfl⟩⟩
  go_enter Try.func56, Try.ntmps56
  go_wp2_with (first
    | (at_builtin; refine wpList_appA rfl _ _ rfl (w.alloc (.cells (arr .u8 boxT) 74)).heap.size _ _ 0 [] key rfl hnil rfl rk0 tk (by decide) (by rw [hl]; have := HN.out; omega) (Nat.le_refl _) ?_; intro v1 w1 how hg1)
    | fail)
  have hb1 := below_append' (Below.refl _ _) (Nat.le_refl _) hnil hg1
  have H0 : Hid (KyL (w.alloc (.cells (arr .u8 boxT) 74)) k key v1 (.int .u8 1) (.int .i64 (k : Int)) w1) := hide ⟨0, Nat.zero_le _, rfl, rfl, by rw [show 4 * (k + 0) = 0 + key.length by rw [hl, HN.out]; omega]; exact how, hb1⟩
  clear how hg1 hb1 hnil rk rk0
  obtain ⟨k7, hk7⟩ : ∃ x : Nat, x = k + 7 := ⟨_, rfl⟩
  obtain ⟨M, hM⟩ : ∃ x : Nat, x = 4 * k7 := ⟨_, rfl⟩
  have e_k7 : (k : Int) + 7 = (k7 : Int) := by omega
  have s_k7 : IntKind.i64.wrap (k7 : Int) = (k7 : Int) := by rw [IntKind.wrap_i64]; omega
  have e_M : 4 * (k7 : Int) = (M : Int) := by omega
  have s_M : IntKind.i64.wrap (M : Int) = (M : Int) := by rw [IntKind.wrap_i64]; omega
  have HM : Hid (M = 4 * k + 28) := hide (by omega)
  have HK := hide hk
  clear hk7 hM hk
  go_loopw [6, 7, 8] (fun v vc vi wr => KyL (w.alloc (.cells (arr .u8 boxT) 74)) k key v vc vi wr) (fun _ _ vi _ => 4 * k + 28 - (intOf vi).toNat)
  case atStart => exact H0.out
  case round =>
    obtain ⟨m, hm, rfl, rfl, how, hbr⟩ := hrel
    clear H0
    have hxl := kX_len (k := k) (key := key) (by rw [hl]; exact HN.out) m
    have hxu := kX_under (k := k) hku m
    have hxc := kX_lt (k := k) (key := key) m
    have hx1 : kX k key (m + 1) = (kQ m (kX k key m).1 (kT k (k + m) (kX k key m).2 (k4 (k + m) (kX k key m).1)) 4, kC k (k + m) (kX k key m).2) := rfl
    have HX1 := hide hx1
    clear hx1
    generalize hW : (kX k key m).1 = W at *
    have HW := hide hW
    clear hW
    generalize (kX k key m).2 = C at *
    obtain ⟨i, hi⟩ : ∃ x : Nat, x = k + m := ⟨_, rfl⟩
    have HI := hide hi
    rw [← hi] at HX1 how hxl ⊢
    clear hi
    by_cases hlt : m < 3 * k + 28
    · have hlti : (i : Int) < (M : Int) := by have := HM.out; have := HI.out; omega
      have hib : 4 ≤ i ∧ i ≤ 60 := by have := HI.out; have := HK.out; omega
      obtain ⟨va, vc, rfl⟩ := own_sliceA how
      have hA1 := hA.below hbr
      have hOw : Own 5 .u8 256 wr (w.alloc (.cells (arr .u8 boxT) 74)).heap.size (.slice va (4 * i) vc) W := ⟨by rw [hxl]; exact how, hxu⟩
      obtain ⟨_, _, he, lv1, lv2, g3⟩ := hOw.row.opens hxl
      simp only [Value.slice.injEq] at he
      obtain ⟨rfl, _, rfl⟩ := he
      obtain ⟨b, o, rfl, hc⟩ := g3 (by omega)
      have hge : w.heap.size + 1 ≤ b := by
        have := (how.lt b (by simp [Value.ownBlock])).1
        rw [World.size_alloc] at this
        exact this
      obtain ⟨q, hq⟩ : ∃ x : Nat, x = 4 * i := ⟨_, rfl⟩
      obtain ⟨d4, hd4⟩ : ∃ x : Nat, x = q - 4 := ⟨_, rfl⟩
      obtain ⟨d3, hd3⟩ : ∃ x : Nat, x = q - 3 := ⟨_, rfl⟩
      obtain ⟨d2, hd2⟩ : ∃ x : Nat, x = q - 2 := ⟨_, rfl⟩
      obtain ⟨d1, hd1⟩ : ∃ x : Nat, x = q - 1 := ⟨_, rfl⟩
      have c4 := hc d4 (by omega)
      have c3 := hc d3 (by omega)
      have c2 := hc d2 (by omega)
      have c1 := hc d1 (by omega)
      have hk4 : k4 i W = [el W d4, el W d3, el W d2, el W d1] := by unfold k4; rw [hd4, hd3, hd2, hd1, hq]
      have HK4 := hide hk4
      have e_q : 4 * (i : Int) = (q : Int) := by omega
      have s_q : IntKind.i64.wrap (q : Int) = (q : Int) := by rw [IntKind.wrap_i64]; omega
      have e_4 : (q : Int) - 4 = (d4 : Int) := by omega
      have s_4 : IntKind.i64.wrap (d4 : Int) = (d4 : Int) := by rw [IntKind.wrap_i64]; omega
      have e_3 : (q : Int) - 3 = (d3 : Int) := by omega
      have s_3 : IntKind.i64.wrap (d3 : Int) = (d3 : Int) := by rw [IntKind.wrap_i64]; omega
      have e_2 : (q : Int) - 2 = (d2 : Int) := by omega
      have s_2 : IntKind.i64.wrap (d2 : Int) = (d2 : Int) := by rw [IntKind.wrap_i64]; omega
      have e_1 : (q : Int) - 1 = (d1 : Int) := by omega
      have s_1 : IntKind.i64.wrap (d1 : Int) = (d1 : Int) := by rw [IntKind.wrap_i64]; omega
      have l4 : (d4 : Int) < (q : Int) := by omega
      have l3 : (d3 : Int) < (q : Int) := by omega
      have l2 : (d2 : Int) < (q : Int) := by omega
      have l1 : (d1 : Int) < (q : Int) := by omega
      have HQ := hide hq
      rw [← hq] at how lv1 hOw hxl hc ⊢
      have u4 := el_lt hxu (by decide) d4
      have u3 := el_lt hxu (by decide) d3
      have u2 := el_lt hxu (by decide) d2
      have u1 := el_lt hxu (by decide) d1
      clear hk4 hd4 hd3 hd2 hd1 hq g3
      generalize el W d4 = x4 at *
      generalize el W d3 = x3 at *
      generalize el W d2 = x2 at *
      generalize el W d1 = x1 at *
      go_wp2
      go_region_held3 (fun w' => w'.cell? ⟨b, o + d4, none⟩ = some (.int .u8 x4) ∧ w'.cell? ⟨b, o + d3, none⟩ = some (.int .u8 x3) ∧ w'.cell? ⟨b, o + d2, none⟩ = some (.int .u8 x2) ∧ w'.cell? ⟨b, o + d1, none⟩ = some (.int .u8 x1)) (first | go_keep) (fail)
      have hb2 : Below wr.heap.size wr (wr.alloc (.cells #[.int .u8 (x4 : Nat), .int .u8 (x3 : Nat), .int .u8 (x2 : Nat), .int .u8 (x1 : Nat)] 5)).drew := keep_trans (keep_alloc wr _) (Below.refl _ _).drew
      have hT2 : Lies .u8 5 (wr.alloc (.cells #[.int .u8 (x4 : Nat), .int .u8 (x3 : Nat), .int .u8 (x2 : Nat), .int .u8 (x1 : Nat)] 5)).drew wr.heap.size [x4, x3, x2, x1] := Lies.new .u8 5 wr [x4, x3, x2, x1]
      have hbl : b < wr.heap.size := (how.lt b (by simp [Value.ownBlock])).2
      generalize (wr.alloc (.cells #[.int .u8 (x4 : Nat), .int .u8 (x3 : Nat), .int .u8 (x2 : Nat), .int .u8 (x1 : Nat)] 5)).drew = y2 at *
      have how2 := own_belowA how hb2
      have hA2 := hA1.below hb2
      have hbr2 : Below (w.alloc (.cells (arr .u8 boxT) 74)).heap.size (w.alloc (.cells (arr .u8 boxT) 74)) y2 := keep_trans hbr hb2
      have t0 := hT2.cell (i := 0) (by show 0 < 4; decide)
      have t1 := hT2.cell (i := 1) (by show 1 < 4; decide)
      have t2 := hT2.cell (i := 2) (by show 2 < 4; decide)
      have t3 := hT2.cell (i := 3) (by show 3 < 4; decide)
      have hT2l := hT2.lt
      generalize wr.heap.size = g at *
      replace t0 : y2.cell? ⟨g, 0, none⟩ = some (.int .u8 (x4 : Nat)) := t0
      replace t1 : y2.cell? ⟨g, 1, none⟩ = some (.int .u8 (x3 : Nat)) := t1
      replace t2 : y2.cell? ⟨g, 2, none⟩ = some (.int .u8 (x2 : Nat)) := t2
      replace t3 : y2.cell? ⟨g, 3, none⟩ = some (.int .u8 (x1 : Nat)) := t3
      have b4 := hA2.cell (i := x4) (by rw [boxT_len]; exact u4)
      have b3 := hA2.cell (i := x3) (by rw [boxT_len]; exact u3)
      have b2 := hA2.cell (i := x2) (by rw [boxT_len]; exact u2)
      have b1 := hA2.cell (i := x1) (by rw [boxT_len]; exact u1)
      rw [boxT_el u4] at b4
      rw [boxT_el u3] at b3
      rw [boxT_el u2] at b2
      rw [boxT_el u1] at b1
      have z4 := boxB_lt u4
      have z3 := boxB_lt u3
      have z2 := boxB_lt u2
      have z1 := boxB_lt u1
      have HR : Hid (kR C [x4, x3, x2, x1] = [boxB x3 ^^^ C, boxB x2, boxB x1, boxB x4] ∧ kS [x4, x3, x2, x1] = [boxB x4, boxB x3, boxB x2, boxB x1]) := hide ⟨rfl, rfl⟩
      generalize boxB x4 = B4 at *
      generalize boxB x3 = B3 at *
      generalize boxB x2 = B2 at *
      generalize boxB x1 = B1 at *
      have j4 : (x4 : Int) < 256 := by omega
      have j3 : (x3 : Int) < 256 := by omega
      have j2 : (x2 : Int) < 256 := by omega
      have j1 : (x1 : Int) < 256 := by omega
      obtain ⟨r, hr⟩ : ∃ x : Nat, x = i % k := ⟨_, rfl⟩
      have hk0 : ¬ ((k : Int) = 0) := by have := HK.out; omega
      have e_r : (i : Int) % (k : Int) = (r : Int) := by rw [hr, Int.natCast_emod]
      have t_r : (i : Int).tmod (k : Int) = (r : Int) := by rw [Int.tmod_eq_emod_of_nonneg (by omega)]; exact e_r
      have s_r : IntKind.i64.wrap (r : Int) = (r : Int) := by rw [IntKind.wrap_i64]; have := Nat.mod_le i k; omega
      have HRr := hide hr
      clear hr hT2 how hOw hc c4 c3 c2 c1 hA1 hbr hb2 lv2
      by_cases hr0 : r = 0
      · subst hr0
        have fx := u8_xor_nat B3 C z3 hxc
        have zx : B3 ^^^ C < 256 := xor_8 z3 hxc
        have HFX := hide fx
        clear fx
        go_wp2
        go_region_held3 (fun w' => w'.cell? ⟨g, 0, none⟩ = some (.int .u8 (x4 : Nat)) ∧ w'.cell? ⟨g, 1, none⟩ = some (.int .u8 (x3 : Nat)) ∧ w'.cell? ⟨g, 2, none⟩ = some (.int .u8 (x2 : Nat)) ∧ w'.cell? ⟨g, 3, none⟩ = some (.int .u8 (x1 : Nat)) ∧ w'.cell? ⟨w.heap.size, x4, none⟩ = some (.int .u8 (B4 : Nat)) ∧ w'.cell? ⟨w.heap.size, x3, none⟩ = some (.int .u8 (B3 : Nat)) ∧ w'.cell? ⟨w.heap.size, x2, none⟩ = some (.int .u8 (B2 : Nat)) ∧ w'.cell? ⟨w.heap.size, x1, none⟩ = some (.int .u8 (B1 : Nat))) (first | go_keep) (fail)
        have hmul := fun y => rmul_any C 2 hxc (by decide) y
        have hb3 : Below y2.heap.size y2 (y2.alloc (.cells #[.int .u8 (bits .xor .u8 (B3 : Nat) (C : Nat)), .int .u8 (B2 : Nat), .int .u8 (B1 : Nat), .int .u8 (B4 : Nat)] 5)).drew := keep_trans (keep_alloc y2 _) (Below.refl _ _).drew
        have hT3 : Lies .u8 5 (y2.alloc (.cells #[.int .u8 (bits .xor .u8 (B3 : Nat) (C : Nat)), .int .u8 (B2 : Nat), .int .u8 (B1 : Nat), .int .u8 (B4 : Nat)] 5)).drew y2.heap.size [B3 ^^^ C, B2, B1, B4] := by
          rw [HFX.out]
          exact Lies.new .u8 5 y2 [B3 ^^^ C, B2, B1, B4]
        generalize (y2.alloc (.cells #[.int .u8 (bits .xor .u8 (B3 : Nat) (C : Nat)), .int .u8 (B2 : Nat), .int .u8 (B1 : Nat), .int .u8 (B4 : Nat)] 5)).drew = y3 at *
        have how3 := own_belowA how2 hb3
        have hbr3 : Below (w.alloc (.cells (arr .u8 boxT) 74)).heap.size (w.alloc (.cells (arr .u8 boxT) 74)) y3 := keep_trans hbr2 hb3
        have v0 : y3.cell? ⟨y2.heap.size, 0, none⟩ = some (.int .u8 ((B3 ^^^ C : Nat) : Int)) := hT3.cell (i := 0) (by show 0 < 4; decide)
        have v1 : y3.cell? ⟨y2.heap.size, 1, none⟩ = some (.int .u8 ((B2 : Nat) : Int)) := hT3.cell (i := 1) (by show 1 < 4; decide)
        have v2 : y3.cell? ⟨y2.heap.size, 2, none⟩ = some (.int .u8 ((B1 : Nat) : Int)) := hT3.cell (i := 2) (by show 2 < 4; decide)
        have v3 : y3.cell? ⟨y2.heap.size, 3, none⟩ = some (.int .u8 ((B4 : Nat) : Int)) := hT3.cell (i := 3) (by show 3 < 4; decide)
        have hT3l := hT3.lt
        have hbl3 : b < y2.heap.size := by omega
        generalize y2.heap.size = g3 at *
        clear hT3 hb3
        have HR0 : Hid (kT k i C [x4, x3, x2, x1] = [B3 ^^^ C, B2, B1, B4] ∧ kC k i C = mulB C 2) := hide ⟨by unfold kT; rw [if_pos HRr.out.symm]; exact HR.out.1, by unfold kC; rw [if_pos HRr.out.symm]⟩
        generalize B3 ^^^ C = BC at *
        generalize hMC : mulB C 2 = MC at *
        have HT : Hid (kX k key (m + 1) = (kQ m W [BC, B2, B1, B4] 4, MC)) := hide (by rw [HX1.out, HK4.out, HR0.out.1, HR0.out.2])
        have hTu : Under 256 [BC, B2, B1, B4] := by
          intro x hx
          simp only [List.mem_cons, List.not_mem_nil, or_false] at hx
          rcases hx with rfl | rfl | rfl | rfl <;> assumption
        have J0 : Hid (KiL (w.alloc (.cells (arr .u8 boxT) 74)).heap.size (w.alloc (.cells (arr .u8 boxT) 74)) m q g3 W [BC, B2, B1, B4] (.slice (some ⟨b, o, none⟩) q vc) (.int .i64 0) y3) := hide ⟨0, by decide, rfl, how3, fun i hi => by
          obtain rfl | rfl | rfl | rfl : i = 0 ∨ i = 1 ∨ i = 2 ∨ i = 3 := by omega
          · exact v0
          · exact v1
          · exact v2
          · exact v3, by simp [Value.ownBlock]; omega, hT3l, hbr3⟩
        have hTl : [BC, B2, B1, B4].length = 4 := rfl
        generalize hTT : [BC, B2, B1, B4] = T at *
        clear hTT
        clear t0 t1 t2 t3 how2 hbr2 HX1 HK4 HR
        clear how3 hbr3 v0 v1 v2 v3 b4 b3 b2 b1 hA2 HR0
        go_wp2_with (first | (go_at_call 64; refine (hmul _).mono ?_; rintro e w9 ⟨rfl, rfl⟩) | fail)
        skip
        go_loopw [6, 10] (fun v vj wr => KiL (w.alloc (.cells (arr .u8 boxT) 74)).heap.size (w.alloc (.cells (arr .u8 boxT) 74)) m q g3 W T v vj wr) (fun _ vj _ => 4 - (intOf vj).toNat)
        case atStart => exact J0.out
        case round =>
          obtain ⟨j, hj, rfl, how, hc, hne, hgl, hbr⟩ := hrel
          clear J0
          rename World => wi
          have hql := kQ_len (m := m) (w := W) (t := T) j
          rw [hxl] at hql
          obtain ⟨nb, nc, rfl, hnB, hnb, lw1, lw2, hcw⟩ := own_at how (by have := HQ.out; omega) hql
          have hOw : Own 5 .u8 256 wi (w.alloc (.cells (arr .u8 boxT) 74)).heap.size (.slice (some ⟨nb, 0, none⟩) (q + j) nc) (kQ m W T j) := ⟨by rw [hql]; exact how, kQ_under hxu hTu j⟩
          unfold maxLen at lw2
          by_cases hj4 : j < 4
          · obtain ⟨f, hf⟩ : ∃ x : Nat, x = 4 * m := ⟨_, rfl⟩
            obtain ⟨e, hee⟩ : ∃ x : Nat, x = f + j := ⟨_, rfl⟩
            obtain ⟨Qj, hQj⟩ : ∃ x : Nat, x = q + j := ⟨_, rfl⟩
            have lW : e < W.length := by rw [hxl]; have := HQ.out; have := HI.out; have := HK.out; omega
            have cw := hcw e (by rw [hxl] at lW; omega)
            rw [kQ_el j lW] at cw
            have leQ : e < Qj := by rw [hxl] at lW; omega
            have ct := hc j hj4
            have hq1 : kQ m W T (j + 1) = kQ m W T j ++ [el W e ^^^ el T j] := by rw [hee, hf]; rfl
            have HQ1 := hide hq1
            have ux := el_lt hxu (by decide) e
            have ut := el_lt hTu (by decide) j
            have HEX := hide (u8_xor_nat (el W e) (el T j) ux ut)
            have hji : (j : Int) < 4 := by omega
            have e_m : (i : Int) - (k : Int) = (m : Int) := by have := HI.out; omega
            have s_m : IntKind.i64.wrap (m : Int) = (m : Int) := by rw [IntKind.wrap_i64]; have := HK.out; omega
            have e_f : 4 * (m : Int) = (f : Int) := by omega
            have s_f : IntKind.i64.wrap (f : Int) = (f : Int) := by rw [IntKind.wrap_i64]; have := HK.out; omega
            have e_e : (f : Int) + (j : Int) = (e : Int) := by omega
            have s_e : IntKind.i64.wrap (e : Int) = (e : Int) := by rw [IntKind.wrap_i64]; have := HK.out; omega
            have l_e : (e : Int) < (Qj : Int) := by rw [hxl] at lW; omega
            have hneb : nb ≠ g3 := fun h => hne (by rw [h]; simp [Value.ownBlock])
            have hneG : some g3 ≠ some nb := fun h => hneb (Option.some.inj h).symm
            have HHC := hide hc
            have HQj : Hid (Qj = q + j ∧ q ≤ 240) := hide ⟨hQj, by have := HQ.out; omega⟩
            rw [← hQj] at how lw1 ⊢
            have hbz := hbr.size
            clear hq1 hf hee hQj lW hc hcw hOw hql hne
            generalize el W e = we at *
            generalize el T j = te at *
            go_wp2
            go_region_held3 (fun w' => w'.cell? ⟨nb, e, none⟩ = some (.int .u8 (we : Nat)) ∧ w'.cell? ⟨g3, j, none⟩ = some (.int .u8 (te : Nat)))
              (first
                | (refine ⟨?_, ?_⟩
                   · exact (hcell5 e leQ).trans (keep_cell cw (keep_trans (keep_alloc wi _) (Below.refl _ _).drew))
                   · exact hgrow.cell (keep_cell ct (keep_trans (keep_alloc wi _) (Below.refl _ _).drew)) hneG)
                | go_keep)
              ((refine step_append_keepsA (by rfl) _ _ _ (by rfl) (w.alloc (.cells (arr .u8 boxT) 74)).heap.size 5 i0 (.int .u8 0) 1 Try.underlying22 hi0 hz0 hz1 hz2 rfl nb Qj nc _ (by rfl) ((how.alloc _).drew)
                  ⟨wi.heap.size, 0, none⟩ 1 1 [.int .u8 (bits .xor .u8 we te)] (by rfl) (by rfl) (World.news_of_block (cs := #[.int .u8 (bits .xor .u8 we te)]) (t := 5) (fr := (0, 0)) (heap_alloc_new wi _)) (by simp [Value.oneCell'])
                  (by omega) (by unfold maxLen; have := HQj.out; omega) (by have := HQj.out; omega) (by simp; omega) ?_; intro gg cap w3 how' hgrow hat hcell5))
            rw [HEX.out] at how'
            have ho2 : w3.ownsRow (w.alloc (.cells (arr .u8 boxT) 74)).heap.size 5 1 (.slice (some ⟨gg, 0, none⟩) (q + (j + 1)) cap) (q + (j + 1)) (vals .u8 (kQ m W T (j + 1))) := by
              rw [HQ1.out, vals_append, show q + (j + 1) = Qj + 1 by have := HQj.out; omega]
              exact how'
            have hb3 : Below (w.alloc (.cells (arr .u8 boxT) 74)).heap.size (w.alloc (.cells (arr .u8 boxT) 74)) w3 := ((hbr.alloc hbz _).drew).grown hgrow (by simp; omega) (fun k h => by have e := Option.some.inj h; omega)
            have hgg : gg ≠ g3 := by
              rcases hat with h | h
              · omega
              · simp at h; omega
            have hcc : ∀ i, i < 4 → w3.cell? ⟨g3, i, none⟩ = some (.int .u8 (el T i : Nat)) := fun i hi => hgrow.cell (keep_cell (HHC.out i hi) (keep_trans (keep_alloc wi _) (Below.refl _ _).drew)) hneG
            have hsz3 : g3 < w3.heap.size := by have := hgrow.size; simp at this; omega
            have eQ : Qj + 1 = q + (j + 1) := by have := HQj.out; omega
            have HK3 : Hid (KiL (w.alloc (.cells (arr .u8 boxT) 74)).heap.size (w.alloc (.cells (arr .u8 boxT) 74)) m q g3 W T (.slice (some ⟨gg, 0, none⟩) (Qj + 1) cap) (.int .i64 ((j + 1 : Nat) : Int)) w3) := hide ⟨j + 1, by omega, rfl, by rw [eQ]; exact ho2, hcc, by simp [Value.ownBlock]; exact hgg, hsz3, hb3⟩
            clear how how' hgrow hbr cw ct ho2 hb3 hgg hcc hsz3 hat hcell5 eQ
            go_wp2
            go_roundw
            case rel => exact HK3.out
            case measure => simp [intOf]; omega
          · obtain rfl : j = 4 := by omega
            have hK2 : KyL (w.alloc (.cells (arr .u8 boxT) 74)) k key (.slice (some ⟨nb, 0, none⟩) (q + 4) nc) (.int .u8 (MC : Nat)) (.int .i64 ((k + (m + 1) : Nat) : Int)) wi := ⟨m + 1, by omega, rfl, by rw [HT.out], by rw [HT.out, show 4 * (k + (m + 1)) = q + 4 by have := HQ.out; have := HI.out; omega]; exact how, hbr⟩
            obtain ⟨i1, hi1⟩ : ∃ x : Nat, x = k + (m + 1) := ⟨_, rfl⟩
            rw [← hi1] at hK2
            have e_i1 : (i : Int) + 1 = (i1 : Int) := by have := HI.out; omega
            have s_i1 : IntKind.i64.wrap (i1 : Int) = (i1 : Int) := by rw [IntKind.wrap_i64]; have := HI.out; omega
            have HK2 := hide hK2
            have HI1 : Hid (i1 = k + (m + 1)) := hide hi1
            clear hK2 hi1 how hc hne hgl hbr hOw hcw
            go_wp2
            exact ⟨HK2.out, by have := HI1.out; have := HI.out; simp [intOf]; omega⟩
      · have hr0i : ¬ ((r : Int) = 0) := by omega
        by_cases h8 : k = 8 ∧ i % 8 = 4
        · obtain ⟨hk8, hi8⟩ := h8
          have t_r8 : (i : Int).tmod 8 = (r : Int) := by rw [hk8] at t_r; exact t_r
          have e_r8 : (i : Int) % 8 = (r : Int) := by rw [hk8] at e_r; exact e_r
          obtain rfl : r = 4 := by omega
          have h8i : (k : Int) = 8 := by omega
          have HH8 := hide hk8
          clear hk8
          go_wp2
          clear h8i t_r8 e_r8
          go_region_held3 (fun w' => w'.cell? ⟨g, 0, none⟩ = some (.int .u8 (x4 : Nat)) ∧ w'.cell? ⟨g, 1, none⟩ = some (.int .u8 (x3 : Nat)) ∧ w'.cell? ⟨g, 2, none⟩ = some (.int .u8 (x2 : Nat)) ∧ w'.cell? ⟨g, 3, none⟩ = some (.int .u8 (x1 : Nat)) ∧ w'.cell? ⟨w.heap.size, x4, none⟩ = some (.int .u8 (B4 : Nat)) ∧ w'.cell? ⟨w.heap.size, x3, none⟩ = some (.int .u8 (B3 : Nat)) ∧ w'.cell? ⟨w.heap.size, x2, none⟩ = some (.int .u8 (B2 : Nat)) ∧ w'.cell? ⟨w.heap.size, x1, none⟩ = some (.int .u8 (B1 : Nat))) (first | go_keep) (fail)
          have hb3 : Below y2.heap.size y2 (y2.alloc (.cells #[.int .u8 (B4 : Nat), .int .u8 (B3 : Nat), .int .u8 (B2 : Nat), .int .u8 (B1 : Nat)] 5)).drew := keep_trans (keep_alloc y2 _) (Below.refl _ _).drew
          have hT3 : Lies .u8 5 (y2.alloc (.cells #[.int .u8 (B4 : Nat), .int .u8 (B3 : Nat), .int .u8 (B2 : Nat), .int .u8 (B1 : Nat)] 5)).drew y2.heap.size [B4, B3, B2, B1] := by
            skip
            exact Lies.new .u8 5 y2 [B4, B3, B2, B1]
          generalize (y2.alloc (.cells #[.int .u8 (B4 : Nat), .int .u8 (B3 : Nat), .int .u8 (B2 : Nat), .int .u8 (B1 : Nat)] 5)).drew = y3 at *
          have how3 := own_belowA how2 hb3
          have hbr3 : Below (w.alloc (.cells (arr .u8 boxT) 74)).heap.size (w.alloc (.cells (arr .u8 boxT) 74)) y3 := keep_trans hbr2 hb3
          have v0 : y3.cell? ⟨y2.heap.size, 0, none⟩ = some (.int .u8 ((B4 : Nat) : Int)) := hT3.cell (i := 0) (by show 0 < 4; decide)
          have v1 : y3.cell? ⟨y2.heap.size, 1, none⟩ = some (.int .u8 ((B3 : Nat) : Int)) := hT3.cell (i := 1) (by show 1 < 4; decide)
          have v2 : y3.cell? ⟨y2.heap.size, 2, none⟩ = some (.int .u8 ((B2 : Nat) : Int)) := hT3.cell (i := 2) (by show 2 < 4; decide)
          have v3 : y3.cell? ⟨y2.heap.size, 3, none⟩ = some (.int .u8 ((B1 : Nat) : Int)) := hT3.cell (i := 3) (by show 3 < 4; decide)
          have hT3l := hT3.lt
          have hbl3 : b < y2.heap.size := by omega
          generalize y2.heap.size = g3 at *
          clear hT3 hb3
          have HR0 : Hid (kT k i C [x4, x3, x2, x1] = [B4, B3, B2, B1] ∧ kC k i C = C) := hide ⟨by unfold kT; rw [if_neg (by rw [← HRr.out]; decide), if_pos ⟨HH8.out, hi8⟩]; exact HR.out.2, by unfold kC; rw [if_neg (by rw [← HRr.out]; decide)]⟩
          have HT : Hid (kX k key (m + 1) = (kQ m W [B4, B3, B2, B1] 4, C)) := hide (by rw [HX1.out, HK4.out, HR0.out.1, HR0.out.2])
          have hTu : Under 256 [B4, B3, B2, B1] := by
            intro x hx
            simp only [List.mem_cons, List.not_mem_nil, or_false] at hx
            rcases hx with rfl | rfl | rfl | rfl <;> assumption
          have J0 : Hid (KiL (w.alloc (.cells (arr .u8 boxT) 74)).heap.size (w.alloc (.cells (arr .u8 boxT) 74)) m q g3 W [B4, B3, B2, B1] (.slice (some ⟨b, o, none⟩) q vc) (.int .i64 0) y3) := hide ⟨0, by decide, rfl, how3, fun i hi => by
            obtain rfl | rfl | rfl | rfl : i = 0 ∨ i = 1 ∨ i = 2 ∨ i = 3 := by omega
            · exact v0
            · exact v1
            · exact v2
            · exact v3, by simp [Value.ownBlock]; omega, hT3l, hbr3⟩
          have hTl : [B4, B3, B2, B1].length = 4 := rfl
          generalize hTT : [B4, B3, B2, B1] = T at *
          clear hTT
          clear t0 t1 t2 t3 how2 hbr2 HX1 HK4 HR
          clear how3 hbr3 v0 v1 v2 v3 b4 b3 b2 b1 hA2 HR0
          go_wp2
          skip
          go_loopw [6, 10] (fun v vj wr => KiL (w.alloc (.cells (arr .u8 boxT) 74)).heap.size (w.alloc (.cells (arr .u8 boxT) 74)) m q g3 W T v vj wr) (fun _ vj _ => 4 - (intOf vj).toNat)
          case atStart => exact J0.out
          case round =>
            obtain ⟨j, hj, rfl, how, hc, hne, hgl, hbr⟩ := hrel
            clear J0
            rename World => wi
            have hql := kQ_len (m := m) (w := W) (t := T) j
            rw [hxl] at hql
            obtain ⟨nb, nc, rfl, hnB, hnb, lw1, lw2, hcw⟩ := own_at how (by have := HQ.out; omega) hql
            have hOw : Own 5 .u8 256 wi (w.alloc (.cells (arr .u8 boxT) 74)).heap.size (.slice (some ⟨nb, 0, none⟩) (q + j) nc) (kQ m W T j) := ⟨by rw [hql]; exact how, kQ_under hxu hTu j⟩
            unfold maxLen at lw2
            by_cases hj4 : j < 4
            · obtain ⟨f, hf⟩ : ∃ x : Nat, x = 4 * m := ⟨_, rfl⟩
              obtain ⟨e, hee⟩ : ∃ x : Nat, x = f + j := ⟨_, rfl⟩
              obtain ⟨Qj, hQj⟩ : ∃ x : Nat, x = q + j := ⟨_, rfl⟩
              have lW : e < W.length := by rw [hxl]; have := HQ.out; have := HI.out; have := HK.out; omega
              have cw := hcw e (by rw [hxl] at lW; omega)
              rw [kQ_el j lW] at cw
              have leQ : e < Qj := by rw [hxl] at lW; omega
              have ct := hc j hj4
              have hq1 : kQ m W T (j + 1) = kQ m W T j ++ [el W e ^^^ el T j] := by rw [hee, hf]; rfl
              have HQ1 := hide hq1
              have ux := el_lt hxu (by decide) e
              have ut := el_lt hTu (by decide) j
              have HEX := hide (u8_xor_nat (el W e) (el T j) ux ut)
              have hji : (j : Int) < 4 := by omega
              have e_m : (i : Int) - (k : Int) = (m : Int) := by have := HI.out; omega
              have s_m : IntKind.i64.wrap (m : Int) = (m : Int) := by rw [IntKind.wrap_i64]; have := HK.out; omega
              have e_f : 4 * (m : Int) = (f : Int) := by omega
              have s_f : IntKind.i64.wrap (f : Int) = (f : Int) := by rw [IntKind.wrap_i64]; have := HK.out; omega
              have e_e : (f : Int) + (j : Int) = (e : Int) := by omega
              have s_e : IntKind.i64.wrap (e : Int) = (e : Int) := by rw [IntKind.wrap_i64]; have := HK.out; omega
              have l_e : (e : Int) < (Qj : Int) := by rw [hxl] at lW; omega
              have hneb : nb ≠ g3 := fun h => hne (by rw [h]; simp [Value.ownBlock])
              have hneG : some g3 ≠ some nb := fun h => hneb (Option.some.inj h).symm
              have HHC := hide hc
              have HQj : Hid (Qj = q + j ∧ q ≤ 240) := hide ⟨hQj, by have := HQ.out; omega⟩
              rw [← hQj] at how lw1 ⊢
              have hbz := hbr.size
              clear hq1 hf hee hQj lW hc hcw hOw hql hne
              generalize el W e = we at *
              generalize el T j = te at *
              go_wp2
              go_region_held3 (fun w' => w'.cell? ⟨nb, e, none⟩ = some (.int .u8 (we : Nat)) ∧ w'.cell? ⟨g3, j, none⟩ = some (.int .u8 (te : Nat)))
                (first
                  | (refine ⟨?_, ?_⟩
                     · exact (hcell5 e leQ).trans (keep_cell cw (keep_trans (keep_alloc wi _) (Below.refl _ _).drew))
                     · exact hgrow.cell (keep_cell ct (keep_trans (keep_alloc wi _) (Below.refl _ _).drew)) hneG)
                  | go_keep)
                ((refine step_append_keepsA (by rfl) _ _ _ (by rfl) (w.alloc (.cells (arr .u8 boxT) 74)).heap.size 5 i0 (.int .u8 0) 1 Try.underlying22 hi0 hz0 hz1 hz2 rfl nb Qj nc _ (by rfl) ((how.alloc _).drew)
                    ⟨wi.heap.size, 0, none⟩ 1 1 [.int .u8 (bits .xor .u8 we te)] (by rfl) (by rfl) (World.news_of_block (cs := #[.int .u8 (bits .xor .u8 we te)]) (t := 5) (fr := (0, 0)) (heap_alloc_new wi _)) (by simp [Value.oneCell'])
                    (by omega) (by unfold maxLen; have := HQj.out; omega) (by have := HQj.out; omega) (by simp; omega) ?_; intro gg cap w3 how' hgrow hat hcell5))
              rw [HEX.out] at how'
              have ho2 : w3.ownsRow (w.alloc (.cells (arr .u8 boxT) 74)).heap.size 5 1 (.slice (some ⟨gg, 0, none⟩) (q + (j + 1)) cap) (q + (j + 1)) (vals .u8 (kQ m W T (j + 1))) := by
                rw [HQ1.out, vals_append, show q + (j + 1) = Qj + 1 by have := HQj.out; omega]
                exact how'
              have hb3 : Below (w.alloc (.cells (arr .u8 boxT) 74)).heap.size (w.alloc (.cells (arr .u8 boxT) 74)) w3 := ((hbr.alloc hbz _).drew).grown hgrow (by simp; omega) (fun k h => by have e := Option.some.inj h; omega)
              have hgg : gg ≠ g3 := by
                rcases hat with h | h
                · omega
                · simp at h; omega
              have hcc : ∀ i, i < 4 → w3.cell? ⟨g3, i, none⟩ = some (.int .u8 (el T i : Nat)) := fun i hi => hgrow.cell (keep_cell (HHC.out i hi) (keep_trans (keep_alloc wi _) (Below.refl _ _).drew)) hneG
              have hsz3 : g3 < w3.heap.size := by have := hgrow.size; simp at this; omega
              have eQ : Qj + 1 = q + (j + 1) := by have := HQj.out; omega
              have HK3 : Hid (KiL (w.alloc (.cells (arr .u8 boxT) 74)).heap.size (w.alloc (.cells (arr .u8 boxT) 74)) m q g3 W T (.slice (some ⟨gg, 0, none⟩) (Qj + 1) cap) (.int .i64 ((j + 1 : Nat) : Int)) w3) := hide ⟨j + 1, by omega, rfl, by rw [eQ]; exact ho2, hcc, by simp [Value.ownBlock]; exact hgg, hsz3, hb3⟩
              clear how how' hgrow hbr cw ct ho2 hb3 hgg hcc hsz3 hat hcell5 eQ
              go_wp2
              go_roundw
              case rel => exact HK3.out
              case measure => simp [intOf]; omega
            · obtain rfl : j = 4 := by omega
              have hK2 : KyL (w.alloc (.cells (arr .u8 boxT) 74)) k key (.slice (some ⟨nb, 0, none⟩) (q + 4) nc) (.int .u8 (C : Nat)) (.int .i64 ((k + (m + 1) : Nat) : Int)) wi := ⟨m + 1, by omega, rfl, by rw [HT.out], by rw [HT.out, show 4 * (k + (m + 1)) = q + 4 by have := HQ.out; have := HI.out; omega]; exact how, hbr⟩
              obtain ⟨i1, hi1⟩ : ∃ x : Nat, x = k + (m + 1) := ⟨_, rfl⟩
              rw [← hi1] at hK2
              have e_i1 : (i : Int) + 1 = (i1 : Int) := by have := HI.out; omega
              have s_i1 : IntKind.i64.wrap (i1 : Int) = (i1 : Int) := by rw [IntKind.wrap_i64]; have := HI.out; omega
              have HK2 := hide hK2
              have HI1 : Hid (i1 = k + (m + 1)) := hide hi1
              clear hK2 hi1 how hc hne hgl hbr hOw hcw
              go_wp2
              exact ⟨HK2.out, by have := HI1.out; have := HI.out; simp [intOf]; omega⟩
        · by_cases hk8 : k = 8
          · have t_r8 : (i : Int).tmod 8 = (r : Int) := by rw [hk8] at t_r; exact t_r
            have e_r8 : (i : Int) % 8 = (r : Int) := by rw [hk8] at e_r; exact e_r
            have hr4i : ¬ ((r : Int) = 4) := by rw [hk8] at h8; omega
            have e_m8 : (i : Int) - 8 = (m : Int) := by have := HI.out; omega
            have h8i : (k : Int) = 8 := by omega
            have HH8 := hide hk8
            clear hk8
            have HT : Hid (kX k key (m + 1) = (kQ m W [x4, x3, x2, x1] 4, C)) := hide (by rw [HX1.out, HK4.out, show kT k i C [x4, x3, x2, x1] = [x4, x3, x2, x1] by unfold kT; rw [if_neg (by rw [← HRr.out]; exact hr0), if_neg h8], show kC k i C = C by unfold kC; rw [if_neg (by rw [← HRr.out]; exact hr0)]])
            have hTu : Under 256 [x4, x3, x2, x1] := by
              intro x hx
              simp only [List.mem_cons, List.not_mem_nil, or_false] at hx
              rcases hx with rfl | rfl | rfl | rfl <;> assumption
            have J0 : Hid (KiL (w.alloc (.cells (arr .u8 boxT) 74)).heap.size (w.alloc (.cells (arr .u8 boxT) 74)) m q g W [x4, x3, x2, x1] (.slice (some ⟨b, o, none⟩) q vc) (.int .i64 0) y2) := hide ⟨0, by decide, rfl, how2, fun i hi => by
              obtain rfl | rfl | rfl | rfl : i = 0 ∨ i = 1 ∨ i = 2 ∨ i = 3 := by omega
              · exact t0
              · exact t1
              · exact t2
              · exact t3, by simp [Value.ownBlock]; omega, hT2l, hbr2⟩
            have hTl : [x4, x3, x2, x1].length = 4 := rfl
            generalize hTT : [x4, x3, x2, x1] = T at *
            clear hTT
            clear t0 t1 t2 t3 how2 hbr2 HX1 HK4 HR
            clear b4 b3 b2 b1 hA2
            go_wp2
            (try simp only [show ((r : Int) == 0) = false by simpa using hr0i, show ((r : Int) == 4) = false by simpa using hr4i]); clear h8i t_r8 e_r8 e_m8
            go_loopw [6, 10] (fun v vj wr => KiL (w.alloc (.cells (arr .u8 boxT) 74)).heap.size (w.alloc (.cells (arr .u8 boxT) 74)) m q g W T v vj wr) (fun _ vj _ => 4 - (intOf vj).toNat)
            case atStart => exact J0.out
            case round =>
              obtain ⟨j, hj, rfl, how, hc, hne, hgl, hbr⟩ := hrel
              clear J0
              rename World => wi
              have hql := kQ_len (m := m) (w := W) (t := T) j
              rw [hxl] at hql
              obtain ⟨nb, nc, rfl, hnB, hnb, lw1, lw2, hcw⟩ := own_at how (by have := HQ.out; omega) hql
              have hOw : Own 5 .u8 256 wi (w.alloc (.cells (arr .u8 boxT) 74)).heap.size (.slice (some ⟨nb, 0, none⟩) (q + j) nc) (kQ m W T j) := ⟨by rw [hql]; exact how, kQ_under hxu hTu j⟩
              unfold maxLen at lw2
              by_cases hj4 : j < 4
              · obtain ⟨f, hf⟩ : ∃ x : Nat, x = 4 * m := ⟨_, rfl⟩
                obtain ⟨e, hee⟩ : ∃ x : Nat, x = f + j := ⟨_, rfl⟩
                obtain ⟨Qj, hQj⟩ : ∃ x : Nat, x = q + j := ⟨_, rfl⟩
                have lW : e < W.length := by rw [hxl]; have := HQ.out; have := HI.out; have := HK.out; omega
                have cw := hcw e (by rw [hxl] at lW; omega)
                rw [kQ_el j lW] at cw
                have leQ : e < Qj := by rw [hxl] at lW; omega
                have ct := hc j hj4
                have hq1 : kQ m W T (j + 1) = kQ m W T j ++ [el W e ^^^ el T j] := by rw [hee, hf]; rfl
                have HQ1 := hide hq1
                have ux := el_lt hxu (by decide) e
                have ut := el_lt hTu (by decide) j
                have HEX := hide (u8_xor_nat (el W e) (el T j) ux ut)
                have hji : (j : Int) < 4 := by omega
                have e_m : (i : Int) - (k : Int) = (m : Int) := by have := HI.out; omega
                have s_m : IntKind.i64.wrap (m : Int) = (m : Int) := by rw [IntKind.wrap_i64]; have := HK.out; omega
                have e_f : 4 * (m : Int) = (f : Int) := by omega
                have s_f : IntKind.i64.wrap (f : Int) = (f : Int) := by rw [IntKind.wrap_i64]; have := HK.out; omega
                have e_e : (f : Int) + (j : Int) = (e : Int) := by omega
                have s_e : IntKind.i64.wrap (e : Int) = (e : Int) := by rw [IntKind.wrap_i64]; have := HK.out; omega
                have l_e : (e : Int) < (Qj : Int) := by rw [hxl] at lW; omega
                have hneb : nb ≠ g := fun h => hne (by rw [h]; simp [Value.ownBlock])
                have hneG : some g ≠ some nb := fun h => hneb (Option.some.inj h).symm
                have HHC := hide hc
                have HQj : Hid (Qj = q + j ∧ q ≤ 240) := hide ⟨hQj, by have := HQ.out; omega⟩
                rw [← hQj] at how lw1 ⊢
                have hbz := hbr.size
                clear hq1 hf hee hQj lW hc hcw hOw hql hne
                generalize el W e = we at *
                generalize el T j = te at *
                go_wp2
                go_region_held3 (fun w' => w'.cell? ⟨nb, e, none⟩ = some (.int .u8 (we : Nat)) ∧ w'.cell? ⟨g, j, none⟩ = some (.int .u8 (te : Nat)))
                  (first
                    | (refine ⟨?_, ?_⟩
                       · exact (hcell5 e leQ).trans (keep_cell cw (keep_trans (keep_alloc wi _) (Below.refl _ _).drew))
                       · exact hgrow.cell (keep_cell ct (keep_trans (keep_alloc wi _) (Below.refl _ _).drew)) hneG)
                    | go_keep)
                  ((refine step_append_keepsA (by rfl) _ _ _ (by rfl) (w.alloc (.cells (arr .u8 boxT) 74)).heap.size 5 i0 (.int .u8 0) 1 Try.underlying22 hi0 hz0 hz1 hz2 rfl nb Qj nc _ (by rfl) ((how.alloc _).drew)
                      ⟨wi.heap.size, 0, none⟩ 1 1 [.int .u8 (bits .xor .u8 we te)] (by rfl) (by rfl) (World.news_of_block (cs := #[.int .u8 (bits .xor .u8 we te)]) (t := 5) (fr := (0, 0)) (heap_alloc_new wi _)) (by simp [Value.oneCell'])
                      (by omega) (by unfold maxLen; have := HQj.out; omega) (by have := HQj.out; omega) (by simp; omega) ?_; intro gg cap w3 how' hgrow hat hcell5))
                rw [HEX.out] at how'
                have ho2 : w3.ownsRow (w.alloc (.cells (arr .u8 boxT) 74)).heap.size 5 1 (.slice (some ⟨gg, 0, none⟩) (q + (j + 1)) cap) (q + (j + 1)) (vals .u8 (kQ m W T (j + 1))) := by
                  rw [HQ1.out, vals_append, show q + (j + 1) = Qj + 1 by have := HQj.out; omega]
                  exact how'
                have hb3 : Below (w.alloc (.cells (arr .u8 boxT) 74)).heap.size (w.alloc (.cells (arr .u8 boxT) 74)) w3 := ((hbr.alloc hbz _).drew).grown hgrow (by simp; omega) (fun k h => by have e := Option.some.inj h; omega)
                have hgg : gg ≠ g := by
                  rcases hat with h | h
                  · omega
                  · simp at h; omega
                have hcc : ∀ i, i < 4 → w3.cell? ⟨g, i, none⟩ = some (.int .u8 (el T i : Nat)) := fun i hi => hgrow.cell (keep_cell (HHC.out i hi) (keep_trans (keep_alloc wi _) (Below.refl _ _).drew)) hneG
                have hsz3 : g < w3.heap.size := by have := hgrow.size; simp at this; omega
                have eQ : Qj + 1 = q + (j + 1) := by have := HQj.out; omega
                have HK3 : Hid (KiL (w.alloc (.cells (arr .u8 boxT) 74)).heap.size (w.alloc (.cells (arr .u8 boxT) 74)) m q g W T (.slice (some ⟨gg, 0, none⟩) (Qj + 1) cap) (.int .i64 ((j + 1 : Nat) : Int)) w3) := hide ⟨j + 1, by omega, rfl, by rw [eQ]; exact ho2, hcc, by simp [Value.ownBlock]; exact hgg, hsz3, hb3⟩
                clear how how' hgrow hbr cw ct ho2 hb3 hgg hcc hsz3 hat hcell5 eQ
                go_wp2
                go_roundw
                case rel => exact HK3.out
                case measure => simp [intOf]; omega
              · obtain rfl : j = 4 := by omega
                have hK2 : KyL (w.alloc (.cells (arr .u8 boxT) 74)) k key (.slice (some ⟨nb, 0, none⟩) (q + 4) nc) (.int .u8 (C : Nat)) (.int .i64 ((k + (m + 1) : Nat) : Int)) wi := ⟨m + 1, by omega, rfl, by rw [HT.out], by rw [HT.out, show 4 * (k + (m + 1)) = q + 4 by have := HQ.out; have := HI.out; omega]; exact how, hbr⟩
                obtain ⟨i1, hi1⟩ : ∃ x : Nat, x = k + (m + 1) := ⟨_, rfl⟩
                rw [← hi1] at hK2
                have e_i1 : (i : Int) + 1 = (i1 : Int) := by have := HI.out; omega
                have s_i1 : IntKind.i64.wrap (i1 : Int) = (i1 : Int) := by rw [IntKind.wrap_i64]; have := HI.out; omega
                have HK2 := hide hK2
                have HI1 : Hid (i1 = k + (m + 1)) := hide hi1
                clear hK2 hi1 how hc hne hgl hbr hOw hcw
                go_wp2
                exact ⟨HK2.out, by have := HI1.out; have := HI.out; simp [intOf]; omega⟩
          · have hk8i : ¬ ((k : Int) = 8) := by omega
            have HT : Hid (kX k key (m + 1) = (kQ m W [x4, x3, x2, x1] 4, C)) := hide (by rw [HX1.out, HK4.out, show kT k i C [x4, x3, x2, x1] = [x4, x3, x2, x1] by unfold kT; rw [if_neg (by rw [← HRr.out]; exact hr0), if_neg h8], show kC k i C = C by unfold kC; rw [if_neg (by rw [← HRr.out]; exact hr0)]])
            have hTu : Under 256 [x4, x3, x2, x1] := by
              intro x hx
              simp only [List.mem_cons, List.not_mem_nil, or_false] at hx
              rcases hx with rfl | rfl | rfl | rfl <;> assumption
            have J0 : Hid (KiL (w.alloc (.cells (arr .u8 boxT) 74)).heap.size (w.alloc (.cells (arr .u8 boxT) 74)) m q g W [x4, x3, x2, x1] (.slice (some ⟨b, o, none⟩) q vc) (.int .i64 0) y2) := hide ⟨0, by decide, rfl, how2, fun i hi => by
              obtain rfl | rfl | rfl | rfl : i = 0 ∨ i = 1 ∨ i = 2 ∨ i = 3 := by omega
              · exact t0
              · exact t1
              · exact t2
              · exact t3, by simp [Value.ownBlock]; omega, hT2l, hbr2⟩
            have hTl : [x4, x3, x2, x1].length = 4 := rfl
            generalize hTT : [x4, x3, x2, x1] = T at *
            clear hTT
            clear t0 t1 t2 t3 how2 hbr2 HX1 HK4 HR
            clear b4 b3 b2 b1 hA2
            go_wp2
            skip
            go_loopw [6, 10] (fun v vj wr => KiL (w.alloc (.cells (arr .u8 boxT) 74)).heap.size (w.alloc (.cells (arr .u8 boxT) 74)) m q g W T v vj wr) (fun _ vj _ => 4 - (intOf vj).toNat)
            case atStart => exact J0.out
            case round =>
              obtain ⟨j, hj, rfl, how, hc, hne, hgl, hbr⟩ := hrel
              clear J0
              rename World => wi
              have hql := kQ_len (m := m) (w := W) (t := T) j
              rw [hxl] at hql
              obtain ⟨nb, nc, rfl, hnB, hnb, lw1, lw2, hcw⟩ := own_at how (by have := HQ.out; omega) hql
              have hOw : Own 5 .u8 256 wi (w.alloc (.cells (arr .u8 boxT) 74)).heap.size (.slice (some ⟨nb, 0, none⟩) (q + j) nc) (kQ m W T j) := ⟨by rw [hql]; exact how, kQ_under hxu hTu j⟩
              unfold maxLen at lw2
              by_cases hj4 : j < 4
              · obtain ⟨f, hf⟩ : ∃ x : Nat, x = 4 * m := ⟨_, rfl⟩
                obtain ⟨e, hee⟩ : ∃ x : Nat, x = f + j := ⟨_, rfl⟩
                obtain ⟨Qj, hQj⟩ : ∃ x : Nat, x = q + j := ⟨_, rfl⟩
                have lW : e < W.length := by rw [hxl]; have := HQ.out; have := HI.out; have := HK.out; omega
                have cw := hcw e (by rw [hxl] at lW; omega)
                rw [kQ_el j lW] at cw
                have leQ : e < Qj := by rw [hxl] at lW; omega
                have ct := hc j hj4
                have hq1 : kQ m W T (j + 1) = kQ m W T j ++ [el W e ^^^ el T j] := by rw [hee, hf]; rfl
                have HQ1 := hide hq1
                have ux := el_lt hxu (by decide) e
                have ut := el_lt hTu (by decide) j
                have HEX := hide (u8_xor_nat (el W e) (el T j) ux ut)
                have hji : (j : Int) < 4 := by omega
                have e_m : (i : Int) - (k : Int) = (m : Int) := by have := HI.out; omega
                have s_m : IntKind.i64.wrap (m : Int) = (m : Int) := by rw [IntKind.wrap_i64]; have := HK.out; omega
                have e_f : 4 * (m : Int) = (f : Int) := by omega
                have s_f : IntKind.i64.wrap (f : Int) = (f : Int) := by rw [IntKind.wrap_i64]; have := HK.out; omega
                have e_e : (f : Int) + (j : Int) = (e : Int) := by omega
                have s_e : IntKind.i64.wrap (e : Int) = (e : Int) := by rw [IntKind.wrap_i64]; have := HK.out; omega
                have l_e : (e : Int) < (Qj : Int) := by rw [hxl] at lW; omega
                have hneb : nb ≠ g := fun h => hne (by rw [h]; simp [Value.ownBlock])
                have hneG : some g ≠ some nb := fun h => hneb (Option.some.inj h).symm
                have HHC := hide hc
                have HQj : Hid (Qj = q + j ∧ q ≤ 240) := hide ⟨hQj, by have := HQ.out; omega⟩
                rw [← hQj] at how lw1 ⊢
                have hbz := hbr.size
                clear hq1 hf hee hQj lW hc hcw hOw hql hne
                generalize el W e = we at *
                generalize el T j = te at *
                go_wp2
                go_region_held3 (fun w' => w'.cell? ⟨nb, e, none⟩ = some (.int .u8 (we : Nat)) ∧ w'.cell? ⟨g, j, none⟩ = some (.int .u8 (te : Nat)))
                  (first
                    | (refine ⟨?_, ?_⟩
                       · exact (hcell5 e leQ).trans (keep_cell cw (keep_trans (keep_alloc wi _) (Below.refl _ _).drew))
                       · exact hgrow.cell (keep_cell ct (keep_trans (keep_alloc wi _) (Below.refl _ _).drew)) hneG)
                    | go_keep)
                  ((refine step_append_keepsA (by rfl) _ _ _ (by rfl) (w.alloc (.cells (arr .u8 boxT) 74)).heap.size 5 i0 (.int .u8 0) 1 Try.underlying22 hi0 hz0 hz1 hz2 rfl nb Qj nc _ (by rfl) ((how.alloc _).drew)
                      ⟨wi.heap.size, 0, none⟩ 1 1 [.int .u8 (bits .xor .u8 we te)] (by rfl) (by rfl) (World.news_of_block (cs := #[.int .u8 (bits .xor .u8 we te)]) (t := 5) (fr := (0, 0)) (heap_alloc_new wi _)) (by simp [Value.oneCell'])
                      (by omega) (by unfold maxLen; have := HQj.out; omega) (by have := HQj.out; omega) (by simp; omega) ?_; intro gg cap w3 how' hgrow hat hcell5))
                rw [HEX.out] at how'
                have ho2 : w3.ownsRow (w.alloc (.cells (arr .u8 boxT) 74)).heap.size 5 1 (.slice (some ⟨gg, 0, none⟩) (q + (j + 1)) cap) (q + (j + 1)) (vals .u8 (kQ m W T (j + 1))) := by
                  rw [HQ1.out, vals_append, show q + (j + 1) = Qj + 1 by have := HQj.out; omega]
                  exact how'
                have hb3 : Below (w.alloc (.cells (arr .u8 boxT) 74)).heap.size (w.alloc (.cells (arr .u8 boxT) 74)) w3 := ((hbr.alloc hbz _).drew).grown hgrow (by simp; omega) (fun k h => by have e := Option.some.inj h; omega)
                have hgg : gg ≠ g := by
                  rcases hat with h | h
                  · omega
                  · simp at h; omega
                have hcc : ∀ i, i < 4 → w3.cell? ⟨g, i, none⟩ = some (.int .u8 (el T i : Nat)) := fun i hi => hgrow.cell (keep_cell (HHC.out i hi) (keep_trans (keep_alloc wi _) (Below.refl _ _).drew)) hneG
                have hsz3 : g < w3.heap.size := by have := hgrow.size; simp at this; omega
                have eQ : Qj + 1 = q + (j + 1) := by have := HQj.out; omega
                have HK3 : Hid (KiL (w.alloc (.cells (arr .u8 boxT) 74)).heap.size (w.alloc (.cells (arr .u8 boxT) 74)) m q g W T (.slice (some ⟨gg, 0, none⟩) (Qj + 1) cap) (.int .i64 ((j + 1 : Nat) : Int)) w3) := hide ⟨j + 1, by omega, rfl, by rw [eQ]; exact ho2, hcc, by simp [Value.ownBlock]; exact hgg, hsz3, hb3⟩
                clear how how' hgrow hbr cw ct ho2 hb3 hgg hcc hsz3 hat hcell5 eQ
                go_wp2
                go_roundw
                case rel => exact HK3.out
                case measure => simp [intOf]; omega
              · obtain rfl : j = 4 := by omega
                have hK2 : KyL (w.alloc (.cells (arr .u8 boxT) 74)) k key (.slice (some ⟨nb, 0, none⟩) (q + 4) nc) (.int .u8 (C : Nat)) (.int .i64 ((k + (m + 1) : Nat) : Int)) wi := ⟨m + 1, by omega, rfl, by rw [HT.out], by rw [HT.out, show 4 * (k + (m + 1)) = q + 4 by have := HQ.out; have := HI.out; omega]; exact how, hbr⟩
                obtain ⟨i1, hi1⟩ : ∃ x : Nat, x = k + (m + 1) := ⟨_, rfl⟩
                rw [← hi1] at hK2
                have e_i1 : (i : Int) + 1 = (i1 : Int) := by have := HI.out; omega
                have s_i1 : IntKind.i64.wrap (i1 : Int) = (i1 : Int) := by rw [IntKind.wrap_i64]; have := HI.out; omega
                have HK2 := hide hK2
                have HI1 : Hid (i1 = k + (m + 1)) := hide hi1
                clear hK2 hi1 how hc hne hgl hbr hOw hcw
                go_wp2
                exact ⟨HK2.out, by have := HI1.out; have := HI.out; simp [intOf]; omega⟩
    · have hlti : ¬ (i : Int) < (M : Int) := by have := HM.out; have := HI.out; omega
      obtain rfl : m = 3 * k + 28 := by omega
      have hk4 : key.length / 4 = k := by rw [hl, HN.out]; omega
      go_wp2
      go_ret
      have hO : Own 5 .u8 256 wr (w.alloc (.cells (arr .u8 boxT) 74)).heap.size _ W := ⟨by rw [hxl]; exact how, hxu⟩
      have hKW : keysL key = W := by unfold keysL; rw [hk4]; exact HW.out
      refine ⟨_, rfl, ?_, keep_trans hb0 hbr⟩
      rw [hKW]
      exact hO.mono hb0.size
end Go.Proofs.Ytjeofkemfpdieaa
