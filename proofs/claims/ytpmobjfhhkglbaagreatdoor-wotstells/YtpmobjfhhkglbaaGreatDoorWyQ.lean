/- Keys of chains, the program's own: ofType, shortened, filled, Digits. -/
import Derived.Test.YtpmobjfhhkglbaaGreatDoorWyP
import Derived.Test.YtpmobjfhhkglbaaGreatDoorWtF
import Derived.Test.YtpmobjfhhkglbaaGreatDoorWtC
import Derived.Test.YtpmobjfhhkglbaaGreatDoorDig
import Derived.Test.YtpmobjfhhkglbaaGreatDoorHAdd64
import Derived.Test.YtpmobjfhhkglbaaGreatDoorKNw
namespace Go.Proofs.YtpmobjfhhkglbaaGreatDoor
open Go.RowKit
set_option linter.unusedVariables false
set_option linter.unusedSimpArgs false

theorem rows_twoW {w : World} {u v : Value} {a b : List Nat} (hu : Row .u8 256 w u a) (tu : Tidy u) (hv : Row .u8 256 w v b) (tv : Tidy v) : Rows2 (w.alloc (.cells #[u, v] 27)) (.slice (some ⟨w.heap.size, 0, none⟩) 2 2) [a, b] :=
  rows_litL (texts_cons hu tu (texts_cons hv tv (Texts.nil _))) rfl rfl (by decide)
def so1lt : List Lt := [(0, some 3, [1]), (0, some 4, [1]), (0, some 5, [1]), (7, some 6, [3, 4, 5]), (8, some 7, [6]), (31, some 2, [7])]
theorem so1reg : Reg (opsA (cLA (cRA (Tryz.f85.body.getD .skip)))) so1lt := ⟨by kernel_rfl, by kernel_rfl⟩
theorem shA_code {a : List Nat} (ha : a.length = 32) : shA a = (a.drop 3).take 1 ++ ((a.drop 8).take 8 ++ a.drop 19) := by
  unfold shA
  congr 2
  have h12 : (a.drop 20).take 12 = (a.drop 19).drop 1 := by rw [List.take_of_length_le (by rw [List.length_drop]; omega), List.drop_drop]
  rw [h12, List.take_append_drop]
set_option maxHeartbeats 4000000 in
set_option maxRecDepth 100000 in
theorem wsho_any (a : List Nat) (w : World) (ha : Pl a) :
    Calls Tryz.prog 85 #[.agg (arr .u8 a)] w fun e w' => ∃ v, e = .returned v ∧ Own 5 .u8 256 w' w.heap.size v (shA a) ∧ Below w.heap.size w w' := by
  obtain ⟨W0, hW0⟩ : ∃ W0 : World, W0 = w.alloc (.cells (arr .u8 a) 25) := ⟨_, rfl⟩
  have hb0 : Below w.heap.size w W0 := by rw [hW0]; exact keep_alloc _ _
  have L0 : Lies .u8 25 W0 w.heap.size a := by rw [hW0]; exact Lies.new .u8 25 w a
  have r := row_ad L0 ha
  have q1 : Row .u8 256 W0 (.slice (some ⟨w.heap.size, 3, none⟩) 1 29) ((a.drop 3).take 1) := by have := r.mid (i := 3) (j := 4) (by decide) (by rw [ha.1]; decide); simpa using this
  have q2 : Row .u8 256 W0 (.slice (some ⟨w.heap.size, 8, none⟩) 8 24) ((a.drop 8).take 8) := by have := r.mid (i := 8) (j := 16) (by decide) (by rw [ha.1]; decide); simpa using this
  have q3 : Row .u8 256 W0 (.slice (some ⟨w.heap.size, 19, none⟩) 13 13) (a.drop 19) := by
    have := r.mid (i := 19) (j := 32) (by decide) (by rw [ha.1]; exact Nat.le_refl _)
    rw [List.take_of_length_le (by rw [List.length_drop, ha.1]; decide)] at this
    simpa using this
  have t1 : Tidy (.slice (some ⟨w.heap.size, 3, none⟩) 1 29) := tidy_someW
  have t2 : Tidy (.slice (some ⟨w.heap.size, 8, none⟩) 8 24) := tidy_someW
  have t3 : Tidy (.slice (some ⟨w.heap.size, 19, none⟩) 13 13) := tidy_someW
  have hl := shA_len ha.1
  have hjn : ∀ y lv, Rows2 y lv [(a.drop 3).take 1, (a.drop 8).take 8, a.drop 19] → Calls Tryz.prog 32 #[lv] y fun e w' => ∃ v, e = .returned v ∧ Own 5 .u8 256 w' y.heap.size v (shA a) ∧ Below y.heap.size y w' := fun y lv r => by
    have := join_any lv _ y r (by simp only [List.flatten_cons, List.flatten_nil, List.append_nil, List.length_append, List.length_take, List.length_drop, ha.1]; omega)
    rw [shA_code ha.1]
    simpa using this
  obtain ⟨SA, hSA⟩ : ∃ x, x = shA a := ⟨_, rfl⟩
  rw [← hSA] at hjn ⊢
  generalize (a.drop 3).take 1 = p1 at *
  generalize (a.drop 8).take 8 = p2 at *
  generalize a.drop 19 = p3 at *
  obtain ⟨i0, hi0, hz0, hz1, hz2⟩ := info_text
  have hbd : Below W0.heap.size W0 W0.drew := (Below.refl _ _).drew
  clear r L0 ha hl hSA
  go_enter Tryz.func85, Tryz.ntmps85
  go_wp2
  rw [← hW0]
  clear hW0
  refine at_begin (ops := opsA (cLA (cRA (Tryz.f85.body.getD .skip)))) (n := 6) (fun y => Below W0.heap.size W0 y) (by kernel_rfl) (by kernel_rfl) ?_
  refine at_takeD (i := 0) (m' := 1) (d := some 3) (v := .slice (some ⟨w.heap.size, 3, none⟩) 1 29) so1reg rfl (by decide) rfl rfl (y_midA3_4 (wanted_free rfl) rfl rfl) hbd ?_
  simp only [Act.put, List.setIfInBounds_toArray, List.set_cons_zero, List.set_cons_succ]
  refine at_takeD (i := 1) (m' := 3) (d := some 4) (v := .slice (some ⟨w.heap.size, 8, none⟩) 8 24) so1reg rfl (by decide) rfl rfl (y_midA8_16 (wanted_free rfl) rfl rfl) hbd ?_
  simp only [Act.put, List.setIfInBounds_toArray, List.set_cons_zero, List.set_cons_succ]
  refine at_takeD (i := 2) (m' := 7) (d := some 5) (v := .slice (some ⟨w.heap.size, 19, none⟩) 13 13) so1reg rfl (by decide) rfl rfl (y_dropV (F := 19) (K := 13) (wanted_free rfl) rfl rfl rfl (by decide) (by decide)) hbd ?_
  simp only [Act.put, List.setIfInBounds_toArray, List.set_cons_zero, List.set_cons_succ]
  refine at_one (i := 3) (m' := 15) so1reg (by decide) rfl ?_
  refine p_build3G (d := some 6) rfl (wanted_free rfl) rfl rfl rfl rfl rfl Tryz.underlying41 hi0 hz1 hz0 ?_
  have hb4 := keep_trans hbd (keep_alloc W0.drew (.cells #[.slice (some ⟨w.heap.size, 3, none⟩) 1 29, .slice (some ⟨w.heap.size, 8, none⟩) 8 24, .slice (some ⟨w.heap.size, 19, none⟩) 13 13] 27))
  have rr := rows_litL (B := W0.drew.heap.size) (k := 3) (texts_cons (q1.below hbd) t1 (texts_cons (q2.below hbd) t2 (texts_cons (q3.below hbd) t3 (Texts.nil _)))) rfl rfl (by decide)
  refine ⟨hb4, ?_⟩
  simp only [Act.put, List.setIfInBounds_toArray, List.set_cons_zero, List.set_cons_succ]
  refine at_one (i := 4) (m' := 31) so1reg (by decide) rfl ?_
  refine p_callG (args := #[.slice (some ⟨W0.drew.heap.size, 0, none⟩) 3 3]) (d := some 7) rfl (wanted_free rfl) rfl (by simp only [List.map_toArray, List.map_cons, List.map_nil]; rfl) rfl Tryz.call32 ((hjn (W0.drew.alloc (.cells #[.slice (some ⟨w.heap.size, 3, none⟩) 1 29, .slice (some ⟨w.heap.size, 8, none⟩) 8 24, .slice (some ⟨w.heap.size, 19, none⟩) 13 13] 27)) _ rr).mono ?_)
  rintro e y5 ⟨jv, rfl, oj, g5⟩
  have ybs := (hb4).size
  have hb5 := keep_trans hb4 g5
  refine ⟨_, rfl, hb5, ?_⟩
  simp only [Act.put, List.setIfInBounds_toArray, List.set_cons_zero, List.set_cons_succ]
  refine at_takeD (i := 5) (m' := 63) (d := some 2) (v := jv) so1reg rfl (by decide) rfl rfl (y_assignG (wanted_free rfl) rfl rfl) hb5 ?_
  simp only [Act.put, List.setIfInBounds_toArray, List.set_cons_zero, List.set_cons_succ]
  refine at_done so1reg (by decide) ?_
  go_wp2
  go_ret
  exact ⟨_, rfl, oj.mono (Nat.le_trans hb0.size ybs), keep_trans hb0 hb5⟩
set_option maxHeartbeats 4000000 in
set_option maxRecDepth 100000 in
theorem wfil_any (b : List Nat) (bv : Value) (B : Nat) (w : World) (hb : Row .u8 256 w bv b) (tb : Tidy bv) (hl : b.length ≤ B) (hB : B ≤ 1000) :
    Calls Tryz.prog 82 #[bv, .int .i64 (B : Int)] w fun e w' => ∃ v, e = .returned v ∧ Own 5 .u8 256 w' w.heap.size v (b ++ List.replicate (B - b.length) 0) ∧ Below w.heap.size w w' := by
  obtain ⟨K, hK⟩ : ∃ K : Nat, B - b.length = K := ⟨_, rfl⟩
  obtain ⟨ba, bc, rfl, _⟩ := hb.opens rfl
  obtain ⟨L, hL⟩ : ∃ L : Nat, b.length = L := ⟨_, rfl⟩
  have e_K : (B : Int) - (L : Int) = (K : Int) := by omega
  have s_K : IntKind.i64.wrap (K : Int) = (K : Int) := by rw [IntKind.wrap_i64]; omega
  obtain ⟨i0, hi, hz0, hz1, hz2⟩ := info_parts Tryz.info5
  have hjn : ∀ y lv, Rows2 y lv [b, List.replicate K 0] → Calls Tryz.prog 32 #[lv] y fun e w' => ∃ v, e = .returned v ∧ Own 5 .u8 256 w' y.heap.size v (b ++ List.replicate K 0) ∧ Below y.heap.size y w' := fun y lv r => by
    have := join_any lv _ y r (by simp only [List.flatten_cons, List.flatten_nil, List.append_nil, List.length_append, List.length_replicate]; omega)
    simpa using this
  have hKB : K ≤ 1000 := by omega
  rw [hK]
  rw [hL] at hb tb ⊢
  have ZR : Under 256 (List.replicate K 0) := Under.replicate 256 K (by decide)
  have zl : (List.replicate K 0).length = K := List.length_replicate
  clear hl hK
  go_enter Tryz.func82, Tryz.ntmps82
  go_wp2_with (first
    | (at_make; refine wpList_make_full _ rfl _ _ 27 rfl w.heap.size 5 i0 (.int .u8 0) 1 Tryz.underlying27 hi hz0 hz1 _ _ _ _ K rfl rfl rfl rfl (by rw [hz2]; omega) (by unfold maxLen; omega) (Nat.le_refl _) ?_; intro w1 hown hgrow; have kw := (Below.refl w.heap.size w).grown hgrow (Nat.le_refl _) (fun k h => by cases h); rw [made_u8] at hown; have ow : Own 5 .u8 256 w1 w.heap.size (.slice (some ⟨w.heap.size, 0, none⟩) K K) (List.replicate K 0) := ⟨by rw [zl]; exact hown, ZR⟩; have rr := rows_twoW (hb.below kw) tb ow.row tidy_someW)
    | (go_at_call 32; refine (hjn _ _ rr).mono ?_; rintro e w2 ⟨v2, rfl, o2, hb2⟩)
    | fail)
  go_ret
  exact ⟨_, rfl, o2.mono (keep_trans kw (keep_alloc _ _)).size, keep_trans (keep_trans kw (keep_alloc _ _)) hb2⟩
/-- digits of two texts, one behind the other -/
theorem dig_app4 {a b : List Nat} (ub : Under 256 b) {c : Nat} (hc : c * 4 ≤ 8 * b.length) : digL (a ++ b) 4 (2 * a.length + c) = digL a 4 (2 * a.length) ++ digL b 4 c := by
  have hB := valBe_lt b ub
  unfold digL
  rw [List.range_add, List.map_append, List.map_map]
  congr 1
  · apply List.map_congr_left
    intro i hi
    have hi' : i < 2 * a.length := by simpa using hi
    unfold dig
    rw [valBe_app, List.length_append, show 8 * (a.length + b.length) - (i + 1) * 4 = 8 * b.length + (8 * a.length - (i + 1) * 4) by omega, Nat.pow_add, ← Nat.div_div_eq_div_mul, Nat.mul_comm (valBe a),
      Nat.mul_add_div (Nat.pow_pos (by decide)), Nat.div_eq_of_lt hB, Nat.add_zero]
  · apply List.map_congr_left
    intro i hi
    have hi' : i < c := by simpa using hi
    show dig (a ++ b) 4 (2 * a.length + i) = dig b 4 i
    unfold dig
    rw [valBe_app, List.length_append, show 8 * (a.length + b.length) - (2 * a.length + i + 1) * 4 = 8 * b.length - (i + 1) * 4 by omega]
    obtain ⟨e, he⟩ : ∃ e, e = 8 * b.length - (i + 1) * 4 := ⟨_, rfl⟩
    rw [← he, show 8 * b.length = (4 * i + 4) + e by omega, Nat.pow_add, ← Nat.mul_assoc, Nat.mul_comm (valBe a * 2 ^ (4 * i + 4)), Nat.mul_add_div (Nat.pow_pos (by decide)), Nat.pow_add, ← Nat.mul_assoc, Nat.mul_add_mod']
/-- where the loop of a check stands -/
def WdL (w0 : World) (L : List Nat) (vs vi : Value) (wr : World) : Prop := ∃ i : Nat, i ≤ L.length ∧ vi = .int .i64 (i : Int) ∧ vs = .int .u64 ((lackL 15 (L.take i) : Nat) : Int) ∧ Below w0.heap.size w0 wr
set_option maxHeartbeats 4000000 in
set_option maxRecDepth 100000 in
theorem wdig_ok {N : Nat} (hN : N = 16 ∨ N = 24 ∨ N = 32) (d : List Nat) (dv : Value) (w : World) (hd : Row .u8 256 w dv d) (td : Tidy dv) (hl : d.length = N) :
    Calls Tryz.prog 12 #[.int .i64 (N : Int), dv] w fun e w' => ∃ v, e = .returned v ∧ Own 42 .u32 4294967296 w' w.heap.size v (dgW N d) ∧ Below w.heap.size w w' := by
  obtain ⟨da, dc, rfl, _⟩ := hd.opens hl
  have hz := fun y => wisz_any (N : Int) y
  rw [decide_eq_true (by omega)] at hz
  have hN32 : N ≤ 32 := by omega
  have hchl := chkW_lt hN32 d
  obtain ⟨E, hE⟩ : ∃ E : Nat, 8 * N = E := ⟨_, rfl⟩
  obtain ⟨M, hM⟩ : ∃ M : Nat, 2 * N = M := ⟨_, rfl⟩
  obtain ⟨P, hP⟩ : ∃ P : Nat, 2 * N + 3 = P := ⟨_, rfl⟩
  have e_E : 8 * (N : Int) = (E : Int) := by omega
  have s_E : IntKind.i64.wrap (E : Int) = (E : Int) := by rw [IntKind.wrap_i64]; omega
  have e_M : (E : Int) / 4 = (M : Int) := by omega
  have t_M : (E : Int).tdiv 4 = (M : Int) := by rw [Int.tdiv_eq_ediv_of_nonneg (by omega)]; omega
  have s_M : IntKind.i64.wrap (M : Int) = (M : Int) := by rw [IntKind.wrap_i64]; omega
  have hdig := fun y (r : Row .u8 256 y (.slice da N dc) d) => dig_any _ d (4 : Nat) (M : Int) y r (by omega) (by omega) (by omega)
  rw [digS_natW d 4 M (by decide) (by decide) (by omega)] at hdig
  have hlt : ∀ i, el (digL d 4 M) i ≤ 15 := fun i => el_le_ofW (K := 4) (digL_lt d M) i
  have hll : (digL d 4 M).length = M := digL_length _ _ _
  obtain ⟨C, hC⟩ : ∃ C : Nat, C = lackL 15 (digL d 4 M) := ⟨_, rfl⟩
  have hCk : chkW N d = C := by unfold chkW; rw [hM, hC]
  obtain ⟨SH, hSH⟩ : ∃ SH : Nat, SH = 16 * C := ⟨_, rfl⟩
  rw [hCk] at hchl
  have hDs : dgW N d = digL (d ++ be2 SH) 4 P := by
    have := dig_app4 (a := d) (b := be2 SH) (be2_under' SH) (c := 3) (by rw [be2_len]; decide)
    rw [hl, hP] at this
    rw [this]
    unfold dgW
    rw [hCk, hSH]
  rw [hDs]
  have hb2 := fun y => wbeX SH 2 y (by omega) (by decide)
  have hb2e : beNW SH 2 = be2 SH := rfl
  rw [hb2e] at hb2
  have h2l := be2_len SH
  have hjn : ∀ y lv, Rows2 y lv [d, be2 SH] → Calls Tryz.prog 32 #[lv] y fun e w' => ∃ v, e = .returned v ∧ Own 5 .u8 256 w' y.heap.size v (d ++ be2 SH) ∧ Below y.heap.size y w' := fun y lv r => by
    have := join_any lv _ y r (by simp only [List.flatten_cons, List.flatten_nil, List.append_nil, List.length_append, be2_len]; omega)
    simpa using this
  obtain ⟨JJ, hJ⟩ : ∃ JJ, JJ = d ++ be2 SH := ⟨_, rfl⟩
  have hJl : JJ.length = N + 2 := by rw [hJ, List.length_append, be2_len, hl]
  rw [← hJ] at hjn ⊢
  have hdg2 := fun y v (r : Row .u8 256 y v JJ) => dig_any v JJ (4 : Nat) (P : Int) y r (by omega) (by omega) (by omega)
  rw [digS_natW JJ 4 P (by decide) (by decide) (by omega)] at hdg2
  have hct := fun y => wdct_any N y (by omega)
  rw [hP] at hct
  have hsum : ∀ i, i ≤ M → lackL 15 ((digL d 4 M).take i) ≤ 960 := fun i hi => by
    have := lack_lt 15 ((digL d 4 M).take i)
    rw [List.length_take, hll] at this
    have := Nat.min_le_right i M
    have h3 := Nat.mul_le_mul_right 15 this
    omega
  generalize be2 SH = BE at *
  generalize digL JJ 4 P = DD at *
  generalize hLL : digL d 4 M = L at *
  have HC := hide (And.intro hC (And.intro hSH hchl))
  have HS := hide (And.intro hsum hlt)
  have HD := hide (And.intro hd td)
  have h8 : (N : Int) ≠ 0 := by omega
  have hNN : ((N : Int) != (N : Int)) = false := by simp
  clear hC hSH hchl hsum hlt hDs hCk hLL hE hP hJ hb2e hN
  go_enter Tryz.func12, Tryz.ntmps12
  go_wp2_with (first
    | (go_at_call 25; refine (hz _).mono ?_; rintro e w1 ⟨rfl, hx⟩; obtain rfl := hx.symm)
    | (go_at_call 31; refine (hdig _ HD.out.1).mono ?_; rintro e w1 ⟨v1, rfl, o1, hb1⟩; obtain ⟨la, lc, rfl, _, _, hcel⟩ := o1.row.opens hll)
    | fail)
  go_loopw [5, 23] (fun vs vi wr => WdL w1 L vs vi wr) (fun _ vi _ => M - (intOf vi).toNat)
  case atStart => exact ⟨0, Nat.zero_le _, rfl, rfl, Below.refl _ _⟩
  case round =>
    obtain ⟨i, hi, rfl, rfl, hbr⟩ := hrel
    rename World => wr
    obtain ⟨hsum, hlt⟩ := HS.out
    by_cases hin : i < M
    · have hii : (i : Int) < (M : Int) := by omega
      obtain ⟨lb, lo, rfl, hcell⟩ := hcel (by omega)
      have c0 := keep_cell (hcell i hin) hbr
      have hle := hlt i
      have hlk := lack_takeW (m := 15) (i := i) (l := L) (by omega)
      have hs1 := hsum i (by omega)
      have hs2 := hsum (i + 1) (by omega)
      generalize el L i = x at *
      obtain ⟨S0, hS0⟩ : ∃ S0, lackL 15 (L.take i) = S0 := ⟨_, rfl⟩
      obtain ⟨S1, hS1⟩ : ∃ S1, lackL 15 (L.take (i + 1)) = S1 := ⟨_, rfl⟩
      obtain ⟨Q, hQ⟩ : ∃ Q, i + 1 = Q := ⟨_, rfl⟩
      obtain ⟨X, hX⟩ : ∃ X : Nat, 15 - x = X := ⟨_, rfl⟩
      rw [hS0] at hlk hs1 ⊢
      rw [hS1] at hlk hs2
      have e_X : 15 - (x : Int) = (X : Int) := by omega
      have s_X : IntKind.u32.wrap (X : Int) = (X : Int) := by rw [IntKind.wrap_u32]; omega
      have u_X : IntKind.u64.wrap (X : Int) = (X : Int) := by rw [IntKind.wrap_u64]; omega
      have e_S : (S0 : Int) + (X : Int) = (S1 : Int) := by omega
      have s_S : IntKind.u64.wrap (S1 : Int) = (S1 : Int) := by rw [IntKind.wrap_u64]; omega
      have e_Q : (i : Int) + 1 = (Q : Int) := by omega
      have s_Q : IntKind.i64.wrap (Q : Int) = (Q : Int) := by rw [IntKind.wrap_i64]; omega
      have HK := hide (And.intro hQ (And.intro hS1 (And.intro hbr hin)))
      clear hlk hs1 hs2 hS0 hX hQ hS1 hbr hle hi hsum hlt hin hcel
      go_wp2
      obtain ⟨hQ, hS1, hbr, hin⟩ := HK.out
      exact ⟨⟨Q, by omega, rfl, by rw [← hQ, hS1], hbr⟩, by simp [intOf]; omega⟩
    · obtain rfl : i = M := by omega
      have hge : ¬ ((i : Int) < (i : Int)) := by omega
      rw [List.take_of_length_le (by omega)]
      obtain ⟨hC, hSH, hchl⟩ := HC.out
      rw [← hC]
      have e_SH : (C : Int) * 16 = (SH : Int) := by omega
      have e_SH2 : (C : Int) * 2 ^ 4 = (SH : Int) := by rw [← e_SH]; rfl
      have s_SH : IntKind.u64.wrap (SH : Int) = (SH : Int) := by rw [IntKind.wrap_u64]; omega
      have kw := keep_trans hb1 hbr
      have rd := HD.out.1.below kw
      have tdd := HD.out.2
      clear hC hSH hchl HC hsum hlt HS HD hdig hcel o1
      go_wp2_with (first
        | (go_at_call 28; refine (hb2 _).mono ?_; rintro e w2 ⟨v2, rfl, o2, hb3⟩; have tB := own_tidyG o2; have rB := o2.row; obtain ⟨ba, bc, rfl, _⟩ := rB.opens h2l; have rr := rows_twoW (rd.below hb3) tdd rB tB)
        | (go_at_call 32; refine (hjn _ _ rr).mono ?_; rintro e w3 ⟨v3, rfl, o3, hb4⟩; obtain ⟨ja, jc, rfl, _⟩ := o3.row.opens hJl; have rj := o3.row)
        | (go_at_call 33; refine (hct _).mono ?_; rintro e w4 ⟨rfl, hx⟩; obtain rfl := hx.symm)
        | (go_at_call 31; refine (hdg2 _ _ rj).mono ?_; rintro e w5 ⟨v5, rfl, o5, hb5⟩)
        | fail)
      go_ret
      have k3 := keep_trans (keep_trans kw hb3) (keep_trans (keep_alloc _ _) hb4)
      exact ⟨_, rfl, o5.mono k3.size, keep_trans k3 hb5⟩
set_option maxHeartbeats 4000000 in
set_option maxRecDepth 100000 in
theorem wdig_no (n : Int) (da : Option Addr) (dl dc : Nat) (w : World) (h : ¬ ((n = 16 ∨ n = 24 ∨ n = 32) ∧ (dl : Int) = n)) :
    Calls Tryz.prog 12 #[.int .i64 n, .slice da dl dc] w fun e w' => e = .returned (.slice none 0 0) ∧ w' = w := by
  have hz := fun y => wisz_any n y
  by_cases hs : n = 16 ∨ n = 24 ∨ n = 32
  · rw [decide_eq_true hs] at hz
    have hne : ¬ (dl : Int) = n := fun e => h ⟨hs, e⟩
    have b1 : ((dl : Int) != n) = true := by simp [hne]
    have b2 : ((dl : Int) == n) = false := by simp [hne]
    clear hs h
    go_enter Tryz.func12, Tryz.ntmps12
    go_wp2_with (first
      | (go_at_call 25; refine (hz _).mono ?_; rintro e w1 ⟨rfl, hx⟩; obtain rfl := hx.symm)
      | fail)
    go_ret
    exact ⟨rfl, rfl⟩
  · rw [decide_eq_false hs] at hz
    clear hs h
    go_enter Tryz.func12, Tryz.ntmps12
    go_wp2_with (first
      | (go_at_call 25; refine (hz _).mono ?_; rintro e w1 ⟨rfl, hx⟩; obtain rfl := hx.symm)
      | fail)
    go_ret
    exact ⟨rfl, rfl⟩
end Go.Proofs.YtpmobjfhhkglbaaGreatDoor

/- mac's added: a sum of sha with texts more. -/
namespace Go.Proofs.YtpmobjfhhkglbaaGreatDoor
open Go.RowKit
set_option linter.unusedVariables false
set_option linter.unusedSimpArgs false

/-- what stands behind the bytes P: the words, what is left -/
def wsH (kind : Int) (P : List Nat) : List Nat := eat (wide kind) (ini kind.toNat) P
def tlH (kind : Int) (P : List Nat) : List Nat := left (wide kind) P
theorem ini_8 (k : Nat) : (ini k).length = 8 := by
  unfold ini
  repeat' split
  all_goals decide
theorem ini_u {kind : Int} (h : kind = 1 ∨ kind = 2 ∨ kind = 3) : Under (wm (wide kind)) (ini kind.toNat) := by
  rcases h with h | h | h <;> subst h <;> exact dec_under (by decide)
theorem wsH_8 (kind : Int) (P : List Nat) : (wsH kind P).length = 8 := eat_len P (ini_8 _)
theorem wsH_u {kind : Int} (h : kind = 1 ∨ kind = 2 ∨ kind = 3) (P : List Nat) : Under (wm (wide kind)) (wsH kind P) := eat_under P (ini_u h)
theorem wsH_u64 {kind : Int} (h : kind = 1 ∨ kind = 2 ∨ kind = 3) (P : List Nat) : Under 18446744073709551616 (wsH kind P) := by
  have h' := wsH_u h P
  rcases h with h | h | h <;> subst h
  · exact Row.mono_u64 (m := 0) h'
  · exact h'
  · exact h'
theorem wsH_app (kind : Int) (P b : List Nat) : eat (wide kind) (wsH kind P) (tlH kind P ++ b) = wsH kind (P ++ b) := (eat_parts _ _ P b).symm
theorem tlH_app (kind : Int) (P b : List Nat) : left (wide kind) (tlH kind P ++ b) = tlH kind (P ++ b) := (left_parts _ P b).symm
theorem hfit_at {kind : Int} (h : kind = 1 ∨ kind = 2 ∨ kind = 3) (P : List Nat) (hP : P.length < 1152921504606846976) : hfit kind (wsH kind P) (tlH kind P).length P.length = true :=
  hfit_mk (wsH_8 _ _) h hP (left_length _ _) (wsH_u h P)
/-- the end of what goes on is the digest -/
theorem endS_at {kind : Int} (h : kind = 1 ∨ kind = 2 ∨ kind = 3) (P : List Nat) : endS (wide kind) (wsH kind P) (tlH kind P) P.length (outn kind) = digD kind P := by
  have e : digD kind P = endS (wide kind) (ini kind.toNat) P P.length (outn kind) := by unfold digD; rw [if_pos (by omega)]
  rw [e]
  unfold endS wsH tlH
  rw [fill_left, ← eat_parts]
/-- a sum behind the bytes P -/
def hvP (kind : Int) (P : List Nat) (tv : Value) : Array Value := hv kind (wsH kind P) tv P.length
theorem hv_one {kind : Int} {ws : List Nat} {tv : Value} {n : Nat} (h : tv.oneCell' = true) : (hv kind ws tv n).all (·.oneCell') = true := by
  unfold hv
  simp only [Value.oneCell'] at h
  simp [Value.oneCell', h]
end Go.Proofs.YtpmobjfhhkglbaaGreatDoor

/- Contracts of keccak.blockOf, endOf, New, Fit. -/
namespace Go.Proofs.YtpmobjfhhkglbaaGreatDoor
open Go.RowKit
set_option linter.unusedVariables false
set_option linter.unusedSimpArgs false


theorem block_any (kind : Int) (w : World) : Calls Tryz.prog 95 #[.int .i64 kind] w fun e w' => e = .returned (.int .i64 (rateK kind : Nat)) ∧ w' = w := by
  by_cases h4 : kind = 4
  · subst h4
    go_enter Tryz.func95, Tryz.ntmps95
    go_wp2
    go_ret
    exact ⟨rfl, rfl⟩
  by_cases h7 : kind = 7
  · subst h7
    go_enter Tryz.func95, Tryz.ntmps95
    go_wp2
    go_ret
    exact ⟨rfl, rfl⟩
  by_cases h5 : kind = 5
  · subst h5
    go_enter Tryz.func95, Tryz.ntmps95
    go_wp2
    go_ret
    exact ⟨rfl, rfl⟩
  by_cases h6 : kind = 6
  · subst h6
    go_enter Tryz.func95, Tryz.ntmps95
    go_wp2
    go_ret
    exact ⟨rfl, rfl⟩
  have hr : rateK kind = 0 := by simp [rateK, h4, h5, h6, h7]
  rw [hr]
  go_enter Tryz.func95, Tryz.ntmps95
  go_wp2
  go_ret
  exact ⟨rfl, rfl⟩

set_option maxHeartbeats 4000000 in
set_option maxRecDepth 100000 in
theorem cnew_ok (kind : Int) (w : World) (hr : 0 < rateK kind) :
    Calls Tryz.prog 76 #[.int .i64 kind] w fun e w' => e = .returned (.tuple #[.agg (sl kind (zs 25) 0 false).toArray, .int .i64 0]) ∧ Below w.heap.size w w' := by
  have hz := zero28
  have hrk := fun w' => block_any kind w'
  have hne : (((rateK kind : Nat) : Int) == 0) = false := by rw [beq_eq_false_iff_ne]; omega
  have hR : (w.alloc (.cells (sl 0 (zs 25) 0 false).toArray 81)).heap[w.heap.size]? = some (.cells (sl 0 (zs 25) 0 false).toArray 81 (0, 0)) := heap_alloc_last w _
  go_enter Tryz.func76, Tryz.ntmps76
  have hsz : (sl kind (zs 25) 0 false).toArray.size = 28 := by simp [sl_len (zs_len 25)]
  have hsz0 : (sl 0 (zs 25) 0 false).toArray.size = 28 := by simp [sl_len (zs_len 25)]
  go_wp2_with (first
    | (go_at_call 95; refine (hrk _).mono ?_; rintro e w' ⟨rfl, rfl⟩)
    | (refine wpList_store_row rfl 81 _ _ (by rfl) w.heap.size (sl kind (zs 25) 0 false).toArray (by rfl) (by rfl) _ _ hR (by rw [hsz]; kernel_rfl) (by rw [hsz, hsz0]) (all_oneCell_toArray (sl_one _ _ _ _)) ?_)
    | fail)
  have hfu := setRow_heap (w.alloc (.cells (sl 0 (zs 25) 0 false).toArray 81)) w.heap.size _ (sl kind (zs 25) 0 false).toArray 81 _ hR
  have hlv := run_loadVar_row (P := Tryz.prog) ((w.alloc (.cells (sl 0 (zs 25) 0 false).toArray 81)).setRow w.heap.size (sl kind (zs 25) 0 false).toArray) w.heap.size _ 81 _ _ _ hfu Tryz.underlying81 rfl (by rw [hsz]; kernel_rfl)
  have hbf := (keep_alloc w (.cells (sl 0 (zs 25) 0 false).toArray 81)).trans ((But.setRow (But.refl w.heap.size _) (sl kind (zs 25) 0 false).toArray).below (Nat.le_refl _) (by simp))
  refine bodyPost_ret (v := .tuple #[.agg (sl kind (zs 25) 0 false).toArray, .int .i64 0]) ?_ rfl ⟨rfl, hbf⟩
  simp [results, Tryz.results76, asAddr, hlv]
theorem endof_any (kind : Int) (w : World) :
    Calls Tryz.prog 112 #[.int .i64 kind] w fun e w' => e = .returned (.int .u8 (markK kind : Nat)) ∧ w' = w := by
  unfold markK
  by_cases h4 : kind = 4
  · subst h4
    go_enter Tryz.func112, Tryz.ntmps112
    go_wp2
    go_ret
    exact ⟨rfl, rfl⟩
  · by_cases h5 : kind = 5
    · subst h5
      go_enter Tryz.func112, Tryz.ntmps112
      go_wp2
      go_ret
      exact ⟨rfl, rfl⟩
    · have b4 : (kind == 4) = false := by rw [beq_eq_false_iff_ne]; exact h4
      have b5 : (kind == 5) = false := by rw [beq_eq_false_iff_ne]; exact h5
      rw [if_neg (by omega)]
      go_enter Tryz.func112, Tryz.ntmps112
      go_wp2
      go_ret
      exact ⟨rfl, rfl⟩
set_option maxHeartbeats 4000000 in
set_option maxRecDepth 100000 in
theorem cfit_any (kind : Int) (ws : List Nat) (p : Int) (o : Bool) (w : World) (hl : ws.length = 25) :
    Calls Tryz.prog 96 #[.agg (sl kind ws p o).toArray] w fun e w' => e = .returned (.bool (fitK kind p o)) ∧ Below w.heap.size w w' := by
  have hS := Sg.new w 81 kind ws p o hl
  have hb := keep_alloc w (.cells (sl kind ws p o).toArray 81)
  have c0 := hS.kind
  have c26 := hS.at
  have c27 := hS.out
  have hrk := fun w' => block_any kind w'
  obtain ⟨bb, hbb⟩ : ∃ x, x = fitK kind p o := ⟨_, rfl⟩
  rw [← hbb]
  unfold fitK at hbb
  generalize rateK kind = rt at *
  by_cases h1 : 0 < rt
  · have h1i : ((rt : Int) == 0) = false := by rw [beq_eq_false_iff_ne]; omega
    have h1n : (rt == 0) = false := by rw [beq_eq_false_iff_ne]; omega
    have h1e : ¬ rt = 0 := by omega
    by_cases h2 : 0 ≤ p
    · have h2d : decide (p < 0) = false := decide_eq_false (by omega)
      have h2e : ¬ p < 0 := by omega
      by_cases h3 : p < (rt : Int)
      · simp [h1, h2, h3] at hbb
        subst hbb
        go_enter Tryz.func96, Tryz.ntmps96
        go_wp2_with (first
          | (go_at_call 95; refine (hrk _).mono ?_; rintro e w' ⟨rfl, rfl⟩)
          | fail)
        go_ret
        exact ⟨rfl, hb⟩
      · have h3d : decide (p < (rt : Int)) = false := decide_eq_false h3
        cases o with
        | false =>
          simp [h1, h2, h3] at hbb
          subst hbb
          go_enter Tryz.func96, Tryz.ntmps96
          go_wp2_with (first
            | (go_at_call 95; refine (hrk _).mono ?_; rintro e w' ⟨rfl, rfl⟩)
            | fail)
          go_ret
          exact ⟨rfl, hb⟩
        | true =>
          by_cases h4 : p = (rt : Int)
          · subst h4
            simp [h1] at hbb
            subst hbb
            go_enter Tryz.func96, Tryz.ntmps96
            go_wp2_with (first
              | (go_at_call 95; refine (hrk _).mono ?_; rintro e w' ⟨rfl, rfl⟩)
              | fail)
            go_ret
            exact ⟨rfl, hb⟩
          · have h4b : (p == (rt : Int)) = false := by rw [beq_eq_false_iff_ne]; exact h4
            simp [h1, h2, h3, h4] at hbb
            subst hbb
            go_enter Tryz.func96, Tryz.ntmps96
            go_wp2_with (first
              | (go_at_call 95; refine (hrk _).mono ?_; rintro e w' ⟨rfl, rfl⟩)
              | fail)
            go_ret
            exact ⟨rfl, hb⟩
    · have h2d : decide (p < 0) = true := decide_eq_true (by omega)
      have h2e : p < 0 := by omega
      simp [h1, h2] at hbb
      subst hbb
      go_enter Tryz.func96, Tryz.ntmps96
      go_wp2_with (first
        | (go_at_call 95; refine (hrk _).mono ?_; rintro e w' ⟨rfl, rfl⟩)
        | fail)
      go_ret
      exact ⟨rfl, hb⟩
  · obtain rfl : rt = 0 := by omega
    simp at hbb
    subst hbb
    go_enter Tryz.func96, Tryz.ntmps96
    go_wp2_with (first
      | (go_at_call 95; refine (hrk _).mono ?_; rintro e w' ⟨rfl, rfl⟩)
      | fail)
    go_ret
    exact ⟨rfl, hb⟩
end Go.Proofs.YtpmobjfhhkglbaaGreatDoor

/- Plain facts: the round, written out word by word, is the document's. No walk. -/
namespace Go.Proofs.YtpmobjfhhkglbaaGreatDoor
set_option linter.unusedVariables false
set_option linter.unusedSimpArgs false

/-- a column's parity; what a column's words are xored with -/
def parK (a : List Nat) (i : Nat) : Nat := el a i ^^^ el a (i + 5) ^^^ el a (i + 10) ^^^ el a (i + 15) ^^^ el a (i + 20)
def besK (p q : Nat) : Nat := p ^^^ rotl q 1
def mixW (x y z : Nat) : Nat := x ^^^ ((18446744073709551615 - y) &&& z)
/-- a row behind its mixing -/
def mixL (w0 w1 w2 w3 w4 : Nat) : List Nat := [mixW w0 w1 w2, mixW w1 w2 w3, mixW w2 w3 w4, mixW w3 w4 w0, mixW w4 w0 w1]
/-- words moved, of words and columns -/
def row0 (a c : List Nat) : List Nat := mixL (el a 0 ^^^ el c 0) (rotl (el a 6 ^^^ el c 1) 44) (rotl (el a 12 ^^^ el c 2) 43) (rotl (el a 18 ^^^ el c 3) 21) (rotl (el a 24 ^^^ el c 4) 14)
def row1 (a c : List Nat) : List Nat := mixL (rotl (el a 3 ^^^ el c 3) 28) (rotl (el a 9 ^^^ el c 4) 20) (rotl (el a 10 ^^^ el c 0) 3) (rotl (el a 16 ^^^ el c 1) 45) (rotl (el a 22 ^^^ el c 2) 61)
def row2 (a c : List Nat) : List Nat := mixL (rotl (el a 1 ^^^ el c 1) 1) (rotl (el a 7 ^^^ el c 2) 6) (rotl (el a 13 ^^^ el c 3) 25) (rotl (el a 19 ^^^ el c 4) 8) (rotl (el a 20 ^^^ el c 0) 18)
def row3 (a c : List Nat) : List Nat := mixL (rotl (el a 4 ^^^ el c 4) 27) (rotl (el a 5 ^^^ el c 0) 36) (rotl (el a 11 ^^^ el c 1) 10) (rotl (el a 17 ^^^ el c 2) 15) (rotl (el a 23 ^^^ el c 3) 56)
def row4 (a c : List Nat) : List Nat := mixL (rotl (el a 2 ^^^ el c 2) 62) (rotl (el a 8 ^^^ el c 3) 55) (rotl (el a 14 ^^^ el c 4) 39) (rotl (el a 15 ^^^ el c 0) 41) (rotl (el a 21 ^^^ el c 1) 2)
def colK (a : List Nat) : List Nat := [besK (parK a 4) (parK a 1), besK (parK a 0) (parK a 2), besK (parK a 1) (parK a 3), besK (parK a 2) (parK a 4), besK (parK a 3) (parK a 0)]
def roundK (a : List Nat) : List Nat := row0 a (colK a) ++ row1 a (colK a) ++ row2 a (colK a) ++ row3 a (colK a) ++ row4 a (colK a)
theorem list25 : ∀ a : List Nat, a.length = 25 → ∃ a0 a1 a2 a3 a4 a5 a6 a7 a8 a9 a10 a11 a12 a13 a14 a15 a16 a17 a18 a19 a20 a21 a22 a23 a24, a = [a0, a1, a2, a3, a4, a5, a6, a7, a8, a9, a10, a11, a12, a13, a14, a15, a16, a17, a18, a19, a20, a21, a22, a23, a24]
  | [a0, a1, a2, a3, a4, a5, a6, a7, a8, a9, a10, a11, a12, a13, a14, a15, a16, a17, a18, a19, a20, a21, a22, a23, a24], _ => ⟨a0, a1, a2, a3, a4, a5, a6, a7, a8, a9, a10, a11, a12, a13, a14, a15, a16, a17, a18, a19, a20, a21, a22, a23, a24, rfl⟩
theorem colN_is (a0 a1 a2 a3 a4 a5 a6 a7 a8 a9 a10 a11 a12 a13 a14 a15 a16 a17 a18 a19 a20 a21 a22 a23 a24 : Nat) : colN [a0, a1, a2, a3, a4, a5, a6, a7, a8, a9, a10, a11, a12, a13, a14, a15, a16, a17, a18, a19, a20, a21, a22, a23, a24] 25 = [0 ^^^ a0 ^^^ a5 ^^^ a10 ^^^ a15 ^^^ a20, 0 ^^^ a1 ^^^ a6 ^^^ a11 ^^^ a16 ^^^ a21, 0 ^^^ a2 ^^^ a7 ^^^ a12 ^^^ a17 ^^^ a22, 0 ^^^ a3 ^^^ a8 ^^^ a13 ^^^ a18 ^^^ a23, 0 ^^^ a4 ^^^ a9 ^^^ a14 ^^^ a19 ^^^ a24] := by kernel_rfl
theorem sprN_is (a0 a1 a2 a3 a4 a5 a6 a7 a8 a9 a10 a11 a12 a13 a14 a15 a16 a17 a18 a19 a20 a21 a22 a23 a24 c0 c1 c2 c3 c4 : Nat) : sprN [a0, a1, a2, a3, a4, a5, a6, a7, a8, a9, a10, a11, a12, a13, a14, a15, a16, a17, a18, a19, a20, a21, a22, a23, a24] [c0, c1, c2, c3, c4] 25 = [a0 ^^^ c4 ^^^ rotl c1 1, a1 ^^^ c0 ^^^ rotl c2 1, a2 ^^^ c1 ^^^ rotl c3 1, a3 ^^^ c2 ^^^ rotl c4 1, a4 ^^^ c3 ^^^ rotl c0 1, a5 ^^^ c4 ^^^ rotl c1 1, a6 ^^^ c0 ^^^ rotl c2 1, a7 ^^^ c1 ^^^ rotl c3 1, a8 ^^^ c2 ^^^ rotl c4 1, a9 ^^^ c3 ^^^ rotl c0 1, a10 ^^^ c4 ^^^ rotl c1 1, a11 ^^^ c0 ^^^ rotl c2 1, a12 ^^^ c1 ^^^ rotl c3 1, a13 ^^^ c2 ^^^ rotl c4 1, a14 ^^^ c3 ^^^ rotl c0 1, a15 ^^^ c4 ^^^ rotl c1 1, a16 ^^^ c0 ^^^ rotl c2 1, a17 ^^^ c1 ^^^ rotl c3 1, a18 ^^^ c2 ^^^ rotl c4 1, a19 ^^^ c3 ^^^ rotl c0 1, a20 ^^^ c4 ^^^ rotl c1 1, a21 ^^^ c0 ^^^ rotl c2 1, a22 ^^^ c1 ^^^ rotl c3 1, a23 ^^^ c2 ^^^ rotl c4 1, a24 ^^^ c3 ^^^ rotl c0 1] := by kernel_rfl
theorem movN_is (b0 b1 b2 b3 b4 b5 b6 b7 b8 b9 b10 b11 b12 b13 b14 b15 b16 b17 b18 b19 b20 b21 b22 b23 b24 : Nat) : movN [b0, b1, b2, b3, b4, b5, b6, b7, b8, b9, b10, b11, b12, b13, b14, b15, b16, b17, b18, b19, b20, b21, b22, b23, b24] 24 = [b0, rotl b6 44, rotl b12 43, rotl b18 21, rotl b24 14, rotl b3 28, rotl b9 20, rotl b10 3, rotl b16 45, rotl b22 61, rotl b1 1, rotl b7 6, rotl b13 25, rotl b19 8, rotl b20 18, rotl b4 27, rotl b5 36, rotl b11 10, rotl b17 15, rotl b23 56, rotl b2 62, rotl b8 55, rotl b14 39, rotl b15 41, rotl b21 2] := by kernel_rfl
theorem chiN_is (a0 a1 a2 a3 a4 a5 a6 a7 a8 a9 a10 a11 a12 a13 a14 a15 a16 a17 a18 a19 a20 a21 a22 a23 a24 b0 b1 b2 b3 b4 b5 b6 b7 b8 b9 b10 b11 b12 b13 b14 b15 b16 b17 b18 b19 b20 b21 b22 b23 b24 : Nat) : chiN [a0, a1, a2, a3, a4, a5, a6, a7, a8, a9, a10, a11, a12, a13, a14, a15, a16, a17, a18, a19, a20, a21, a22, a23, a24] [b0, b1, b2, b3, b4, b5, b6, b7, b8, b9, b10, b11, b12, b13, b14, b15, b16, b17, b18, b19, b20, b21, b22, b23, b24] 25 = [mixW b0 b1 b2, mixW b1 b2 b3, mixW b2 b3 b4, mixW b3 b4 b0, mixW b4 b0 b1, mixW b5 b6 b7, mixW b6 b7 b8, mixW b7 b8 b9, mixW b8 b9 b5, mixW b9 b5 b6, mixW b10 b11 b12, mixW b11 b12 b13, mixW b12 b13 b14, mixW b13 b14 b10, mixW b14 b10 b11, mixW b15 b16 b17, mixW b16 b17 b18, mixW b17 b18 b19, mixW b18 b19 b15, mixW b19 b15 b16, mixW b20 b21 b22, mixW b21 b22 b23, mixW b22 b23 b24, mixW b23 b24 b20, mixW b24 b20 b21] := by kernel_rfl
theorem roundK_is (a : List Nat) (h : a.length = 25) : chiN a (moveK (spreadK a)) 25 = roundK a := by
  obtain ⟨a0, a1, a2, a3, a4, a5, a6, a7, a8, a9, a10, a11, a12, a13, a14, a15, a16, a17, a18, a19, a20, a21, a22, a23, a24, rfl⟩ := list25 a h
  unfold moveK spreadK
  rw [colN_is, sprN_is, movN_is, chiN_is]
  simp only [Nat.zero_xor, Nat.xor_assoc]
  unfold roundK row0 row1 row2 row3 row4 mixL
  simp only [colK, besK, parK, el, List.getElem?_cons_zero, List.getElem?_cons_succ, Option.getD_some, List.cons_append, List.nil_append, Nat.xor_assoc, Nat.reduceAdd]
theorem rndK_is (a : List Nat) (c : Nat) (h : a.length = 25) : rndK a c = (roundK a).set 0 (el (roundK a) 0 ^^^ c) := by unfold rndK; rw [roundK_is a h]
end Go.Proofs.YtpmobjfhhkglbaaGreatDoor
