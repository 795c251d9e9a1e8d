/- Keys of chains, the program's own: ofType, shortened, filled, Digits. -/
import Derived.Test.YtpmobjfhhkglbaaWyP
import Derived.Test.YtpmobjfhhkglbaaWyA
import Derived.Test.YtpmobjfhhkglbaaWtD
import Derived.Test.YtpmobjfhhkglbaaDig
namespace Go.Proofs.Ytpmobjfhhkglbaa
open Go.RowKit
set_option linter.unusedVariables false
set_option linter.unusedSimpArgs false

theorem rows_twoW {w : World} {u v : Value} {a b : List Nat} (hu : Row .u8 256 w u a) (tu : Tidy u) (hv : Row .u8 256 w v b) (tv : Tidy v) : Rows2 (w.alloc (.cells #[u, v] 25)) (.slice (some ⟨w.heap.size, 0, none⟩) 2 2) [a, b] :=
  rows_litL (texts_cons hu tu (texts_cons hv tv (Texts.nil _))) rfl rfl (by decide)
/-- digits of two texts, one behind the other -/
theorem dig_app4 {a b : List Nat} (ub : Under 256 b) {c : Nat} (hc : c * 4 ≤ 8 * b.length) : digL (a ++ b) 4 (2 * a.length + c) = digL a 4 (2 * a.length) ++ digL b 4 c := by
  have hB := valBe_lt b ub
  unfold digL
  rw [List.range_add, List.map_append, List.map_map]
  congr 1
  · apply List.map_congr_left
    intro i hi
    have hi' : i < 2 * a.length := by simpa using hi
    unfold dig
    rw [valBe_app, List.length_append, show 8 * (a.length + b.length) - (i + 1) * 4 = 8 * b.length + (8 * a.length - (i + 1) * 4) by omega, Nat.pow_add, ← Nat.div_div_eq_div_mul, Nat.mul_comm (valBe a),
      Nat.mul_add_div (Nat.pow_pos (by decide)), Nat.div_eq_of_lt hB, Nat.add_zero]
  · apply List.map_congr_left
    intro i hi
    have hi' : i < c := by simpa using hi
    show dig (a ++ b) 4 (2 * a.length + i) = dig b 4 i
    unfold dig
    rw [valBe_app, List.length_append, show 8 * (a.length + b.length) - (2 * a.length + i + 1) * 4 = 8 * b.length - (i + 1) * 4 by omega]
    obtain ⟨e, he⟩ : ∃ e, e = 8 * b.length - (i + 1) * 4 := ⟨_, rfl⟩
    rw [← he, show 8 * b.length = (4 * i + 4) + e by omega, Nat.pow_add, ← Nat.mul_assoc, Nat.mul_comm (valBe a * 2 ^ (4 * i + 4)), Nat.mul_add_div (Nat.pow_pos (by decide)), Nat.pow_add, ← Nat.mul_assoc, Nat.mul_add_mod']
/-- where the loop of a check stands -/
def WdL (w0 : World) (L : List Nat) (vs vi : Value) (wr : World) : Prop := ∃ i : Nat, i ≤ L.length ∧ vi = .int .i64 (i : Int) ∧ vs = .int .u64 ((lackL 15 (L.take i) : Nat) : Int) ∧ Below w0.heap.size w0 wr
set_option maxHeartbeats 4000000 in
set_option maxRecDepth 100000 in
theorem wdig_ok {N : Nat} (hN : N = 16 ∨ N = 24 ∨ N = 32) (d : List Nat) (dv : Value) (w : World) (hd : Row .u8 256 w dv d) (td : Tidy dv) (hl : d.length = N) :
    Calls Try.prog 4 #[.int .i64 (N : Int), dv] w fun e w' => ∃ v, e = .returned v ∧ Own 26 .u32 4294967296 w' w.heap.size v (dgW N d) ∧ Below w.heap.size w w' := by
  obtain ⟨da, dc, rfl, _⟩ := hd.opens hl
  have hz := fun y => wisz_any (N : Int) y
  rw [decide_eq_true (by omega)] at hz
  have hN32 : N ≤ 32 := by omega
  have hchl := chkW_lt hN32 d
  obtain ⟨E, hE⟩ : ∃ E : Nat, 8 * N = E := ⟨_, rfl⟩
  obtain ⟨M, hM⟩ : ∃ M : Nat, 2 * N = M := ⟨_, rfl⟩
  obtain ⟨P, hP⟩ : ∃ P : Nat, 2 * N + 3 = P := ⟨_, rfl⟩
  have e_E : 8 * (N : Int) = (E : Int) := by omega
  have s_E : IntKind.i64.wrap (E : Int) = (E : Int) := by rw [IntKind.wrap_i64]; omega
  have e_M : (E : Int) / 4 = (M : Int) := by omega
  have t_M : (E : Int).tdiv 4 = (M : Int) := by rw [Int.tdiv_eq_ediv_of_nonneg (by omega)]; omega
  have s_M : IntKind.i64.wrap (M : Int) = (M : Int) := by rw [IntKind.wrap_i64]; omega
  have hdig := fun y (r : Row .u8 256 y (.slice da N dc) d) => dig_any _ d (4 : Nat) (M : Int) y r (by omega) (by omega) (by omega)
  rw [digS_natW d 4 M (by decide) (by decide) (by omega)] at hdig
  have hlt : ∀ i, el (digL d 4 M) i ≤ 15 := fun i => el_le_ofW (K := 4) (digL_lt d M) i
  have hll : (digL d 4 M).length = M := digL_length _ _ _
  obtain ⟨C, hC⟩ : ∃ C : Nat, C = lackL 15 (digL d 4 M) := ⟨_, rfl⟩
  have hCk : chkW N d = C := by unfold chkW; rw [hM, hC]
  obtain ⟨SH, hSH⟩ : ∃ SH : Nat, SH = 16 * C := ⟨_, rfl⟩
  rw [hCk] at hchl
  have hDs : dgW N d = digL (d ++ be2 SH) 4 P := by
    have := dig_app4 (a := d) (b := be2 SH) (be2_under' SH) (c := 3) (by rw [be2_len]; decide)
    rw [hl, hP] at this
    rw [this]
    unfold dgW
    rw [hCk, hSH]
  rw [hDs]
  have hb2 := fun y => wbeX SH 2 y (by omega) (by decide)
  have hb2e : beNW SH 2 = be2 SH := rfl
  rw [hb2e] at hb2
  have h2l := be2_len SH
  have hjn : ∀ y lv, Rows2 y lv [d, be2 SH] → Calls Try.prog 9 #[lv] y fun e w' => ∃ v, e = .returned v ∧ Own 5 .u8 256 w' y.heap.size v (d ++ be2 SH) ∧ Below y.heap.size y w' := fun y lv r => by
    have := join_any lv _ y r (by simp only [List.flatten_cons, List.flatten_nil, List.append_nil, List.length_append, be2_len]; omega)
    simpa using this
  obtain ⟨JJ, hJ⟩ : ∃ JJ, JJ = d ++ be2 SH := ⟨_, rfl⟩
  have hJl : JJ.length = N + 2 := by rw [hJ, List.length_append, be2_len, hl]
  rw [← hJ] at hjn ⊢
  have hdg2 := fun y v (r : Row .u8 256 y v JJ) => dig_any v JJ (4 : Nat) (P : Int) y r (by omega) (by omega) (by omega)
  rw [digS_natW JJ 4 P (by decide) (by decide) (by omega)] at hdg2
  have hct := fun y => wdct_any N y (by omega)
  rw [hP] at hct
  have hsum : ∀ i, i ≤ M → lackL 15 ((digL d 4 M).take i) ≤ 960 := fun i hi => by
    have := lack_lt 15 ((digL d 4 M).take i)
    rw [List.length_take, hll] at this
    have := Nat.min_le_right i M
    have h3 := Nat.mul_le_mul_right 15 this
    omega
  generalize be2 SH = BE at *
  generalize digL JJ 4 P = DD at *
  generalize hLL : digL d 4 M = L at *
  have HC := hide (And.intro hC (And.intro hSH hchl))
  have HS := hide (And.intro hsum hlt)
  have HD := hide (And.intro hd td)
  have h8 : (N : Int) ≠ 0 := by omega
  have hNN : ((N : Int) != (N : Int)) = false := by simp
  clear hC hSH hchl hsum hlt hDs hCk hLL hE hP hJ hb2e hN
  go_enter Try.func4, Try.ntmps4
  go_wp2_with (first
    | (go_at_call 7; refine (hz _).mono ?_; rintro e w1 ⟨rfl, hx⟩; obtain rfl := hx.symm)
    | (go_at_call 8; refine (hdig _ HD.out.1).mono ?_; rintro e w1 ⟨v1, rfl, o1, hb1⟩; obtain ⟨la, lc, rfl, _, _, hcel⟩ := o1.row.opens hll)
    | fail)
  go_loopw [5, 23] (fun vs vi wr => WdL w1 L vs vi wr) (fun _ vi _ => M - (intOf vi).toNat)
  case atStart => exact ⟨0, Nat.zero_le _, rfl, rfl, Below.refl _ _⟩
  case round =>
    obtain ⟨i, hi, rfl, rfl, hbr⟩ := hrel
    rename World => wr
    obtain ⟨hsum, hlt⟩ := HS.out
    by_cases hin : i < M
    · have hii : (i : Int) < (M : Int) := by omega
      obtain ⟨lb, lo, rfl, hcell⟩ := hcel (by omega)
      have c0 := keep_cell (hcell i hin) hbr
      have hle := hlt i
      have hlk := lack_takeW (m := 15) (i := i) (l := L) (by omega)
      have hs1 := hsum i (by omega)
      have hs2 := hsum (i + 1) (by omega)
      generalize el L i = x at *
      obtain ⟨S0, hS0⟩ : ∃ S0, lackL 15 (L.take i) = S0 := ⟨_, rfl⟩
      obtain ⟨S1, hS1⟩ : ∃ S1, lackL 15 (L.take (i + 1)) = S1 := ⟨_, rfl⟩
      obtain ⟨Q, hQ⟩ : ∃ Q, i + 1 = Q := ⟨_, rfl⟩
      obtain ⟨X, hX⟩ : ∃ X : Nat, 15 - x = X := ⟨_, rfl⟩
      rw [hS0] at hlk hs1 ⊢
      rw [hS1] at hlk hs2
      have e_X : 15 - (x : Int) = (X : Int) := by omega
      have s_X : IntKind.u32.wrap (X : Int) = (X : Int) := by rw [IntKind.wrap_u32]; omega
      have u_X : IntKind.u64.wrap (X : Int) = (X : Int) := by rw [IntKind.wrap_u64]; omega
      have e_S : (S0 : Int) + (X : Int) = (S1 : Int) := by omega
      have s_S : IntKind.u64.wrap (S1 : Int) = (S1 : Int) := by rw [IntKind.wrap_u64]; omega
      have e_Q : (i : Int) + 1 = (Q : Int) := by omega
      have s_Q : IntKind.i64.wrap (Q : Int) = (Q : Int) := by rw [IntKind.wrap_i64]; omega
      have HK := hide (And.intro hQ (And.intro hS1 (And.intro hbr hin)))
      clear hlk hs1 hs2 hS0 hX hQ hS1 hbr hle hi hsum hlt hin hcel
      go_wp2
      obtain ⟨hQ, hS1, hbr, hin⟩ := HK.out
      exact ⟨⟨Q, by omega, rfl, by rw [← hQ, hS1], hbr⟩, by simp [intOf]; omega⟩
    · obtain rfl : i = M := by omega
      have hge : ¬ ((i : Int) < (i : Int)) := by omega
      rw [List.take_of_length_le (by omega)]
      obtain ⟨hC, hSH, hchl⟩ := HC.out
      rw [← hC]
      have e_SH : (C : Int) * 16 = (SH : Int) := by omega
      have e_SH2 : (C : Int) * 2 ^ 4 = (SH : Int) := by rw [← e_SH]; rfl
      have s_SH : IntKind.u64.wrap (SH : Int) = (SH : Int) := by rw [IntKind.wrap_u64]; omega
      have kw := keep_trans hb1 hbr
      have rd := HD.out.1.below kw
      have tdd := HD.out.2
      clear hC hSH hchl HC hsum hlt HS HD hdig hcel o1
      go_wp2_with (first
        | (go_at_call 10; refine (hb2 _).mono ?_; rintro e w2 ⟨v2, rfl, o2, hb3⟩; have tB := own_tidyG o2; have rB := o2.row; obtain ⟨ba, bc, rfl, _⟩ := rB.opens h2l; have rr := rows_twoW (rd.below hb3) tdd rB tB)
        | (go_at_call 9; refine (hjn _ _ rr).mono ?_; rintro e w3 ⟨v3, rfl, o3, hb4⟩; obtain ⟨ja, jc, rfl, _⟩ := o3.row.opens hJl; have rj := o3.row)
        | (go_at_call 11; refine (hct _).mono ?_; rintro e w4 ⟨rfl, hx⟩; obtain rfl := hx.symm)
        | (go_at_call 8; refine (hdg2 _ _ rj).mono ?_; rintro e w5 ⟨v5, rfl, o5, hb5⟩)
        | fail)
      go_ret
      have k3 := keep_trans (keep_trans kw hb3) (keep_trans (keep_alloc _ _) hb4)
      exact ⟨_, rfl, o5.mono k3.size, keep_trans k3 hb5⟩
end Go.Proofs.Ytpmobjfhhkglbaa
