/- Chapter 12's example, by the kernel. -/
import Derived.Test.YtjeofkemfpdieaaABl
import Derived.Test.YtjeofkemfpdieaaWrM
import Derived.KernelRfl
import Derived.Test.YtjeofkemfpdieaaQcE
namespace Go.Proofs.Ytjeofkemfpdieaa
set_option linter.unusedVariables false
set_option maxRecDepth 1000000

def ksY : List Nat := [0, 0, 0, 0, 0, 0, 0, 0, 0, 0, 0, 0, 0, 0, 0, 0, 98, 99, 99, 99, 98, 99, 99, 99, 98, 99, 99, 99, 98, 99, 99, 99, 155, 152, 152, 201, 249, 251, 251, 170, 155, 152, 152, 201, 249, 251, 251, 170, 144, 151, 52, 80, 105, 108, 207, 250, 242, 244, 87, 51, 11, 15, 172, 153, 238, 6, 218, 123, 135, 106, 21, 129, 117, 158, 66, 178, 126, 145, 238, 43, 127, 46, 43, 136, 248, 68, 62, 9, 141, 218, 124, 187, 243, 75, 146, 144, 236, 97, 75, 133, 20, 37, 117, 140, 153, 255, 9, 55, 106, 180, 155, 167, 33, 117, 23, 135, 53, 80, 98, 11, 172, 175, 107, 60, 198, 27, 240, 155, 14, 249, 3, 51, 59, 169, 97, 56, 151, 6, 10, 4, 81, 29, 250, 159, 177, 212, 216, 226, 138, 125, 185, 218, 29, 123, 179, 222, 76, 102, 73, 65, 180, 239, 91, 203, 62, 146, 226, 17, 35, 233, 81, 207, 111, 143, 24, 142]
def btY : List Nat := [99, 124, 119, 123, 242, 107, 111, 197, 48, 1, 103, 43, 254, 215, 171, 118, 202, 130, 201, 125, 250, 89, 71, 240, 173, 212, 162, 175, 156, 164, 114, 192, 183, 253, 147, 38, 54, 63, 247, 204, 52, 165, 229, 241, 113, 216, 49, 21, 4, 199, 35, 195, 24, 150, 5, 154, 7, 18, 128, 226, 235, 39, 178, 117, 9, 131, 44, 26, 27, 110, 90, 160, 82, 59, 214, 179, 41, 227, 47, 132, 83, 209, 0, 237, 32, 252, 177, 91, 106, 203, 190, 57, 74, 76, 88, 207, 208, 239, 170, 251, 67, 77, 51, 133, 69, 249, 2, 127, 80, 60, 159, 168, 81, 163, 64, 143, 146, 157, 56, 245, 188, 182, 218, 33, 16, 255, 243, 210, 205, 12, 19, 236, 95, 151, 68, 23, 196, 167, 126, 61, 100, 93, 25, 115, 96, 129, 79, 220, 34, 42, 144, 136, 70, 238, 184, 20, 222, 94, 11, 219, 224, 50, 58, 10, 73, 6, 36, 92, 194, 211, 172, 98, 145, 149, 228, 121, 231, 200, 55, 109, 141, 213, 78, 169, 108, 86, 244, 234, 101, 122, 174, 8, 186, 120, 37, 46, 28, 166, 180, 198, 232, 221, 116, 31, 75, 189, 139, 138, 112, 62, 181, 102, 72, 3, 246, 14, 97, 53, 87, 185, 134, 193, 29, 158, 225, 248, 152, 17, 105, 217, 142, 148, 155, 30, 135, 233, 206, 85, 40, 223, 140, 161, 137, 13, 191, 230, 66, 104, 65, 153, 45, 15, 176, 84, 187, 22]
theorem ksY_is : keysL (List.replicate 16 0) = ksY := of_decide_eq_true (by kernel_rfl)
theorem btY_is : boxT = btY := of_decide_eq_true (by kernel_rfl)
/-- a block there, over whatever table -/
def thG (U : List Nat) (n : Nat) (w : List Nat) : Nat → List Nat → List Nat
  | 0, s => keyAt w 0 s
  | r + 1, s => keyAt w (r + 1) (if r + 1 < n then colsL 2 3 1 1 (rowsL (eachL U (thG U n w r s))) else rowsL (eachL U (thG U n w r s)))
theorem thG_is (n : Nat) (w : List Nat) : ∀ r s, thN n w r s = thG boxT n w r s
  | 0, s => rfl
  | r + 1, s => by
    show stepT n w (r + 1) (thN n w r s) = _
    rw [thG_is n w r]
    rfl
theorem one_ex : blkA (List.replicate 16 0) (cntB (List.replicate 12 0) 1) = [88, 226, 252, 206, 250, 126, 48, 97, 54, 127, 29, 87, 164, 231, 69, 90] := by
  unfold blkA
  rw [ksY_is, thG_is, btY_is]
  exact of_decide_eq_true (by kernel_rfl)
theorem gh_zero {h : List Nat} : ghL h z16 = z16 := by
  show mulP (xr2 z16 (blkOf z16 0)) h = z16
  have e : xr2 z16 (blkOf z16 0) = z16 := by decide
  rw [e]
  unfold mulP
  have p0 : polB z16 = 0 := by decide
  rw [p0, mulG_zero]
  decide
/-- nothing sealed by 0 -/
theorem seal_ex : sealL (blkA (List.replicate 16 0)) (List.replicate 12 0) [] [] = [88, 226, 252, 206, 250, 126, 48, 97, 54, 127, 29, 87, 164, 231, 69, 90] := by
  have e0 : xst (blkA (List.replicate 16 0)) (List.replicate 12 0) [] = [] := rfl
  show xst (blkA (List.replicate 16 0)) (List.replicate 12 0) [] ++ tagL _ _ [] (xst (blkA (List.replicate 16 0)) (List.replicate 12 0) []) = _
  rw [e0, List.nil_append]
  unfold tagL
  rw [one_ex, show fil0 [] ++ fil0 [] ++ (be8 (8 * ([] : List Nat).length) ++ be8 (8 * ([] : List Nat).length)) = z16 by decide, gh_zero]
  decide
theorem open_ex : openO (blkA (List.replicate 16 0)) (List.replicate 12 0) [] (List.replicate 16 0) = none := by
  have h := seal_ex
  have e0 : xst (blkA (List.replicate 16 0)) (List.replicate 12 0) [] = [] := rfl
  have h2 : tagL (blkA (List.replicate 16 0)) (List.replicate 12 0) [] [] = [88, 226, 252, 206, 250, 126, 48, 97, 54, 127, 29, 87, 164, 231, 69, 90] := by
    have : sealL (blkA (List.replicate 16 0)) (List.replicate 12 0) [] [] = xst (blkA (List.replicate 16 0)) (List.replicate 12 0) [] ++ tagL (blkA (List.replicate 16 0)) (List.replicate 12 0) [] (xst (blkA (List.replicate 16 0)) (List.replicate 12 0) []) := rfl
    rw [this, e0, List.nil_append] at h
    exact h
  unfold openO
  rw [show (List.replicate 16 0 : List Nat).take ((List.replicate 16 0 : List Nat).length - 16) = [] by decide, h2, if_neg (by decide)]
end Go.Proofs.Ytjeofkemfpdieaa

/- What the laws of sealed texts share: few, awake. -/
namespace Go.Proofs.Ytjeofkemfpdieaa
open Go.RowKit
set_option linter.unusedVariables false
set_option linter.unusedSimpArgs false

set_option maxHeartbeats 2000000 in
set_option maxRecDepth 100000 in
theorem fewQ (g N : Nat) (len cp : Nat → Nat) (ad : Nat → Option Addr) (w : World) (hN : N ≤ 10) (hc : ∀ i, i < N → w.cell? ⟨g, i, none⟩ = some (.slice (ad i) (len i) (cp i))) :
    Calls Try.prog 7 #[.slice (some ⟨g, 0, none⟩) N N] w fun e w' => e = .returned (.bool (decide (∀ i, i < N → len i ≤ 100))) ∧ w' = w := by
  go_enter Try.func7, Try.ntmps7
  go_wp2
  go_loop [7] (fun i => ∃ k : Nat, k ≤ N ∧ i = .int .i64 k ∧ Hid (∀ j, j < k → len j ≤ 100)) (fun i => N - (intOf i).toNat)
  case atStart => exact ⟨0, Nat.zero_le _, rfl, hide (fun j hj => by omega)⟩
  case round =>
    obtain ⟨k, hk, rfl, HA⟩ := hrel
    by_cases hlt : k < N
    · have hcell := hc k hlt
      have hkN : (k : Int) < (N : Int) := by omega
      have z_k : (0 : Int) ≤ (k : Int) := Int.natCast_nonneg _
      obtain ⟨Q, hQ⟩ : ∃ x : Nat, x = k + 1 := ⟨_, rfl⟩
      have e_Q : (k : Int) + 1 = (Q : Int) := by omega
      have s_Q : IntKind.i64.wrap (Q : Int) = (Q : Int) := by rw [IntKind.wrap_i64]; omega
      by_cases hl : 100 < len k
      · have g1 : (100 : Int) < (len k : Int) := by omega
        have g2 : (len k : Int) > 100 := by omega
        have hd : decide (∀ i, i < N → len i ≤ 100) = false := decide_eq_false fun h => by have := h k hlt; omega
        have HD := hide hd
        clear hc hd hQ
        obtain ⟨n, hn⟩ : ∃ n, n = len k := ⟨_, rfl⟩
        rw [← hn] at hcell g1 g2
        generalize ad k = aa at *
        generalize cp k = cc at *
        go_wp2
        go_ret
        exact ⟨by rw [HD.out]; rfl, rfl⟩
      · have g1 : ¬ (100 : Int) < (len k : Int) := by omega
        have g2 : ¬ (len k : Int) > 100 := by omega
        have HB : Hid (∀ j, j < k + 1 → len j ≤ 100) := hide fun j hj => by
          by_cases e : j = k
          · rw [e]; omega
          · exact HA.out j (by omega)
        have HQ := hide hQ
        clear hc hQ
        obtain ⟨n, hn⟩ : ∃ n, n = len k := ⟨_, rfl⟩
        rw [← hn] at hcell g1 g2
        generalize ad k = aa at *
        generalize cp k = cc at *
        go_wp2
        go_round
        case rel => exact ⟨k + 1, by omega, vint (by have := HQ.out; omega), HB⟩
        case measure => have := HQ.out; simp [intOf]; omega
    · obtain rfl : k = N := by omega
      have hd : decide (∀ i, i < k → len i ≤ 100) = true := decide_eq_true HA.out
      have hge : ¬ ((k : Int) < (k : Int)) := by omega
      have HD := hide hd
      clear hc hd
      go_wp2
      go_ret
      exact ⟨by rw [HD.out]; rfl, rfl⟩
section
variable {ops : Array Oper} {Q : Exit → Act → World → Prop} {K : Act → World → Prop}
theorem p_makeQ {i : Nat} {o : Oper} {a : Act} {w : World} {d : Option Nat} (n : Nat) (hi : ops[i]? = some o) (hg : o.guard = none) (ho : o.op = .makeSlice 22 (.const (.int .i64 (n : Int))) (.const (.int .i64 (n : Int)))) (hd : o.dst = d) (hn : n ≤ 1000000)
    (h : ∀ w', Own 5 .u8 256 w' w.heap.size (.slice (some ⟨w.heap.size, 0, none⟩) n n) (List.replicate n 0) → Below w.heap.size w w' → K (a.put d (.slice (some ⟨w.heap.size, 0, none⟩) n n)) w') : wpOp Try.prog ops Q i K a w := by
  obtain ⟨i0, hi0, hz0, hz1, hz2⟩ := info_byte
  obtain ⟨w', hrun, r1, r2⟩ := run_make_full (P := Try.prog) (w := w) w.heap.size 22 5 i0 (.int .u8 0) 1 Try.underlying22 hi0 hz0 hz1 .i64 .i64 n (by rw [hz2]; omega) (by unfold maxLen; omega) (Nat.le_refl _)
  rw [made_u8] at r1
  unfold wpOp
  simp only [hi]
  rw [if_pos (wanted_free hg)]
  left
  have he : (execOp a.eval o).run Try.prog w = .ok (.value (.slice (some ⟨w.heap.size, 0, none⟩) n n)) w' := by
    unfold execOp
    simp only [ho, ev_const]
    simp [hrun, Result.andThen, Sem.run_bind]
  unfold Oper.wp
  rw [he]
  show K (a.put o.dst _) w'
  rw [hd]
  exact h w' ⟨by rw [List.length_replicate]; exact r1, Under.replicate 256 n (by decide)⟩ ((Below.refl w.heap.size w).grown r2 (Nat.le_refl _) (fun k h => by cases h))
end
def aw1lt : List Lt := [(0, some 6, []), (0, some 7, []), (3, some 8, [6, 7]), (4, some 5, [8]), (8, some 9, [5]), (8, some 10, [5]), (31, some 1, [9]), (127, some 2, [10])]
theorem aw1reg : Reg (opsA (cLA (cRA (Try.f8.body.getD .skip)))) aw1lt := ⟨by kernel_rfl, by kernel_rfl⟩
set_option maxHeartbeats 4000000 in
set_option maxRecDepth 100000 in
theorem aw_reg1 (Q : Exit → Act → World → Prop) (x0 x1 x2 x3 x4 x5 x6 x7 x8 x9 x10 x11 x12 x13 x14 x15 x16 x17 x18 x19 x20 x21 x22 x23 x24 x25 x26 x27 x28 x29 x30 x31 x32 x33 x34 : Value) (se : List Nat) (W : World)
    (hse : ∀ (kv nv : Value) (y : World), Row .u8 256 y kv (List.replicate 16 0) → Row .u8 256 y nv (List.replicate 12 0) → Calls Try.prog 14 #[kv, nv, .slice none 0 0, .slice none 0 0] y fun e y' => ∃ v, e = .returned (.tuple #[v, .int .i64 0]) ∧ Row .u8 256 y' v se ∧ Below y.heap.size y y')
    (hQ : ∀ (y5 y6 y7 y8 v y10 : Value) (z : World), Row .u8 256 z v se → Below W.heap.size W z → Q .normal { tmps := #[x0, v, .int .i64 0, x3, x4, y5, y6, y7, y8, v, y10, x11, x12, x13, x14, x15, x16, x17, x18, x19, x20, x21, x22, x23, x24, x25, x26, x27, x28, x29, x30, x31, x32, x33, x34], defers := [] } z) :
    (Code.region 1 (opsA (cLA (cRA (Try.f8.body.getD .skip)))) true).wp Try.prog Q { tmps := #[x0, x1, x2, x3, x4, x5, x6, x7, x8, x9, x10, x11, x12, x13, x14, x15, x16, x17, x18, x19, x20, x21, x22, x23, x24, x25, x26, x27, x28, x29, x30, x31, x32, x33, x34], defers := [] } W := by
  have hbd : Below W.heap.size W W.drew := (Below.refl _ _).drew
  have hK : ∀ (g0 g1 : Nat) (z : World), Row .u8 256 z (.slice (some ⟨g0, 0, none⟩) 16 16) (List.replicate 16 0) → Row .u8 256 z (.slice (some ⟨g1, 0, none⟩) 12 12) (List.replicate 12 0) → Below W.heap.size W z → At Try.prog (opsA (cLA (cRA (Try.f8.body.getD .skip)))) Q (fun _ => True) 6 3 { tmps := #[x0, x1, x2, x3, x4, x5, .slice (some ⟨g0, 0, none⟩) 16 16, .slice (some ⟨g1, 0, none⟩) 12 12, x8, x9, x10, x11, x12, x13, x14, x15, x16, x17, x18, x19, x20, x21, x22, x23, x24, x25, x26, x27, x28, x29, x30, x31, x32, x33, x34], defers := [] } z := by
    intro g0 g1 z r0 r1 hz
    refine at_one (i := 2) (m' := 7) aw1reg (by decide) rfl ?_
    refine p_call4Q (u := .slice (some ⟨g0, 0, none⟩) 16 16) (v := .slice (some ⟨g1, 0, none⟩) 12 12) (t := .slice none 0 0) (r := .slice none 0 0) (d := some 8) rfl rfl rfl rfl rfl rfl rfl rfl Try.call14 ((hse _ _ _ r0 r1).mono ?_)
    rintro e z1 ⟨v, rfl, rv, hb1⟩
    refine ⟨_, rfl, trivial, ?_⟩
    simp only [Act.put, List.setIfInBounds_toArray, List.set_cons_zero, List.set_cons_succ]
    refine at_takeD (i := 3) (m' := 15) (d := some 5) (v := .tuple #[v, .int .i64 0]) aw1reg rfl (by decide) rfl rfl (y_move rfl rfl rfl) trivial ?_
    simp only [Act.put, List.setIfInBounds_toArray, List.set_cons_zero, List.set_cons_succ]
    refine at_takeD (i := 4) (m' := 31) (d := some 9) (v := v) aw1reg rfl (by decide) rfl rfl (y_extract rfl rfl rfl rfl) trivial ?_
    simp only [Act.put, List.setIfInBounds_toArray, List.set_cons_zero, List.set_cons_succ]
    refine at_takeD (i := 5) (m' := 63) (d := some 10) (v := .int .i64 0) aw1reg rfl (by decide) rfl rfl (y_extract rfl rfl rfl rfl) trivial ?_
    simp only [Act.put, List.setIfInBounds_toArray, List.set_cons_zero, List.set_cons_succ]
    refine at_takeD (i := 6) (m' := 127) (d := some 1) (v := v) aw1reg rfl (by decide) rfl rfl (y_assignA rfl rfl rfl) trivial ?_
    simp only [Act.put, List.setIfInBounds_toArray, List.set_cons_zero, List.set_cons_succ]
    refine at_takeD (i := 7) (m' := 255) (d := some 2) (v := .int .i64 0) aw1reg rfl (by decide) rfl rfl (y_assignA rfl rfl rfl) trivial ?_
    simp only [Act.put, List.setIfInBounds_toArray, List.set_cons_zero, List.set_cons_succ]
    refine at_done aw1reg (by decide) ?_
    exact hQ _ _ _ _ _ _ _ rv (keep_trans hz hb1)
  refine at_begin (ops := (opsA (cLA (cRA (Try.f8.body.getD .skip))))) (n := 8) (fun _ => True) (by kernel_rfl) (by kernel_rfl) ?_
  refine at_two (i := 0) (j := 1) (m1 := 1) (m2 := 2) aw1reg (by decide) rfl rfl ?_ ?_
  · refine p_makeQ (d := some 6) 16 rfl rfl rfl rfl (by decide) ?_
    intro m0w m0o m0b
    refine ⟨trivial, ?_⟩
    simp only [Act.put, List.setIfInBounds_toArray, List.set_cons_zero, List.set_cons_succ]
    refine at_one (i := 1) (m' := 3) aw1reg (by decide) rfl ?_
    refine p_makeQ (d := some 7) 12 rfl rfl rfl rfl (by decide) ?_
    intro m1w m1o m1b
    refine ⟨trivial, ?_⟩
    simp only [Act.put, List.setIfInBounds_toArray, List.set_cons_zero, List.set_cons_succ]
    exact hK _ _ _ ((m0o.row).below m1b) (m1o.row) (keep_trans (keep_trans (hbd) m0b) m1b)
  · refine p_makeQ (d := some 7) 12 rfl rfl rfl rfl (by decide) ?_
    intro m1w m1o m1b
    refine ⟨trivial, ?_⟩
    simp only [Act.put, List.setIfInBounds_toArray, List.set_cons_zero, List.set_cons_succ]
    refine at_one (i := 0) (m' := 3) aw1reg (by decide) rfl ?_
    refine p_makeQ (d := some 6) 16 rfl rfl rfl rfl (by decide) ?_
    intro m0w m0o m0b
    refine ⟨trivial, ?_⟩
    simp only [Act.put, List.setIfInBounds_toArray, List.set_cons_zero, List.set_cons_succ]
    exact hK _ _ _ (m0o.row) ((m1o.row).below m0b) (keep_trans (keep_trans (hbd) m1b) m0b)
def aw2lt : List Lt := [(0, some 12, []), (0, some 13, []), (0, some 14, []), (7, some 15, [12, 13, 14]), (8, some 11, [15]), (16, some 16, [11]), (16, some 17, [11]), (63, some 3, [16]), (255, some 4, [17])]
theorem aw2reg : Reg (opsA (cLA (cRA (cRA (Try.f8.body.getD .skip))))) aw2lt := ⟨by kernel_rfl, by kernel_rfl⟩
set_option maxHeartbeats 4000000 in
set_option maxRecDepth 100000 in
theorem aw_reg2 (Q : Exit → Act → World → Prop) (x0 x1 x2 x3 x4 x5 x6 x7 x8 x9 x10 x11 x12 x13 x14 x15 x16 x17 x18 x19 x20 x21 x22 x23 x24 x25 x26 x27 x28 x29 x30 x31 x32 x33 x34 : Value) (W : World)
    (hop : ∀ (kv nv cv : Value) (y : World), Row .u8 256 y kv (List.replicate 16 0) → Row .u8 256 y nv (List.replicate 12 0) → Row .u8 256 y cv (List.replicate 16 0) → Calls Try.prog 16 #[kv, nv, .slice none 0 0, cv] y fun e y' => ∃ v, e = .returned (.tuple #[v, .int .i64 17]) ∧ Below y.heap.size y y')
    (hQ : ∀ (y3 y11 y12 y13 y14 y15 y16 y17 : Value) (z : World), Below W.heap.size W z → Q .normal { tmps := #[x0, x1, x2, y3, .int .i64 17, x5, x6, x7, x8, x9, x10, y11, y12, y13, y14, y15, y16, y17, x18, x19, x20, x21, x22, x23, x24, x25, x26, x27, x28, x29, x30, x31, x32, x33, x34], defers := [] } z) :
    (Code.region 2 (opsA (cLA (cRA (cRA (Try.f8.body.getD .skip))))) true).wp Try.prog Q { tmps := #[x0, x1, x2, x3, x4, x5, x6, x7, x8, x9, x10, x11, x12, x13, x14, x15, x16, x17, x18, x19, x20, x21, x22, x23, x24, x25, x26, x27, x28, x29, x30, x31, x32, x33, x34], defers := [] } W := by
  have hbd : Below W.heap.size W W.drew := (Below.refl _ _).drew
  have hK : ∀ (g0 g1 g2 : Nat) (z : World), Row .u8 256 z (.slice (some ⟨g0, 0, none⟩) 16 16) (List.replicate 16 0) → Row .u8 256 z (.slice (some ⟨g1, 0, none⟩) 12 12) (List.replicate 12 0) → Row .u8 256 z (.slice (some ⟨g2, 0, none⟩) 16 16) (List.replicate 16 0) → Below W.heap.size W z → At Try.prog (opsA (cLA (cRA (cRA (Try.f8.body.getD .skip))))) Q (fun _ => True) 6 7 { tmps := #[x0, x1, x2, x3, x4, x5, x6, x7, x8, x9, x10, x11, .slice (some ⟨g0, 0, none⟩) 16 16, .slice (some ⟨g1, 0, none⟩) 12 12, .slice (some ⟨g2, 0, none⟩) 16 16, x15, x16, x17, x18, x19, x20, x21, x22, x23, x24, x25, x26, x27, x28, x29, x30, x31, x32, x33, x34], defers := [] } z := by
    intro g0 g1 g2 z r0 r1 r2 hz
    refine at_one (i := 3) (m' := 15) aw2reg (by decide) rfl ?_
    refine p_call4Q (u := .slice (some ⟨g0, 0, none⟩) 16 16) (v := .slice (some ⟨g1, 0, none⟩) 12 12) (t := .slice none 0 0) (r := .slice (some ⟨g2, 0, none⟩) 16 16) (d := some 15) rfl rfl rfl rfl rfl rfl rfl rfl Try.call16 ((hop _ _ _ _ r0 r1 r2).mono ?_)
    rintro e z1 ⟨v, rfl, hb1⟩
    refine ⟨_, rfl, trivial, ?_⟩
    simp only [Act.put, List.setIfInBounds_toArray, List.set_cons_zero, List.set_cons_succ]
    refine at_takeD (i := 4) (m' := 31) (d := some 11) (v := .tuple #[v, .int .i64 17]) aw2reg rfl (by decide) rfl rfl (y_move rfl rfl rfl) trivial ?_
    simp only [Act.put, List.setIfInBounds_toArray, List.set_cons_zero, List.set_cons_succ]
    refine at_takeD (i := 5) (m' := 63) (d := some 16) (v := v) aw2reg rfl (by decide) rfl rfl (y_extract rfl rfl rfl rfl) trivial ?_
    simp only [Act.put, List.setIfInBounds_toArray, List.set_cons_zero, List.set_cons_succ]
    refine at_takeD (i := 6) (m' := 127) (d := some 17) (v := .int .i64 17) aw2reg rfl (by decide) rfl rfl (y_extract rfl rfl rfl rfl) trivial ?_
    simp only [Act.put, List.setIfInBounds_toArray, List.set_cons_zero, List.set_cons_succ]
    refine at_takeD (i := 7) (m' := 255) (d := some 3) (v := v) aw2reg rfl (by decide) rfl rfl (y_assignA rfl rfl rfl) trivial ?_
    simp only [Act.put, List.setIfInBounds_toArray, List.set_cons_zero, List.set_cons_succ]
    refine at_takeD (i := 8) (m' := 511) (d := some 4) (v := .int .i64 17) aw2reg rfl (by decide) rfl rfl (y_assignA rfl rfl rfl) trivial ?_
    simp only [Act.put, List.setIfInBounds_toArray, List.set_cons_zero, List.set_cons_succ]
    refine at_done aw2reg (by decide) ?_
    exact hQ _ _ _ _ _ _ _ _ _ (keep_trans hz hb1)
  refine at_begin (ops := (opsA (cLA (cRA (cRA (Try.f8.body.getD .skip)))))) (n := 9) (fun _ => True) (by kernel_rfl) (by kernel_rfl) ?_
  refine at_three8 (i := 0) (j := 1) (k := 2) (m1 := 1) (m2 := 2) (m3 := 4) aw2reg (by decide) rfl rfl rfl ?_ ?_ ?_
  · refine p_makeQ (d := some 12) 16 rfl rfl rfl rfl (by decide) ?_
    intro m0w m0o m0b
    refine ⟨trivial, ?_⟩
    simp only [Act.put, List.setIfInBounds_toArray, List.set_cons_zero, List.set_cons_succ]
    refine at_two (i := 1) (j := 2) (m1 := 3) (m2 := 5) aw2reg (by decide) rfl rfl ?_ ?_
    · refine p_makeQ (d := some 13) 12 rfl rfl rfl rfl (by decide) ?_
      intro m1w m1o m1b
      refine ⟨trivial, ?_⟩
      simp only [Act.put, List.setIfInBounds_toArray, List.set_cons_zero, List.set_cons_succ]
      refine at_one (i := 2) (m' := 7) aw2reg (by decide) rfl ?_
      refine p_makeQ (d := some 14) 16 rfl rfl rfl rfl (by decide) ?_
      intro m2w m2o m2b
      refine ⟨trivial, ?_⟩
      simp only [Act.put, List.setIfInBounds_toArray, List.set_cons_zero, List.set_cons_succ]
      exact hK _ _ _ _ (((m0o.row).below m1b).below m2b) ((m1o.row).below m2b) (m2o.row) (keep_trans (keep_trans (keep_trans (hbd) m0b) m1b) m2b)
    · refine p_makeQ (d := some 14) 16 rfl rfl rfl rfl (by decide) ?_
      intro m2w m2o m2b
      refine ⟨trivial, ?_⟩
      simp only [Act.put, List.setIfInBounds_toArray, List.set_cons_zero, List.set_cons_succ]
      refine at_one (i := 1) (m' := 7) aw2reg (by decide) rfl ?_
      refine p_makeQ (d := some 13) 12 rfl rfl rfl rfl (by decide) ?_
      intro m1w m1o m1b
      refine ⟨trivial, ?_⟩
      simp only [Act.put, List.setIfInBounds_toArray, List.set_cons_zero, List.set_cons_succ]
      exact hK _ _ _ _ (((m0o.row).below m2b).below m1b) (m1o.row) ((m2o.row).below m1b) (keep_trans (keep_trans (keep_trans (hbd) m0b) m2b) m1b)
  · refine p_makeQ (d := some 13) 12 rfl rfl rfl rfl (by decide) ?_
    intro m1w m1o m1b
    refine ⟨trivial, ?_⟩
    simp only [Act.put, List.setIfInBounds_toArray, List.set_cons_zero, List.set_cons_succ]
    refine at_two (i := 0) (j := 2) (m1 := 3) (m2 := 6) aw2reg (by decide) rfl rfl ?_ ?_
    · refine p_makeQ (d := some 12) 16 rfl rfl rfl rfl (by decide) ?_
      intro m0w m0o m0b
      refine ⟨trivial, ?_⟩
      simp only [Act.put, List.setIfInBounds_toArray, List.set_cons_zero, List.set_cons_succ]
      refine at_one (i := 2) (m' := 7) aw2reg (by decide) rfl ?_
      refine p_makeQ (d := some 14) 16 rfl rfl rfl rfl (by decide) ?_
      intro m2w m2o m2b
      refine ⟨trivial, ?_⟩
      simp only [Act.put, List.setIfInBounds_toArray, List.set_cons_zero, List.set_cons_succ]
      exact hK _ _ _ _ ((m0o.row).below m2b) (((m1o.row).below m0b).below m2b) (m2o.row) (keep_trans (keep_trans (keep_trans (hbd) m1b) m0b) m2b)
    · refine p_makeQ (d := some 14) 16 rfl rfl rfl rfl (by decide) ?_
      intro m2w m2o m2b
      refine ⟨trivial, ?_⟩
      simp only [Act.put, List.setIfInBounds_toArray, List.set_cons_zero, List.set_cons_succ]
      refine at_one (i := 0) (m' := 7) aw2reg (by decide) rfl ?_
      refine p_makeQ (d := some 12) 16 rfl rfl rfl rfl (by decide) ?_
      intro m0w m0o m0b
      refine ⟨trivial, ?_⟩
      simp only [Act.put, List.setIfInBounds_toArray, List.set_cons_zero, List.set_cons_succ]
      exact hK _ _ _ _ (m0o.row) (((m1o.row).below m2b).below m0b) ((m2o.row).below m0b) (keep_trans (keep_trans (keep_trans (hbd) m1b) m2b) m0b)
  · refine p_makeQ (d := some 14) 16 rfl rfl rfl rfl (by decide) ?_
    intro m2w m2o m2b
    refine ⟨trivial, ?_⟩
    simp only [Act.put, List.setIfInBounds_toArray, List.set_cons_zero, List.set_cons_succ]
    refine at_two (i := 0) (j := 1) (m1 := 5) (m2 := 6) aw2reg (by decide) rfl rfl ?_ ?_
    · refine p_makeQ (d := some 12) 16 rfl rfl rfl rfl (by decide) ?_
      intro m0w m0o m0b
      refine ⟨trivial, ?_⟩
      simp only [Act.put, List.setIfInBounds_toArray, List.set_cons_zero, List.set_cons_succ]
      refine at_one (i := 1) (m' := 7) aw2reg (by decide) rfl ?_
      refine p_makeQ (d := some 13) 12 rfl rfl rfl rfl (by decide) ?_
      intro m1w m1o m1b
      refine ⟨trivial, ?_⟩
      simp only [Act.put, List.setIfInBounds_toArray, List.set_cons_zero, List.set_cons_succ]
      exact hK _ _ _ _ ((m0o.row).below m1b) (m1o.row) (((m2o.row).below m0b).below m1b) (keep_trans (keep_trans (keep_trans (hbd) m2b) m0b) m1b)
    · refine p_makeQ (d := some 13) 12 rfl rfl rfl rfl (by decide) ?_
      intro m1w m1o m1b
      refine ⟨trivial, ?_⟩
      simp only [Act.put, List.setIfInBounds_toArray, List.set_cons_zero, List.set_cons_succ]
      refine at_one (i := 0) (m' := 7) aw2reg (by decide) rfl ?_
      refine p_makeQ (d := some 12) 16 rfl rfl rfl rfl (by decide) ?_
      intro m0w m0o m0b
      refine ⟨trivial, ?_⟩
      simp only [Act.put, List.setIfInBounds_toArray, List.set_cons_zero, List.set_cons_succ]
      exact hK _ _ _ _ (m0o.row) ((m1o.row).below m0b) (((m2o.row).below m1b).below m0b) (keep_trans (keep_trans (keep_trans (hbd) m2b) m1b) m0b)
theorem row_nilQ (y : World) : Row .u8 256 y (.slice none 0 0) [] := ⟨none, 0, rfl, Nat.le_refl _, by unfold maxLen; decide, fun h => absurd h (by decide), fun x hx => by simp at hx⟩
theorem th_blk (key : List Nat) : thA' key = blkA key := rfl
theorem cip_T (key : List Nat) (hu : Under 256 key) : ∀ s, B16 s → B16 (thA' key s) := fun s hs => thA'_b hu hs
theorem aw_se {kv nv : Value} {y : World} (rk : Row .u8 256 y kv (List.replicate 16 0)) (rn : Row .u8 256 y nv (List.replicate 12 0)) : Calls Try.prog 14 #[kv, nv, .slice none 0 0, .slice none 0 0] y fun e y' => ∃ v, e = .returned (.tuple #[v, .int .i64 0]) ∧ Row .u8 256 y' v [88, 226, 252, 206, 250, 126, 48, 97, 54, 127, 29, 87, 164, 231, 69, 90] ∧ Below y.heap.size y y' := by
  have hC := cip_of _ kv y rk (by unfold Sz3; rw [List.length_replicate]; decide)
  have hT := cip_T _ rk.under
  obtain ⟨ka, kc, rfl, _⟩ := rk.opens (N := 16) (List.length_replicate ..)
  have h := seQ_of _ hT (List.replicate 12 0) [] [] ka 16 kc nv _ _ y hC (.inl rfl) rn (List.length_replicate ..) (row_nilQ y) (by decide) (row_nilQ y) (by decide)
  rw [th_blk, seal_ex] at h
  exact h.mono fun e y' ⟨v, h1, h2, h3⟩ => ⟨v, h1, h2.row, h3⟩
theorem aw_op {kv nv cv : Value} {y : World} (rk : Row .u8 256 y kv (List.replicate 16 0)) (rn : Row .u8 256 y nv (List.replicate 12 0)) (rc : Row .u8 256 y cv (List.replicate 16 0)) : Calls Try.prog 16 #[kv, nv, .slice none 0 0, cv] y fun e y' => ∃ v, e = .returned (.tuple #[v, .int .i64 17]) ∧ Below y.heap.size y y' := by
  have hC := cip_of _ kv y rk (by unfold Sz3; rw [List.length_replicate]; decide)
  have hT := cip_T _ rk.under
  obtain ⟨ka, kc, rfl, _⟩ := rk.opens (N := 16) (List.length_replicate ..)
  have h := opQ_of _ hT (List.replicate 12 0) [] (List.replicate 16 0) ka 16 kc nv _ cv y hC (.inl rfl) rn (List.length_replicate ..) (row_nilQ y) (by decide) rc (by rw [List.length_replicate]; decide) (by rw [List.length_replicate]; decide)
  rw [th_blk, (op_no open_ex).2] at h
  exact h.mono fun e y' ⟨v, h1, h2, h3⟩ => ⟨v, h1, h3⟩
end Go.Proofs.Ytjeofkemfpdieaa
