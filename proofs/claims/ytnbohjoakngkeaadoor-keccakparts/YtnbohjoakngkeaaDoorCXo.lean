/- Contract of keccak.xored. -/
import Derived.Test.YtnbohjoakngkeaaDoorKPt
import Derived.Test.YtnbohjoakngkeaaDoorCPe
namespace Go.Proofs.YtnbohjoakngkeaaDoor
open Go.RowKit
set_option linter.unusedVariables false
set_option linter.unusedSimpArgs false

/-- where the loop of bytes stands -/
def CXor (w : World) (a : List Nat) (p : Nat) (b : List Nat) (i : Value) (wr : World) : Prop := ∃ n : Nat, n ≤ b.length ∧ i = .int .i64 n ∧ Lies .u64 23 wr w.heap.size (xorL a p (b.take n)) ∧ Lies .u64 23 wr (w.heap.size + 1) (zs 25) ∧ Below w.heap.size w wr
set_option maxHeartbeats 4000000 in
set_option maxRecDepth 100000 in
theorem xored_any (a : List Nat) (p : Nat) (bv : Value) (b : List Nat) (w : World) (hw : W25 a) (hRb : Row .u8 256 w bv b) (hp : p + b.length ≤ 200) :
    Calls Tryd.prog 28 #[.agg (arr .u64 a), .int .i64 p, bv] w fun e w' => e = .returned (.agg (arr .u64 (xorL a p b))) ∧ Below w.heap.size w w' := by
  have hz := zero25
  have hA0 : Lies .u64 23 ((w.alloc (.cells (arr .u64 a) 23)).alloc (.cells (arr .u64 (zs 25)) 23)) w.heap.size a := (Lies.new .u64 23 w a).alloc _
  have hR0 : Lies .u64 23 ((w.alloc (.cells (arr .u64 a) 23)).alloc (.cells (arr .u64 (zs 25)) 23)) (w.heap.size + 1) (zs 25) := by
    have := Lies.new .u64 23 (w.alloc (.cells (arr .u64 a) 23)) (zs 25)
    rw [World.size_alloc] at this
    exact this
  have hb0 := keep_trans (keep_alloc w (.cells (arr .u64 a) 23)) (keep_alloc _ (.cells (arr .u64 (zs 25)) 23))
  have hub := hRb.under
  obtain ⟨ba, bc, rfl, g1, g2, g3, g4⟩ := hRb
  go_enter Tryd.func28, Tryd.ntmps28
  go_wp2
  clear hz
  generalize (w.alloc (.cells (arr .u64 a) 23)).alloc (.cells (arr .u64 (zs 25)) 23) = x1 at *
  go_loopw [11] (fun i wr => CXor w a p b i wr) (fun i _ => b.length - (intOf i).toNat)
  case atStart => exact ⟨0, Nat.zero_le _, rfl, hA0, hR0, hb0⟩
  case round =>
    clear hA0 hR0 hb0
    obtain ⟨n, hn, rfl, hA, hR, hb⟩ := hrel
    have hxw : W25 (xorL a p (b.take n)) := xorL_w _ p hw
    by_cases hlt : n < b.length
    · have hnx := xorL_next a p b n hlt
      obtain ⟨bb, off, rfl, hc⟩ := g3 (by omega)
      have cb := keep_cell (hc n hlt) hb
      have hcl : el b n < 256 := el_lt hub (by decide) n
      obtain ⟨P, hP⟩ : ∃ x : Nat, x = p + n := ⟨_, rfl⟩
      rw [← hP] at hnx
      generalize xorL a p (b.take n) = A at *
      generalize el b n = c at *
      obtain ⟨j, hj⟩ : ∃ x : Nat, x = P / 8 := ⟨_, rfl⟩
      obtain ⟨m, hm⟩ : ∃ x : Nat, x = P % 8 := ⟨_, rfl⟩
      obtain ⟨m8, hm8⟩ : ∃ x : Nat, x = 8 * m := ⟨_, rfl⟩
      obtain ⟨n1, hn1⟩ : ∃ x : Nat, x = n + 1 := ⟨_, rfl⟩
      have e_n : (n : Int) + 1 = (n1 : Int) := by omega
      have r_n : IntKind.i64.wrap (n1 : Int) = (n1 : Int) := by rw [IntKind.wrap_i64]; omega
      have e_P : (p : Int) + (n : Int) = (P : Int) := by omega
      have r_P : IntKind.i64.wrap (P : Int) = (P : Int) := by rw [IntKind.wrap_i64]; omega
      have e_j : (P : Int) / 8 = (j : Int) := by omega
      have t_j : (P : Int).tdiv 8 = (j : Int) := by rw [Int.tdiv_eq_ediv_of_nonneg (by omega)]; exact e_j
      have r_j : IntKind.i64.wrap (j : Int) = (j : Int) := by rw [IntKind.wrap_i64]; omega
      have e_m : (P : Int) % 8 = (m : Int) := by omega
      have t_m : (P : Int).tmod 8 = (m : Int) := by rw [Int.tmod_eq_emod_of_nonneg (by omega)]; exact e_m
      have r_m : IntKind.i64.wrap (m : Int) = (m : Int) := by rw [IntKind.wrap_i64]; omega
      have e_8 : 8 * (m : Int) = (m8 : Int) := by omega
      have r_8 : IntKind.i64.wrap (m8 : Int) = (m8 : Int) := by rw [IntKind.wrap_i64]; omega
      have mn : min m8 64 = m8 := by omega
      have r_c : IntKind.u64.wrap (c : Int) = (c : Int) := by rw [IntKind.wrap_u64]; omega
      have i0 : (0 : Int) ≤ (j : Int) := Int.natCast_nonneg _
      have i1 : (j : Int) < 25 := by omega
      have i2 : (0 : Int) ≤ (m8 : Int) := Int.natCast_nonneg _
      have i3 : (0 : Int) ≤ (n : Int) := Int.natCast_nonneg _
      have i4 : (n : Int) < (b.length : Int) := by omega
      have hpk : putK A P c = A.set j (el A j ^^^ c * 2 ^ m8 % 18446744073709551616) := by unfold putK; rw [← hj, ← hm, ← hm8]
      have c0 := hA.cell (i := j) (by rw [hxw.1]; omega)
      have f0 := hA.frozen j
      have h1 := hxw.el j
      have hv := xor_k (el A j) (c * 2 ^ m8 % 18446744073709551616) h1 (Nat.mod_lt _ (by decide))
      have HPK := hide hpk
      have HNX := hide hnx
      have HN1 := hide hn1
      clear hj hm hm8 hpk hnx hn1 hP
      have hv2 : bits .xor .u64 (el A j : Int) ((c : Int) * 2 ^ m8 % 18446744073709551616) = ((el A j ^^^ c * 2 ^ m8 % 18446744073709551616 : Nat) : Int) := by
        rw [show (c : Int) * 2 ^ m8 % 18446744073709551616 = ((c * 2 ^ m8 % 18446744073709551616 : Nat) : Int) by simp]; exact hv
      have hst : ∀ (y : World), Lies .u64 23 y w.heap.size A → Lies .u64 23 (y.setCell ⟨w.heap.size, j, none⟩ (.int .u64 (bits .xor .u64 (el A j : Int) ((c : Int) * 2 ^ m8 % 18446744073709551616)))) w.heap.size (xorL a p (b.take n1)) := fun y hy => by
        rw [hv2, HN1.out, HNX.out, HPK.out]
        exact hy.set j _
      have HST := hide hst
      clear hv hv2 hst
      go_wp2
      go_region
      go_wp2
      exact ⟨⟨n1, by have := HN1.out; omega, rfl, HST.out _ hA, hR.but ((But.refl w.heap.size wr).setCell j _).drew (by omega), hb.trans (((But.refl w.heap.size wr).setCell j _).drew.below (Nat.le_refl _) hb.size)⟩, by have := HN1.out; simp [intOf]; omega⟩
    · rw [List.take_of_length_le (by omega)] at hA hxw
      have hsl := hxw.1
      generalize hX : xorL a p b = X at hA hsl hxw
      have HX := hide hX
      clear hX
      have hOf : Lies .u64 23 (wr.setRow (w.heap.size + 1) (arr .u64 X)) (w.heap.size + 1) X := hR.row
      have hbf := hb.trans ((But.setRow (But.refl (w.heap.size + 1) _) (arr .u64 X)).below (by omega) hb.size)
      have hnn : n = b.length := by omega
      subst hnn
      go_wp2_with (first
        | (refine wpList_load_row rfl 23 _ (by rfl) w.heap.size (by rfl) _ _ _ (.array 25 22) hA (by kernel_rfl) rfl (by rw [arr_size, hsl]; kernel_rfl) ?_)
        | (refine wpList_store_row rfl 23 _ _ (by rfl) (w.heap.size + 1) (arr .u64 X) (by rfl) (by rfl) _ _ hR (by rw [arr_size, hsl]; kernel_rfl) (by rw [arr_size, arr_size, hsl, zs_len]) (arr_one _ _) ?_)
        | fail)
      refine bodyPost_ret (v := .agg (arr .u64 X)) ?_ rfl ⟨by rw [HX.out], hbf⟩
      exact results_cell_row Tryd.results28 _ _ (w.heap.size + 1) _ _ _ (.array 25 22) (by rfl) hOf (by kernel_rfl) rfl (by rw [arr_size, hsl]; kernel_rfl)
end Go.Proofs.YtnbohjoakngkeaaDoor
