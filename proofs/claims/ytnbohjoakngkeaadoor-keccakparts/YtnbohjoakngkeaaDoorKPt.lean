/- Contracts of the document's Rate and put. -/
import Derived.Test.YtnbohjoakngkeaaDoorHKi2
namespace Go.Proofs.YtnbohjoakngkeaaDoor
open Go.RowKit
set_option linter.unusedVariables false
set_option linter.unusedSimpArgs false

theorem krate_any (kind : Int) (w : World) : Calls Tryd.prog 23 #[.int .i64 kind] w fun e w' => e = .returned (.int .i64 (rateK kind : Nat)) ∧ w' = w := by
  by_cases h4 : kind = 4
  · subst h4
    go_enter Tryd.func23, Tryd.ntmps23
    go_wp2
    go_ret
    exact ⟨rfl, rfl⟩
  by_cases h7 : kind = 7
  · subst h7
    go_enter Tryd.func23, Tryd.ntmps23
    go_wp2
    go_ret
    exact ⟨rfl, rfl⟩
  by_cases h5 : kind = 5
  · subst h5
    go_enter Tryd.func23, Tryd.ntmps23
    go_wp2
    go_ret
    exact ⟨rfl, rfl⟩
  by_cases h6 : kind = 6
  · subst h6
    go_enter Tryd.func23, Tryd.ntmps23
    go_wp2
    go_ret
    exact ⟨rfl, rfl⟩
  have hr : rateK kind = 0 := by simp [rateK, h4, h5, h6, h7]
  rw [hr]
  go_enter Tryd.func23, Tryd.ntmps23
  go_wp2
  go_ret
  exact ⟨rfl, rfl⟩

set_option maxHeartbeats 4000000 in
set_option maxRecDepth 100000 in
theorem kput_any (a : List Nat) (p c : Nat) (w : World) (hw : W25 a) (hp : p < 200) (hc : c < 256) :
    Calls Tryd.prog 29 #[.agg (arr .u64 a), .int .i64 p, .int .u8 c] w fun e w' => e = .returned (.agg (arr .u64 (putK a p c))) ∧ Below w.heap.size w w' := by
  have hz := zero25
  have hA0 : Lies .u64 23 ((w.alloc (.cells (arr .u64 a) 23)).alloc (.cells (arr .u64 (zs 25)) 23)) w.heap.size a := (Lies.new .u64 23 w a).alloc _
  have hR0 : Lies .u64 23 ((w.alloc (.cells (arr .u64 a) 23)).alloc (.cells (arr .u64 (zs 25)) 23)) (w.heap.size + 1) (zs 25) := by
    have := Lies.new .u64 23 (w.alloc (.cells (arr .u64 a) 23)) (zs 25)
    rw [World.size_alloc] at this
    exact this
  have hb0 := keep_trans (keep_alloc w (.cells (arr .u64 a) 23)) (keep_alloc _ (.cells (arr .u64 (zs 25)) 23))
  obtain ⟨j, hj⟩ : ∃ x : Nat, x = p / 8 := ⟨_, rfl⟩
  obtain ⟨m, hm⟩ : ∃ x : Nat, x = p % 8 := ⟨_, rfl⟩
  obtain ⟨m8, hm8⟩ : ∃ x : Nat, x = 8 * m := ⟨_, rfl⟩
  have e_j : (p : Int) / 8 = (j : Int) := by omega
  have t_j : (p : Int).tdiv 8 = (j : Int) := by rw [Int.tdiv_eq_ediv_of_nonneg (by omega)]; exact e_j
  have e_m : (p : Int) % 8 = (m : Int) := by omega
  have t_m : (p : Int).tmod 8 = (m : Int) := by rw [Int.tmod_eq_emod_of_nonneg (by omega)]; exact e_m
  have e_8 : 8 * (m : Int) = (m8 : Int) := by omega
  have r_8 : IntKind.i64.wrap (m8 : Int) = (m8 : Int) := by rw [IntKind.wrap_i64]; omega
  have mn : min m8 64 = m8 := by omega
  have r_c : IntKind.u64.wrap (c : Int) = (c : Int) := by rw [IntKind.wrap_u64]; omega
  have i0 : (0 : Int) ≤ (j : Int) := Int.natCast_nonneg _
  have i1 : (j : Int) < 25 := by omega
  have i2 : (0 : Int) ≤ (m8 : Int) := Int.natCast_nonneg _
  have hpk : putK a p c = a.set j (el a j ^^^ c * 2 ^ m8 % 18446744073709551616) := by unfold putK; rw [← hj, ← hm, ← hm8]
  have hpw := (putK_w hw p c).1
  have c0 := hA0.cell (i := j) (by rw [hw.1]; omega)
  have f0 := hA0.frozen j
  have h1 := hw.el j
  have e_s : IntKind.u64.wrap ((c : Int) * 2 ^ m8) = ((c * 2 ^ m8 % 18446744073709551616 : Nat) : Int) := by rw [IntKind.wrap_u64]; simp
  have hv := xor_k (el a j) (c * 2 ^ m8 % 18446744073709551616) h1 (Nat.mod_lt _ (by decide))
  clear hj hm hm8
  have HPK := hide hpk
  clear hpk
  go_enter Tryd.func29, Tryd.ntmps29
  go_wp2
  generalize (w.alloc (.cells (arr .u64 a) 23)).alloc (.cells (arr .u64 (zs 25)) 23) = x1 at *
  have hv2 : bits .xor .u64 (el a j : Int) ((c : Int) * 2 ^ m8 % 18446744073709551616) = ((el a j ^^^ c * 2 ^ m8 % 18446744073709551616 : Nat) : Int) := by
    rw [show (c : Int) * 2 ^ m8 % 18446744073709551616 = ((c * 2 ^ m8 % 18446744073709551616 : Nat) : Int) by simp]; exact hv
  have hst : Lies .u64 23 (x1.setCell ⟨w.heap.size, j, none⟩ (.int .u64 (bits .xor .u64 (el a j : Int) ((c : Int) * 2 ^ m8 % 18446744073709551616)))).drew w.heap.size (putK a p c) := by
    rw [hv2, HPK.out]
    exact hA0.set j _
  have hBq : But w.heap.size x1 (x1.setCell ⟨w.heap.size, j, none⟩ (.int .u64 (bits .xor .u64 (el a j : Int) ((c : Int) * 2 ^ m8 % 18446744073709551616)))).drew := ((But.refl _ _).setCell j _).drew
  have hRz := hR0.but hBq (by omega)
  have hbz := hb0.trans (hBq.below (Nat.le_refl _) hb0.size)
  clear hv hv2 HPK
  go_region
  clear hBq c0 f0
  generalize (x1.setCell ⟨w.heap.size, j, none⟩ (.int .u64 (bits .xor .u64 (el a j : Int) ((c : Int) * 2 ^ m8 % 18446744073709551616)))).drew = x2 at *
  have hOf : Lies .u64 23 (x2.setRow (w.heap.size + 1) (arr .u64 (putK a p c))) (w.heap.size + 1) (putK a p c) := hRz.row
  have hbf := hbz.trans ((But.setRow (But.refl (w.heap.size + 1) _) (arr .u64 (putK a p c))).below (by omega) hbz.size)
  go_wp2_with (first
    | (refine wpList_load_row rfl 23 _ (by rfl) w.heap.size (by rfl) _ _ _ (.array 25 22) hst (by kernel_rfl) rfl (by rw [arr_size, hpw]; kernel_rfl) ?_)
    | (refine wpList_store_row rfl 23 _ _ (by rfl) (w.heap.size + 1) (arr .u64 (putK a p c)) (by rfl) (by rfl) _ _ hRz (by rw [arr_size, hpw]; kernel_rfl) (by rw [arr_size, arr_size, hpw, zs_len]) (arr_one _ _) ?_)
    | fail)
  refine bodyPost_ret (v := .agg (arr .u64 (putK a p c))) ?_ rfl ⟨rfl, hbf⟩
  exact results_cell_row Tryd.results29 _ _ (w.heap.size + 1) _ _ _ (.array 25 22) (by rfl) hOf (by kernel_rfl) rfl (by rw [arr_size, hpw]; kernel_rfl)
end Go.Proofs.YtnbohjoakngkeaaDoor
