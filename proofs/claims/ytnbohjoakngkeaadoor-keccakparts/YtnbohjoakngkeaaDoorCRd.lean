/- Contract of keccak.round: the words behind a round, all but its constant. -/
import Derived.Test.YtnbohjoakngkeaaDoorCRg0
import Derived.Test.YtnbohjoakngkeaaDoorCRg1
import Derived.Test.YtnbohjoakngkeaaDoorCRg2
import Derived.Test.YtnbohjoakngkeaaDoorCRg3
import Derived.Test.YtnbohjoakngkeaaDoorCRg4
namespace Go.Proofs.YtnbohjoakngkeaaDoor
open Go.RowKit
set_option linter.unusedVariables false
set_option linter.unusedSimpArgs false

theorem sets25 (m0 m1 m2 m3 m4 m5 m6 m7 m8 m9 m10 m11 m12 m13 m14 m15 m16 m17 m18 m19 m20 m21 m22 m23 m24 : Nat) : (((((((((((((((((((((((((zs 25).set 0 m0).set 1 m1).set 2 m2).set 3 m3).set 4 m4).set 5 m5).set 6 m6).set 7 m7).set 8 m8).set 9 m9).set 10 m10).set 11 m11).set 12 m12).set 13 m13).set 14 m14).set 15 m15).set 16 m16).set 17 m17).set 18 m18).set 19 m19).set 20 m20).set 21 m21).set 22 m22).set 23 m23).set 24 m24 = [m0, m1, m2, m3, m4, m5, m6, m7, m8, m9, m10, m11, m12, m13, m14, m15, m16, m17, m18, m19, m20, m21, m22, m23, m24] := by kernel_rfl
theorem rows_is (a : List Nat) (d0 d1 d2 d3 d4 : Nat) : row0 a [d0, d1, d2, d3, d4] ++ row1 a [d0, d1, d2, d3, d4] ++ row2 a [d0, d1, d2, d3, d4] ++ row3 a [d0, d1, d2, d3, d4] ++ row4 a [d0, d1, d2, d3, d4] = [mixW (el a 0 ^^^ d0) (rotl (el a 6 ^^^ d1) 44) (rotl (el a 12 ^^^ d2) 43), mixW (rotl (el a 6 ^^^ d1) 44) (rotl (el a 12 ^^^ d2) 43) (rotl (el a 18 ^^^ d3) 21), mixW (rotl (el a 12 ^^^ d2) 43) (rotl (el a 18 ^^^ d3) 21) (rotl (el a 24 ^^^ d4) 14), mixW (rotl (el a 18 ^^^ d3) 21) (rotl (el a 24 ^^^ d4) 14) (el a 0 ^^^ d0), mixW (rotl (el a 24 ^^^ d4) 14) (el a 0 ^^^ d0) (rotl (el a 6 ^^^ d1) 44), mixW (rotl (el a 3 ^^^ d3) 28) (rotl (el a 9 ^^^ d4) 20) (rotl (el a 10 ^^^ d0) 3), mixW (rotl (el a 9 ^^^ d4) 20) (rotl (el a 10 ^^^ d0) 3) (rotl (el a 16 ^^^ d1) 45), mixW (rotl (el a 10 ^^^ d0) 3) (rotl (el a 16 ^^^ d1) 45) (rotl (el a 22 ^^^ d2) 61), mixW (rotl (el a 16 ^^^ d1) 45) (rotl (el a 22 ^^^ d2) 61) (rotl (el a 3 ^^^ d3) 28), mixW (rotl (el a 22 ^^^ d2) 61) (rotl (el a 3 ^^^ d3) 28) (rotl (el a 9 ^^^ d4) 20), mixW (rotl (el a 1 ^^^ d1) 1) (rotl (el a 7 ^^^ d2) 6) (rotl (el a 13 ^^^ d3) 25), mixW (rotl (el a 7 ^^^ d2) 6) (rotl (el a 13 ^^^ d3) 25) (rotl (el a 19 ^^^ d4) 8), mixW (rotl (el a 13 ^^^ d3) 25) (rotl (el a 19 ^^^ d4) 8) (rotl (el a 20 ^^^ d0) 18), mixW (rotl (el a 19 ^^^ d4) 8) (rotl (el a 20 ^^^ d0) 18) (rotl (el a 1 ^^^ d1) 1), mixW (rotl (el a 20 ^^^ d0) 18) (rotl (el a 1 ^^^ d1) 1) (rotl (el a 7 ^^^ d2) 6), mixW (rotl (el a 4 ^^^ d4) 27) (rotl (el a 5 ^^^ d0) 36) (rotl (el a 11 ^^^ d1) 10), mixW (rotl (el a 5 ^^^ d0) 36) (rotl (el a 11 ^^^ d1) 10) (rotl (el a 17 ^^^ d2) 15), mixW (rotl (el a 11 ^^^ d1) 10) (rotl (el a 17 ^^^ d2) 15) (rotl (el a 23 ^^^ d3) 56), mixW (rotl (el a 17 ^^^ d2) 15) (rotl (el a 23 ^^^ d3) 56) (rotl (el a 4 ^^^ d4) 27), mixW (rotl (el a 23 ^^^ d3) 56) (rotl (el a 4 ^^^ d4) 27) (rotl (el a 5 ^^^ d0) 36), mixW (rotl (el a 2 ^^^ d2) 62) (rotl (el a 8 ^^^ d3) 55) (rotl (el a 14 ^^^ d4) 39), mixW (rotl (el a 8 ^^^ d3) 55) (rotl (el a 14 ^^^ d4) 39) (rotl (el a 15 ^^^ d0) 41), mixW (rotl (el a 14 ^^^ d4) 39) (rotl (el a 15 ^^^ d0) 41) (rotl (el a 21 ^^^ d1) 2), mixW (rotl (el a 15 ^^^ d0) 41) (rotl (el a 21 ^^^ d1) 2) (rotl (el a 2 ^^^ d2) 62), mixW (rotl (el a 21 ^^^ d1) 2) (rotl (el a 2 ^^^ d2) 62) (rotl (el a 8 ^^^ d3) 55)] := by
  have e0 : el [d0, d1, d2, d3, d4] 0 = d0 := rfl
  have e1 : el [d0, d1, d2, d3, d4] 1 = d1 := rfl
  have e2 : el [d0, d1, d2, d3, d4] 2 = d2 := rfl
  have e3 : el [d0, d1, d2, d3, d4] 3 = d3 := rfl
  have e4 : el [d0, d1, d2, d3, d4] 4 = d4 := rfl
  unfold row0 row1 row2 row3 row4 mixL
  simp only [e0, e1, e2, e3, e4, List.cons_append, List.nil_append]
set_option maxHeartbeats 4000000 in
set_option maxRecDepth 100000 in
theorem round_any (a : List Nat) (w : World) (hw : W25 a) :
    Calls Tryd.prog 24 #[.agg (arr .u64 a)] w fun e w' => e = .returned (.agg (arr .u64 (roundK a))) ∧ Below w.heap.size w w' := by
  have hz := zero25
  have hA0 : Lies .u64 23 ((w.alloc (.cells (arr .u64 a) 23)).alloc (.cells (arr .u64 (zs 25)) 23)) w.heap.size a := (Lies.new .u64 23 w a).alloc _
  have hR0 : Lies .u64 23 ((w.alloc (.cells (arr .u64 a) 23)).alloc (.cells (arr .u64 (zs 25)) 23)) (w.heap.size + 1) (zs 25) := by
    have := Lies.new .u64 23 (w.alloc (.cells (arr .u64 a) 23)) (zs 25)
    rw [World.size_alloc] at this
    exact this
  have hb0 := keep_trans (keep_alloc w (.cells (arr .u64 a) 23)) (keep_alloc _ (.cells (arr .u64 (zs 25)) 23))
  have hal := hw.1
  have c0 := hA0.cell (i := 0) (by rw [hal]; decide)
  have c1 := hA0.cell (i := 1) (by rw [hal]; decide)
  have c2 := hA0.cell (i := 2) (by rw [hal]; decide)
  have c3 := hA0.cell (i := 3) (by rw [hal]; decide)
  have c4 := hA0.cell (i := 4) (by rw [hal]; decide)
  have c5 := hA0.cell (i := 5) (by rw [hal]; decide)
  have c6 := hA0.cell (i := 6) (by rw [hal]; decide)
  have c7 := hA0.cell (i := 7) (by rw [hal]; decide)
  have c8 := hA0.cell (i := 8) (by rw [hal]; decide)
  have c9 := hA0.cell (i := 9) (by rw [hal]; decide)
  have c10 := hA0.cell (i := 10) (by rw [hal]; decide)
  have c11 := hA0.cell (i := 11) (by rw [hal]; decide)
  have c12 := hA0.cell (i := 12) (by rw [hal]; decide)
  have c13 := hA0.cell (i := 13) (by rw [hal]; decide)
  have c14 := hA0.cell (i := 14) (by rw [hal]; decide)
  have c15 := hA0.cell (i := 15) (by rw [hal]; decide)
  have c16 := hA0.cell (i := 16) (by rw [hal]; decide)
  have c17 := hA0.cell (i := 17) (by rw [hal]; decide)
  have c18 := hA0.cell (i := 18) (by rw [hal]; decide)
  have c19 := hA0.cell (i := 19) (by rw [hal]; decide)
  have c20 := hA0.cell (i := 20) (by rw [hal]; decide)
  have c21 := hA0.cell (i := 21) (by rw [hal]; decide)
  have c22 := hA0.cell (i := 22) (by rw [hal]; decide)
  have c23 := hA0.cell (i := 23) (by rw [hal]; decide)
  have c24 := hA0.cell (i := 24) (by rw [hal]; decide)
  have p0 : bits .xor .u64 (bits .xor .u64 (bits .xor .u64 (bits .xor .u64 (el a 0 : Int) (el a 5 : Int)) (el a 10 : Int)) (el a 15 : Int)) (el a 20 : Int) = ((parK a 0 : Nat) : Int) := par_is a 0 hw
  have l0 := parK_lt a 0 hw
  have p1 : bits .xor .u64 (bits .xor .u64 (bits .xor .u64 (bits .xor .u64 (el a 1 : Int) (el a 6 : Int)) (el a 11 : Int)) (el a 16 : Int)) (el a 21 : Int) = ((parK a 1 : Nat) : Int) := par_is a 1 hw
  have l1 := parK_lt a 1 hw
  have p2 : bits .xor .u64 (bits .xor .u64 (bits .xor .u64 (bits .xor .u64 (el a 2 : Int) (el a 7 : Int)) (el a 12 : Int)) (el a 17 : Int)) (el a 22 : Int) = ((parK a 2 : Nat) : Int) := par_is a 2 hw
  have l2 := parK_lt a 2 hw
  have p3 : bits .xor .u64 (bits .xor .u64 (bits .xor .u64 (bits .xor .u64 (el a 3 : Int) (el a 8 : Int)) (el a 13 : Int)) (el a 18 : Int)) (el a 23 : Int) = ((parK a 3 : Nat) : Int) := par_is a 3 hw
  have l3 := parK_lt a 3 hw
  have p4 : bits .xor .u64 (bits .xor .u64 (bits .xor .u64 (bits .xor .u64 (el a 4 : Int) (el a 9 : Int)) (el a 14 : Int)) (el a 19 : Int)) (el a 24 : Int) = ((parK a 4 : Nat) : Int) := par_is a 4 hw
  have l4 := parK_lt a 4 hw
  have hres : roundK a = row0 a (colK a) ++ row1 a (colK a) ++ row2 a (colK a) ++ row3 a (colK a) ++ row4 a (colK a) := rfl
  have hcol : colK a = [besK (parK a 4) (parK a 1), besK (parK a 0) (parK a 2), besK (parK a 1) (parK a 3), besK (parK a 2) (parK a 4), besK (parK a 3) (parK a 0)] := rfl
  have HRES := hide hres
  have HCOL := hide hcol
  clear hres hcol
  go_enter Tryd.func24, Tryd.ntmps24
  go_wp2_with fail
  refine (beside_any (parK a 0) (parK a 1) (parK a 2) (parK a 3) (parK a 4) _ l0 l1 l2 l3 l4).mono ?_
  rintro e w1 ⟨rfl, rfl⟩
  unfold five
  have k0 := besK_lt l4 l1
  have k1 := besK_lt l0 l2
  have k2 := besK_lt l1 l3
  have k3 := besK_lt l2 l4
  have k4 := besK_lt l3 l0
  clear c0 c1 c2 c3 c4 c5 c6 c7 c8 c9 c10 c11 c12 c13 c14 c15 c16 c17 c18 c19 c20 c21 c22 c23 c24 p0 l0 p1 l1 p2 l2 p3 l3 p4 l4 hz
  generalize hk0 : besK (parK a 4) (parK a 1) = d0 at *
  have HK0 := hide hk0
  clear hk0
  generalize hk1 : besK (parK a 0) (parK a 2) = d1 at *
  have HK1 := hide hk1
  clear hk1
  generalize hk2 : besK (parK a 1) (parK a 3) = d2 at *
  have HK2 := hide hk2
  clear hk2
  generalize hk3 : besK (parK a 2) (parK a 4) = d3 at *
  have HK3 := hide hk3
  clear hk3
  generalize hk4 : besK (parK a 3) (parK a 0) = d4 at *
  have HK4 := hide hk4
  clear hk4
  generalize (w.alloc (.cells (arr .u64 a) 23)).alloc (.cells (arr .u64 (zs 25)) 23) = x0 at *
  have hl0 : (zs 25).length = 25 := zs_len 25
  go_wp2
  refine reg_0 (q := w.heap.size) (d0 := d0) (d1 := d1) (d2 := d2) (d3 := d3) (d4 := d4) hw k0 k1 k2 k3 k4 hA0 hR0 hl0 ⟨rfl, rfl, rfl, rfl, rfl, rfl, rfl, rfl, rfl⟩ ?_
  rename_i Q' K hK
  intro f1 x1 L1 e1 hl1 F1 hR1 hB1
  have hA1 := hA0.but hB1 (by omega)
  have hb1 := hb0.trans (hB1.below (by omega) hb0.size)
  refine hK f1 x1 (wp_seq (reg_1 hw k0 k1 k2 k3 k4 hA1 hR1 hl1 F1 ?_))
  clear hK
  intro f2 x2 L2 e2 hl2 F2 hR2 hB2
  have hA2 := hA1.but hB2 (by omega)
  have hb2 := hb1.trans (hB2.below (by omega) hb1.size)
  refine wp_seq (reg_2 hw k0 k1 k2 k3 k4 hA2 hR2 hl2 F2 ?_)
  intro f3 x3 L3 e3 hl3 F3 hR3 hB3
  have hA3 := hA2.but hB3 (by omega)
  have hb3 := hb2.trans (hB3.below (by omega) hb2.size)
  refine wp_seq (reg_3 hw k0 k1 k2 k3 k4 hA3 hR3 hl3 F3 ?_)
  intro f4 x4 L4 e4 hl4 F4 hR4 hB4
  have hA4 := hA3.but hB4 (by omega)
  have hb4 := hb3.trans (hB4.below (by omega) hb3.size)
  refine wp_seq (reg_4 hw k0 k1 k2 k3 k4 hA4 hR4 hl4 F4 ?_)
  intro f5 x5 L5 e5 hl5 F5 hR5 hB5
  have hA5 := hA4.but hB5 (by omega)
  have hb5 := hb4.trans (hB5.below (by omega) hb4.size)
  have hfin : L5 = roundK a := by
    rw [HRES.out, HCOL.out]
    subst e5 e4 e3 e2 e1
    exact (sets25 _ _ _ _ _ _ _ _ _ _ _ _ _ _ _ _ _ _ _ _ _ _ _ _ _ ).trans (rows_is a d0 d1 d2 d3 d4).symm
  rw [hfin] at hR5 hl5
  clear hfin e1 e2 e3 e4 e5
  have hOf : Lies .u64 23 (x5.setRow (w.heap.size + 1) (arr .u64 (roundK a))) (w.heap.size + 1) (roundK a) := hR5.row
  have hbf := hb5.trans ((But.setRow (But.refl (w.heap.size + 1) _) (arr .u64 (roundK a))).below (by omega) hb5.size)
  refine wp_seq (wp_region_lit ?_)
  refine wpList_load_row rfl 23 _ rfl (w.heap.size + 1) F5.t2 _ _ _ (.array 25 22) hR5 (by kernel_rfl) rfl (by rw [arr_size, hl5]; kernel_rfl) ?_
  have F6 := F5.put (k := 269) (by decide) (.agg (arr .u64 (roundK a)))
  refine wpList_store_row rfl 23 _ _ rfl (w.heap.size + 1) (arr .u64 (roundK a)) F6.t2 (put_same (by rw [F5.size]; decide)) _ _ hR5 (by rw [arr_size, hl5]; kernel_rfl) rfl (arr_one _ _) ?_
  refine wp_ret ?_
  refine bodyPost_ret (v := .agg (arr .u64 (roundK a))) ?_ F6.dfr ⟨rfl, hbf⟩
  exact results_cell_row Tryd.results24 _ _ (w.heap.size + 1) _ _ _ (.array 25 22) F6.t2 hOf (by kernel_rfl) rfl (by rw [arr_size, hl5]; kernel_rfl)
end Go.Proofs.YtnbohjoakngkeaaDoor
