import Derived.Test.YtpmobjfhhkglbaaGreatDoorPApp
import Derived.Test.YtpmobjfhhkglbaaGreatDoorAPln
import Derived.Test.YtpmobjfhhkglbaaGreatDoorBase
import Derived.Test.YtpmobjfhhkglbaaGreatDoorHaM
namespace Go.Proofs.YtpmobjfhhkglbaaGreatDoor
open Go.RowKit
set_option linter.unusedVariables false
set_option linter.unusedSimpArgs false
theorem rbeW (n k : Nat) (w : World) (hn : n < 18446744073709551616) (hk : 1 ≤ k ∧ k ≤ 100 := by decide) :
    Calls Tryz.prog 30 #[.int .u64 (n : Int), .int .i64 (k : Int)] w fun e w' => ∃ v, e = .returned v ∧ Own 5 .u8 256 w' w.heap.size v (beNW n k) ∧ Below w.heap.size w w' := by
  have := rbe_any n (k : Int) w hn (by omega) (by omega)
  have e : (leS n (k : Int)).reverse = beNW n k := by
    unfold leS beNW
    rw [if_neg (by omega), Int.toNat_natCast]
  rw [e] at this
  exact this
theorem lies_rangeW {w : World} {k : IntKind} {t : TypeId} {g : Nat} {l : List Nat} (h : Lies k t w g l) : w.rangeAt g 0 (vals k l) := fun j v hv => by
  have hj : j < l.length := by have := (List.getElem?_eq_some_iff.1 hv).1; rwa [vals_length] at this
  rw [Nat.zero_add, h.cell hj, ← hv, vals_get k l j hj]
structure SZ (Z : Nat) (x y : World) : Prop where
  but : But Z x y
  box : ∃ l : List Nat, l.length = 32 ∧ Lies .u8 25 y Z l
theorem SZ.keep {Z : Nat} {x y z : World} (h : SZ Z x y) (k : Below y.heap.size y z) : SZ Z x z := ⟨h.but.trans (But.of_below k), by obtain ⟨l, h1, h2⟩ := h.box; exact ⟨l, h1, h2.below k⟩⟩
theorem SZ.row {Z : Nat} {x y : World} (h : SZ Z x y) (l : List Nat) (hl : l.length = 32) : SZ Z x (y.setRow Z (arr .u8 l)) := ⟨h.but.setRow _, by obtain ⟨l0, _, h2⟩ := h.box; exact ⟨l, hl, h2.row⟩⟩
theorem SZ.below {Z : Nat} {w x y : World} (h : SZ Z x y) (hB : w.heap.size ≤ Z) (hx : w.heap.size ≤ x.heap.size) (hk : Below w.heap.size w x) : Below w.heap.size w y := hk.trans (h.but.below hB hx)
theorem ad_two (w : World) (a : List Nat) : Lies .u8 25 ((w.alloc (.cells (arr .u8 a) 25)).alloc (.cells (arr .u8 zP) 25)) w.heap.size a ∧
    SZ (w.heap.size + 1) ((w.alloc (.cells (arr .u8 a) 25)).alloc (.cells (arr .u8 zP) 25)) ((w.alloc (.cells (arr .u8 a) 25)).alloc (.cells (arr .u8 zP) 25)).drew ∧
    w.heap.size ≤ ((w.alloc (.cells (arr .u8 a) 25)).alloc (.cells (arr .u8 zP) 25)).heap.size ∧ Below w.heap.size w ((w.alloc (.cells (arr .u8 a) 25)).alloc (.cells (arr .u8 zP) 25)) := by
  have L0 := Lies.new .u8 25 w a
  have k := keep_trans (keep_alloc w (.cells (arr .u8 a) 25)) (keep_alloc _ (.cells (arr .u8 zP) 25))
  have R1 := Lies.new .u8 25 (w.alloc (.cells (arr .u8 a) 25)) zP
  rw [World.size_alloc] at R1
  exact ⟨L0.alloc _, ⟨(But.refl _ _).drew, zP, by decide, R1⟩, k.size, k⟩
theorem put_ret {w y : World} {LL : List Nat} {ac : Act} (hLen : LL.length = 32) (hF : Lies .u8 25 y (w.heap.size + 1) LL) (hb : Below w.heap.size w y) (h6 : ac.tmps.getD 6 undef = .pointer (some ⟨w.heap.size + 1, 0, none⟩)) (hd : ac.defers = []) {R : List Nat} (hR : R = LL) {P : Program} (hP : P = Tryz.prog) {fn : Func} (hfn : fn = Tryz.f10) :
    bodyPost P fn (fun e w' => e = .returned (.agg (arr .u8 R)) ∧ Below w.heap.size w w') .ret ac y := by
  subst hR hP hfn
  refine bodyPost_ret (v := .agg (arr .u8 R)) ?_ hd ⟨rfl, hb⟩
  exact results_cell_row Tryz.results10 _ _ (w.heap.size + 1) _ _ _ (.array 32 5) h6 hF (by kernel_rfl) rfl (by rw [arr_size, hLen]; kernel_rfl)
def pt3lt : List Lt := [(0, some 10, [3]), (0, some 11, [2]), (2, some 12, [11]), (5, some 13, [10, 12]), (15, none, [6, 13])]
theorem pt3reg : Reg (opsA (cLA (cCT (cRA (cBA (cRA (cLA (cRA (Tryz.f10.body.getD .skip))))))))) pt3lt := ⟨by kernel_rfl, by kernel_rfl⟩
def pt5lt : List Lt := [(0, some 16, [3]), (0, some 17, [2]), (2, some 18, [17]), (5, some 19, [16, 18]), (15, none, [6, 19])]
theorem pt5reg : Reg (opsA (cLA (cCT (cRA (cCE (cRA (cBA (cRA (cLA (cRA (Tryz.f10.body.getD .skip))))))))))) pt5lt := ⟨by kernel_rfl, by kernel_rfl⟩
def pt7lt : List Lt := [(0, some 22, [3]), (0, some 23, [2]), (2, some 24, [23]), (5, some 25, [22, 24]), (0, some 26, []), (24, some 27, [25, 26]), (63, none, [6, 27])]
theorem pt7reg : Reg (opsA (cLA (cCT (cRA (cCE (cRA (cCE (cRA (cBA (cRA (cLA (cRA (Tryz.f10.body.getD .skip))))))))))))) pt7lt := ⟨by kernel_rfl, by kernel_rfl⟩
def pt11lt : List Lt := [(0, some 32, [3]), (0, some 33, [1]), (2, some 34, [33]), (4, some 35, [34]), (0, some 36, [2]), (16, some 37, [36]), (41, some 38, [32, 35, 37]), (127, none, [6, 38])]
theorem pt11reg : Reg (opsA (cLA (cCT (cRA (cCE (cRA (cCE (cRA (cCE (cRA (cBA (cRA (cLA (cRA (Tryz.f10.body.getD .skip))))))))))))))) pt11lt := ⟨by kernel_rfl, by kernel_rfl⟩
set_option maxHeartbeats 8000000 in
set_option maxRecDepth 100000 in
theorem rput_any (a : List Nat) (part : Int) (n : Nat) (w : World) (ha : Pl a) (hn : n < 18446744073709551616) :
    Calls Tryz.prog 10 #[.agg (arr .u8 a), .int .i64 part, .int .u64 (n : Int)] w fun e w' => e = .returned (.agg (arr .u8 (putA a part n))) ∧ Below w.heap.size w w' := by
  have hz := zeroAd
  have hne : w.heap.size ≠ w.heap.size + 1 := by omega
  have hPL := (ha.put part n).1
  by_cases h0 : part = 0
  · subst h0
    rw [show putA a 0 n = layLW a 0 (beNW n 4) from if_pos rfl] at hPL ⊢
    have hLen := hPL
    go_enter Tryz.func10, Tryz.ntmps10
    go_wp2
    obtain ⟨L, hbd, hxs, hkx⟩ := ad_two w a
    generalize (w.alloc (.cells (arr .u8 a) 25)).alloc (.cells (arr .u8 zP) 25) = x at *
    refine at_begin (ops := opsA (cLA (cCT (cRA (cBA (cRA (cLA (cRA (Tryz.f10.body.getD .skip))))))))) (n := 5) (fun y => SZ (w.heap.size + 1) x y) (by kernel_rfl) (by kernel_rfl) ?_
    refine tkP 0 1 10 (.agg (arr .u8 a)) pt3reg rfl (by decide) rfl rfl (y_rowG (cs := vals .u8 a) (wF rfl) rfl rfl Tryz.underlying25 rfl (by rw [vals_length, ha.1]; kernel_rfl) (fun _ h => lies_rangeW (L.but h.but hne))) hbd ?_
    simp only [Act.put, plI, plZ, plS]
    refine tkP 1 3 11 (.int .u64 (n : Int)) pt3reg rfl (by decide) rfl rfl (y_moveG (wF rfl) rfl rfl) hbd ?_
    simp only [Act.put, plI, plZ, plS]
    refine at_one (i := 2) (m' := 7) pt3reg (by decide) rfl ?_
    refine p_callG (args := #[.int .u64 (n : Int), .int .i64 4]) (d := some 12) rfl (wF rfl) rfl (by simp only [List.map_toArray, List.map_cons, List.map_nil]; rfl) rfl Tryz.call30 ((rbeW n 4 x.drew hn).mono ?_)
    rintro e y3 ⟨bv, rfl, ob, g3⟩
    obtain ⟨ba, bc, rfl, _⟩ := ob.row.opens (beN_len n 4)
    have rb := ob.row
    have hb3 := SZ.keep hbd g3
    refine ⟨_, rfl, hb3, ?_⟩
    simp only [Act.put, plI, plZ, plS]
    refine at_one (i := 3) (m' := 15) pt3reg (by decide) rfl ?_
    refine p_callG (args := #[.agg (arr .u8 a), .int .i64 0, .slice ba 4 bc]) (d := some 13) rfl (wF rfl) rfl (by simp only [List.map_toArray, List.map_cons, List.map_nil]; rfl) rfl Tryz.call29 ((rlay_anyW a _ 0 _ y3 ha rb (by rw [beN_len]; decide)).mono ?_)
    rintro e y4 ⟨rfl, g4⟩
    have hb4 := SZ.keep hb3 g4
    refine ⟨_, rfl, hb4, ?_⟩
    simp only [Act.put, plI, plZ, plS]
    refine at_one (i := 4) (m' := 31) pt3reg (by decide) rfl ?_
    obtain ⟨l0, hl0, hZ⟩ := (hb4).box
    have hb5 := (hb4).row (layLW a 0 (beNW n 4)) hLen
    have hF : Lies .u8 25 (y4.setRow (w.heap.size + 1) (arr .u8 (layLW a 0 (beNW n 4)))) (w.heap.size + 1) (layLW a 0 (beNW n 4)) := hZ.row
    refine p_rowA (cells := arr .u8 (layLW a 0 (beNW n 4))) rfl rfl rfl rfl rfl rfl hZ (by rw [arr_size, hLen]; kernel_rfl) (by rw [arr_size, arr_size, hLen, hl0]) (arr_one _ _) ?_
    refine ⟨hb5, ?_⟩
    refine at_done pt3reg (by decide) ?_
    go_wp2
    exact put_ret hLen hF ((hb5).below (by omega) hxs hkx) rfl rfl rfl rfl rfl
  by_cases h1 : part = 1
  · subst h1
    rw [show putA a 1 n = layLW a 4 (beNW n 12) from rfl] at hPL ⊢
    have hLen := hPL
    clear h0
    go_enter Tryz.func10, Tryz.ntmps10
    go_wp2
    obtain ⟨L, hbd, hxs, hkx⟩ := ad_two w a
    generalize (w.alloc (.cells (arr .u8 a) 25)).alloc (.cells (arr .u8 zP) 25) = x at *
    refine at_begin (ops := opsA (cLA (cCT (cRA (cCE (cRA (cBA (cRA (cLA (cRA (Tryz.f10.body.getD .skip))))))))))) (n := 5) (fun y => SZ (w.heap.size + 1) x y) (by kernel_rfl) (by kernel_rfl) ?_
    refine tkP 0 1 16 (.agg (arr .u8 a)) pt5reg rfl (by decide) rfl rfl (y_rowG (cs := vals .u8 a) (wF rfl) rfl rfl Tryz.underlying25 rfl (by rw [vals_length, ha.1]; kernel_rfl) (fun _ h => lies_rangeW (L.but h.but hne))) hbd ?_
    simp only [Act.put, plI, plZ, plS]
    refine tkP 1 3 17 (.int .u64 (n : Int)) pt5reg rfl (by decide) rfl rfl (y_moveG (wF rfl) rfl rfl) hbd ?_
    simp only [Act.put, plI, plZ, plS]
    refine at_one (i := 2) (m' := 7) pt5reg (by decide) rfl ?_
    refine p_callG (args := #[.int .u64 (n : Int), .int .i64 12]) (d := some 18) rfl (wF rfl) rfl (by simp only [List.map_toArray, List.map_cons, List.map_nil]; rfl) rfl Tryz.call30 ((rbeW n 12 x.drew hn).mono ?_)
    rintro e y3 ⟨bv, rfl, ob, g3⟩
    obtain ⟨ba, bc, rfl, _⟩ := ob.row.opens (beN_len n 12)
    have rb := ob.row
    have hb3 := SZ.keep hbd g3
    refine ⟨_, rfl, hb3, ?_⟩
    simp only [Act.put, plI, plZ, plS]
    refine at_one (i := 3) (m' := 15) pt5reg (by decide) rfl ?_
    refine p_callG (args := #[.agg (arr .u8 a), .int .i64 4, .slice ba 12 bc]) (d := some 19) rfl (wF rfl) rfl (by simp only [List.map_toArray, List.map_cons, List.map_nil]; rfl) rfl Tryz.call29 ((rlay_anyW a _ 4 _ y3 ha rb (by rw [beN_len]; decide)).mono ?_)
    rintro e y4 ⟨rfl, g4⟩
    have hb4 := SZ.keep hb3 g4
    refine ⟨_, rfl, hb4, ?_⟩
    simp only [Act.put, plI, plZ, plS]
    refine at_one (i := 4) (m' := 31) pt5reg (by decide) rfl ?_
    obtain ⟨l0, hl0, hZ⟩ := (hb4).box
    have hb5 := (hb4).row (layLW a 4 (beNW n 12)) hLen
    have hF : Lies .u8 25 (y4.setRow (w.heap.size + 1) (arr .u8 (layLW a 4 (beNW n 12)))) (w.heap.size + 1) (layLW a 4 (beNW n 12)) := hZ.row
    refine p_rowA (cells := arr .u8 (layLW a 4 (beNW n 12))) rfl rfl rfl rfl rfl rfl hZ (by rw [arr_size, hLen]; kernel_rfl) (by rw [arr_size, arr_size, hLen, hl0]) (arr_one _ _) ?_
    refine ⟨hb5, ?_⟩
    refine at_done pt5reg (by decide) ?_
    go_wp2
    exact put_ret hLen hF ((hb5).below (by omega) hxs hkx) rfl rfl rfl rfl rfl
  by_cases h2 : part = 2
  · subst h2
    rw [show putA a 2 n = layLW (layLW a 16 (beNW n 4)) 20 (List.replicate 12 0) from rfl] at hPL ⊢
    have hLen := hPL
    clear h0 h1
    go_enter Tryz.func10, Tryz.ntmps10
    go_wp2
    obtain ⟨L, hbd, hxs, hkx⟩ := ad_two w a
    generalize (w.alloc (.cells (arr .u8 a) 25)).alloc (.cells (arr .u8 zP) 25) = x at *
    refine at_begin (ops := opsA (cLA (cCT (cRA (cCE (cRA (cCE (cRA (cBA (cRA (cLA (cRA (Tryz.f10.body.getD .skip))))))))))))) (n := 7) (fun y => SZ (w.heap.size + 1) x y) (by kernel_rfl) (by kernel_rfl) ?_
    refine tkP 0 1 22 (.agg (arr .u8 a)) pt7reg rfl (by decide) rfl rfl (y_rowG (cs := vals .u8 a) (wF rfl) rfl rfl Tryz.underlying25 rfl (by rw [vals_length, ha.1]; kernel_rfl) (fun _ h => lies_rangeW (L.but h.but hne))) hbd ?_
    simp only [Act.put, plI, plZ, plS]
    refine tkP 1 3 23 (.int .u64 (n : Int)) pt7reg rfl (by decide) rfl rfl (y_moveG (wF rfl) rfl rfl) hbd ?_
    simp only [Act.put, plI, plZ, plS]
    refine at_two (i := 2) (j := 4) (m1 := 7) (m2 := 19) pt7reg (by decide) rfl rfl ?_ ?_
    · refine p_callG (args := #[.int .u64 (n : Int), .int .i64 4]) (d := some 24) rfl (wF rfl) rfl (by simp only [List.map_toArray, List.map_cons, List.map_nil]; rfl) rfl Tryz.call30 ((rbeW n 4 x.drew hn).mono ?_)
      rintro e y3 ⟨bv, rfl, ob, g3⟩
      obtain ⟨ba, bc, rfl, _⟩ := ob.row.opens (beN_len n 4)
      have rb := ob.row
      have hb3 := SZ.keep hbd g3
      try replace hm := hm.below g3
      refine ⟨_, rfl, hb3, ?_⟩
      simp only [Act.put, plI, plZ, plS]
      refine at_two (i := 3) (j := 4) (m1 := 15) (m2 := 23) pt7reg (by decide) rfl rfl ?_ ?_
      · refine p_callG (args := #[.agg (arr .u8 a), .int .i64 16, .slice ba 4 bc]) (d := some 25) rfl (wF rfl) rfl (by simp only [List.map_toArray, List.map_cons, List.map_nil]; rfl) rfl Tryz.call29 ((rlay_anyW a _ 16 _ y3 ha (by first | exact rb | exact rb.below (by assumption)) (by rw [beN_len]; decide)).mono ?_)
        rintro e y4 ⟨rfl, g4⟩
        have hb4 := SZ.keep hb3 g4
        try replace hm := hm.below g4
        refine ⟨_, rfl, hb4, ?_⟩
        simp only [Act.put, plI, plZ, plS]
        refine at_one (i := 4) (m' := 31) pt7reg (by decide) rfl ?_
        refine p_makeG (n := 12) (d := some 26) rfl (wF rfl) rfl rfl (by decide) ?_
        intro z5 om5 g5
        have hb5 := SZ.keep hb4 g5
        have hm := om5.row
        have hmk := Below.refl z5.heap.size z5
        refine ⟨hb5, ?_⟩
        simp only [Act.put, plI, plZ, plS]
        refine at_one (i := 5) (m' := 63) pt7reg (by decide) rfl ?_
        refine p_callG (args := #[.agg (arr .u8 (layLW a 16 (beNW n 4))), .int .i64 20, .slice (some ⟨y4.heap.size, 0, none⟩) 12 12]) (d := some 27) rfl (wF rfl) rfl (by simp only [List.map_toArray, List.map_cons, List.map_nil]; rfl) rfl Tryz.call29 ((rlay_anyW _ _ 20 _ z5 (ha.lay (beN_under n 4) (by rw [beN_len]; decide)) hm (by simp)).mono ?_)
        rintro e y6 ⟨rfl, g6⟩
        have hb6 := SZ.keep hb5 g6
        refine ⟨_, rfl, hb6, ?_⟩
        simp only [Act.put, plI, plZ, plS]
        refine at_one (i := 6) (m' := 127) pt7reg (by decide) rfl ?_
        obtain ⟨l0, hl0, hZ⟩ := (hb6).box
        have hb7 := (hb6).row (layLW (layLW a 16 (beNW n 4)) 20 (List.replicate 12 0)) hLen
        have hF : Lies .u8 25 (y6.setRow (w.heap.size + 1) (arr .u8 (layLW (layLW a 16 (beNW n 4)) 20 (List.replicate 12 0)))) (w.heap.size + 1) (layLW (layLW a 16 (beNW n 4)) 20 (List.replicate 12 0)) := hZ.row
        refine p_rowA (cells := arr .u8 (layLW (layLW a 16 (beNW n 4)) 20 (List.replicate 12 0))) rfl rfl rfl rfl rfl rfl hZ (by rw [arr_size, hLen]; kernel_rfl) (by rw [arr_size, arr_size, hLen, hl0]) (arr_one _ _) ?_
        refine ⟨hb7, ?_⟩
        refine at_done pt7reg (by decide) ?_
        go_wp2
        exact put_ret hLen hF ((hb7).below (by omega) hxs hkx) rfl rfl rfl rfl rfl
      · refine p_makeG (n := 12) (d := some 26) rfl (wF rfl) rfl rfl (by decide) ?_
        intro z4 om4 g4
        have hb4 := SZ.keep hb3 g4
        have hm := om4.row
        have hmk := Below.refl z4.heap.size z4
        refine ⟨hb4, ?_⟩
        simp only [Act.put, plI, plZ, plS]
        refine at_one (i := 3) (m' := 31) pt7reg (by decide) rfl ?_
        refine p_callG (args := #[.agg (arr .u8 a), .int .i64 16, .slice ba 4 bc]) (d := some 25) rfl (wF rfl) rfl (by simp only [List.map_toArray, List.map_cons, List.map_nil]; rfl) rfl Tryz.call29 ((rlay_anyW a _ 16 _ z4 ha (by first | exact rb | exact rb.below (by assumption)) (by rw [beN_len]; decide)).mono ?_)
        rintro e y5 ⟨rfl, g5⟩
        have hb5 := SZ.keep hb4 g5
        try replace hm := hm.below g5
        refine ⟨_, rfl, hb5, ?_⟩
        simp only [Act.put, plI, plZ, plS]
        refine at_one (i := 5) (m' := 63) pt7reg (by decide) rfl ?_
        refine p_callG (args := #[.agg (arr .u8 (layLW a 16 (beNW n 4))), .int .i64 20, .slice (some ⟨y3.heap.size, 0, none⟩) 12 12]) (d := some 27) rfl (wF rfl) rfl (by simp only [List.map_toArray, List.map_cons, List.map_nil]; rfl) rfl Tryz.call29 ((rlay_anyW _ _ 20 _ y5 (ha.lay (beN_under n 4) (by rw [beN_len]; decide)) hm (by simp)).mono ?_)
        rintro e y6 ⟨rfl, g6⟩
        have hb6 := SZ.keep hb5 g6
        refine ⟨_, rfl, hb6, ?_⟩
        simp only [Act.put, plI, plZ, plS]
        refine at_one (i := 6) (m' := 127) pt7reg (by decide) rfl ?_
        obtain ⟨l0, hl0, hZ⟩ := (hb6).box
        have hb7 := (hb6).row (layLW (layLW a 16 (beNW n 4)) 20 (List.replicate 12 0)) hLen
        have hF : Lies .u8 25 (y6.setRow (w.heap.size + 1) (arr .u8 (layLW (layLW a 16 (beNW n 4)) 20 (List.replicate 12 0)))) (w.heap.size + 1) (layLW (layLW a 16 (beNW n 4)) 20 (List.replicate 12 0)) := hZ.row
        refine p_rowA (cells := arr .u8 (layLW (layLW a 16 (beNW n 4)) 20 (List.replicate 12 0))) rfl rfl rfl rfl rfl rfl hZ (by rw [arr_size, hLen]; kernel_rfl) (by rw [arr_size, arr_size, hLen, hl0]) (arr_one _ _) ?_
        refine ⟨hb7, ?_⟩
        refine at_done pt7reg (by decide) ?_
        go_wp2
        exact put_ret hLen hF ((hb7).below (by omega) hxs hkx) rfl rfl rfl rfl rfl
    · refine p_makeG (n := 12) (d := some 26) rfl (wF rfl) rfl rfl (by decide) ?_
      intro z3 om3 g3
      have hb3 := SZ.keep hbd g3
      have hm := om3.row
      have hmk := Below.refl z3.heap.size z3
      refine ⟨hb3, ?_⟩
      simp only [Act.put, plI, plZ, plS]
      refine at_one (i := 2) (m' := 23) pt7reg (by decide) rfl ?_
      refine p_callG (args := #[.int .u64 (n : Int), .int .i64 4]) (d := some 24) rfl (wF rfl) rfl (by simp only [List.map_toArray, List.map_cons, List.map_nil]; rfl) rfl Tryz.call30 ((rbeW n 4 z3 hn).mono ?_)
      rintro e y4 ⟨bv, rfl, ob, g4⟩
      obtain ⟨ba, bc, rfl, _⟩ := ob.row.opens (beN_len n 4)
      have rb := ob.row
      have hb4 := SZ.keep hb3 g4
      try replace hm := hm.below g4
      refine ⟨_, rfl, hb4, ?_⟩
      simp only [Act.put, plI, plZ, plS]
      refine at_one (i := 3) (m' := 31) pt7reg (by decide) rfl ?_
      refine p_callG (args := #[.agg (arr .u8 a), .int .i64 16, .slice ba 4 bc]) (d := some 25) rfl (wF rfl) rfl (by simp only [List.map_toArray, List.map_cons, List.map_nil]; rfl) rfl Tryz.call29 ((rlay_anyW a _ 16 _ y4 ha (by first | exact rb | exact rb.below (by assumption)) (by rw [beN_len]; decide)).mono ?_)
      rintro e y5 ⟨rfl, g5⟩
      have hb5 := SZ.keep hb4 g5
      try replace hm := hm.below g5
      refine ⟨_, rfl, hb5, ?_⟩
      simp only [Act.put, plI, plZ, plS]
      refine at_one (i := 5) (m' := 63) pt7reg (by decide) rfl ?_
      refine p_callG (args := #[.agg (arr .u8 (layLW a 16 (beNW n 4))), .int .i64 20, .slice (some ⟨x.drew.heap.size, 0, none⟩) 12 12]) (d := some 27) rfl (wF rfl) rfl (by simp only [List.map_toArray, List.map_cons, List.map_nil]; rfl) rfl Tryz.call29 ((rlay_anyW _ _ 20 _ y5 (ha.lay (beN_under n 4) (by rw [beN_len]; decide)) hm (by simp)).mono ?_)
      rintro e y6 ⟨rfl, g6⟩
      have hb6 := SZ.keep hb5 g6
      refine ⟨_, rfl, hb6, ?_⟩
      simp only [Act.put, plI, plZ, plS]
      refine at_one (i := 6) (m' := 127) pt7reg (by decide) rfl ?_
      obtain ⟨l0, hl0, hZ⟩ := (hb6).box
      have hb7 := (hb6).row (layLW (layLW a 16 (beNW n 4)) 20 (List.replicate 12 0)) hLen
      have hF : Lies .u8 25 (y6.setRow (w.heap.size + 1) (arr .u8 (layLW (layLW a 16 (beNW n 4)) 20 (List.replicate 12 0)))) (w.heap.size + 1) (layLW (layLW a 16 (beNW n 4)) 20 (List.replicate 12 0)) := hZ.row
      refine p_rowA (cells := arr .u8 (layLW (layLW a 16 (beNW n 4)) 20 (List.replicate 12 0))) rfl rfl rfl rfl rfl rfl hZ (by rw [arr_size, hLen]; kernel_rfl) (by rw [arr_size, arr_size, hLen, hl0]) (arr_one _ _) ?_
      refine ⟨hb7, ?_⟩
      refine at_done pt7reg (by decide) ?_
      go_wp2
      exact put_ret hLen hF ((hb7).below (by omega) hxs hkx) rfl rfl rfl rfl rfl
  by_cases h3 : part = 3
  · subst h3
    rw [show putA a 3 n = layLW a 20 (beNW n 4) from rfl] at hPL ⊢
    have hLen := hPL
    clear h0 h1 h2
    go_enter Tryz.func10, Tryz.ntmps10
    go_wp2
    obtain ⟨L, hbd, hxs, hkx⟩ := ad_two w a
    generalize (w.alloc (.cells (arr .u8 a) 25)).alloc (.cells (arr .u8 zP) 25) = x at *
    refine at_begin (ops := opsA (cLA (cCT (cRA (cCE (cRA (cCE (cRA (cCE (cRA (cBA (cRA (cLA (cRA (Tryz.f10.body.getD .skip))))))))))))))) (n := 8) (fun y => SZ (w.heap.size + 1) x y) (by kernel_rfl) (by kernel_rfl) ?_
    refine tkP 0 1 32 (.agg (arr .u8 a)) pt11reg rfl (by decide) rfl rfl (y_rowG (cs := vals .u8 a) (wF rfl) rfl rfl Tryz.underlying25 rfl (by rw [vals_length, ha.1]; kernel_rfl) (fun _ h => lies_rangeW (L.but h.but hne))) hbd ?_
    simp only [Act.put, plI, plZ, plS]
    refine tkP 1 3 33 (.int .i64 3) pt11reg rfl (by decide) rfl rfl (y_moveG (wF rfl) rfl rfl) hbd ?_
    simp only [Act.put, plI, plZ, plS]
    refine tkP 2 7 34 (.int .i64 12) pt11reg rfl (by decide) rfl rfl (y_mulI (wF rfl) rfl rfl rfl Tryz.underlying3 (by decide)) hbd ?_
    simp only [Act.put, plI, plZ, plS]
    refine tkP 3 15 35 (.int .i64 ((20 : Nat) : Int)) pt11reg rfl (by decide) rfl rfl (y_addI (wF rfl) rfl rfl rfl Tryz.underlying3 (by decide)) hbd ?_
    simp only [Act.put, plI, plZ, plS]
    refine tkP 4 31 36 (.int .u64 (n : Int)) pt11reg rfl (by decide) rfl rfl (y_moveG (wF rfl) rfl rfl) hbd ?_
    simp only [Act.put, plI, plZ, plS]
    refine at_one (i := 5) (m' := 63) pt11reg (by decide) rfl ?_
    refine p_callG (args := #[.int .u64 (n : Int), .int .i64 4]) (d := some 37) rfl (wF rfl) rfl (by simp only [List.map_toArray, List.map_cons, List.map_nil]; rfl) rfl Tryz.call30 ((rbeW n 4 x.drew hn).mono ?_)
    rintro e y6 ⟨bv, rfl, ob, g6⟩
    obtain ⟨ba, bc, rfl, _⟩ := ob.row.opens (beN_len n 4)
    have rb := ob.row
    have hb6 := SZ.keep hbd g6
    refine ⟨_, rfl, hb6, ?_⟩
    simp only [Act.put, plI, plZ, plS]
    refine at_one (i := 6) (m' := 127) pt11reg (by decide) rfl ?_
    refine p_callG (args := #[.agg (arr .u8 a), .int .i64 ((20 : Nat) : Int), .slice ba 4 bc]) (d := some 38) rfl (wF rfl) rfl (by simp only [List.map_toArray, List.map_cons, List.map_nil]; rfl) rfl Tryz.call29 ((rlay_anyW a _ 20 _ y6 ha rb (by rw [beN_len]; decide)).mono ?_)
    rintro e y7 ⟨rfl, g7⟩
    have hb7 := SZ.keep hb6 g7
    refine ⟨_, rfl, hb7, ?_⟩
    simp only [Act.put, plI, plZ, plS]
    refine at_one (i := 7) (m' := 255) pt11reg (by decide) rfl ?_
    obtain ⟨l0, hl0, hZ⟩ := (hb7).box
    have hb8 := (hb7).row (layLW a 20 (beNW n 4)) hLen
    have hF : Lies .u8 25 (y7.setRow (w.heap.size + 1) (arr .u8 (layLW a 20 (beNW n 4)))) (w.heap.size + 1) (layLW a 20 (beNW n 4)) := hZ.row
    refine p_rowA (cells := arr .u8 (layLW a 20 (beNW n 4))) rfl rfl rfl rfl rfl rfl hZ (by rw [arr_size, hLen]; kernel_rfl) (by rw [arr_size, arr_size, hLen, hl0]) (arr_one _ _) ?_
    refine ⟨hb8, ?_⟩
    refine at_done pt11reg (by decide) ?_
    go_wp2
    exact put_ret hLen hF ((hb8).below (by omega) hxs hkx) rfl rfl rfl rfl rfl
  by_cases h4 : part = 4
  · subst h4
    rw [show putA a 4 n = layLW a 24 (beNW n 4) from rfl] at hPL ⊢
    have hLen := hPL
    clear h0 h1 h2 h3
    go_enter Tryz.func10, Tryz.ntmps10
    go_wp2
    obtain ⟨L, hbd, hxs, hkx⟩ := ad_two w a
    generalize (w.alloc (.cells (arr .u8 a) 25)).alloc (.cells (arr .u8 zP) 25) = x at *
    refine at_begin (ops := opsA (cLA (cCT (cRA (cCE (cRA (cCE (cRA (cCE (cRA (cBA (cRA (cLA (cRA (Tryz.f10.body.getD .skip))))))))))))))) (n := 8) (fun y => SZ (w.heap.size + 1) x y) (by kernel_rfl) (by kernel_rfl) ?_
    refine tkP 0 1 32 (.agg (arr .u8 a)) pt11reg rfl (by decide) rfl rfl (y_rowG (cs := vals .u8 a) (wF rfl) rfl rfl Tryz.underlying25 rfl (by rw [vals_length, ha.1]; kernel_rfl) (fun _ h => lies_rangeW (L.but h.but hne))) hbd ?_
    simp only [Act.put, plI, plZ, plS]
    refine tkP 1 3 33 (.int .i64 4) pt11reg rfl (by decide) rfl rfl (y_moveG (wF rfl) rfl rfl) hbd ?_
    simp only [Act.put, plI, plZ, plS]
    refine tkP 2 7 34 (.int .i64 16) pt11reg rfl (by decide) rfl rfl (y_mulI (wF rfl) rfl rfl rfl Tryz.underlying3 (by decide)) hbd ?_
    simp only [Act.put, plI, plZ, plS]
    refine tkP 3 15 35 (.int .i64 ((24 : Nat) : Int)) pt11reg rfl (by decide) rfl rfl (y_addI (wF rfl) rfl rfl rfl Tryz.underlying3 (by decide)) hbd ?_
    simp only [Act.put, plI, plZ, plS]
    refine tkP 4 31 36 (.int .u64 (n : Int)) pt11reg rfl (by decide) rfl rfl (y_moveG (wF rfl) rfl rfl) hbd ?_
    simp only [Act.put, plI, plZ, plS]
    refine at_one (i := 5) (m' := 63) pt11reg (by decide) rfl ?_
    refine p_callG (args := #[.int .u64 (n : Int), .int .i64 4]) (d := some 37) rfl (wF rfl) rfl (by simp only [List.map_toArray, List.map_cons, List.map_nil]; rfl) rfl Tryz.call30 ((rbeW n 4 x.drew hn).mono ?_)
    rintro e y6 ⟨bv, rfl, ob, g6⟩
    obtain ⟨ba, bc, rfl, _⟩ := ob.row.opens (beN_len n 4)
    have rb := ob.row
    have hb6 := SZ.keep hbd g6
    refine ⟨_, rfl, hb6, ?_⟩
    simp only [Act.put, plI, plZ, plS]
    refine at_one (i := 6) (m' := 127) pt11reg (by decide) rfl ?_
    refine p_callG (args := #[.agg (arr .u8 a), .int .i64 ((24 : Nat) : Int), .slice ba 4 bc]) (d := some 38) rfl (wF rfl) rfl (by simp only [List.map_toArray, List.map_cons, List.map_nil]; rfl) rfl Tryz.call29 ((rlay_anyW a _ 24 _ y6 ha rb (by rw [beN_len]; decide)).mono ?_)
    rintro e y7 ⟨rfl, g7⟩
    have hb7 := SZ.keep hb6 g7
    refine ⟨_, rfl, hb7, ?_⟩
    simp only [Act.put, plI, plZ, plS]
    refine at_one (i := 7) (m' := 255) pt11reg (by decide) rfl ?_
    obtain ⟨l0, hl0, hZ⟩ := (hb7).box
    have hb8 := (hb7).row (layLW a 24 (beNW n 4)) hLen
    have hF : Lies .u8 25 (y7.setRow (w.heap.size + 1) (arr .u8 (layLW a 24 (beNW n 4)))) (w.heap.size + 1) (layLW a 24 (beNW n 4)) := hZ.row
    refine p_rowA (cells := arr .u8 (layLW a 24 (beNW n 4))) rfl rfl rfl rfl rfl rfl hZ (by rw [arr_size, hLen]; kernel_rfl) (by rw [arr_size, arr_size, hLen, hl0]) (arr_one _ _) ?_
    refine ⟨hb8, ?_⟩
    refine at_done pt11reg (by decide) ?_
    go_wp2
    exact put_ret hLen hF ((hb8).below (by omega) hxs hkx) rfl rfl rfl rfl rfl
  by_cases h5 : part = 5
  · subst h5
    rw [show putA a 5 n = layLW a 28 (beNW n 4) from rfl] at hPL ⊢
    have hLen := hPL
    clear h0 h1 h2 h3 h4
    go_enter Tryz.func10, Tryz.ntmps10
    go_wp2
    obtain ⟨L, hbd, hxs, hkx⟩ := ad_two w a
    generalize (w.alloc (.cells (arr .u8 a) 25)).alloc (.cells (arr .u8 zP) 25) = x at *
    refine at_begin (ops := opsA (cLA (cCT (cRA (cCE (cRA (cCE (cRA (cCE (cRA (cBA (cRA (cLA (cRA (Tryz.f10.body.getD .skip))))))))))))))) (n := 8) (fun y => SZ (w.heap.size + 1) x y) (by kernel_rfl) (by kernel_rfl) ?_
    refine tkP 0 1 32 (.agg (arr .u8 a)) pt11reg rfl (by decide) rfl rfl (y_rowG (cs := vals .u8 a) (wF rfl) rfl rfl Tryz.underlying25 rfl (by rw [vals_length, ha.1]; kernel_rfl) (fun _ h => lies_rangeW (L.but h.but hne))) hbd ?_
    simp only [Act.put, plI, plZ, plS]
    refine tkP 1 3 33 (.int .i64 5) pt11reg rfl (by decide) rfl rfl (y_moveG (wF rfl) rfl rfl) hbd ?_
    simp only [Act.put, plI, plZ, plS]
    refine tkP 2 7 34 (.int .i64 20) pt11reg rfl (by decide) rfl rfl (y_mulI (wF rfl) rfl rfl rfl Tryz.underlying3 (by decide)) hbd ?_
    simp only [Act.put, plI, plZ, plS]
    refine tkP 3 15 35 (.int .i64 ((28 : Nat) : Int)) pt11reg rfl (by decide) rfl rfl (y_addI (wF rfl) rfl rfl rfl Tryz.underlying3 (by decide)) hbd ?_
    simp only [Act.put, plI, plZ, plS]
    refine tkP 4 31 36 (.int .u64 (n : Int)) pt11reg rfl (by decide) rfl rfl (y_moveG (wF rfl) rfl rfl) hbd ?_
    simp only [Act.put, plI, plZ, plS]
    refine at_one (i := 5) (m' := 63) pt11reg (by decide) rfl ?_
    refine p_callG (args := #[.int .u64 (n : Int), .int .i64 4]) (d := some 37) rfl (wF rfl) rfl (by simp only [List.map_toArray, List.map_cons, List.map_nil]; rfl) rfl Tryz.call30 ((rbeW n 4 x.drew hn).mono ?_)
    rintro e y6 ⟨bv, rfl, ob, g6⟩
    obtain ⟨ba, bc, rfl, _⟩ := ob.row.opens (beN_len n 4)
    have rb := ob.row
    have hb6 := SZ.keep hbd g6
    refine ⟨_, rfl, hb6, ?_⟩
    simp only [Act.put, plI, plZ, plS]
    refine at_one (i := 6) (m' := 127) pt11reg (by decide) rfl ?_
    refine p_callG (args := #[.agg (arr .u8 a), .int .i64 ((28 : Nat) : Int), .slice ba 4 bc]) (d := some 38) rfl (wF rfl) rfl (by simp only [List.map_toArray, List.map_cons, List.map_nil]; rfl) rfl Tryz.call29 ((rlay_anyW a _ 28 _ y6 ha rb (by rw [beN_len]; decide)).mono ?_)
    rintro e y7 ⟨rfl, g7⟩
    have hb7 := SZ.keep hb6 g7
    refine ⟨_, rfl, hb7, ?_⟩
    simp only [Act.put, plI, plZ, plS]
    refine at_one (i := 7) (m' := 255) pt11reg (by decide) rfl ?_
    obtain ⟨l0, hl0, hZ⟩ := (hb7).box
    have hb8 := (hb7).row (layLW a 28 (beNW n 4)) hLen
    have hF : Lies .u8 25 (y7.setRow (w.heap.size + 1) (arr .u8 (layLW a 28 (beNW n 4)))) (w.heap.size + 1) (layLW a 28 (beNW n 4)) := hZ.row
    refine p_rowA (cells := arr .u8 (layLW a 28 (beNW n 4))) rfl rfl rfl rfl rfl rfl hZ (by rw [arr_size, hLen]; kernel_rfl) (by rw [arr_size, arr_size, hLen, hl0]) (arr_one _ _) ?_
    refine ⟨hb8, ?_⟩
    refine at_done pt11reg (by decide) ?_
    go_wp2
    exact put_ret hLen hF ((hb8).below (by omega) hxs hkx) rfl rfl rfl rfl rfl
  have hpa : putA a part n = a := by unfold putA; rw [if_neg h0, if_neg h1, if_neg h2, if_neg h3, if_neg h4, if_neg h5]
  rw [hpa]
  have b0 : (part == 0) = false := beq_eq_false_iff_ne.2 h0
  have b1 : (part == 1) = false := beq_eq_false_iff_ne.2 h1
  have b2 : (part == 2) = false := beq_eq_false_iff_ne.2 h2
  have b3 : (part == 3) = false := beq_eq_false_iff_ne.2 h3
  have b4 : (part == 4) = false := beq_eq_false_iff_ne.2 h4
  have b5 : (part == 5) = false := beq_eq_false_iff_ne.2 h5
  obtain ⟨L, hbd, hxs, hkx⟩ := ad_two w a
  have hlen := ha.1
  have hRl : zP.length = 32 := by decide
  have R1 := Lies.new .u8 25 (w.alloc (.cells (arr .u8 a) 25)) zP
  rw [World.size_alloc] at R1
  clear hpa hPL
  go_enter Tryz.func10, Tryz.ntmps10
  go_wp2_with (first
    | (refine wpList_load_row rfl 25 _ (by rfl) w.heap.size (by rfl) _ _ _ (.array 32 5) L (by kernel_rfl) rfl (by rw [arr_size, hlen]; kernel_rfl) ?_)
    | (refine wpList_store_row rfl 25 _ _ (by rfl) (w.heap.size + 1) (arr .u8 a) (by rfl) (by rfl) _ _ R1 (by rw [arr_size, hlen]; kernel_rfl) (by rw [arr_size, arr_size, hlen, hRl]) (arr_one _ _) ?_)
    | fail)
  exact put_ret hlen R1.row (hkx.trans (((But.refl (w.heap.size + 1) _).setRow _).below (by omega) hxs)) rfl rfl rfl rfl rfl
def New (B : Nat) (v : Value) : Prop := ∀ q, v.ownBlock = some q → B ≤ q
theorem New.at {B g n c o : Nat} (h : B ≤ g) : New B (.slice (some ⟨g, o, none⟩) n c) := fun q hq => by
  have : g = q := by simpa [Value.ownBlock] using hq
  omega
theorem New.nil (B n c : Nat) : New B (.slice none n c) := fun q hq => by simp [Value.ownBlock] at hq
theorem New.mono {B B' : Nat} {v : Value} (h : New B v) (hB : B' ≤ B) : New B' v := fun q hq => Nat.le_trans hB (h q hq)
theorem Own.new {e : TypeId} {k : IntKind} {m : Nat} {w : World} {B : Nat} {v : Value} {l : List Nat} (h : Own e k m w B v l) : New B v := fun q hq => (h.1.lt q hq).1
end Go.Proofs.YtpmobjfhhkglbaaGreatDoor
