/- Trees of leaves that sign once, the program's own: a tree's leaves, and its knots' sums. -/
import Derived.Test.YtogiballdmgcpaaGreatDoorLcS
import Derived.Test.YtogiballdmgcpaaGreatDoorLtV
import Derived.LoopIn
import Derived.Stop.RegionWithIn
namespace Go.Proofs.YtogiballdmgcpaaGreatDoor
open Go.RowKit
set_option linter.unusedVariables false
set_option linter.unusedSimpArgs false

/-- a tree's box -/
structure BxD (W : World) (B : Nat) (a b c : Value) : Prop where
  here : W.heap[B]? = some (.cells #[a, b, c] 96 (0, 0))
theorem BxD.lt {W : World} {B : Nat} {a b c : Value} (h : BxD W B a b c) : B < W.heap.size := (Array.getElem?_eq_some_iff.1 h.here).1
theorem BxD.below {W W' : World} {B : Nat} {a b c : Value} (h : BxD W B a b c) (hb : Below W.heap.size W W') : BxD W' B a b c := ⟨(hb.block _ h.lt).trans h.here⟩
theorem BxD.but {W W' : World} {B g : Nat} {a b c : Value} (h : BxD W B a b c) (hb : But g W W') (hne : B ≠ g) : BxD W' B a b c := ⟨(hb.block _ h.lt hne).trans h.here⟩
theorem BxD.new (W : World) (a b c : Value) : BxD (W.alloc (.cells #[a, b, c] 96)) W.heap.size a b c := ⟨heap_alloc_new W _⟩
theorem BxD.row {W : World} {B : Nat} {a b c a' b' c' : Value} (h : BxD W B a b c) : BxD (W.setRow B #[a', b', c']) B a' b' c' := ⟨setRow_heap W B _ _ _ _ h.here⟩
theorem BxD.range {W : World} {B : Nat} {a b c : Value} (h : BxD W B a b c) : W.rangeAt B 0 [a, b, c] := fun j v hv => by
  rw [Nat.zero_add]
  simp only [World.cell?, h.here]
  simpa using hv
theorem BxD.range2 {W : World} {B : Nat} {a b c : Value} (h : BxD W B a b c) : W.rangeAt B 0 [a, b] := fun j v hv => by
  rw [Nat.zero_add]
  simp only [World.cell?, h.here]
  rcases j with _ | _ | j
  · simpa using hv
  · simpa using hv
  · simp at hv
theorem BxD.c0 {W : World} {B : Nat} {a b c : Value} (h : BxD W B a b c) : W.cell? ⟨B, 0, none⟩ = some a := by simp [World.cell?, h.here]
theorem BxD.c1 {W : World} {B : Nat} {a b c : Value} (h : BxD W B a b c) : W.cell? ⟨B, 1, none⟩ = some b := by simp [World.cell?, h.here]
theorem BxD.c2 {W : World} {B : Nat} {a b c : Value} (h : BxD W B a b c) : W.cell? ⟨B, 2, none⟩ = some c := by simp [World.cell?, h.here]
theorem BxD.ret {W : World} {B : Nat} {a b c : Value} (h : BxD W B a b c) {fn : Func} {p q : Tmp} (hr : fn.results = #[.cell p 96, .tmp q]) (tmps : Array Value) {v : Value} (hp : tmps.getD p undef = .pointer (some ⟨B, 0, none⟩)) (hv : tmps.getD q undef = v) :
    (results fn tmps).run Tryz.prog W = .ok (.tuple #[.agg #[a, b, c], v]) W := by
  subst hv
  have hp' : tmps[p]?.getD undef = .pointer (some ⟨B, 0, none⟩) := by simpa using hp
  simp [results, hr, hp', asAddr, run_loadVar_row W B 96 96 #[a, b, c] (0, 0) _ h.here Tryz.underlying96 rfl (by kernel_rfl)]
theorem pow_25 {h : Nat} (hh : h ≤ 25) : 1 ≤ 2 ^ h ∧ 2 ^ h ≤ 33554432 := ⟨Nat.two_pow_pos h, Nat.pow_le_pow_right (by decide) hh⟩
set_option maxHeartbeats 2000000 in
set_option maxRecDepth 100000 in
theorem cleaves (h : Nat) (xv idv : Value) (w : World) (hh : h ≤ 25) (x1 : ∃ x, xv = .int .i64 x) (i1 : ∃ a n c, idv = .slice a n c) :
    Calls Tryz.prog 90 #[.agg #[.int .i64 (h : Int), xv, idv]] w fun e w' => e = .returned (.int .i64 ((2 ^ h : Nat) : Int)) ∧ Below w.heap.size w w' := by
  obtain ⟨x, rfl⟩ := x1
  obtain ⟨a, n, c, rfl⟩ := i1
  obtain ⟨p1, p2⟩ := pow_25 hh
  obtain ⟨M, hM⟩ : ∃ M, M = 2 ^ h := ⟨_, rfl⟩
  have e_M : (2 : Int) ^ h = (M : Int) := by rw [hM]; norm_cast
  have HM := hide hM
  rw [← hM] at p1 p2 ⊢
  have s_M : IntKind.i64.wrap (M : Int) = (M : Int) := by rw [IntKind.wrap_i64]; omega
  clear hM
  go_enter Tryz.func90, Tryz.ntmps90
  go_wp2
  go_ret
  exact ⟨rfl, keep_alloc _ _⟩
set_option maxHeartbeats 2000000 in
set_option maxRecDepth 100000 in
theorem chas (h q : Nat) (xv idv : Value) (w : World) (hh : h ≤ 25) (hq : q < 4294967296) (x1 : ∃ x, xv = .int .i64 x) (i1 : ∃ a n c, idv = .slice a n c) :
    Calls Tryz.prog 60 #[.agg #[.int .i64 (h : Int), xv, idv], .int .u32 (q : Int)] w fun e w' => e = .returned (.bool (decide (q < 2 ^ h))) ∧ Below w.heap.size w w' := by
  have hl := fun y => cleaves h xv idv y hh x1 i1
  obtain ⟨x, rfl⟩ := x1
  obtain ⟨a, n, c, rfl⟩ := i1
  obtain ⟨p1, p2⟩ := pow_25 hh
  generalize 2 ^ h = M at *
  have u_q : IntKind.u64.wrap (q : Int) = (q : Int) := by rw [IntKind.wrap_u64]; omega
  have u_M : IntKind.u64.wrap (M : Int) = (M : Int) := by rw [IntKind.wrap_u64]; omega
  go_enter Tryz.func60, Tryz.ntmps60
  go_wp2_with (first
    | (go_at_call 90; refine (hl _).mono ?_; rintro e w1 ⟨rfl, g1⟩)
    | fail)
  go_ret
  exact ⟨rfl, keep_trans (keep_alloc _ _) g1⟩
set_option maxHeartbeats 2000000 in
set_option maxRecDepth 100000 in
theorem cknotOf (h q : Nat) (xv idv : Value) (w : World) (hh : h ≤ 25) (hq : q < 4294967296) (x1 : ∃ x, xv = .int .i64 x) (i1 : ∃ a n c, idv = .slice a n c) :
    Calls Tryz.prog 100 #[.agg #[.int .i64 (h : Int), xv, idv], .int .u32 (q : Int)] w fun e w' => e = .returned (.int .i64 ((2 ^ h + q : Nat) : Int)) ∧ Below w.heap.size w w' := by
  have hl := fun y => cleaves h xv idv y hh x1 i1
  obtain ⟨x, rfl⟩ := x1
  obtain ⟨a, n, c, rfl⟩ := i1
  obtain ⟨p1, p2⟩ := pow_25 hh
  generalize 2 ^ h = M at *
  have u_q : IntKind.i64.wrap (q : Int) = (q : Int) := by rw [IntKind.wrap_i64]; omega
  obtain ⟨N, hN⟩ : ∃ N : Nat, N = M + q := ⟨_, rfl⟩
  have e_N : (M : Int) + (q : Int) = (N : Int) := by omega
  have u_N : IntKind.i64.wrap (N : Int) = (N : Int) := by rw [IntKind.wrap_i64]; omega
  rw [← hN]
  clear hN
  go_enter Tryz.func100, Tryz.ntmps100
  go_wp2_with (first
    | (go_at_call 90; refine (hl _).mono ?_; rintro e w1 ⟨rfl, g1⟩)
    | fail)
  go_ret
  exact ⟨rfl, keep_trans (keep_alloc _ _) g1⟩
def ts1lt : List Lt := [(0, some 12, [4]), (1, some 13, [12]), (0, some 14, [1]), (4, some 15, [14]), (8, some 16, [15]), (0, some 17, [2]), (48, some 18, [17]), (0, some 19, [3]), (210, some 20, [13, 16, 18, 19]), (320, some 21, [20]), (512, some 22, [21]), (1024, some 11, [22]), (2048, some 23, [11]), (2048, some 24, [11]), (8191, some 9, [23]), (32767, some 10, [24])]
theorem ts1reg : Reg (opsA (cLA (cRA (Tryz.f117.body.getD .skip)))) ts1lt := ⟨by kernel_rfl, by kernel_rfl⟩
set_option maxHeartbeats 4000000 in
set_option maxRecDepth 100000 in
theorem ctsum_any (hv xv : Value) (n mark : Nat) (id b : List Nat) (idv bv : Value) (w : World) (hT : Roots w) (h1 : ∃ h, hv = .int .i64 h) (x1 : ∃ x, xv = .int .i64 x) (ri : Row .u8 256 w idv id) (ti : Tidy idv) (rb : Row .u8 256 w bv b) (tb : Tidy bv) (hn : n < 4611686018427387904) (hm : mark < 65536) (hl : id.length + b.length ≤ 50000) :
    Calls Tryz.prog 117 #[.agg #[hv, xv, idv], .int .i64 (n : Int), .int .u64 (mark : Int), bv] w fun e w' => ∃ v, e = .returned v ∧ Own 5 .u8 256 w' w.heap.size v (shaL (id ++ (be4 n ++ (be2 mark ++ b)))) ∧ Below w.heap.size w w' := by
  obtain ⟨h, rfl⟩ := h1
  obtain ⟨x, rfl⟩ := x1
  obtain ⟨ia, ic, rfl, _⟩ := ri.opens rfl
  obtain ⟨ba, bc, rfl, _⟩ := rb.opens rfl
  have h4 := fun y => cbe4 n y (by omega)
  have h2 := fun y => cbe2 mark y (by omega)
  have hj := fun y v (r : Rows2 y v [id, be4 n, be2 mark, b]) => join_any v _ y r (by simp only [List.flatten_cons, List.flatten_nil, List.length_append, List.append_nil, be2_len, be4_len]; omega)
  have hfl : [id, be4 n, be2 mark, b].flatten = id ++ (be4 n ++ (be2 mark ++ b)) := by simp
  rw [hfl] at hj
  have hfll : (id ++ (be4 n ++ (be2 mark ++ b))).length ≤ 100000 := by simp only [List.length_append, be2_len, be4_len]; omega
  have hsum := fun y v (r : Row .u8 256 y v (id ++ (be4 n ++ (be2 mark ++ b)))) (t : Tidy v) (hTy : Roots y) => sum_1 v _ y hTy r t hfll
  rw [show endS (wide 1) (ini 1) (id ++ (be4 n ++ (be2 mark ++ b))) (id ++ (be4 n ++ (be2 mark ++ b))).length (outn 1) = shaL (id ++ (be4 n ++ (be2 mark ++ b))) from rfl] at hsum
  have hSl : (shaL (id ++ (be4 n ++ (be2 mark ++ b)))).length = 32 := shaL_len _
  generalize shaL (id ++ (be4 n ++ (be2 mark ++ b))) = SH at *
  generalize hFL : (id ++ (be4 n ++ (be2 mark ++ b))).length = FLl at *
  generalize id ++ (be4 n ++ (be2 mark ++ b)) = FL at *
  have u_n : IntKind.u64.wrap (n : Int) = (n : Int) := by rw [IntKind.wrap_u64]; omega
  have c_n : ∀ w : World, (convert 3 26 (.int .i64 (n : Int))).run Tryz.prog w = .ok (.int .u64 (n : Int)) w := fun w => by simp [go_sem, convert, Sem.run_bind, run_underlying Tryz.underlying3, run_underlying Tryz.underlying26, u_n]
  generalize hI : id.length = I at *
  generalize hB : b.length = B at *
  obtain ⟨i0, hi0, hz0, hz1, hz2⟩ := info_text
  have bN := BxD.new w (.int .i64 h) (.int .i64 x) (.slice ia I ic)
  have k0 := keep_alloc w (.cells #[.int .i64 h, .int .i64 x, .slice ia I ic] 96)
  clear hfl hn hm hl hfll
  go_enter Tryz.func117, Tryz.ntmps117
  go_wp2
  generalize hW0 : w.alloc (.cells #[.int .i64 h, .int .i64 x, .slice ia I ic] 96) = W0 at *
  have ri0 := ri.below k0
  have rb0 := rb.below k0
  have hT0 := hT.below k0
  have hbd : Below W0.heap.size W0 W0.drew := (Below.refl _ _).drew
  refine at_begin (ops := opsA (cLA (cRA (Tryz.f117.body.getD .skip)))) (n := 16) (fun y => Below W0.heap.size W0 y) (by kernel_rfl) (by kernel_rfl) ?_
  refine at_takeD (i := 0) (m' := 1) (d := some 12) (v := .pointer (some ⟨w.heap.size, 2, none⟩)) ts1reg rfl (by decide) rfl rfl (y_fieldG (wanted_free rfl) rfl rfl (fun w => by simp [go_sem])) hbd ?_
  simp only [Act.put, List.setIfInBounds_toArray, List.set_cons_zero, List.set_cons_succ]
  refine at_takeD (i := 1) (m' := 3) (d := some 13) (v := .slice ia I ic) ts1reg rfl (by decide) rfl rfl (y_plainG (wanted_free rfl) rfl rfl Tryz.underlying23 rfl (fun _ h => (bN.below h).c2)) hbd ?_
  simp only [Act.put, List.setIfInBounds_toArray, List.set_cons_zero, List.set_cons_succ]
  refine at_takeD (i := 2) (m' := 7) (d := some 14) (v := .int .i64 (n : Int)) ts1reg rfl (by decide) rfl rfl (y_moveG (wanted_free rfl) rfl rfl) hbd ?_
  simp only [Act.put, List.setIfInBounds_toArray, List.set_cons_zero, List.set_cons_succ]
  refine at_takeD (i := 3) (m' := 15) (d := some 15) (v := .int .u64 (n : Int)) ts1reg rfl (by decide) rfl rfl (y_convI (wanted_free rfl) rfl rfl c_n) hbd ?_
  simp only [Act.put, List.setIfInBounds_toArray, List.set_cons_zero, List.set_cons_succ]
  refine at_takeD (i := 5) (m' := 47) (d := some 17) (v := .int .u64 (mark : Int)) ts1reg rfl (by decide) rfl rfl (y_moveG (wanted_free rfl) rfl rfl) hbd ?_
  simp only [Act.put, List.setIfInBounds_toArray, List.set_cons_zero, List.set_cons_succ]
  refine at_takeD (i := 7) (m' := 175) (d := some 19) (v := .slice ba B bc) ts1reg rfl (by decide) rfl rfl (y_moveG (wanted_free rfl) rfl rfl) hbd ?_
  simp only [Act.put, List.setIfInBounds_toArray, List.set_cons_zero, List.set_cons_succ]
  refine at_one (i := 4) (m' := 191) ts1reg (by decide) rfl ?_
  refine p_callG (args := #[.int .u64 (n : Int), .int .i64 4]) (d := some 16) rfl (wanted_free rfl) rfl (by simp only [List.map_toArray, List.map_cons, List.map_nil]; rfl) rfl Tryz.call21 ((h4 W0.drew).mono ?_)
  rintro e y7 ⟨nv, rfl, on, g7⟩
  have rn := on.row
  have tn := on.tidy
  obtain ⟨na, nc, rfl, _⟩ := on.row.opens (be4_len n)
  have hb7 := keep_trans hbd g7
  refine ⟨_, rfl, hb7, ?_⟩
  simp only [Act.put, List.setIfInBounds_toArray, List.set_cons_zero, List.set_cons_succ]
  refine at_one (i := 6) (m' := 255) ts1reg (by decide) rfl ?_
  refine p_callG (args := #[.int .u64 (mark : Int), .int .i64 2]) (d := some 18) rfl (wanted_free rfl) rfl (by simp only [List.map_toArray, List.map_cons, List.map_nil]; rfl) rfl Tryz.call21 ((h2 y7).mono ?_)
  rintro e y8 ⟨mv, rfl, om, g8⟩
  replace rn := rn.below g8
  obtain ⟨ma, mc, rfl, _⟩ := om.row.opens (be2_len mark)
  have hb8 := keep_trans hb7 g8
  refine ⟨_, rfl, hb8, ?_⟩
  simp only [Act.put, List.setIfInBounds_toArray, List.set_cons_zero, List.set_cons_succ]
  refine at_one (i := 8) (m' := 511) ts1reg (by decide) rfl ?_
  refine p_b4 (d := some 20) rfl (wanted_free rfl) rfl rfl rfl rfl rfl rfl Tryz.underlying48 hi0 hz1 hz0 ?_
  have rr := fun hB => rows_litL (B := (y8).heap.size) (k := 4) (texts_cons (ri0.below hb8) ti (texts_cons rn tn (texts_cons om.row om.tidy (texts_cons (rb0.below hb8) tb (Texts.nil _))))) hB rfl (by decide)
  replace rr := rr rfl
  obtain ⟨Gq9, hGq9⟩ : ∃ q : Nat, (y8).heap.size = q := ⟨_, rfl⟩
  obtain ⟨z9, hz9⟩ : ∃ z : World, z = (y8).alloc (.cells #[.slice ia I ic, .slice na 4 nc, .slice ma 2 mc, .slice ba B bc] 23) := ⟨_, rfl⟩
  have kz9 : Below (y8).heap.size y8 z9 := by rw [hz9]; exact keep_alloc _ _
  have hb9 := keep_trans hb8 kz9
  rw [← hz9] at rr ⊢
  rw [hGq9] at rr ⊢
  clear hz9 hGq9
  refine ⟨hb9, ?_⟩
  simp only [Act.put, List.setIfInBounds_toArray, List.set_cons_zero, List.set_cons_succ]
  refine at_one (i := 9) (m' := 1023) ts1reg (by decide) rfl ?_
  refine p_callG (args := #[.slice (some ⟨Gq9, 0, none⟩) 4 4]) (d := some 21) rfl (wanted_free rfl) rfl (by simp only [List.map_toArray, List.map_cons, List.map_nil]; rfl) rfl Tryz.call20 ((hj z9 _ rr).mono ?_)
  rintro e y10 ⟨jv, rfl, oj, g10⟩
  have rj := oj.row
  have tj := oj.tidy
  obtain ⟨ja, jc, rfl, _⟩ := oj.row.opens hFL
  have hb10 := keep_trans hb9 g10
  refine ⟨_, rfl, hb10, ?_⟩
  simp only [Act.put, List.setIfInBounds_toArray, List.set_cons_zero, List.set_cons_succ]
  refine at_one (i := 10) (m' := 2047) ts1reg (by decide) rfl ?_
  refine p_callG (args := #[.int .i64 1, .slice ja FLl jc]) (d := some 22) rfl (wanted_free rfl) rfl (by simp only [List.map_toArray, List.map_cons, List.map_nil]; rfl) rfl Tryz.call107 ((hsum y10 _ rj tj (hT0.below hb10)).mono ?_)
  rintro e y11 ⟨sv, rfl, os, g11⟩
  have kpre := hb10
  obtain ⟨sa, sc, rfl, _⟩ := os.row.opens hSl
  have hb11 := keep_trans hb10 g11
  refine ⟨_, rfl, hb11, ?_⟩
  simp only [Act.put, List.setIfInBounds_toArray, List.set_cons_zero, List.set_cons_succ]
  refine at_takeD (i := 11) (m' := 4095) (d := some 11) (v := .tuple #[.slice sa 32 sc, .int .i64 0]) ts1reg rfl (by decide) rfl rfl (y_moveG (wanted_free rfl) rfl rfl) hb11 ?_
  simp only [Act.put, List.setIfInBounds_toArray, List.set_cons_zero, List.set_cons_succ]
  refine at_takeD (i := 12) (m' := 8191) (d := some 23) (v := .slice sa 32 sc) ts1reg rfl (by decide) rfl rfl (y_extractG (wanted_free rfl) rfl rfl rfl) hb11 ?_
  simp only [Act.put, List.setIfInBounds_toArray, List.set_cons_zero, List.set_cons_succ]
  refine at_takeD (i := 13) (m' := 16383) (d := some 24) (v := .int .i64 0) ts1reg rfl (by decide) rfl rfl (y_extractG (wanted_free rfl) rfl rfl rfl) hb11 ?_
  simp only [Act.put, List.setIfInBounds_toArray, List.set_cons_zero, List.set_cons_succ]
  refine at_takeD (i := 14) (m' := 32767) (d := some 9) (v := .slice sa 32 sc) ts1reg rfl (by decide) rfl rfl (y_assignG (wanted_free rfl) rfl rfl) hb11 ?_
  simp only [Act.put, List.setIfInBounds_toArray, List.set_cons_zero, List.set_cons_succ]
  refine at_takeD (i := 15) (m' := 65535) (d := some 10) (v := .int .i64 0) ts1reg rfl (by decide) rfl rfl (y_assignG (wanted_free rfl) rfl rfl) hb11 ?_
  simp only [Act.put, List.setIfInBounds_toArray, List.set_cons_zero, List.set_cons_succ]
  refine at_done ts1reg (by decide) ?_
  go_wp2
  go_ret
  exact ⟨_, rfl, os.mono (keep_trans k0 kpre).size, keep_trans k0 hb11⟩
set_option maxHeartbeats 4000000 in
set_option maxRecDepth 100000 in
theorem cleafSum (hv xv : Value) (n : Nat) (id b : List Nat) (idv bv : Value) (w : World) (hT : Roots w) (h1 : ∃ h, hv = .int .i64 h) (x1 : ∃ x, xv = .int .i64 x) (ri : Row .u8 256 w idv id) (ti : Tidy idv) (rb : Row .u8 256 w bv b) (tb : Tidy bv) (hn : n < 4611686018427387904) (hl : id.length + b.length ≤ 50000) :
    Calls Tryz.prog 99 #[.agg #[hv, xv, idv], .int .i64 (n : Int), bv] w fun e w' => ∃ v, e = .returned v ∧ Own 5 .u8 256 w' w.heap.size v (lfS id n b) ∧ Below w.heap.size w w' := by
  have hs := fun y (k : Below w.heap.size w y) => ctsum_any hv xv n 33410 id b idv bv y (hT.below k) h1 x1 (ri.below k) ti (rb.below k) tb hn (by decide) hl
  have hfl : shaL (id ++ (be4 n ++ (be2 33410 ++ b))) = lfS id n b := rfl
  rw [hfl] at hs
  generalize lfS id n b = SH at *
  obtain ⟨h, rfl⟩ := h1
  obtain ⟨x, rfl⟩ := x1
  obtain ⟨ia, ic, rfl, _⟩ := ri.opens rfl
  obtain ⟨ba, bc, rfl, _⟩ := rb.opens rfl
  clear hfl hn hl
  go_enter Tryz.func99, Tryz.ntmps99
  go_wp2_with (first
    | (go_at_call 117; refine (hs _ (keep_alloc _ _)).mono ?_; rintro e w1 ⟨v, rfl, o1, g1⟩)
    | fail)
  go_ret
  exact ⟨_, rfl, o1.mono (by rw [World.size_alloc]; omega), keep_trans (keep_alloc _ _) g1⟩
def ab1lt : List Lt := [(0, some 9, [4]), (0, some 10, [1]), (0, some 11, [2]), (0, some 12, [3]), (12, some 13, [11, 12]), (16, some 14, [13]), (35, some 15, [9, 10, 14]), (127, some 8, [15])]
theorem ab1reg : Reg (opsA (cLA (cRA (Tryz.f102.body.getD .skip)))) ab1lt := ⟨by kernel_rfl, by kernel_rfl⟩
set_option maxHeartbeats 4000000 in
set_option maxRecDepth 100000 in
theorem caboveSum (hv xv : Value) (n : Nat) (id l r : List Nat) (idv lv rv : Value) (w : World) (hT : Roots w) (h1 : ∃ h, hv = .int .i64 h) (x1 : ∃ x, xv = .int .i64 x) (ri : Row .u8 256 w idv id) (ti : Tidy idv) (rl : Row .u8 256 w lv l) (tl : Tidy lv) (rr : Row .u8 256 w rv r) (tr : Tidy rv) (hn : n < 4611686018427387904) (hl : id.length + (l.length + r.length) ≤ 50000) :
    Calls Tryz.prog 102 #[.agg #[hv, xv, idv], .int .i64 (n : Int), lv, rv] w fun e w' => ∃ v, e = .returned v ∧ Own 5 .u8 256 w' w.heap.size v (ovL id n l r) ∧ Below w.heap.size w w' := by
  have hs := fun y (k : Below w.heap.size w y) bv (rb : Row .u8 256 y bv (l ++ r)) (tb : Tidy bv) => ctsum_any hv xv n 33667 id (l ++ r) idv bv y (hT.below k) h1 x1 (ri.below k) ti rb tb hn (by decide) (by rw [List.length_append]; exact hl)
  have hfl : shaL (id ++ (be4 n ++ (be2 33667 ++ (l ++ r)))) = ovL id n l r := rfl
  rw [hfl] at hs
  have hSl : (ovL id n l r).length = 32 := shaL_len _
  generalize ovL id n l r = SH at *
  have hj := fun y v (q : Rows2 y v [l, r]) => join_any v _ y q (by simp only [List.flatten_cons, List.flatten_nil, List.length_append, List.append_nil]; omega)
  have hf2 : [l, r].flatten = l ++ r := by simp
  rw [hf2] at hj
  have hll : (l ++ r).length = l.length + r.length := List.length_append
  generalize l ++ r = LR at *
  obtain ⟨h, rfl⟩ := h1
  obtain ⟨x, rfl⟩ := x1
  obtain ⟨ia, ic, rfl, _⟩ := ri.opens rfl
  obtain ⟨la, lc, rfl, _⟩ := rl.opens rfl
  obtain ⟨ra, rc, rfl, _⟩ := rr.opens rfl
  generalize id.length = I at *
  generalize l.length = LL at *
  generalize r.length = RL at *
  obtain ⟨i0, hi0, hz0, hz1, hz2⟩ := info_text
  have bN := BxD.new w (.int .i64 h) (.int .i64 x) (.slice ia I ic)
  have k0 := keep_alloc w (.cells #[.int .i64 h, .int .i64 x, .slice ia I ic] 96)
  clear hfl hf2 hn hl
  go_enter Tryz.func102, Tryz.ntmps102
  go_wp2
  generalize hW0 : w.alloc (.cells #[.int .i64 h, .int .i64 x, .slice ia I ic] 96) = W0 at *
  have rl0 := rl.below k0
  have rr0 := rr.below k0
  have hbd : Below W0.heap.size W0 W0.drew := (Below.refl _ _).drew
  refine at_begin (ops := opsA (cLA (cRA (Tryz.f102.body.getD .skip)))) (n := 8) (fun y => Below W0.heap.size W0 y) (by kernel_rfl) (by kernel_rfl) ?_
  refine at_takeD (i := 0) (m' := 1) (d := some 9) (v := .agg #[.int .i64 h, .int .i64 x, .slice ia I ic]) ab1reg rfl (by decide) rfl rfl (y_rowG (cs := [.int .i64 h, .int .i64 x, .slice ia I ic]) (wanted_free rfl) rfl rfl Tryz.underlying96 rfl (by kernel_rfl) (fun _ h => (bN.below h).range)) hbd ?_
  simp only [Act.put, List.setIfInBounds_toArray, List.set_cons_zero, List.set_cons_succ]
  refine at_takeD (i := 1) (m' := 3) (d := some 10) (v := .int .i64 (n : Int)) ab1reg rfl (by decide) rfl rfl (y_moveG (wanted_free rfl) rfl rfl) hbd ?_
  simp only [Act.put, List.setIfInBounds_toArray, List.set_cons_zero, List.set_cons_succ]
  refine at_takeD (i := 2) (m' := 7) (d := some 11) (v := .slice la LL lc) ab1reg rfl (by decide) rfl rfl (y_moveG (wanted_free rfl) rfl rfl) hbd ?_
  simp only [Act.put, List.setIfInBounds_toArray, List.set_cons_zero, List.set_cons_succ]
  refine at_takeD (i := 3) (m' := 15) (d := some 12) (v := .slice ra RL rc) ab1reg rfl (by decide) rfl rfl (y_moveG (wanted_free rfl) rfl rfl) hbd ?_
  simp only [Act.put, List.setIfInBounds_toArray, List.set_cons_zero, List.set_cons_succ]
  refine at_one (i := 4) (m' := 31) ab1reg (by decide) rfl ?_
  refine p_build2G (d := some 13) rfl (wanted_free rfl) rfl rfl rfl rfl Tryz.underlying48 hi0 hz1 hz0 ?_
  have rq := fun hB => rows_litL (B := (W0.drew).heap.size) (k := 2) (texts_cons (rl0.below hbd) tl (texts_cons (rr0.below hbd) tr (Texts.nil _))) hB rfl (by decide)
  replace rq := rq rfl
  obtain ⟨Gq5, hGq5⟩ : ∃ q : Nat, (W0.drew).heap.size = q := ⟨_, rfl⟩
  obtain ⟨z5, hz5⟩ : ∃ z : World, z = (W0.drew).alloc (.cells #[.slice la LL lc, .slice ra RL rc] 23) := ⟨_, rfl⟩
  have kz5 : Below (W0.drew).heap.size W0.drew z5 := by rw [hz5]; exact keep_alloc _ _
  have hb5 := keep_trans hbd kz5
  rw [← hz5] at rq ⊢
  rw [hGq5] at rq ⊢
  clear hz5 hGq5
  refine ⟨hb5, ?_⟩
  simp only [Act.put, List.setIfInBounds_toArray, List.set_cons_zero, List.set_cons_succ]
  refine at_one (i := 5) (m' := 63) ab1reg (by decide) rfl ?_
  refine p_callG (args := #[.slice (some ⟨Gq5, 0, none⟩) 2 2]) (d := some 14) rfl (wanted_free rfl) rfl (by simp only [List.map_toArray, List.map_cons, List.map_nil]; rfl) rfl Tryz.call20 ((hj z5 _ rq).mono ?_)
  rintro e y6 ⟨jv, rfl, oj, g6⟩
  have rj := oj.row
  have tj := oj.tidy
  obtain ⟨ja, jc, rfl, _⟩ := oj.row.opens hll
  have hb6 := keep_trans hb5 g6
  refine ⟨_, rfl, hb6, ?_⟩
  simp only [Act.put, List.setIfInBounds_toArray, List.set_cons_zero, List.set_cons_succ]
  refine at_one (i := 6) (m' := 127) ab1reg (by decide) rfl ?_
  refine p_callG (args := #[.agg #[.int .i64 h, .int .i64 x, .slice ia I ic], .int .i64 (n : Int), .int .u64 33667, .slice ja (LL + RL) jc]) (d := some 15) rfl (wanted_free rfl) rfl (by simp only [List.map_toArray, List.map_cons, List.map_nil]; rfl) rfl Tryz.call117 ((hs y6 (keep_trans k0 hb6) _ rj tj).mono ?_)
  rintro e y7 ⟨sv, rfl, os, g7⟩
  have kpre := hb6
  obtain ⟨sa, sc, rfl, _⟩ := os.row.opens hSl
  have hb7 := keep_trans hb6 g7
  refine ⟨_, rfl, hb7, ?_⟩
  simp only [Act.put, List.setIfInBounds_toArray, List.set_cons_zero, List.set_cons_succ]
  refine at_takeD (i := 7) (m' := 255) (d := some 8) (v := .slice sa 32 sc) ab1reg rfl (by decide) rfl rfl (y_assignG (wanted_free rfl) rfl rfl) hb7 ?_
  simp only [Act.put, List.setIfInBounds_toArray, List.set_cons_zero, List.set_cons_succ]
  refine at_done ab1reg (by decide) ?_
  go_wp2
  go_ret
  exact ⟨_, rfl, os.mono (keep_trans k0 kpre).size, keep_trans k0 hb7⟩
end Go.Proofs.YtogiballdmgcpaaGreatDoor

/- Trees of leaves that sign once, the program's own: the neighbours of the knots from a leaf up, by an iterator. -/
namespace Go.Proofs.YtogiballdmgcpaaGreatDoor
open Go.RowKit Go.Shelf
set_option linter.unusedVariables false
set_option linter.unusedSimpArgs false
attribute [local go_sem] Oper.semAt_some

theorem grown_belowL {W y : World} (hb : Below W.heap.size W y) : W.grownBy y none := ⟨hb.os, hb.tape, hb.output, hb.size, fun k hk _ => hb.block k hk⟩
/-- a struct read, inside a fence -/
theorem wpListIn_rowL {F : Fence} {n : Nat} {ops : Array Oper} {Q : Exit → Act → World → Prop} {rest : List Oper} {o : Oper} {a : Act} {w : World} (hF : ∀ f, F.fn f) (hg : o.guard = none) (t : TypeId) (x : Operand) (ho : o.op = .load t x) (b c : Nat) (hx : a.eval x = .pointer (some ⟨b, c, none⟩)) (cs : List Value) (d : TypeDesc) (hc : w.rangeAt b c cs)
    (hu : Tryz.prog.underlying t = some d) (hd : d.isRow = true) (hi : (Tryz.prog.info? t).map (·.size) = some cs.length) (h : wpListIn F n Tryz.prog ops Q rest (a.put o.dst (.agg cs.toArray)) w) : wpListIn F n Tryz.prog ops Q (o :: rest) a w := by
  have hr : (execOp a.eval o).run Tryz.prog w = .ok (.value (.agg cs.toArray)) w := by
    unfold execOp
    simp only [ho, hx, Instr.loadAt, Instr.sureAddr, Sem.run_bind, Sem.run_pure, Result.andThen_ok, run_loadVar_mid w b c t cs d hc hu hd hi]
  refine wpListIn_plain hg fun K hK => ?_
  unfold Oper.wpIn
  refine ⟨fun f _ => hF f, ?_⟩
  rw [Oper.semAt_eq _ _ _ (fun c hc => by rw [ho] at hc; cases hc), hr]
  exact hK _ _ h
theorem xor1_i64L (n : Nat) (hn : n < 67108864) : bits .xor .i64 (n : Int) 1 = ((n ^^^ 1 : Nat) : Int) := by
  show IntKind.i64.wrap ((BitVec.ofInt 64 (n : Int) ^^^ BitVec.ofInt 64 ((1 : Nat) : Int)).toNat : Int) = _
  rw [BitVec.toNat_xor, ofInt_u64 _ (by omega), ofInt_u64 _ (by omega), IntKind.wrap_i64]
  have : n ^^^ 1 < 2 ^ 26 := Nat.xor_lt_two_pow (by omega) (by decide)
  omega
/-- what the iterator hands out -/
def nbV (n i : Nat) : Array Value := #[.int .i64 (i : Int), .int .i64 (((n / 2 ^ i) ^^^ 1 : Nat) : Int)]
theorem range_pre_step {h k : Nat} (hk : k < h) : (List.range k ++ [k]) <+: List.range h := by
  rw [← List.range_succ]
  exact ⟨(List.range (h - (k + 1))).map (· + (k + 1)), by
    have := List.range_add (n := k + 1) (m := h - (k + 1))
    rw [show k + 1 + (h - (k + 1)) = h by omega] at this
    rw [this]
    congr 1
    apply List.map_congr_left
    intro x _
    omega⟩
theorem pre_range {h x : Nat} {pre : List Nat} (hp : (pre ++ [x]) <+: List.range h) : pre = List.range x ∧ x < h := by
  obtain ⟨r, hr⟩ := hp
  have hx : (List.range h)[pre.length]? = some x := by rw [← hr]; simp
  have hlt : pre.length < h := by
    have := (List.getElem?_eq_some_iff.1 hx).1
    simpa using this
  rw [List.getElem?_range hlt] at hx
  have e : pre.length = x := Option.some.inj hx
  refine ⟨?_, by omega⟩
  have ht := congrArg (List.take x) hr
  rw [List.take_range, Nat.min_eq_left (by omega), List.append_assoc, List.take_append_of_le_length (by omega), List.take_of_length_le (by omega)] at ht
  exact ht
set_option maxHeartbeats 2000000 in
set_option maxRecDepth 100000 in
theorem neighbours_any (h : Nat) (xv idv : Value) (q : Nat) (w : World) (x1 : ∃ x, xv = .int .i64 x) (i1 : ∃ a n c, idv = .slice a n c) :
    Calls Tryz.prog 101 #[.agg #[.int .i64 (h : Int), xv, idv], .int .u32 (q : Int)] w fun e w' => e = .returned (.func (.func 118) #[] #[.pointer (some ⟨w.heap.size, 0, none⟩), .pointer (some ⟨w.heap.size + 1, 0, none⟩)]) ∧ w' = (w.alloc (.cells #[.int .i64 (h : Int), xv, idv] 96)).alloc (.cells #[.int .u32 (q : Int)] 52) := by
  obtain ⟨x, rfl⟩ := x1
  obtain ⟨a, n, c, rfl⟩ := i1
  go_enter Tryz.func101, Tryz.ntmps101
  go_wp2
  go_ret
  exact ⟨rfl, rfl⟩
set_option maxHeartbeats 4000000 in
set_option maxRecDepth 100000 in
theorem nb1_own (m : Nat) (hm : 2 ≤ m) (B1 B2 h q : Nat) (xv idv : Value) (x1 : ∃ x, xv = .int .i64 x) (i1 : ∃ a n c, idv = .slice a n c) (hh : h ≤ 25) (hq : q < 2 ^ h) (w0 : World) (V : World → Prop) (b1 : BxD w0 B1 (.int .i64 (h : Int)) xv idv) (b2 : Boxed w0 B2 52 (.int .u32 (q : Int))) :
    OwnPre m Tryz.prog 118 #[.pointer (some ⟨B1, 0, none⟩), .pointer (some ⟨B2, 0, none⟩)] (fun i : Nat => nbV (2 ^ h + q) i) (List.range h) V w0 := by
  intro l J W hW hlW hJ hJV hY h0
  show CallsIn Fence.wide m Tryz.prog 118 #[.func (.yield l) #[] #[], .pointer (some ⟨B1, 0, none⟩), .pointer (some ⟨B2, 0, none⟩)] W _
  have h1m : 1 ≤ m := by omega
  have bW := b1.below hW
  have bQ : Boxed W B2 52 (.int .u32 (q : Int)) := (hW.block _ b2.lt).trans b2
  have c2 := bQ.cell
  obtain ⟨p1, p2⟩ := pow_25 hh
  have hkn := fun y => cknotOf h q xv idv y hh (by omega) x1 i1
  obtain ⟨x, rfl⟩ := x1
  obtain ⟨ia, il, ic, rfl⟩ := i1
  obtain ⟨n0, hn0⟩ : ∃ n0, n0 = 2 ^ h + q := ⟨_, rfl⟩
  rw [← hn0] at hkn hY
  have hnl : n0 < 67108864 := by omega
  clear hn0 b1 b2 p1 p2 hq hJV
  refine callsIn_of_wp Tryz.func118 rfl trivial ?_ rfl
  simp only [Tryz.ntmps118, List.size_toArray, List.length_cons, List.length_nil, Nat.reduceAdd, Nat.reduceSub, Array.replicate_succ, Array.replicate_zero, List.push_toArray, List.append_toArray, List.nil_append, List.cons_append]
  gi_wp2_with (first
    | (refine wpListIn_rowL (fun _ => trivial) rfl 96 _ rfl B1 0 rfl [.int .i64 (h : Int), .int .i64 x, .slice ia il ic] _ bW.range Tryz.underlying96 rfl (by kernel_rfl) ?_)
    | (refine ⟨trivial, ?_⟩; gi_at_call 100; refine (callsIn_wide.2 (hkn _)).mono ?_; rintro e w1 ⟨rfl, g1⟩; have bX := bW.below g1; have cX := bX.c0)
    | fail)
  gi_loopw [4, 12] (fun vk vi wr => ∃ i : Nat, i ≤ h ∧ vi = .int .i64 (i : Int) ∧ vk = .int .i64 ((n0 / 2 ^ i : Nat) : Int) ∧ J (List.range i) wr ∧ W.heap.size ≤ wr.heap.size) (fun _ vi _ => h - (intOf vi).toNat)
  case atStart => exact ⟨0, Nat.zero_le _, rfl, by rw [Nat.pow_zero, Nat.div_one], hJ _ W w1 none h0 (grown_belowL g1) (fun r e => by cases e), g1.size⟩
  case round =>
    obtain ⟨i, hi, rfl, rfl, hJs, hsz⟩ := hrel
    by_cases hlt : i < h
    · have hli : (i : Int) < (h : Int) := by omega
      obtain ⟨I, hI⟩ : ∃ I : Nat, I = i + 1 := ⟨_, rfl⟩
      have e_I : (i : Int) + 1 = (I : Int) := by omega
      have s_I : IntKind.i64.wrap (I : Int) = (I : Int) := by rw [IntKind.wrap_i64]; omega
      have hyy := hY (List.range i) i _ hJs (range_pre_step hlt) hsz
      have hdv : n0 / 2 ^ i ≤ n0 := Nat.div_le_self _ _
      have hdd : n0 / 2 ^ (i + 1) = n0 / 2 ^ i / 2 := by rw [Nat.pow_succ, Nat.div_div_eq_div_mul]
      unfold nbV at hyy
      obtain ⟨D, hD⟩ : ∃ D, D = n0 / 2 ^ i := ⟨_, rfl⟩
      rw [← hD] at hyy hdv hdd ⊢
      have x_D := xor1_i64L D (by omega)
      obtain ⟨X, hX⟩ : ∃ X, X = D ^^^ 1 := ⟨_, rfl⟩
      rw [← hX] at hyy x_D
      obtain ⟨Q, hQ⟩ : ∃ Q, Q = D / 2 := ⟨_, rfl⟩
      have e_Q : (D : Int).tdiv 2 = (Q : Int) := by rw [Int.tdiv_eq_ediv_of_nonneg (by omega)]; omega
      have e_Q2 : (D : Int) / 2 = (Q : Int) := by omega
      have s_Q : IntKind.i64.wrap (Q : Int) = (Q : Int) := by rw [IntKind.wrap_i64]; omega
      obtain ⟨fn, tmps, assign, body, hy, hR⟩ := hyy
      have HX := hide (And.intro hI (And.intro hX (And.intro hQ (And.intro hD (And.intro hdv hdd)))))
      clear hI hX hQ hD hdv hdd
      gi_wp2_with (first
        | (refine hR.mono ?_; rintro e W3 ⟨rfl, hJ3, hk3⟩)
        | fail)
      obtain ⟨hI, hX, hQ, hD, hdv, hdd⟩ := HX.out
      go_roundw
      case rel => exact ⟨i + 1, by omega, vint (by omega), by rw [hdd, ← hQ], by rw [List.range_succ]; exact hJ3, Nat.le_trans hsz hk3.size⟩
      case measure => simp [intOf]; omega
    · obtain rfl : i = h := by omega
      have hge : ¬ ((i : Int) < (i : Int)) := by omega
      gi_wp2
      go_end0
      exact ⟨⟨_, rfl⟩, hJs⟩
end Go.Proofs.YtogiballdmgcpaaGreatDoor
