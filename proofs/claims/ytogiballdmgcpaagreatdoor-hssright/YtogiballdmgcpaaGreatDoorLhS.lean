/- Trees of trees, the program's own: a level's sums, the tree below it, its leaf, its key and its signatures. -/
import Derived.Test.YtogiballdmgcpaaGreatDoorLhA
import Derived.Test.YtogiballdmgcpaaGreatDoorLtV
import Derived.Test.YtogiballdmgcpaaGreatDoorLsE
import Derived.Test.YtogiballdmgcpaaGreatDoorLsN
import Derived.Test.YtogiballdmgcpaaGreatDoorLsQ
import Derived.Laws.BitsAllLaws
namespace Go.Proofs.YtogiballdmgcpaaGreatDoor
open Go.RowKit
set_option linter.unusedVariables false
set_option linter.unusedSimpArgs false

/-- a level's box -/
structure BxH (W : World) (B : Nat) (a b c d e : Value) : Prop where
  here : W.heap[B]? = some (.cells #[a, b, c, d, e] 54 (0, 0))
theorem BxH.lt {W : World} {B : Nat} {a b c d e : Value} (h : BxH W B a b c d e) : B < W.heap.size := (Array.getElem?_eq_some_iff.1 h.here).1
theorem BxH.below {W W' : World} {B : Nat} {a b c d e : Value} (h : BxH W B a b c d e) (hb : Below W.heap.size W W') : BxH W' B a b c d e := ⟨(hb.block _ h.lt).trans h.here⟩
theorem BxH.but {W W' : World} {B g : Nat} {a b c d e : Value} (h : BxH W B a b c d e) (hb : But g W W') (hne : B ≠ g) : BxH W' B a b c d e := ⟨(hb.block _ h.lt hne).trans h.here⟩
theorem BxH.new (W : World) (a b c d e : Value) : BxH (W.alloc (.cells #[a, b, c, d, e] 54)) W.heap.size a b c d e := ⟨heap_alloc_new W _⟩
theorem BxH.row {W : World} {B : Nat} {a b c d e a' b' c' d' e' : Value} (h : BxH W B a b c d e) : BxH (W.setRow B #[a', b', c', d', e']) B a' b' c' d' e' := ⟨setRow_heap W B _ _ _ _ h.here⟩
theorem BxH.range {W : World} {B : Nat} {a b c d e : Value} (h : BxH W B a b c d e) : W.rangeAt B 0 [a, b, c, d, e] := fun j v hv => by
  rw [Nat.zero_add]
  simp only [World.cell?, h.here]
  simpa using hv
theorem BxH.range2 {W : World} {B : Nat} {a b c d e : Value} (h : BxH W B a b c d e) : W.rangeAt B 0 [a, b] := fun j v hv => by
  rw [Nat.zero_add]
  simp only [World.cell?, h.here]
  rcases j with _ | _ | j
  · simpa using hv
  · simpa using hv
  · simp at hv
theorem BxH.c0 {W : World} {B : Nat} {a b c d e : Value} (h : BxH W B a b c d e) : W.cell? ⟨B, 0, none⟩ = some a := by simp [World.cell?, h.here]
theorem BxH.c1 {W : World} {B : Nat} {a b c d e : Value} (h : BxH W B a b c d e) : W.cell? ⟨B, 1, none⟩ = some b := by simp [World.cell?, h.here]
theorem BxH.c2 {W : World} {B : Nat} {a b c d e : Value} (h : BxH W B a b c d e) : W.cell? ⟨B, 2, none⟩ = some c := by simp [World.cell?, h.here]
theorem BxH.c3 {W : World} {B : Nat} {a b c d e : Value} (h : BxH W B a b c d e) : W.cell? ⟨B, 3, none⟩ = some d := by simp [World.cell?, h.here]
theorem BxH.c4 {W : World} {B : Nat} {a b c d e : Value} (h : BxH W B a b c d e) : W.cell? ⟨B, 4, none⟩ = some e := by simp [World.cell?, h.here]
set_option maxHeartbeats 2000000 in
set_option maxRecDepth 100000 in
theorem chleaf (h n : Nat) (x : Int) (ia sa : Option Addr) (il ic sl sc : Nat) (q0 : Int) (w : World) (hh : h ≤ 10) (hn : n < 18446744073709551616) :
    Calls Tryz.prog 51 #[.agg #[.int .i64 (h : Int), .int .i64 x, .slice ia il ic, .slice sa sl sc, .int .u32 q0], .int .u64 (n : Int)] w fun e w' => e = .returned (.int .u32 ((n % 2 ^ h : Nat) : Int)) ∧ Below w.heap.size w w' := by
  have hM10 := pow_le_1024 hh
  have hMp := Nat.two_pow_pos h
  have x_n : bits .and .u64 (n : Int) ((2 ^ h - 1 : Nat) : Int) = ((n % 2 ^ h : Nat) : Int) := by
    rw [u64_and_nat n (2 ^ h - 1) hn (by omega), Nat.and_two_pow_sub_one_eq_mod]
  have hq : n % 2 ^ h < 2 ^ h := Nat.mod_lt _ hMp
  obtain ⟨q, hq0⟩ : ∃ q, q = n % 2 ^ h := ⟨_, rfl⟩
  rw [← hq0] at x_n hq ⊢
  obtain ⟨M, hM⟩ : ∃ M, M = 2 ^ h := ⟨_, rfl⟩
  have e_M : (2 : Int) ^ h = (M : Int) := by rw [hM]; norm_cast
  rw [← hM] at x_n hq hM10 hMp
  obtain ⟨M1, hM1⟩ : ∃ M1, M1 = M - 1 := ⟨_, rfl⟩
  rw [← hM1] at x_n
  have e_1 : (M : Int) - 1 = (M1 : Int) := by omega
  have s_M : IntKind.u64.wrap (M : Int) = (M : Int) := by rw [IntKind.wrap_u64]; omega
  have s_1 : IntKind.u64.wrap (M1 : Int) = (M1 : Int) := by rw [IntKind.wrap_u64]; omega
  have s_q : IntKind.u32.wrap (q : Int) = (q : Int) := by rw [IntKind.wrap_u32]; omega
  have h64 : (h : Int) < 64 := by omega
  clear hq0 hM hM1 hM10 hMp hq
  go_enter Tryz.func51, Tryz.ntmps51
  go_wp2
  go_ret
  exact ⟨rfl, keep_alloc _ _⟩
def hu1lt : List Lt := [(0, some 8, [2]), (1, some 9, [8]), (0, some 10, [2]), (4, some 11, [10]), (8, some 12, [11]), (16, some 13, [12]), (0, some 14, [1]), (96, some 15, [14]), (0, some 16, []), (0, some 17, [2]), (512, some 18, [17]), (1442, some 19, [9, 13, 15, 16, 18]), (2176, some 20, [19]), (4096, some 21, [20]), (8192, some 7, [21]), (16384, some 22, [7]), (16384, some 23, [7]), (65535, some 5, [22]), (262143, some 6, [23])]
theorem hu1reg : Reg (opsA (cLA (cRA (Tryz.f79.body.getD .skip)))) hu1lt := ⟨by kernel_rfl, by kernel_rfl⟩
set_option maxHeartbeats 4000000 in
set_option maxRecDepth 100000 in
theorem chsum (h x : Int) (q mark : Nat) (id seed : List Nat) (idv sv : Value) (w : World) (hT : Roots w) (ri : Row .u8 256 w idv id) (ti : Tidy idv) (rs : Row .u8 256 w sv seed) (ts : Tidy sv) (hq : q < 4294967296) (hm : mark < 65536) (hl : id.length + seed.length ≤ 50000) :
    Calls Tryz.prog 79 #[.agg #[.int .i64 h, .int .i64 x, idv, sv, .int .u32 (q : Int)], .int .u64 (mark : Int)] w fun e w' => ∃ v, e = .returned v ∧ Own 5 .u8 256 w' w.heap.size v (lmX shaL (preL id q) mark 255 seed) ∧ Below w.heap.size w w' := by
  obtain ⟨ia, ic, rfl, _⟩ := ri.opens rfl
  obtain ⟨sa, sc, rfl, _⟩ := rs.opens rfl
  have h4 := fun y => cbe4 q y (by omega)
  have h2 := fun y => cbe2 mark y (by omega)
  have hj := fun y v (r : Rows2 y v [id, be4 q, be2 mark, [255], seed]) => join_any v _ y r (by simp only [List.flatten_cons, List.flatten_nil, List.length_append, List.append_nil, be2_len, be4_len, List.length_cons, List.length_nil]; omega)
  have hfl : [id, be4 q, be2 mark, [255], seed].flatten = preL id q ++ (be2 mark ++ ([255] ++ seed)) := by simp [preL]
  rw [hfl] at hj
  have hfll : (preL id q ++ (be2 mark ++ ([255] ++ seed))).length ≤ 100000 := by simp only [List.length_append, len_pre, be2_len, List.length_cons, List.length_nil]; omega
  have hsum := fun y v (r : Row .u8 256 y v (preL id q ++ (be2 mark ++ ([255] ++ seed)))) (t : Tidy v) (hTy : Roots y) => sum_1 v _ y hTy r t hfll
  have hsh : ∀ X : List Nat, endS (wide 1) (ini 1) X X.length (outn 1) = shaL X := fun _ => rfl
  have hlm : ∀ H : List Nat → List Nat, H (preL id q ++ (be2 mark ++ ([255] ++ seed))) = lmX H (preL id q) mark 255 seed := fun _ => rfl
  rw [hsh, hlm shaL] at hsum
  clear hsh hlm
  have hSl : (lmX shaL (preL id q) mark 255 seed).length = 32 := shaL_len _
  generalize lmX shaL (preL id q) mark 255 seed = SH at *
  generalize hFL : (preL id q ++ (be2 mark ++ ([255] ++ seed))).length = FLl at *
  generalize preL id q ++ (be2 mark ++ ([255] ++ seed)) = FL at *
  generalize hI : id.length = I at *
  generalize hB : seed.length = B at *
  obtain ⟨i0, hi0, hz0, hz1, hz2⟩ := info_text
  obtain ⟨y0, hy0, hyz, hys, _⟩ := info_byte
  have bN := BxH.new w (.int .i64 h) (.int .i64 x) (.slice ia I ic) (.slice sa B sc) (.int .u32 (q : Int))
  have k0 := keep_alloc w (.cells #[.int .i64 h, .int .i64 x, .slice ia I ic, .slice sa B sc, .int .u32 (q : Int)] 54)
  clear hfl hm hl hfll
  go_enter Tryz.func79, Tryz.ntmps79
  go_wp2
  generalize hW0 : w.alloc (.cells #[.int .i64 h, .int .i64 x, .slice ia I ic, .slice sa B sc, .int .u32 (q : Int)] 54) = W0 at *
  have ri0 := ri.below k0
  have rs0 := rs.below k0
  have hT0 := hT.below k0
  have hbd : Below W0.heap.size W0 W0.drew := (Below.refl _ _).drew
  refine at_begin (ops := opsA (cLA (cRA (Tryz.f79.body.getD .skip)))) (n := 19) (fun y => Below W0.heap.size W0 y) (by kernel_rfl) (by kernel_rfl) ?_
  refine at_takeD (i := 0) (m' := 1) (d := some 8) (v := .pointer (some ⟨w.heap.size, 2, none⟩)) hu1reg rfl (by decide) rfl rfl (y_fieldG (wanted_free rfl) rfl rfl (fun w => by simp [go_sem])) hbd ?_
  simp only [Act.put, List.setIfInBounds_toArray, List.set_cons_zero, List.set_cons_succ]
  refine at_takeD (i := 1) (m' := 3) (d := some 9) (v := .slice ia I ic) hu1reg rfl (by decide) rfl rfl (y_plainG (wanted_free rfl) rfl rfl Tryz.underlying23 rfl (fun _ h => (bN.below h).c2)) hbd ?_
  simp only [Act.put, List.setIfInBounds_toArray, List.set_cons_zero, List.set_cons_succ]
  refine at_takeD (i := 2) (m' := 7) (d := some 10) (v := .pointer (some ⟨w.heap.size, 4, none⟩)) hu1reg rfl (by decide) rfl rfl (y_fieldG (wanted_free rfl) rfl rfl (fun w => by simp [go_sem])) hbd ?_
  simp only [Act.put, List.setIfInBounds_toArray, List.set_cons_zero, List.set_cons_succ]
  refine at_takeD (i := 3) (m' := 15) (d := some 11) (v := .int .u32 (q : Int)) hu1reg rfl (by decide) rfl rfl (y_plainG (wanted_free rfl) rfl rfl Tryz.underlying52 rfl (fun _ h => (bN.below h).c4)) hbd ?_
  simp only [Act.put, List.setIfInBounds_toArray, List.set_cons_zero, List.set_cons_succ]
  refine at_takeD (i := 4) (m' := 31) (d := some 12) (v := .int .u64 (q : Int)) hu1reg rfl (by decide) rfl rfl (y_convI (wanted_free rfl) rfl rfl (conv_u32u64 q (by omega))) hbd ?_
  simp only [Act.put, List.setIfInBounds_toArray, List.set_cons_zero, List.set_cons_succ]
  refine at_takeD (i := 6) (m' := 95) (d := some 14) (v := .int .u64 (mark : Int)) hu1reg rfl (by decide) rfl rfl (y_moveG (wanted_free rfl) rfl rfl) hbd ?_
  simp only [Act.put, List.setIfInBounds_toArray, List.set_cons_zero, List.set_cons_succ]
  refine at_takeD (i := 9) (m' := 607) (d := some 17) (v := .pointer (some ⟨w.heap.size, 3, none⟩)) hu1reg rfl (by decide) rfl rfl (y_fieldG (wanted_free rfl) rfl rfl (fun w => by simp [go_sem])) hbd ?_
  simp only [Act.put, List.setIfInBounds_toArray, List.set_cons_zero, List.set_cons_succ]
  refine at_takeD (i := 10) (m' := 1631) (d := some 18) (v := .slice sa B sc) hu1reg rfl (by decide) rfl rfl (y_plainG (wanted_free rfl) rfl rfl Tryz.underlying23 rfl (fun _ h => (bN.below h).c3)) hbd ?_
  simp only [Act.put, List.setIfInBounds_toArray, List.set_cons_zero, List.set_cons_succ]
  refine at_two (i := 5) (j := 8) (m1 := 1663) (m2 := 1887) hu1reg (by decide) rfl rfl ?_ ?_
  · refine p_callG (args := #[.int .u64 (q : Int), .int .i64 4]) (d := some 13) rfl (wanted_free rfl) rfl (by simp only [List.map_toArray, List.map_cons, List.map_nil]; rfl) rfl Tryz.call21 ((h4 W0.drew).mono ?_)
    rintro e y9 ⟨nv, rfl, on, g9⟩
    try replace rn := rn.below g9
    try replace rm := rm.below g9
    try replace rx := rx.below g9
    have rn := on.row
    have tn := on.tidy
    obtain ⟨na, nc, rfl, _⟩ := on.row.opens (be4_len q)
    have hb9 := keep_trans hbd g9
    refine ⟨_, rfl, hb9, ?_⟩
    simp only [Act.put, List.setIfInBounds_toArray, List.set_cons_zero, List.set_cons_succ]
    refine at_two (i := 7) (j := 8) (m1 := 1791) (m2 := 1919) hu1reg (by decide) rfl rfl ?_ ?_
    · refine p_callG (args := #[.int .u64 (mark : Int), .int .i64 2]) (d := some 15) rfl (wanted_free rfl) rfl (by simp only [List.map_toArray, List.map_cons, List.map_nil]; rfl) rfl Tryz.call21 ((h2 y9).mono ?_)
      rintro e y10 ⟨mv, rfl, om, g10⟩
      try replace rn := rn.below g10
      try replace rm := rm.below g10
      try replace rx := rx.below g10
      have rm := om.row
      have tm := om.tidy
      obtain ⟨ma, mc, rfl, _⟩ := om.row.opens (be2_len mark)
      have hb10 := keep_trans hb9 g10
      refine ⟨_, rfl, hb10, ?_⟩
      simp only [Act.put, List.setIfInBounds_toArray, List.set_cons_zero, List.set_cons_succ]
      refine at_one (i := 8) (m' := 2047) hu1reg (by decide) rfl ?_
      refine p_byte1 (d := some 16) rfl (wanted_free rfl) rfl rfl rfl Tryz.underlying23 hy0 hys hyz ?_
      have hx := one_byte y10 255 (by decide)
      have kz11 := keep_alloc y10 (.cells #[.int .u8 255] 5)
      try replace rn := rn.below kz11
      try replace rm := rm.below kz11
      try replace rx := rx.below kz11
      have rx := hx.1
      have tx := hx.2
      obtain ⟨Gx, hGx⟩ : ∃ q : Nat, (y10).heap.size = q := ⟨_, rfl⟩
      obtain ⟨z11, hz11⟩ : ∃ z : World, z = (y10).alloc (.cells #[.int .u8 255] 5) := ⟨_, rfl⟩
      rw [show ((255 : Nat) : Int) = 255 from rfl] at rx
      try rw [← hz11] at rn
      try rw [← hz11] at rm
      rw [← hz11] at rx kz11 ⊢
      rw [hGx] at rx tx ⊢
      have hb11 := keep_trans hb10 kz11
      clear hx hz11 hGx
      refine ⟨hb11, ?_⟩
      simp only [Act.put, List.setIfInBounds_toArray, List.set_cons_zero, List.set_cons_succ]
      refine at_one (i := 11) (m' := 4095) hu1reg (by decide) rfl ?_
      refine p_b5 (d := some 19) rfl (wanted_free rfl) rfl rfl rfl rfl rfl rfl rfl Tryz.underlying48 hi0 hz1 hz0 ?_
      have rr := fun hB => rows_litL (B := (z11).heap.size) (k := 5) (texts_cons (ri0.below hb11) ti (texts_cons rn tn (texts_cons rm tm (texts_cons rx tx (texts_cons (rs0.below hb11) ts (Texts.nil _)))))) hB rfl (by decide)
      replace rr := rr rfl
      obtain ⟨Gq12, hGq12⟩ : ∃ q : Nat, (z11).heap.size = q := ⟨_, rfl⟩
      obtain ⟨z12, hz12⟩ : ∃ z : World, z = (z11).alloc (.cells #[.slice ia I ic, .slice na 4 nc, .slice ma 2 mc, .slice (some ⟨Gx, 0, none⟩) 1 1, .slice sa B sc] 23) := ⟨_, rfl⟩
      have kz12 : Below (z11).heap.size z11 z12 := by rw [hz12]; exact keep_alloc _ _
      have hb12 := keep_trans hb11 kz12
      rw [← hz12] at rr ⊢
      rw [hGq12] at rr ⊢
      clear hz12 hGq12
      refine ⟨hb12, ?_⟩
      simp only [Act.put, List.setIfInBounds_toArray, List.set_cons_zero, List.set_cons_succ]
      refine at_one (i := 12) (m' := 8191) hu1reg (by decide) rfl ?_
      refine p_callG (args := #[.slice (some ⟨Gq12, 0, none⟩) 5 5]) (d := some 20) rfl (wanted_free rfl) rfl (by simp only [List.map_toArray, List.map_cons, List.map_nil]; rfl) rfl Tryz.call20 ((hj z12 _ rr).mono ?_)
      rintro e y13 ⟨jv, rfl, oj, g13⟩
      have rj := oj.row
      have tj := oj.tidy
      obtain ⟨ja, jc, rfl, _⟩ := oj.row.opens hFL
      have hb13 := keep_trans hb12 g13
      refine ⟨_, rfl, hb13, ?_⟩
      simp only [Act.put, List.setIfInBounds_toArray, List.set_cons_zero, List.set_cons_succ]
      refine at_one (i := 13) (m' := 16383) hu1reg (by decide) rfl ?_
      refine p_callG (args := #[.int .i64 1, .slice ja FLl jc]) (d := some 21) rfl (wanted_free rfl) rfl (by simp only [List.map_toArray, List.map_cons, List.map_nil]; rfl) rfl Tryz.call107 ((hsum y13 _ rj tj (hT0.below hb13)).mono ?_)
      rintro e y14 ⟨sv2, rfl, os, g14⟩
      have kpre := hb13
      obtain ⟨sa2, sc2, rfl, _⟩ := os.row.opens hSl
      have hb14 := keep_trans hb13 g14
      refine ⟨_, rfl, hb14, ?_⟩
      simp only [Act.put, List.setIfInBounds_toArray, List.set_cons_zero, List.set_cons_succ]
      refine at_takeD (i := 14) (m' := 32767) (d := some 7) (v := .tuple #[.slice sa2 32 sc2, .int .i64 0]) hu1reg rfl (by decide) rfl rfl (y_moveG (wanted_free rfl) rfl rfl) hb14 ?_
      simp only [Act.put, List.setIfInBounds_toArray, List.set_cons_zero, List.set_cons_succ]
      refine at_takeD (i := 15) (m' := 65535) (d := some 22) (v := .slice sa2 32 sc2) hu1reg rfl (by decide) rfl rfl (y_extractG (wanted_free rfl) rfl rfl rfl) hb14 ?_
      simp only [Act.put, List.setIfInBounds_toArray, List.set_cons_zero, List.set_cons_succ]
      refine at_takeD (i := 16) (m' := 131071) (d := some 23) (v := .int .i64 0) hu1reg rfl (by decide) rfl rfl (y_extractG (wanted_free rfl) rfl rfl rfl) hb14 ?_
      simp only [Act.put, List.setIfInBounds_toArray, List.set_cons_zero, List.set_cons_succ]
      refine at_takeD (i := 17) (m' := 262143) (d := some 5) (v := .slice sa2 32 sc2) hu1reg rfl (by decide) rfl rfl (y_assignG (wanted_free rfl) rfl rfl) hb14 ?_
      simp only [Act.put, List.setIfInBounds_toArray, List.set_cons_zero, List.set_cons_succ]
      refine at_takeD (i := 18) (m' := 524287) (d := some 6) (v := .int .i64 0) hu1reg rfl (by decide) rfl rfl (y_assignG (wanted_free rfl) rfl rfl) hb14 ?_
      simp only [Act.put, List.setIfInBounds_toArray, List.set_cons_zero, List.set_cons_succ]
      refine at_done hu1reg (by decide) ?_
      go_wp2
      go_ret
      exact ⟨_, rfl, os.mono (keep_trans k0 kpre).size, keep_trans k0 hb14⟩
    · refine p_byte1 (d := some 16) rfl (wanted_free rfl) rfl rfl rfl Tryz.underlying23 hy0 hys hyz ?_
      have hx := one_byte y9 255 (by decide)
      have kz10 := keep_alloc y9 (.cells #[.int .u8 255] 5)
      try replace rn := rn.below kz10
      try replace rm := rm.below kz10
      try replace rx := rx.below kz10
      have rx := hx.1
      have tx := hx.2
      obtain ⟨Gx, hGx⟩ : ∃ q : Nat, (y9).heap.size = q := ⟨_, rfl⟩
      obtain ⟨z10, hz10⟩ : ∃ z : World, z = (y9).alloc (.cells #[.int .u8 255] 5) := ⟨_, rfl⟩
      rw [show ((255 : Nat) : Int) = 255 from rfl] at rx
      try rw [← hz10] at rn
      try rw [← hz10] at rm
      rw [← hz10] at rx kz10 ⊢
      rw [hGx] at rx tx ⊢
      have hb10 := keep_trans hb9 kz10
      clear hx hz10 hGx
      refine ⟨hb10, ?_⟩
      simp only [Act.put, List.setIfInBounds_toArray, List.set_cons_zero, List.set_cons_succ]
      refine at_one (i := 7) (m' := 2047) hu1reg (by decide) rfl ?_
      refine p_callG (args := #[.int .u64 (mark : Int), .int .i64 2]) (d := some 15) rfl (wanted_free rfl) rfl (by simp only [List.map_toArray, List.map_cons, List.map_nil]; rfl) rfl Tryz.call21 ((h2 z10).mono ?_)
      rintro e y11 ⟨mv, rfl, om, g11⟩
      try replace rn := rn.below g11
      try replace rm := rm.below g11
      try replace rx := rx.below g11
      have rm := om.row
      have tm := om.tidy
      obtain ⟨ma, mc, rfl, _⟩ := om.row.opens (be2_len mark)
      have hb11 := keep_trans hb10 g11
      refine ⟨_, rfl, hb11, ?_⟩
      simp only [Act.put, List.setIfInBounds_toArray, List.set_cons_zero, List.set_cons_succ]
      refine at_one (i := 11) (m' := 4095) hu1reg (by decide) rfl ?_
      refine p_b5 (d := some 19) rfl (wanted_free rfl) rfl rfl rfl rfl rfl rfl rfl Tryz.underlying48 hi0 hz1 hz0 ?_
      have rr := fun hB => rows_litL (B := (y11).heap.size) (k := 5) (texts_cons (ri0.below hb11) ti (texts_cons rn tn (texts_cons rm tm (texts_cons rx tx (texts_cons (rs0.below hb11) ts (Texts.nil _)))))) hB rfl (by decide)
      replace rr := rr rfl
      obtain ⟨Gq12, hGq12⟩ : ∃ q : Nat, (y11).heap.size = q := ⟨_, rfl⟩
      obtain ⟨z12, hz12⟩ : ∃ z : World, z = (y11).alloc (.cells #[.slice ia I ic, .slice na 4 nc, .slice ma 2 mc, .slice (some ⟨Gx, 0, none⟩) 1 1, .slice sa B sc] 23) := ⟨_, rfl⟩
      have kz12 : Below (y11).heap.size y11 z12 := by rw [hz12]; exact keep_alloc _ _
      have hb12 := keep_trans hb11 kz12
      rw [← hz12] at rr ⊢
      rw [hGq12] at rr ⊢
      clear hz12 hGq12
      refine ⟨hb12, ?_⟩
      simp only [Act.put, List.setIfInBounds_toArray, List.set_cons_zero, List.set_cons_succ]
      refine at_one (i := 12) (m' := 8191) hu1reg (by decide) rfl ?_
      refine p_callG (args := #[.slice (some ⟨Gq12, 0, none⟩) 5 5]) (d := some 20) rfl (wanted_free rfl) rfl (by simp only [List.map_toArray, List.map_cons, List.map_nil]; rfl) rfl Tryz.call20 ((hj z12 _ rr).mono ?_)
      rintro e y13 ⟨jv, rfl, oj, g13⟩
      have rj := oj.row
      have tj := oj.tidy
      obtain ⟨ja, jc, rfl, _⟩ := oj.row.opens hFL
      have hb13 := keep_trans hb12 g13
      refine ⟨_, rfl, hb13, ?_⟩
      simp only [Act.put, List.setIfInBounds_toArray, List.set_cons_zero, List.set_cons_succ]
      refine at_one (i := 13) (m' := 16383) hu1reg (by decide) rfl ?_
      refine p_callG (args := #[.int .i64 1, .slice ja FLl jc]) (d := some 21) rfl (wanted_free rfl) rfl (by simp only [List.map_toArray, List.map_cons, List.map_nil]; rfl) rfl Tryz.call107 ((hsum y13 _ rj tj (hT0.below hb13)).mono ?_)
      rintro e y14 ⟨sv2, rfl, os, g14⟩
      have kpre := hb13
      obtain ⟨sa2, sc2, rfl, _⟩ := os.row.opens hSl
      have hb14 := keep_trans hb13 g14
      refine ⟨_, rfl, hb14, ?_⟩
      simp only [Act.put, List.setIfInBounds_toArray, List.set_cons_zero, List.set_cons_succ]
      refine at_takeD (i := 14) (m' := 32767) (d := some 7) (v := .tuple #[.slice sa2 32 sc2, .int .i64 0]) hu1reg rfl (by decide) rfl rfl (y_moveG (wanted_free rfl) rfl rfl) hb14 ?_
      simp only [Act.put, List.setIfInBounds_toArray, List.set_cons_zero, List.set_cons_succ]
      refine at_takeD (i := 15) (m' := 65535) (d := some 22) (v := .slice sa2 32 sc2) hu1reg rfl (by decide) rfl rfl (y_extractG (wanted_free rfl) rfl rfl rfl) hb14 ?_
      simp only [Act.put, List.setIfInBounds_toArray, List.set_cons_zero, List.set_cons_succ]
      refine at_takeD (i := 16) (m' := 131071) (d := some 23) (v := .int .i64 0) hu1reg rfl (by decide) rfl rfl (y_extractG (wanted_free rfl) rfl rfl rfl) hb14 ?_
      simp only [Act.put, List.setIfInBounds_toArray, List.set_cons_zero, List.set_cons_succ]
      refine at_takeD (i := 17) (m' := 262143) (d := some 5) (v := .slice sa2 32 sc2) hu1reg rfl (by decide) rfl rfl (y_assignG (wanted_free rfl) rfl rfl) hb14 ?_
      simp only [Act.put, List.setIfInBounds_toArray, List.set_cons_zero, List.set_cons_succ]
      refine at_takeD (i := 18) (m' := 524287) (d := some 6) (v := .int .i64 0) hu1reg rfl (by decide) rfl rfl (y_assignG (wanted_free rfl) rfl rfl) hb14 ?_
      simp only [Act.put, List.setIfInBounds_toArray, List.set_cons_zero, List.set_cons_succ]
      refine at_done hu1reg (by decide) ?_
      go_wp2
      go_ret
      exact ⟨_, rfl, os.mono (keep_trans k0 kpre).size, keep_trans k0 hb14⟩
  · refine p_byte1 (d := some 16) rfl (wanted_free rfl) rfl rfl rfl Tryz.underlying23 hy0 hys hyz ?_
    have hx := one_byte W0.drew 255 (by decide)
    have kz9 := keep_alloc W0.drew (.cells #[.int .u8 255] 5)
    try replace rn := rn.below kz9
    try replace rm := rm.below kz9
    try replace rx := rx.below kz9
    have rx := hx.1
    have tx := hx.2
    obtain ⟨Gx, hGx⟩ : ∃ q : Nat, (W0.drew).heap.size = q := ⟨_, rfl⟩
    obtain ⟨z9, hz9⟩ : ∃ z : World, z = (W0.drew).alloc (.cells #[.int .u8 255] 5) := ⟨_, rfl⟩
    rw [show ((255 : Nat) : Int) = 255 from rfl] at rx
    try rw [← hz9] at rn
    try rw [← hz9] at rm
    rw [← hz9] at rx kz9 ⊢
    rw [hGx] at rx tx ⊢
    have hb9 := keep_trans hbd kz9
    clear hx hz9 hGx
    refine ⟨hb9, ?_⟩
    simp only [Act.put, List.setIfInBounds_toArray, List.set_cons_zero, List.set_cons_succ]
    refine at_one (i := 5) (m' := 1919) hu1reg (by decide) rfl ?_
    refine p_callG (args := #[.int .u64 (q : Int), .int .i64 4]) (d := some 13) rfl (wanted_free rfl) rfl (by simp only [List.map_toArray, List.map_cons, List.map_nil]; rfl) rfl Tryz.call21 ((h4 z9).mono ?_)
    rintro e y10 ⟨nv, rfl, on, g10⟩
    try replace rn := rn.below g10
    try replace rm := rm.below g10
    try replace rx := rx.below g10
    have rn := on.row
    have tn := on.tidy
    obtain ⟨na, nc, rfl, _⟩ := on.row.opens (be4_len q)
    have hb10 := keep_trans hb9 g10
    refine ⟨_, rfl, hb10, ?_⟩
    simp only [Act.put, List.setIfInBounds_toArray, List.set_cons_zero, List.set_cons_succ]
    refine at_one (i := 7) (m' := 2047) hu1reg (by decide) rfl ?_
    refine p_callG (args := #[.int .u64 (mark : Int), .int .i64 2]) (d := some 15) rfl (wanted_free rfl) rfl (by simp only [List.map_toArray, List.map_cons, List.map_nil]; rfl) rfl Tryz.call21 ((h2 y10).mono ?_)
    rintro e y11 ⟨mv, rfl, om, g11⟩
    try replace rn := rn.below g11
    try replace rm := rm.below g11
    try replace rx := rx.below g11
    have rm := om.row
    have tm := om.tidy
    obtain ⟨ma, mc, rfl, _⟩ := om.row.opens (be2_len mark)
    have hb11 := keep_trans hb10 g11
    refine ⟨_, rfl, hb11, ?_⟩
    simp only [Act.put, List.setIfInBounds_toArray, List.set_cons_zero, List.set_cons_succ]
    refine at_one (i := 11) (m' := 4095) hu1reg (by decide) rfl ?_
    refine p_b5 (d := some 19) rfl (wanted_free rfl) rfl rfl rfl rfl rfl rfl rfl Tryz.underlying48 hi0 hz1 hz0 ?_
    have rr := fun hB => rows_litL (B := (y11).heap.size) (k := 5) (texts_cons (ri0.below hb11) ti (texts_cons rn tn (texts_cons rm tm (texts_cons rx tx (texts_cons (rs0.below hb11) ts (Texts.nil _)))))) hB rfl (by decide)
    replace rr := rr rfl
    obtain ⟨Gq12, hGq12⟩ : ∃ q : Nat, (y11).heap.size = q := ⟨_, rfl⟩
    obtain ⟨z12, hz12⟩ : ∃ z : World, z = (y11).alloc (.cells #[.slice ia I ic, .slice na 4 nc, .slice ma 2 mc, .slice (some ⟨Gx, 0, none⟩) 1 1, .slice sa B sc] 23) := ⟨_, rfl⟩
    have kz12 : Below (y11).heap.size y11 z12 := by rw [hz12]; exact keep_alloc _ _
    have hb12 := keep_trans hb11 kz12
    rw [← hz12] at rr ⊢
    rw [hGq12] at rr ⊢
    clear hz12 hGq12
    refine ⟨hb12, ?_⟩
    simp only [Act.put, List.setIfInBounds_toArray, List.set_cons_zero, List.set_cons_succ]
    refine at_one (i := 12) (m' := 8191) hu1reg (by decide) rfl ?_
    refine p_callG (args := #[.slice (some ⟨Gq12, 0, none⟩) 5 5]) (d := some 20) rfl (wanted_free rfl) rfl (by simp only [List.map_toArray, List.map_cons, List.map_nil]; rfl) rfl Tryz.call20 ((hj z12 _ rr).mono ?_)
    rintro e y13 ⟨jv, rfl, oj, g13⟩
    have rj := oj.row
    have tj := oj.tidy
    obtain ⟨ja, jc, rfl, _⟩ := oj.row.opens hFL
    have hb13 := keep_trans hb12 g13
    refine ⟨_, rfl, hb13, ?_⟩
    simp only [Act.put, List.setIfInBounds_toArray, List.set_cons_zero, List.set_cons_succ]
    refine at_one (i := 13) (m' := 16383) hu1reg (by decide) rfl ?_
    refine p_callG (args := #[.int .i64 1, .slice ja FLl jc]) (d := some 21) rfl (wanted_free rfl) rfl (by simp only [List.map_toArray, List.map_cons, List.map_nil]; rfl) rfl Tryz.call107 ((hsum y13 _ rj tj (hT0.below hb13)).mono ?_)
    rintro e y14 ⟨sv2, rfl, os, g14⟩
    have kpre := hb13
    obtain ⟨sa2, sc2, rfl, _⟩ := os.row.opens hSl
    have hb14 := keep_trans hb13 g14
    refine ⟨_, rfl, hb14, ?_⟩
    simp only [Act.put, List.setIfInBounds_toArray, List.set_cons_zero, List.set_cons_succ]
    refine at_takeD (i := 14) (m' := 32767) (d := some 7) (v := .tuple #[.slice sa2 32 sc2, .int .i64 0]) hu1reg rfl (by decide) rfl rfl (y_moveG (wanted_free rfl) rfl rfl) hb14 ?_
    simp only [Act.put, List.setIfInBounds_toArray, List.set_cons_zero, List.set_cons_succ]
    refine at_takeD (i := 15) (m' := 65535) (d := some 22) (v := .slice sa2 32 sc2) hu1reg rfl (by decide) rfl rfl (y_extractG (wanted_free rfl) rfl rfl rfl) hb14 ?_
    simp only [Act.put, List.setIfInBounds_toArray, List.set_cons_zero, List.set_cons_succ]
    refine at_takeD (i := 16) (m' := 131071) (d := some 23) (v := .int .i64 0) hu1reg rfl (by decide) rfl rfl (y_extractG (wanted_free rfl) rfl rfl rfl) hb14 ?_
    simp only [Act.put, List.setIfInBounds_toArray, List.set_cons_zero, List.set_cons_succ]
    refine at_takeD (i := 17) (m' := 262143) (d := some 5) (v := .slice sa2 32 sc2) hu1reg rfl (by decide) rfl rfl (y_assignG (wanted_free rfl) rfl rfl) hb14 ?_
    simp only [Act.put, List.setIfInBounds_toArray, List.set_cons_zero, List.set_cons_succ]
    refine at_takeD (i := 18) (m' := 524287) (d := some 6) (v := .int .i64 0) hu1reg rfl (by decide) rfl rfl (y_assignG (wanted_free rfl) rfl rfl) hb14 ?_
    simp only [Act.put, List.setIfInBounds_toArray, List.set_cons_zero, List.set_cons_succ]
    refine at_done hu1reg (by decide) ?_
    go_wp2
    go_ret
    exact ⟨_, rfl, os.mono (keep_trans k0 kpre).size, keep_trans k0 hb14⟩
def hb1lt : List Lt := [(0, some 4, [1]), (1, some 5, [4]), (2, some 6, [5]), (0, some 7, [1]), (10, some 8, [7]), (23, some 2, [6]), (63, some 3, [8])]
theorem hb1reg : Reg (opsA (cLA (cRA (Tryz.f50.body.getD .skip)))) hb1lt := ⟨by kernel_rfl, by kernel_rfl⟩
set_option maxHeartbeats 4000000 in
set_option maxRecDepth 100000 in
theorem chbelow (h x : Int) (q : Nat) (id seed : List Nat) (idv sv : Value) (w : World) (hT : Roots w) (ri : Row .u8 256 w idv id) (ti : Tidy idv) (rs : Row .u8 256 w sv seed) (ts : Tidy sv) (hq : q < 4294967296) (hl : id.length + seed.length ≤ 50000) :
    Calls Tryz.prog 50 #[.agg #[.int .i64 h, .int .i64 x, idv, sv, .int .u32 (q : Int)]] w fun e w' => ∃ u v, e = .returned (.tuple #[u, v]) ∧ Row .u8 256 w' u (idB id seed q) ∧ Row .u8 256 w' v (sdB id seed q) ∧ Tidy u ∧ Tidy v ∧ New w.heap.size u ∧ New w.heap.size v ∧ Below w.heap.size w w' := by
  have hA := fun y (k : Below w.heap.size w y) => chsum h x q 65535 id seed idv sv y (hT.below k) (ri.below k) ti (rs.below k) ts hq (by decide) hl
  have hB := fun y (k : Below w.heap.size w y) => chsum h x q 65534 id seed idv sv y (hT.below k) (ri.below k) ti (rs.below k) ts hq (by decide) hl
  have hA32 : (lmX shaL (preL id q) 65535 255 seed).length = 32 := shaL_len _
  have hB32 : (lmX shaL (preL id q) 65534 255 seed).length = 32 := shaL_len _
  unfold idB sdB
  generalize lmX shaL (preL id q) 65535 255 seed = RA at *
  generalize lmX shaL (preL id q) 65534 255 seed = RB at *
  obtain ⟨ia, ic, rfl, _⟩ := ri.opens rfl
  obtain ⟨sa, sc, rfl, _⟩ := rs.opens rfl
  generalize id.length = I at *
  generalize seed.length = S at *
  have bN := BxH.new w (.int .i64 h) (.int .i64 x) (.slice ia I ic) (.slice sa S sc) (.int .u32 (q : Int))
  have k0 := keep_alloc w (.cells #[.int .i64 h, .int .i64 x, .slice ia I ic, .slice sa S sc, .int .u32 (q : Int)] 54)
  clear hq hl
  go_enter Tryz.func50, Tryz.ntmps50
  go_wp2
  generalize hW0 : w.alloc (.cells #[.int .i64 h, .int .i64 x, .slice ia I ic, .slice sa S sc, .int .u32 (q : Int)] 54) = W0 at *
  have hbd : Below W0.heap.size W0 W0.drew := (Below.refl _ _).drew
  refine at_begin (ops := opsA (cLA (cRA (Tryz.f50.body.getD .skip)))) (n := 7) (fun y => Below W0.heap.size W0 y) (by kernel_rfl) (by kernel_rfl) ?_
  refine at_takeD (i := 0) (m' := 1) (d := some 4) (v := .agg #[.int .i64 h, .int .i64 x, .slice ia I ic, .slice sa S sc, .int .u32 (q : Int)]) hb1reg rfl (by decide) rfl rfl (y_rowG (cs := [.int .i64 h, .int .i64 x, .slice ia I ic, .slice sa S sc, .int .u32 (q : Int)]) (wanted_free rfl) rfl rfl Tryz.underlying54 rfl (by kernel_rfl) (fun _ h => (bN.below h).range)) hbd ?_
  simp only [Act.put, List.setIfInBounds_toArray, List.set_cons_zero, List.set_cons_succ]
  refine at_takeD (i := 3) (m' := 9) (d := some 7) (v := .agg #[.int .i64 h, .int .i64 x, .slice ia I ic, .slice sa S sc, .int .u32 (q : Int)]) hb1reg rfl (by decide) rfl rfl (y_rowG (cs := [.int .i64 h, .int .i64 x, .slice ia I ic, .slice sa S sc, .int .u32 (q : Int)]) (wanted_free rfl) rfl rfl Tryz.underlying54 rfl (by kernel_rfl) (fun _ h => (bN.below h).range)) hbd ?_
  simp only [Act.put, List.setIfInBounds_toArray, List.set_cons_zero, List.set_cons_succ]
  refine at_one (i := 1) (m' := 11) hb1reg (by decide) rfl ?_
  refine p_callG (args := #[.agg #[.int .i64 h, .int .i64 x, .slice ia I ic, .slice sa S sc, .int .u32 (q : Int)], .int .u64 65535]) (d := some 5) rfl (wanted_free rfl) rfl (by simp only [List.map_toArray, List.map_cons, List.map_nil]; rfl) rfl Tryz.call79 ((hA W0.drew (keep_trans k0 hbd)).mono ?_)
  rintro e y3 ⟨v3, rfl, o3, g3⟩
  have r3 := o3.row
  have n3 := New.mono o3.new (keep_trans k0 hbd).size
  obtain ⟨a3, c3, rfl, l3, _, _⟩ := r3.opens hA32
  have l3n : 16 ≤ c3 := by omega
  have hb3 := keep_trans hbd g3
  refine ⟨_, rfl, hb3, ?_⟩
  simp only [Act.put, List.setIfInBounds_toArray, List.set_cons_zero, List.set_cons_succ]
  refine at_takeD (i := 2) (m' := 15) (d := some 6) (v := .slice a3 16 c3) hb1reg rfl (by decide) rfl rfl (y_toG (wanted_free rfl) rfl rfl rfl l3n) hb3 ?_
  simp only [Act.put, List.setIfInBounds_toArray, List.set_cons_zero, List.set_cons_succ]
  refine at_one (i := 4) (m' := 31) hb1reg (by decide) rfl ?_
  refine p_callG (args := #[.agg #[.int .i64 h, .int .i64 x, .slice ia I ic, .slice sa S sc, .int .u32 (q : Int)], .int .u64 65534]) (d := some 8) rfl (wanted_free rfl) rfl (by simp only [List.map_toArray, List.map_cons, List.map_nil]; rfl) rfl Tryz.call79 ((hB y3 (keep_trans k0 hb3)).mono ?_)
  rintro e y5 ⟨v4, rfl, ob, g5⟩
  have kpre := hb3
  have g3 := g5
  obtain ⟨a4, c4, rfl, _⟩ := ob.row.opens hB32
  have hb5 := keep_trans hb3 g5
  refine ⟨_, rfl, hb5, ?_⟩
  simp only [Act.put, List.setIfInBounds_toArray, List.set_cons_zero, List.set_cons_succ]
  refine at_takeD (i := 5) (m' := 63) (d := some 2) (v := .slice a3 16 c3) hb1reg rfl (by decide) rfl rfl (y_assignG (wanted_free rfl) rfl rfl) hb5 ?_
  simp only [Act.put, List.setIfInBounds_toArray, List.set_cons_zero, List.set_cons_succ]
  refine at_takeD (i := 6) (m' := 127) (d := some 3) (v := .slice a4 32 c4) hb1reg rfl (by decide) rfl rfl (y_assignG (wanted_free rfl) rfl rfl) hb5 ?_
  simp only [Act.put, List.setIfInBounds_toArray, List.set_cons_zero, List.set_cons_succ]
  refine at_done hb1reg (by decide) ?_
  go_wp2
  go_ret2
  have rA := r3.below g3
  have tA := row_tidyA r3 (by omega)
  exact ⟨_, _, rfl, rA.cut (M := 16) (by omega), ob.row, tA.to (by omega), row_tidyA ob.row (by omega), fun q hq => n3 q (by rw [own_any _ _ _ 16 c3]; exact hq), New.mono ob.new (keep_trans k0 kpre).size, keep_trans k0 hb5⟩
set_option maxHeartbeats 4000000 in
set_option maxRecDepth 100000 in
theorem chkey {t : Int × Int} (hg : FitG t) (id seed : List Nat) (idv sv : Value) (q0 : Int) (w : World) (hT : Roots w) (ri : Row .u8 256 w idv id) (ti : Tidy idv) (rs : Row .u8 256 w sv seed) (ts : Tidy sv) (hil : id.length = 16) (hsl : seed.length = 32) :
    Calls Tryz.prog 22 #[.agg #[.int .i64 t.1, .int .i64 t.2, idv, sv, .int .u32 q0]] w fun e w' => ∃ v, e = .returned v ∧ Own 5 .u8 256 w' w.heap.size v (pubG t id seed) ∧ Below w.heap.size w w' := by
  obtain ⟨k, hk, kd⟩ := hg.kd
  have hp := hg.pos
  have hw := hg.wrg
  obtain ⟨h, x⟩ := t
  simp only at hk hp hw
  subst hk
  obtain ⟨H, rfl⟩ : ∃ H : Nat, h = (H : Int) := ⟨h.toNat, by omega⟩
  have hpu := fun y (b : Below w.heap.size w y) => cpubT_ok kd H id seed idv sv y (hT.below b) (ri.below b) ti (rs.below b) ts hil hsl hw
  unfold pubG
  simp only [Int.toNat_natCast]
  generalize (be4 (lmCode (H : Int)) ++ be4 (cK k)) ++ (id ++ knT k (nK k) (mK k) H id seed 1) = PK at *
  obtain ⟨ia, ic, rfl, _⟩ := ri.opens hil
  obtain ⟨sa, sc, rfl, _⟩ := rs.opens hsl
  have bN := BxH.new w (.int .i64 (H : Int)) (.int .i64 (k : Int)) (.slice ia 16 ic) (.slice sa 32 sc) (.int .u32 q0)
  have k0 := keep_alloc w (.cells #[.int .i64 (H : Int), .int .i64 (k : Int), .slice ia 16 ic, .slice sa 32 sc, .int .u32 q0] 54)
  clear hg hp hw kd hil hsl
  go_enter Tryz.func22, Tryz.ntmps22
  go_wp2_with (first
    | (refine wpList_load_mid rfl 45 _ (by rfl) w.heap.size 0 (by rfl) [.int .i64 (H : Int), .int .i64 (k : Int)] _ bN.range2 Tryz.underlying45 rfl (by kernel_rfl) ?_)
    | (go_at_call 45; refine (hpu _ k0).mono ?_; rintro e w1 ⟨v, rfl, o1, g1⟩)
    | fail)
  go_ret
  exact ⟨_, rfl, o1.mono k0.size, keep_trans k0 g1⟩
set_option maxHeartbeats 4000000 in
set_option maxRecDepth 100000 in
theorem chsign {t : Int × Int} (hg : FitG t) (id seed text : List Nat) (q : Nat) (idv sv tv : Value) (w : World) (hT : Roots w) (ri : Row .u8 256 w idv id) (ti : Tidy idv) (rs : Row .u8 256 w sv seed) (ts : Tidy sv) (rt : Row .u8 256 w tv text) (tt : Tidy tv) (hil : id.length = 16) (hsl : seed.length = 32) (htl : text.length ≤ 10000) (hq : q < 2 ^ t.1.toNat) :
    Calls Tryz.prog 27 #[.agg #[.int .i64 t.1, .int .i64 t.2, idv, sv, .int .u32 (q : Int)], tv] w fun e w' => ∃ v, e = .returned v ∧ Own 5 .u8 256 w' w.heap.size v (sigG t id seed q text) ∧ Below w.heap.size w w' := by
  obtain ⟨k, hk, kd⟩ := hg.kd
  have hp := hg.pos
  have hw := hg.wrg
  obtain ⟨h, x⟩ := t
  simp only at hk hp hw
  subst hk
  obtain ⟨H, rfl⟩ : ∃ H : Nat, h = (H : Int) := ⟨h.toNat, by omega⟩
  have hpu := fun y (b : Below w.heap.size w y) => csignT_ok kd H q id seed text idv sv tv y (hT.below b) (ri.below b) ti (rs.below b) ts (rt.below b) tt hil hsl htl hw (by simpa using hq)
  unfold sigG
  simp only [Int.toNat_natCast]
  generalize ([be4 q, sgT k (nK k) (mK k) (sK k) (cK k) id seed text q, be4 (lmCode (H : Int))] ++ pthA (knT k (nK k) (mK k) H id seed) H (2 ^ H + q)).flatten = PK at *
  obtain ⟨ia, ic, rfl, _⟩ := ri.opens hil
  obtain ⟨sa, sc, rfl, _⟩ := rs.opens hsl
  obtain ⟨ta, tc, rfl, _⟩ := rt.opens rfl
  generalize text.length = TL at *
  have bN := BxH.new w (.int .i64 (H : Int)) (.int .i64 (k : Int)) (.slice ia 16 ic) (.slice sa 32 sc) (.int .u32 (q : Int))
  have k0 := keep_alloc w (.cells #[.int .i64 (H : Int), .int .i64 (k : Int), .slice ia 16 ic, .slice sa 32 sc, .int .u32 (q : Int)] 54)
  clear hg hp hw kd hil hsl htl hq
  go_enter Tryz.func27, Tryz.ntmps27
  go_wp2_with (first
    | (refine wpList_load_mid rfl 45 _ (by rfl) w.heap.size 0 (by rfl) [.int .i64 (H : Int), .int .i64 (k : Int)] _ bN.range2 Tryz.underlying45 rfl (by kernel_rfl) ?_)
    | (go_at_call 52; refine (hpu _ k0).mono ?_; rintro e w1 ⟨v, rfl, o1, g1⟩)
    | fail)
  go_ret
  exact ⟨_, rfl, o1.mono k0.size, keep_trans k0 g1⟩
end Go.Proofs.YtogiballdmgcpaaGreatDoor
