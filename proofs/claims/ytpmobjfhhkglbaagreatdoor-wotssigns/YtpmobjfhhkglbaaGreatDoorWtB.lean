import Derived.Test.YtpmobjfhhkglbaaGreatDoorWtA
import Derived.Test.YtpmobjfhhkglbaaGreatDoorWtF
import Derived.Test.YtpmobjfhhkglbaaGreatDoorKNw
set_option maxHeartbeats 8000000
set_option maxRecDepth 100000
namespace Go.Proofs.YtpmobjfhhkglbaaGreatDoor
open Go.RowKit
set_option linter.unusedVariables false
set_option linter.unusedSimpArgs false
def sumW (N : Nat) (sh : Bool) (pub a text : List Nat) : List Nat :=
  match sh with
  | true => sumK 7 (pub ++ (a ++ text)) N
  | false => if 16 < N ∧ N < text.length then (digD 3 (pub ++ (List.replicate (128 - N) 0 ++ (shA a ++ text)))).take N else (digD 1 (pub ++ (List.replicate (64 - N) 0 ++ (shA a ++ text)))).take N
theorem sumW_len {N : Nat} (hN : N ≤ 32) (sh : Bool) (pub a text : List Nat) : (sumW N sh pub a text).length = N := by
  unfold sumW
  split
  · exact sqzB_length _ _ _
  · split
    · rw [List.length_take, digD_length (by decide), show sizeD 3 = 64 from rfl]; omega
    · rw [List.length_take, digD_length (by decide), show sizeD 1 = 32 from rfl]; omega
theorem y_subIW {ops : Array Oper} {S : World → Prop} {o : Oper} {a : Act} {x y : Operand} {t t' : TypeId} {i j q : Int} (hw : Region.wanted o (yielded ops a.tmps) = true) (ho : o.op = .binOp .sub t x y t') (hx : a.eval x = .int .i64 i) (hy : a.eval y = .int .i64 j) (hu : Tryz.prog.underlying t = some (.int .i64)) (hb : IntKind.i64.wrap (i - j) = q) : YieldsIf Tryz.prog ops S o (.int .i64 q) a := by
  refine y_ofG hw fun w _ => ?_
  unfold execOp
  simp only [ho, hx, hy]
  simp [go_sem, Sem.run_bind, run_underlying hu, hb]
theorem wpList_load_rowS {ops : Array Oper} {rest : List Oper} {o : Oper} {a : Act} {w : World} {Q : Exit → Act → World → Prop} (hw : Region.wanted o (yielded ops a.tmps) = true) (ty : TypeId) (x : Operand) (ho : o.op = .load ty x)
    (g : Nat) (hx : a.eval x = .pointer (some ⟨g, 0, none⟩)) (t : TypeId) (cs : Array Value) (fr : Nat × Nat) (fs : _) (hg : w.heap[g]? = some (.cells cs t fr))
    (hu : Tryz.prog.underlying ty = some (.struct fs)) (hi : (Tryz.prog.info? ty).map (·.size) = some cs.size)
    (h : wpList Tryz.prog ops Q rest (a.put o.dst (.agg cs)) w) : wpList Tryz.prog ops Q (o :: rest) a w :=
  BigFrame.wpList_want hw fun _ hK => wp_load_row ty x ho g hx t cs fr (.struct fs) hg hu rfl hi (hK _ _ h)
theorem own_lenW {a : Option Addr} {n m c c' : Nat} : (Value.slice a n c).ownBlock = (Value.slice a m c').ownBlock := by cases a <;> rfl
def sm4lt : List Lt := [(0, some 28, [1]), (0, some 29, [6]), (0, some 30, [3]), (7, some 31, [28, 29, 30]), (8, some 32, [31]), (0, some 33, [4]), (32, some 34, [33]), (80, some 35, [32, 34]), (128, some 27, [35]), (256, some 36, [27]), (256, some 37, [27]), (1023, some 9, [36]), (4095, some 10, [37])]
theorem sm4reg : Reg (opsA (cLA (cCT (cRA (cLA (cRA (cRA (Tryz.f16.body.getD .skip)))))))) sm4lt := ⟨by kernel_rfl, by kernel_rfl⟩
def sm11lt : List Lt := [(0, some 50, [11]), (0, some 51, [1]), (0, some 52, [12]), (0, some 53, [4]), (8, some 54, [53]), (20, some 55, [52, 54]), (32, some 56, [55, 55]), (0, some 57, [6]), (128, some 58, [57]), (0, some 59, [3]), (834, some 60, [51, 56, 58, 59]), (1280, some 61, [60]), (2049, some 62, [50, 61]), (4096, some 49, [62]), (8192, some 63, [49]), (8192, some 64, [49]), (32767, some 13, [63]), (131071, some 14, [64])]
theorem sm11reg : Reg (opsA (cLA (cRA (cRA (cRA (cRA (cRA (cRA (Tryz.f16.body.getD .skip))))))))) sm11lt := ⟨by kernel_rfl, by kernel_rfl⟩
theorem rsumW_t {N : Nat} {H D A K : Int} (pub a text : List Nat) (pv tv : Value) (w : World) (hF : FitX (N : Int) H D A K) (ha : Pl a) (hp : Row .u8 256 w pv pub) (tp : Tidy pv) (ht : Row .u8 256 w tv text) (tt : Tidy tv) (hpl : pub.length = N) (htl : text.length ≤ 50000)  :
    Calls Tryz.prog 16 #[slV (N : Int) H D A K true, pv, .agg (arr .u8 a), tv] w fun e w' => ∃ v, e = .returned v ∧ Row .u8 256 w' v (sumW N true pub a text) ∧ New w.heap.size v ∧ Below w.heap.size w w' := by
  have hfit := fun y => rfitX_any (N : Int) H D A K true y
  rw [decide_eq_true hF] at hfit
  unfold slV at hfit ⊢
  obtain ⟨pa, pc, rfl, _⟩ := hp.opens hpl
  obtain ⟨ta, tc, rfl, _⟩ := ht.opens rfl
  have hN := hF.1
  have hN1 : 16 ≤ N ∧ N ≤ 32 := by omega
  have bx0 : BxSW ((w.alloc (.cells #[.int .i64 (N : Int), .int .i64 H, .int .i64 D, .int .i64 A, .int .i64 K, .bool true] 23)).alloc (.cells (arr .u8 a) 25)) w.heap.size (N : Int) H D A K true := (BxSW.new w (N : Int) H D A K true).below (keep_alloc _ _)
  have L0 := Lies.new .u8 25 (w.alloc (.cells #[.int .i64 (N : Int), .int .i64 H, .int .i64 D, .int .i64 A, .int .i64 K, .bool true] 23)) a
  rw [World.size_alloc] at L0
  have k0 := keep_trans (keep_alloc w (.cells #[.int .i64 (N : Int), .int .i64 H, .int .i64 D, .int .i64 A, .int .i64 K, .bool true] 23)) (keep_alloc (w.alloc (.cells #[.int .i64 (N : Int), .int .i64 H, .int .i64 D, .int .i64 A, .int .i64 K, .bool true] 23)) (.cells (arr .u8 a) 25))
  have c0 := bx0.c0
  obtain ⟨i0, hi0, hz0, hz1, hz2⟩ := info_text
  have hsk : ∀ y v, Row .u8 256 y v (pub ++ (a ++ text)) → Calls Tryz.prog 36 #[.int .i64 7, v, .int .i64 (N : Int)] y fun e w' => ∃ v, e = .returned (.tuple #[v, .int .i64 0]) ∧ Row .u8 256 w' v (sumW N true pub a text) ∧ New y.heap.size v ∧ Below y.heap.size y w' := fun y v r => ksum_new 7 v _ N y (by decide) (by omega) r (by rw [List.length_append, List.length_append, ha.1]; omega)
  have hjn : ∀ y lv, Rows2 y lv [pub, a, text] → Calls Tryz.prog 37 #[lv] y fun e w' => ∃ v, e = .returned v ∧ Own 5 .u8 256 w' y.heap.size v (pub ++ (a ++ text)) ∧ Below y.heap.size y w' := fun y lv r => by
    have := rjoin_any lv _ y r (by simp only [List.flatten_cons, List.flatten_nil, List.append_nil, List.length_append]; have := ha.1; omega)
    simpa using this
  generalize sumW N true pub a text = SS at *
  generalize pub ++ (a ++ text) = JL at *
  have hplH := hide hpl
  clear hpl hF hN
  go_enter Tryz.func16, Tryz.ntmps16
  go_wp2_with (first
    | (refine wpList_load_rowS (by rfl) 23 _ (by rfl) w.heap.size (by rfl) _ _ _ _ bx0.here Tryz.underlying23 (by kernel_rfl) ?_)
    | (go_at_call 8; refine (hfit _).mono ?_; rintro e w1 ⟨rfl, g1⟩; have bx1 := bx0.below g1; have d0 := bx1.c0; have d5 := bx1.c5)
    | fail)
  have L1 := L0.below g1
  have k1 := keep_trans k0 g1
  have ra1 := row_ad L1 ha
  have rp1 := hp.below k1
  have rt1 := ht.below k1
  have hbd : Below w1.heap.size w1 w1.drew := (Below.refl _ _).drew
  clear bx0 L0 k0 c0 hfit g1
  refine at_begin (ops := opsA (cLA (cCT (cRA (cLA (cRA (cRA (Tryz.f16.body.getD .skip)))))))) (n := 13) (fun y => Below w1.heap.size w1 y) (by kernel_rfl) (by kernel_rfl) ?_
  refine tkP 0 1 28 (.slice pa N pc) sm4reg rfl (by decide) rfl rfl (y_moveG (wF rfl) rfl rfl) hbd ?_
  simp only [Act.put, plI, plZ, plS]
  refine tkP 1 3 29 (.slice (some ⟨w.heap.size + 1, 0, none⟩) 32 32) sm4reg rfl (by decide) rfl rfl (y_arrA (wF rfl) rfl rfl) hbd ?_
  simp only [Act.put, plI, plZ, plS]
  refine tkP 2 7 30 (.slice ta text.length tc) sm4reg rfl (by decide) rfl rfl (y_moveG (wF rfl) rfl rfl) hbd ?_
  simp only [Act.put, plI, plZ, plS]
  refine tkP 5 39 33 (.pointer (some ⟨w.heap.size, 0, none⟩)) sm4reg rfl (by decide) rfl rfl (y_fieldG (wF rfl) rfl rfl (fun w => by simp [go_sem])) hbd ?_
  simp only [Act.put, plI, plZ, plS]
  refine tkP 6 103 34 (.int .i64 (N : Int)) sm4reg rfl (by decide) rfl rfl (y_plainG (wF rfl) rfl rfl Tryz.underlying3 rfl (fun _ h => (bx1.below h).c0)) hbd ?_
  simp only [Act.put, plI, plZ, plS]
  refine at_one (i := 3) (m' := 111) sm4reg (by decide) rfl ?_
  refine p_build3G (d := some 31) rfl (wF rfl) rfl rfl rfl rfl rfl Tryz.underlying41 hi0 hz1 hz0 ?_
  have hb6 := keep_trans hbd (keep_alloc w1.drew (.cells #[.slice pa N pc, .slice (some ⟨w.heap.size + 1, 0, none⟩) 32 32, .slice ta text.length tc] 27))
  have rr := rows_litL (B := w1.drew.heap.size) (k := 3) (texts_cons (rp1.below hbd) tp (texts_cons (ra1.below hbd) tidy_someW (texts_cons (rt1.below hbd) tt (Texts.nil _)))) rfl rfl (by decide)
  refine ⟨hb6, ?_⟩
  simp only [Act.put, plI, plZ, plS]
  refine at_one (i := 4) (m' := 127) sm4reg (by decide) rfl ?_
  refine p_callG (args := #[.slice (some ⟨w1.drew.heap.size, 0, none⟩) 3 3]) (d := some 32) rfl (wF rfl) rfl (by simp only [List.map_toArray, List.map_cons, List.map_nil]; rfl) rfl Tryz.call37 ((hjn (w1.drew.alloc (.cells #[.slice pa N pc, .slice (some ⟨w.heap.size + 1, 0, none⟩) 32 32, .slice ta text.length tc] 27)) _ rr).mono ?_)
  rintro e y7 ⟨jv, rfl, oj, g7⟩
  have rj := oj.row
  obtain ⟨ja, jc, rfl, _⟩ := rj.opens rfl
  have hb7 := keep_trans hb6 g7
  have ybs := (hb7).size
  refine ⟨_, rfl, hb7, ?_⟩
  simp only [Act.put, plI, plZ, plS]
  refine at_one (i := 7) (m' := 255) sm4reg (by decide) rfl ?_
  refine p_callG (args := #[.int .i64 7, .slice ja JL.length jc, .int .i64 (N : Int)]) (d := some 35) rfl (wF rfl) rfl (by simp only [List.map_toArray, List.map_cons, List.map_nil]; rfl) rfl Tryz.call36 ((hsk y7 _ rj).mono ?_)
  rintro e y8 ⟨kv, rfl, rk, nk, g8⟩
  have kbs := (hb7).size
  have hb8 := keep_trans hb7 g8
  refine ⟨_, rfl, hb8, ?_⟩
  simp only [Act.put, plI, plZ, plS]
  refine tkP 8 511 27 (.tuple #[kv, .int .i64 0]) sm4reg rfl (by decide) rfl rfl (y_moveG (wF rfl) rfl rfl) hb8 ?_
  simp only [Act.put, plI, plZ, plS]
  refine tkP 9 1023 36 (kv) sm4reg rfl (by decide) rfl rfl (y_extractG (wF rfl) rfl rfl rfl) hb8 ?_
  simp only [Act.put, plI, plZ, plS]
  refine tkP 10 2047 37 (.int .i64 0) sm4reg rfl (by decide) rfl rfl (y_extractG (wF rfl) rfl rfl rfl) hb8 ?_
  simp only [Act.put, plI, plZ, plS]
  refine tkP 11 4095 9 (kv) sm4reg rfl (by decide) rfl rfl (y_assignG (wF rfl) rfl rfl) hb8 ?_
  simp only [Act.put, plI, plZ, plS]
  refine tkP 12 8191 10 (.int .i64 0) sm4reg rfl (by decide) rfl rfl (y_assignG (wF rfl) rfl rfl) hb8 ?_
  simp only [Act.put, plI, plZ, plS]
  refine at_done sm4reg (by decide) ?_
  go_wp2
  go_ret
  exact ⟨_, rfl, rk, nk.mono (Nat.le_trans k1.size kbs), keep_trans k1 hb8⟩
theorem rsumW_m {N : Nat} {H D A K : Int} (pub a text : List Nat) (pv tv : Value) (w : World) (hF : FitX (N : Int) H D A K) (ha : Pl a) (hp : Row .u8 256 w pv pub) (tp : Tidy pv) (ht : Row .u8 256 w tv text) (tt : Tidy tv) (hpl : pub.length = N) (htl : text.length ≤ 50000) (h1 : 16 < N) (h2 : N < text.length) :
    Calls Tryz.prog 16 #[slV (N : Int) H D A K false, pv, .agg (arr .u8 a), tv] w fun e w' => ∃ v, e = .returned v ∧ Row .u8 256 w' v (sumW N false pub a text) ∧ New w.heap.size v ∧ Below w.heap.size w w' := by
  have hfit := fun y => rfitX_any (N : Int) H D A K false y
  rw [decide_eq_true hF] at hfit
  unfold slV at hfit ⊢
  obtain ⟨pa, pc, rfl, _⟩ := hp.opens hpl
  obtain ⟨ta, tc, rfl, _⟩ := ht.opens rfl
  have hN := hF.1
  have hN1 : 16 ≤ N ∧ N ≤ 32 := by omega
  have bx0 : BxSW ((w.alloc (.cells #[.int .i64 (N : Int), .int .i64 H, .int .i64 D, .int .i64 A, .int .i64 K, .bool false] 23)).alloc (.cells (arr .u8 a) 25)) w.heap.size (N : Int) H D A K false := (BxSW.new w (N : Int) H D A K false).below (keep_alloc _ _)
  have L0 := Lies.new .u8 25 (w.alloc (.cells #[.int .i64 (N : Int), .int .i64 H, .int .i64 D, .int .i64 A, .int .i64 K, .bool false] 23)) a
  rw [World.size_alloc] at L0
  have k0 := keep_trans (keep_alloc w (.cells #[.int .i64 (N : Int), .int .i64 H, .int .i64 D, .int .i64 A, .int .i64 K, .bool false] 23)) (keep_alloc (w.alloc (.cells #[.int .i64 (N : Int), .int .i64 H, .int .i64 D, .int .i64 A, .int .i64 K, .bool false] 23)) (.cells (arr .u8 a) 25))
  have c0 := bx0.c0
  obtain ⟨i0, hi0, hz0, hz1, hz2⟩ := info_text
  have hsm : sumW N false pub a text = (digD 3 (pub ++ (List.replicate (128 - N) 0 ++ (shA a ++ text)))).take N := if_pos ⟨h1, h2⟩
  rw [hsm]
  obtain ⟨M, hM⟩ : ∃ M, M = 128 - N := ⟨_, rfl⟩
  rw [← hM]
  have u_M : IntKind.i64.wrap ((128 : Int) - (N : Int)) = (M : Int) := by rw [show (128 : Int) - (N : Int) = (M : Int) by omega, IntKind.wrap_i64]; omega
  have hml : (List.replicate M 0).length = M := List.length_replicate
  have hsh := fun y => rshort_any a y ha
  have hsl := shA_len ha.1
  have hs7 : ∀ y v, Row .u8 256 y v (pub ++ (List.replicate M 0 ++ (shA a ++ text))) → Tidy v → Calls Tryz.prog 38 #[.int .i64 3, v] y fun e w' => ∃ v, e = .returned (.tuple #[v, .int .i64 0]) ∧ Row .u8 256 w' v (digD 3 (pub ++ (List.replicate M 0 ++ (shA a ++ text)))) ∧ New y.heap.size v ∧ Below y.heap.size y w' := fun y v r t => rsum_is 3 v _ y (by decide) r t (by rw [List.length_append, List.length_append, List.length_append, List.length_replicate, hsl]; omega)
  have hdl : (digD 3 (pub ++ (List.replicate M 0 ++ (shA a ++ text)))).length = 64 := digD_length (by decide) _
  have hjn : ∀ y lv, Rows2 y lv [pub, List.replicate M 0, shA a, text] → Calls Tryz.prog 37 #[lv] y fun e w' => ∃ v, e = .returned v ∧ Own 5 .u8 256 w' y.heap.size v (pub ++ (List.replicate M 0 ++ (shA a ++ text))) ∧ Below y.heap.size y w' := fun y lv r => by
    have := rjoin_any lv _ y r (by simp only [List.flatten_cons, List.flatten_nil, List.append_nil, List.length_append, List.length_replicate]; omega)
    simpa using this
  have f1 : (N : Int) > 16 := by omega
  have f2 : (text.length : Int) > (N : Int) := by omega
  have f3 : (16 : Int) < (N : Int) := by omega
  have f4 : (N : Int) < (text.length : Int) := by omega
  generalize shA a = SA at *
  generalize digD 3 (pub ++ (List.replicate M 0 ++ (SA ++ text))) = SS at *
  generalize pub ++ (List.replicate M 0 ++ (SA ++ text)) = JL at *
  have hplH := hide (And.intro hpl (And.intro hsl (And.intro hml (And.intro hdl hM))))
  clear hpl hF hN hsm hsl hml hdl
  go_enter Tryz.func16, Tryz.ntmps16
  go_wp2_with (first
    | (refine wpList_load_rowS (by rfl) 23 _ (by rfl) w.heap.size (by rfl) _ _ _ _ bx0.here Tryz.underlying23 (by kernel_rfl) ?_)
    | (go_at_call 8; refine (hfit _).mono ?_; rintro e w1 ⟨rfl, g1⟩; have bx1 := bx0.below g1; have d0 := bx1.c0; have d5 := bx1.c5)
    | fail)
  have L1 := L0.below g1
  have k1 := keep_trans k0 g1
  have ra1 := row_ad L1 ha
  have rp1 := hp.below k1
  have rt1 := ht.below k1
  have hbd : Below w1.heap.size w1 w1.drew := (Below.refl _ _).drew
  clear bx0 L0 k0 c0 hfit g1
  obtain ⟨hpl, hsl, hml, hdl, hM⟩ := hplH.out
  refine at_begin (ops := opsA (cLA (cRA (cRA (cRA (cRA (cRA (cRA (Tryz.f16.body.getD .skip))))))))) (n := 18) (fun y => Below w1.heap.size w1 y) (by kernel_rfl) (by kernel_rfl) ?_
  refine tkP 0 1 50 (.int .i64 3) sm11reg rfl (by decide) rfl rfl (y_moveG (wF rfl) rfl rfl) hbd ?_
  simp only [Act.put, plI, plZ, plS]
  refine tkP 1 3 51 (.slice pa N pc) sm11reg rfl (by decide) rfl rfl (y_moveG (wF rfl) rfl rfl) hbd ?_
  simp only [Act.put, plI, plZ, plS]
  refine tkP 2 7 52 (.int .i64 128) sm11reg rfl (by decide) rfl rfl (y_moveG (wF rfl) rfl rfl) hbd ?_
  simp only [Act.put, plI, plZ, plS]
  refine tkP 3 15 53 (.pointer (some ⟨w.heap.size, 0, none⟩)) sm11reg rfl (by decide) rfl rfl (y_fieldG (wF rfl) rfl rfl (fun w => by simp [go_sem])) hbd ?_
  simp only [Act.put, plI, plZ, plS]
  refine tkP 4 31 54 (.int .i64 (N : Int)) sm11reg rfl (by decide) rfl rfl (y_plainG (wF rfl) rfl rfl Tryz.underlying3 rfl (fun _ h => (bx1.below h).c0)) hbd ?_
  simp only [Act.put, plI, plZ, plS]
  refine tkP 5 63 55 (.int .i64 (M : Int)) sm11reg rfl (by decide) rfl rfl (y_subIW (wF rfl) rfl rfl rfl Tryz.underlying3 u_M) hbd ?_
  simp only [Act.put, plI, plZ, plS]
  refine tkP 7 191 57 (.agg (arr .u8 a)) sm11reg rfl (by decide) rfl rfl (y_rowG (cs := vals .u8 a) (wF rfl) rfl rfl Tryz.underlying25 rfl (by rw [vals_length, ha.1]; kernel_rfl) (fun _ h => lies_rangeW (L1.below h))) hbd ?_
  simp only [Act.put, plI, plZ, plS]
  refine tkP 9 703 59 (.slice ta text.length tc) sm11reg rfl (by decide) rfl rfl (y_moveG (wF rfl) rfl rfl) hbd ?_
  simp only [Act.put, plI, plZ, plS]
  refine at_two (i := 6) (j := 8) (m1 := 767) (m2 := 959) sm11reg (by decide) rfl rfl ?_ ?_
  · refine p_makeX (n := M) (d := some 56) rfl (wF rfl) rfl rfl rfl rfl (by omega) ?_
    intro z9 om g9
    have hb9 := keep_trans hbd g9
    obtain ⟨ZG, hZG⟩ : ∃ q : Nat, w1.drew.heap.size = q := ⟨_, rfl⟩
    rw [hZG] at om ⊢
    have rm := om.row
    have tm := om.tidy
    try replace rs := rs.below g9
    refine ⟨hb9, ?_⟩
    simp only [Act.put, plI, plZ, plS]
    refine at_one (i := 8) (m' := 1023) sm11reg (by decide) rfl ?_
    refine p_callG (args := #[.agg (arr .u8 a)]) (d := some 58) rfl (wF rfl) rfl (by simp only [List.map_toArray, List.map_cons, List.map_nil]; rfl) rfl Tryz.call39 ((hsh z9).mono ?_)
    rintro e y10 ⟨sv, rfl, os, g10⟩
    obtain ⟨sa, sc, rfl, _⟩ := os.row.opens hsl
    have rs := os.row
    have ts := os.tidy
    try replace rm := rm.below g10
    have hb10 := keep_trans hb9 g10
    refine ⟨_, rfl, hb10, ?_⟩
    simp only [Act.put, plI, plZ, plS]
    refine at_one (i := 10) (m' := 2047) sm11reg (by decide) rfl ?_
    refine p_build4G (d := some 60) rfl (wF rfl) rfl rfl rfl rfl rfl rfl Tryz.underlying41 hi0 hz1 hz0 ?_
    have hb11 := keep_trans hb10 (keep_alloc y10 (.cells #[.slice pa N pc, .slice (some ⟨ZG, 0, none⟩) M M, .slice sa 22 sc, .slice ta text.length tc] 27))
    have rr := rows_litL (B := y10.heap.size) (k := 4) (texts_cons (rp1.below hb10) tp (texts_cons rm tm (texts_cons rs ts (texts_cons (rt1.below hb10) tt (Texts.nil _))))) rfl rfl (by decide)
    refine ⟨hb11, ?_⟩
    simp only [Act.put, plI, plZ, plS]
    refine at_one (i := 11) (m' := 4095) sm11reg (by decide) rfl ?_
    refine p_callG (args := #[.slice (some ⟨y10.heap.size, 0, none⟩) 4 4]) (d := some 61) rfl (wF rfl) rfl (by simp only [List.map_toArray, List.map_cons, List.map_nil]; rfl) rfl Tryz.call37 ((hjn (y10.alloc (.cells #[.slice pa N pc, .slice (some ⟨ZG, 0, none⟩) M M, .slice sa 22 sc, .slice ta text.length tc] 27)) _ rr).mono ?_)
    rintro e y12 ⟨jv, rfl, oj, g12⟩
    have rj := oj.row
    have tj := oj.tidy
    obtain ⟨ja, jc, rfl, _⟩ := rj.opens rfl
    have hb12 := keep_trans hb11 g12
    refine ⟨_, rfl, hb12, ?_⟩
    simp only [Act.put, plI, plZ, plS]
    refine at_one (i := 12) (m' := 8191) sm11reg (by decide) rfl ?_
    refine p_callG (args := #[.int .i64 3, .slice ja JL.length jc]) (d := some 62) rfl (wF rfl) rfl (by simp only [List.map_toArray, List.map_cons, List.map_nil]; rfl) rfl Tryz.call38 ((hs7 y12 _ rj tj).mono ?_)
    rintro e y13 ⟨kv, rfl, rk, nk, g13⟩
    have kbs := (hb12).size
    obtain ⟨ka, kc, rfl, lk, _⟩ := rk.opens hdl
    have hb13 := keep_trans hb12 g13
    refine ⟨_, rfl, hb13, ?_⟩
    simp only [Act.put, plI, plZ, plS]
    refine tkP 13 16383 49 (.tuple #[.slice ka 64 kc, .int .i64 0]) sm11reg rfl (by decide) rfl rfl (y_moveG (wF rfl) rfl rfl) hb13 ?_
    simp only [Act.put, plI, plZ, plS]
    refine tkP 14 32767 63 (.slice ka 64 kc) sm11reg rfl (by decide) rfl rfl (y_extractG (wF rfl) rfl rfl rfl) hb13 ?_
    simp only [Act.put, plI, plZ, plS]
    refine tkP 15 65535 64 (.int .i64 0) sm11reg rfl (by decide) rfl rfl (y_extractG (wF rfl) rfl rfl rfl) hb13 ?_
    simp only [Act.put, plI, plZ, plS]
    refine tkP 16 131071 13 (.slice ka 64 kc) sm11reg rfl (by decide) rfl rfl (y_assignG (wF rfl) rfl rfl) hb13 ?_
    simp only [Act.put, plI, plZ, plS]
    refine tkP 17 262143 14 (.int .i64 0) sm11reg rfl (by decide) rfl rfl (y_assignG (wF rfl) rfl rfl) hb13 ?_
    simp only [Act.put, plI, plZ, plS]
    refine at_done sm11reg (by decide) ?_
    have cN := (bx1.below hb13).c0
    have hkc : N ≤ kc := by omega
    go_wp2
    go_ret
    have rc := rk.cut (M := N) (by omega)
    refine ⟨_, rfl, rc, fun q hq => ?_, keep_trans k1 hb13⟩
    have h1 := nk q (own_lenW.trans hq)
    have h2 := k1.size
    omega
  · refine p_callG (args := #[.agg (arr .u8 a)]) (d := some 58) rfl (wF rfl) rfl (by simp only [List.map_toArray, List.map_cons, List.map_nil]; rfl) rfl Tryz.call39 ((hsh w1.drew).mono ?_)
    rintro e y9 ⟨sv, rfl, os, g9⟩
    obtain ⟨sa, sc, rfl, _⟩ := os.row.opens hsl
    have rs := os.row
    have ts := os.tidy
    try replace rm := rm.below g9
    have hb9 := keep_trans hbd g9
    refine ⟨_, rfl, hb9, ?_⟩
    simp only [Act.put, plI, plZ, plS]
    refine at_one (i := 6) (m' := 1023) sm11reg (by decide) rfl ?_
    refine p_makeX (n := M) (d := some 56) rfl (wF rfl) rfl rfl rfl rfl (by omega) ?_
    intro z10 om g10
    have hb10 := keep_trans hb9 g10
    obtain ⟨ZG, hZG⟩ : ∃ q : Nat, y9.heap.size = q := ⟨_, rfl⟩
    rw [hZG] at om ⊢
    have rm := om.row
    have tm := om.tidy
    try replace rs := rs.below g10
    refine ⟨hb10, ?_⟩
    simp only [Act.put, plI, plZ, plS]
    refine at_one (i := 10) (m' := 2047) sm11reg (by decide) rfl ?_
    refine p_build4G (d := some 60) rfl (wF rfl) rfl rfl rfl rfl rfl rfl Tryz.underlying41 hi0 hz1 hz0 ?_
    have hb11 := keep_trans hb10 (keep_alloc z10 (.cells #[.slice pa N pc, .slice (some ⟨ZG, 0, none⟩) M M, .slice sa 22 sc, .slice ta text.length tc] 27))
    have rr := rows_litL (B := z10.heap.size) (k := 4) (texts_cons (rp1.below hb10) tp (texts_cons rm tm (texts_cons rs ts (texts_cons (rt1.below hb10) tt (Texts.nil _))))) rfl rfl (by decide)
    refine ⟨hb11, ?_⟩
    simp only [Act.put, plI, plZ, plS]
    refine at_one (i := 11) (m' := 4095) sm11reg (by decide) rfl ?_
    refine p_callG (args := #[.slice (some ⟨z10.heap.size, 0, none⟩) 4 4]) (d := some 61) rfl (wF rfl) rfl (by simp only [List.map_toArray, List.map_cons, List.map_nil]; rfl) rfl Tryz.call37 ((hjn (z10.alloc (.cells #[.slice pa N pc, .slice (some ⟨ZG, 0, none⟩) M M, .slice sa 22 sc, .slice ta text.length tc] 27)) _ rr).mono ?_)
    rintro e y12 ⟨jv, rfl, oj, g12⟩
    have rj := oj.row
    have tj := oj.tidy
    obtain ⟨ja, jc, rfl, _⟩ := rj.opens rfl
    have hb12 := keep_trans hb11 g12
    refine ⟨_, rfl, hb12, ?_⟩
    simp only [Act.put, plI, plZ, plS]
    refine at_one (i := 12) (m' := 8191) sm11reg (by decide) rfl ?_
    refine p_callG (args := #[.int .i64 3, .slice ja JL.length jc]) (d := some 62) rfl (wF rfl) rfl (by simp only [List.map_toArray, List.map_cons, List.map_nil]; rfl) rfl Tryz.call38 ((hs7 y12 _ rj tj).mono ?_)
    rintro e y13 ⟨kv, rfl, rk, nk, g13⟩
    have kbs := (hb12).size
    obtain ⟨ka, kc, rfl, lk, _⟩ := rk.opens hdl
    have hb13 := keep_trans hb12 g13
    refine ⟨_, rfl, hb13, ?_⟩
    simp only [Act.put, plI, plZ, plS]
    refine tkP 13 16383 49 (.tuple #[.slice ka 64 kc, .int .i64 0]) sm11reg rfl (by decide) rfl rfl (y_moveG (wF rfl) rfl rfl) hb13 ?_
    simp only [Act.put, plI, plZ, plS]
    refine tkP 14 32767 63 (.slice ka 64 kc) sm11reg rfl (by decide) rfl rfl (y_extractG (wF rfl) rfl rfl rfl) hb13 ?_
    simp only [Act.put, plI, plZ, plS]
    refine tkP 15 65535 64 (.int .i64 0) sm11reg rfl (by decide) rfl rfl (y_extractG (wF rfl) rfl rfl rfl) hb13 ?_
    simp only [Act.put, plI, plZ, plS]
    refine tkP 16 131071 13 (.slice ka 64 kc) sm11reg rfl (by decide) rfl rfl (y_assignG (wF rfl) rfl rfl) hb13 ?_
    simp only [Act.put, plI, plZ, plS]
    refine tkP 17 262143 14 (.int .i64 0) sm11reg rfl (by decide) rfl rfl (y_assignG (wF rfl) rfl rfl) hb13 ?_
    simp only [Act.put, plI, plZ, plS]
    refine at_done sm11reg (by decide) ?_
    have cN := (bx1.below hb13).c0
    have hkc : N ≤ kc := by omega
    go_wp2
    go_ret
    have rc := rk.cut (M := N) (by omega)
    refine ⟨_, rfl, rc, fun q hq => ?_, keep_trans k1 hb13⟩
    have h1 := nk q (own_lenW.trans hq)
    have h2 := k1.size
    omega
theorem rsumW_f {N : Nat} {H D A K : Int} (pub a text : List Nat) (pv tv : Value) (w : World) (hF : FitX (N : Int) H D A K) (ha : Pl a) (hp : Row .u8 256 w pv pub) (tp : Tidy pv) (ht : Row .u8 256 w tv text) (tt : Tidy tv) (hpl : pub.length = N) (htl : text.length ≤ 50000) (h1 : 16 < N) (h2 : ¬ N < text.length) :
    Calls Tryz.prog 16 #[slV (N : Int) H D A K false, pv, .agg (arr .u8 a), tv] w fun e w' => ∃ v, e = .returned v ∧ Row .u8 256 w' v (sumW N false pub a text) ∧ New w.heap.size v ∧ Below w.heap.size w w' := by
  have hfit := fun y => rfitX_any (N : Int) H D A K false y
  rw [decide_eq_true hF] at hfit
  unfold slV at hfit ⊢
  obtain ⟨pa, pc, rfl, _⟩ := hp.opens hpl
  obtain ⟨ta, tc, rfl, _⟩ := ht.opens rfl
  have hN := hF.1
  have hN1 : 16 ≤ N ∧ N ≤ 32 := by omega
  have bx0 : BxSW ((w.alloc (.cells #[.int .i64 (N : Int), .int .i64 H, .int .i64 D, .int .i64 A, .int .i64 K, .bool false] 23)).alloc (.cells (arr .u8 a) 25)) w.heap.size (N : Int) H D A K false := (BxSW.new w (N : Int) H D A K false).below (keep_alloc _ _)
  have L0 := Lies.new .u8 25 (w.alloc (.cells #[.int .i64 (N : Int), .int .i64 H, .int .i64 D, .int .i64 A, .int .i64 K, .bool false] 23)) a
  rw [World.size_alloc] at L0
  have k0 := keep_trans (keep_alloc w (.cells #[.int .i64 (N : Int), .int .i64 H, .int .i64 D, .int .i64 A, .int .i64 K, .bool false] 23)) (keep_alloc (w.alloc (.cells #[.int .i64 (N : Int), .int .i64 H, .int .i64 D, .int .i64 A, .int .i64 K, .bool false] 23)) (.cells (arr .u8 a) 25))
  have c0 := bx0.c0
  obtain ⟨i0, hi0, hz0, hz1, hz2⟩ := info_text
  have hsm : sumW N false pub a text = (digD 1 (pub ++ (List.replicate (64 - N) 0 ++ (shA a ++ text)))).take N := if_neg (fun h => h2 h.2)
  rw [hsm]
  obtain ⟨M, hM⟩ : ∃ M, M = 64 - N := ⟨_, rfl⟩
  rw [← hM]
  have u_M : IntKind.i64.wrap ((64 : Int) - (N : Int)) = (M : Int) := by rw [show (64 : Int) - (N : Int) = (M : Int) by omega, IntKind.wrap_i64]; omega
  have hml : (List.replicate M 0).length = M := List.length_replicate
  have hsh := fun y => rshort_any a y ha
  have hsl := shA_len ha.1
  have hs7 : ∀ y v, Row .u8 256 y v (pub ++ (List.replicate M 0 ++ (shA a ++ text))) → Tidy v → Calls Tryz.prog 38 #[.int .i64 1, v] y fun e w' => ∃ v, e = .returned (.tuple #[v, .int .i64 0]) ∧ Row .u8 256 w' v (digD 1 (pub ++ (List.replicate M 0 ++ (shA a ++ text)))) ∧ New y.heap.size v ∧ Below y.heap.size y w' := fun y v r t => rsum_is 1 v _ y (by decide) r t (by rw [List.length_append, List.length_append, List.length_append, List.length_replicate, hsl]; omega)
  have hdl : (digD 1 (pub ++ (List.replicate M 0 ++ (shA a ++ text)))).length = 32 := digD_length (by decide) _
  have hjn : ∀ y lv, Rows2 y lv [pub, List.replicate M 0, shA a, text] → Calls Tryz.prog 37 #[lv] y fun e w' => ∃ v, e = .returned v ∧ Own 5 .u8 256 w' y.heap.size v (pub ++ (List.replicate M 0 ++ (shA a ++ text))) ∧ Below y.heap.size y w' := fun y lv r => by
    have := rjoin_any lv _ y r (by simp only [List.flatten_cons, List.flatten_nil, List.append_nil, List.length_append, List.length_replicate]; omega)
    simpa using this
  have f1 : (N : Int) > 16 := by omega
  have f2 : ¬ (text.length : Int) > (N : Int) := by omega
  have f3 : (16 : Int) < (N : Int) := by omega
  have f4 : ¬ (N : Int) < (text.length : Int) := by omega
  generalize shA a = SA at *
  generalize digD 1 (pub ++ (List.replicate M 0 ++ (SA ++ text))) = SS at *
  generalize pub ++ (List.replicate M 0 ++ (SA ++ text)) = JL at *
  have hplH := hide (And.intro hpl (And.intro hsl (And.intro hml (And.intro hdl hM))))
  clear hpl hF hN hsm hsl hml hdl
  go_enter Tryz.func16, Tryz.ntmps16
  go_wp2_with (first
    | (refine wpList_load_rowS (by rfl) 23 _ (by rfl) w.heap.size (by rfl) _ _ _ _ bx0.here Tryz.underlying23 (by kernel_rfl) ?_)
    | (go_at_call 8; refine (hfit _).mono ?_; rintro e w1 ⟨rfl, g1⟩; have bx1 := bx0.below g1; have d0 := bx1.c0; have d5 := bx1.c5)
    | fail)
  have L1 := L0.below g1
  have k1 := keep_trans k0 g1
  have ra1 := row_ad L1 ha
  have rp1 := hp.below k1
  have rt1 := ht.below k1
  have hbd : Below w1.heap.size w1 w1.drew := (Below.refl _ _).drew
  clear bx0 L0 k0 c0 hfit g1
  obtain ⟨hpl, hsl, hml, hdl, hM⟩ := hplH.out
  refine at_begin (ops := opsA (cLA (cRA (cRA (cRA (cRA (cRA (cRA (Tryz.f16.body.getD .skip))))))))) (n := 18) (fun y => Below w1.heap.size w1 y) (by kernel_rfl) (by kernel_rfl) ?_
  refine tkP 0 1 50 (.int .i64 1) sm11reg rfl (by decide) rfl rfl (y_moveG (wF rfl) rfl rfl) hbd ?_
  simp only [Act.put, plI, plZ, plS]
  refine tkP 1 3 51 (.slice pa N pc) sm11reg rfl (by decide) rfl rfl (y_moveG (wF rfl) rfl rfl) hbd ?_
  simp only [Act.put, plI, plZ, plS]
  refine tkP 2 7 52 (.int .i64 64) sm11reg rfl (by decide) rfl rfl (y_moveG (wF rfl) rfl rfl) hbd ?_
  simp only [Act.put, plI, plZ, plS]
  refine tkP 3 15 53 (.pointer (some ⟨w.heap.size, 0, none⟩)) sm11reg rfl (by decide) rfl rfl (y_fieldG (wF rfl) rfl rfl (fun w => by simp [go_sem])) hbd ?_
  simp only [Act.put, plI, plZ, plS]
  refine tkP 4 31 54 (.int .i64 (N : Int)) sm11reg rfl (by decide) rfl rfl (y_plainG (wF rfl) rfl rfl Tryz.underlying3 rfl (fun _ h => (bx1.below h).c0)) hbd ?_
  simp only [Act.put, plI, plZ, plS]
  refine tkP 5 63 55 (.int .i64 (M : Int)) sm11reg rfl (by decide) rfl rfl (y_subIW (wF rfl) rfl rfl rfl Tryz.underlying3 u_M) hbd ?_
  simp only [Act.put, plI, plZ, plS]
  refine tkP 7 191 57 (.agg (arr .u8 a)) sm11reg rfl (by decide) rfl rfl (y_rowG (cs := vals .u8 a) (wF rfl) rfl rfl Tryz.underlying25 rfl (by rw [vals_length, ha.1]; kernel_rfl) (fun _ h => lies_rangeW (L1.below h))) hbd ?_
  simp only [Act.put, plI, plZ, plS]
  refine tkP 9 703 59 (.slice ta text.length tc) sm11reg rfl (by decide) rfl rfl (y_moveG (wF rfl) rfl rfl) hbd ?_
  simp only [Act.put, plI, plZ, plS]
  refine at_two (i := 6) (j := 8) (m1 := 767) (m2 := 959) sm11reg (by decide) rfl rfl ?_ ?_
  · refine p_makeX (n := M) (d := some 56) rfl (wF rfl) rfl rfl rfl rfl (by omega) ?_
    intro z9 om g9
    have hb9 := keep_trans hbd g9
    obtain ⟨ZG, hZG⟩ : ∃ q : Nat, w1.drew.heap.size = q := ⟨_, rfl⟩
    rw [hZG] at om ⊢
    have rm := om.row
    have tm := om.tidy
    try replace rs := rs.below g9
    refine ⟨hb9, ?_⟩
    simp only [Act.put, plI, plZ, plS]
    refine at_one (i := 8) (m' := 1023) sm11reg (by decide) rfl ?_
    refine p_callG (args := #[.agg (arr .u8 a)]) (d := some 58) rfl (wF rfl) rfl (by simp only [List.map_toArray, List.map_cons, List.map_nil]; rfl) rfl Tryz.call39 ((hsh z9).mono ?_)
    rintro e y10 ⟨sv, rfl, os, g10⟩
    obtain ⟨sa, sc, rfl, _⟩ := os.row.opens hsl
    have rs := os.row
    have ts := os.tidy
    try replace rm := rm.below g10
    have hb10 := keep_trans hb9 g10
    refine ⟨_, rfl, hb10, ?_⟩
    simp only [Act.put, plI, plZ, plS]
    refine at_one (i := 10) (m' := 2047) sm11reg (by decide) rfl ?_
    refine p_build4G (d := some 60) rfl (wF rfl) rfl rfl rfl rfl rfl rfl Tryz.underlying41 hi0 hz1 hz0 ?_
    have hb11 := keep_trans hb10 (keep_alloc y10 (.cells #[.slice pa N pc, .slice (some ⟨ZG, 0, none⟩) M M, .slice sa 22 sc, .slice ta text.length tc] 27))
    have rr := rows_litL (B := y10.heap.size) (k := 4) (texts_cons (rp1.below hb10) tp (texts_cons rm tm (texts_cons rs ts (texts_cons (rt1.below hb10) tt (Texts.nil _))))) rfl rfl (by decide)
    refine ⟨hb11, ?_⟩
    simp only [Act.put, plI, plZ, plS]
    refine at_one (i := 11) (m' := 4095) sm11reg (by decide) rfl ?_
    refine p_callG (args := #[.slice (some ⟨y10.heap.size, 0, none⟩) 4 4]) (d := some 61) rfl (wF rfl) rfl (by simp only [List.map_toArray, List.map_cons, List.map_nil]; rfl) rfl Tryz.call37 ((hjn (y10.alloc (.cells #[.slice pa N pc, .slice (some ⟨ZG, 0, none⟩) M M, .slice sa 22 sc, .slice ta text.length tc] 27)) _ rr).mono ?_)
    rintro e y12 ⟨jv, rfl, oj, g12⟩
    have rj := oj.row
    have tj := oj.tidy
    obtain ⟨ja, jc, rfl, _⟩ := rj.opens rfl
    have hb12 := keep_trans hb11 g12
    refine ⟨_, rfl, hb12, ?_⟩
    simp only [Act.put, plI, plZ, plS]
    refine at_one (i := 12) (m' := 8191) sm11reg (by decide) rfl ?_
    refine p_callG (args := #[.int .i64 1, .slice ja JL.length jc]) (d := some 62) rfl (wF rfl) rfl (by simp only [List.map_toArray, List.map_cons, List.map_nil]; rfl) rfl Tryz.call38 ((hs7 y12 _ rj tj).mono ?_)
    rintro e y13 ⟨kv, rfl, rk, nk, g13⟩
    have kbs := (hb12).size
    obtain ⟨ka, kc, rfl, lk, _⟩ := rk.opens hdl
    have hb13 := keep_trans hb12 g13
    refine ⟨_, rfl, hb13, ?_⟩
    simp only [Act.put, plI, plZ, plS]
    refine tkP 13 16383 49 (.tuple #[.slice ka 32 kc, .int .i64 0]) sm11reg rfl (by decide) rfl rfl (y_moveG (wF rfl) rfl rfl) hb13 ?_
    simp only [Act.put, plI, plZ, plS]
    refine tkP 14 32767 63 (.slice ka 32 kc) sm11reg rfl (by decide) rfl rfl (y_extractG (wF rfl) rfl rfl rfl) hb13 ?_
    simp only [Act.put, plI, plZ, plS]
    refine tkP 15 65535 64 (.int .i64 0) sm11reg rfl (by decide) rfl rfl (y_extractG (wF rfl) rfl rfl rfl) hb13 ?_
    simp only [Act.put, plI, plZ, plS]
    refine tkP 16 131071 13 (.slice ka 32 kc) sm11reg rfl (by decide) rfl rfl (y_assignG (wF rfl) rfl rfl) hb13 ?_
    simp only [Act.put, plI, plZ, plS]
    refine tkP 17 262143 14 (.int .i64 0) sm11reg rfl (by decide) rfl rfl (y_assignG (wF rfl) rfl rfl) hb13 ?_
    simp only [Act.put, plI, plZ, plS]
    refine at_done sm11reg (by decide) ?_
    have cN := (bx1.below hb13).c0
    have hkc : N ≤ kc := by omega
    go_wp2
    go_ret
    have rc := rk.cut (M := N) (by omega)
    refine ⟨_, rfl, rc, fun q hq => ?_, keep_trans k1 hb13⟩
    have h1 := nk q (own_lenW.trans hq)
    have h2 := k1.size
    omega
  · refine p_callG (args := #[.agg (arr .u8 a)]) (d := some 58) rfl (wF rfl) rfl (by simp only [List.map_toArray, List.map_cons, List.map_nil]; rfl) rfl Tryz.call39 ((hsh w1.drew).mono ?_)
    rintro e y9 ⟨sv, rfl, os, g9⟩
    obtain ⟨sa, sc, rfl, _⟩ := os.row.opens hsl
    have rs := os.row
    have ts := os.tidy
    try replace rm := rm.below g9
    have hb9 := keep_trans hbd g9
    refine ⟨_, rfl, hb9, ?_⟩
    simp only [Act.put, plI, plZ, plS]
    refine at_one (i := 6) (m' := 1023) sm11reg (by decide) rfl ?_
    refine p_makeX (n := M) (d := some 56) rfl (wF rfl) rfl rfl rfl rfl (by omega) ?_
    intro z10 om g10
    have hb10 := keep_trans hb9 g10
    obtain ⟨ZG, hZG⟩ : ∃ q : Nat, y9.heap.size = q := ⟨_, rfl⟩
    rw [hZG] at om ⊢
    have rm := om.row
    have tm := om.tidy
    try replace rs := rs.below g10
    refine ⟨hb10, ?_⟩
    simp only [Act.put, plI, plZ, plS]
    refine at_one (i := 10) (m' := 2047) sm11reg (by decide) rfl ?_
    refine p_build4G (d := some 60) rfl (wF rfl) rfl rfl rfl rfl rfl rfl Tryz.underlying41 hi0 hz1 hz0 ?_
    have hb11 := keep_trans hb10 (keep_alloc z10 (.cells #[.slice pa N pc, .slice (some ⟨ZG, 0, none⟩) M M, .slice sa 22 sc, .slice ta text.length tc] 27))
    have rr := rows_litL (B := z10.heap.size) (k := 4) (texts_cons (rp1.below hb10) tp (texts_cons rm tm (texts_cons rs ts (texts_cons (rt1.below hb10) tt (Texts.nil _))))) rfl rfl (by decide)
    refine ⟨hb11, ?_⟩
    simp only [Act.put, plI, plZ, plS]
    refine at_one (i := 11) (m' := 4095) sm11reg (by decide) rfl ?_
    refine p_callG (args := #[.slice (some ⟨z10.heap.size, 0, none⟩) 4 4]) (d := some 61) rfl (wF rfl) rfl (by simp only [List.map_toArray, List.map_cons, List.map_nil]; rfl) rfl Tryz.call37 ((hjn (z10.alloc (.cells #[.slice pa N pc, .slice (some ⟨ZG, 0, none⟩) M M, .slice sa 22 sc, .slice ta text.length tc] 27)) _ rr).mono ?_)
    rintro e y12 ⟨jv, rfl, oj, g12⟩
    have rj := oj.row
    have tj := oj.tidy
    obtain ⟨ja, jc, rfl, _⟩ := rj.opens rfl
    have hb12 := keep_trans hb11 g12
    refine ⟨_, rfl, hb12, ?_⟩
    simp only [Act.put, plI, plZ, plS]
    refine at_one (i := 12) (m' := 8191) sm11reg (by decide) rfl ?_
    refine p_callG (args := #[.int .i64 1, .slice ja JL.length jc]) (d := some 62) rfl (wF rfl) rfl (by simp only [List.map_toArray, List.map_cons, List.map_nil]; rfl) rfl Tryz.call38 ((hs7 y12 _ rj tj).mono ?_)
    rintro e y13 ⟨kv, rfl, rk, nk, g13⟩
    have kbs := (hb12).size
    obtain ⟨ka, kc, rfl, lk, _⟩ := rk.opens hdl
    have hb13 := keep_trans hb12 g13
    refine ⟨_, rfl, hb13, ?_⟩
    simp only [Act.put, plI, plZ, plS]
    refine tkP 13 16383 49 (.tuple #[.slice ka 32 kc, .int .i64 0]) sm11reg rfl (by decide) rfl rfl (y_moveG (wF rfl) rfl rfl) hb13 ?_
    simp only [Act.put, plI, plZ, plS]
    refine tkP 14 32767 63 (.slice ka 32 kc) sm11reg rfl (by decide) rfl rfl (y_extractG (wF rfl) rfl rfl rfl) hb13 ?_
    simp only [Act.put, plI, plZ, plS]
    refine tkP 15 65535 64 (.int .i64 0) sm11reg rfl (by decide) rfl rfl (y_extractG (wF rfl) rfl rfl rfl) hb13 ?_
    simp only [Act.put, plI, plZ, plS]
    refine tkP 16 131071 13 (.slice ka 32 kc) sm11reg rfl (by decide) rfl rfl (y_assignG (wF rfl) rfl rfl) hb13 ?_
    simp only [Act.put, plI, plZ, plS]
    refine tkP 17 262143 14 (.int .i64 0) sm11reg rfl (by decide) rfl rfl (y_assignG (wF rfl) rfl rfl) hb13 ?_
    simp only [Act.put, plI, plZ, plS]
    refine at_done sm11reg (by decide) ?_
    have cN := (bx1.below hb13).c0
    have hkc : N ≤ kc := by omega
    go_wp2
    go_ret
    have rc := rk.cut (M := N) (by omega)
    refine ⟨_, rfl, rc, fun q hq => ?_, keep_trans k1 hb13⟩
    have h1 := nk q (own_lenW.trans hq)
    have h2 := k1.size
    omega
theorem rsumW_s {N : Nat} {H D A K : Int} (pub a text : List Nat) (pv tv : Value) (w : World) (hF : FitX (N : Int) H D A K) (ha : Pl a) (hp : Row .u8 256 w pv pub) (tp : Tidy pv) (ht : Row .u8 256 w tv text) (tt : Tidy tv) (hpl : pub.length = N) (htl : text.length ≤ 50000) (h1 : ¬ 16 < N) :
    Calls Tryz.prog 16 #[slV (N : Int) H D A K false, pv, .agg (arr .u8 a), tv] w fun e w' => ∃ v, e = .returned v ∧ Row .u8 256 w' v (sumW N false pub a text) ∧ New w.heap.size v ∧ Below w.heap.size w w' := by
  have hfit := fun y => rfitX_any (N : Int) H D A K false y
  rw [decide_eq_true hF] at hfit
  unfold slV at hfit ⊢
  obtain ⟨pa, pc, rfl, _⟩ := hp.opens hpl
  obtain ⟨ta, tc, rfl, _⟩ := ht.opens rfl
  have hN := hF.1
  have hN1 : 16 ≤ N ∧ N ≤ 32 := by omega
  have bx0 : BxSW ((w.alloc (.cells #[.int .i64 (N : Int), .int .i64 H, .int .i64 D, .int .i64 A, .int .i64 K, .bool false] 23)).alloc (.cells (arr .u8 a) 25)) w.heap.size (N : Int) H D A K false := (BxSW.new w (N : Int) H D A K false).below (keep_alloc _ _)
  have L0 := Lies.new .u8 25 (w.alloc (.cells #[.int .i64 (N : Int), .int .i64 H, .int .i64 D, .int .i64 A, .int .i64 K, .bool false] 23)) a
  rw [World.size_alloc] at L0
  have k0 := keep_trans (keep_alloc w (.cells #[.int .i64 (N : Int), .int .i64 H, .int .i64 D, .int .i64 A, .int .i64 K, .bool false] 23)) (keep_alloc (w.alloc (.cells #[.int .i64 (N : Int), .int .i64 H, .int .i64 D, .int .i64 A, .int .i64 K, .bool false] 23)) (.cells (arr .u8 a) 25))
  have c0 := bx0.c0
  obtain ⟨i0, hi0, hz0, hz1, hz2⟩ := info_text
  have hsm : sumW N false pub a text = (digD 1 (pub ++ (List.replicate (64 - N) 0 ++ (shA a ++ text)))).take N := if_neg (fun h => h1 h.1)
  rw [hsm]
  obtain ⟨M, hM⟩ : ∃ M, M = 64 - N := ⟨_, rfl⟩
  rw [← hM]
  have u_M : IntKind.i64.wrap ((64 : Int) - (N : Int)) = (M : Int) := by rw [show (64 : Int) - (N : Int) = (M : Int) by omega, IntKind.wrap_i64]; omega
  have hml : (List.replicate M 0).length = M := List.length_replicate
  have hsh := fun y => rshort_any a y ha
  have hsl := shA_len ha.1
  have hs7 : ∀ y v, Row .u8 256 y v (pub ++ (List.replicate M 0 ++ (shA a ++ text))) → Tidy v → Calls Tryz.prog 38 #[.int .i64 1, v] y fun e w' => ∃ v, e = .returned (.tuple #[v, .int .i64 0]) ∧ Row .u8 256 w' v (digD 1 (pub ++ (List.replicate M 0 ++ (shA a ++ text)))) ∧ New y.heap.size v ∧ Below y.heap.size y w' := fun y v r t => rsum_is 1 v _ y (by decide) r t (by rw [List.length_append, List.length_append, List.length_append, List.length_replicate, hsl]; omega)
  have hdl : (digD 1 (pub ++ (List.replicate M 0 ++ (shA a ++ text)))).length = 32 := digD_length (by decide) _
  have hjn : ∀ y lv, Rows2 y lv [pub, List.replicate M 0, shA a, text] → Calls Tryz.prog 37 #[lv] y fun e w' => ∃ v, e = .returned v ∧ Own 5 .u8 256 w' y.heap.size v (pub ++ (List.replicate M 0 ++ (shA a ++ text))) ∧ Below y.heap.size y w' := fun y lv r => by
    have := rjoin_any lv _ y r (by simp only [List.flatten_cons, List.flatten_nil, List.append_nil, List.length_append, List.length_replicate]; omega)
    simpa using this
  have f1 : ¬ (N : Int) > 16 := by omega
  have f3 : ¬ (16 : Int) < (N : Int) := by omega
  generalize shA a = SA at *
  generalize digD 1 (pub ++ (List.replicate M 0 ++ (SA ++ text))) = SS at *
  generalize pub ++ (List.replicate M 0 ++ (SA ++ text)) = JL at *
  have hplH := hide (And.intro hpl (And.intro hsl (And.intro hml (And.intro hdl hM))))
  clear hpl hF hN hsm hsl hml hdl
  go_enter Tryz.func16, Tryz.ntmps16
  go_wp2_with (first
    | (refine wpList_load_rowS (by rfl) 23 _ (by rfl) w.heap.size (by rfl) _ _ _ _ bx0.here Tryz.underlying23 (by kernel_rfl) ?_)
    | (go_at_call 8; refine (hfit _).mono ?_; rintro e w1 ⟨rfl, g1⟩; have bx1 := bx0.below g1; have d0 := bx1.c0; have d5 := bx1.c5)
    | fail)
  have L1 := L0.below g1
  have k1 := keep_trans k0 g1
  have ra1 := row_ad L1 ha
  have rp1 := hp.below k1
  have rt1 := ht.below k1
  have hbd : Below w1.heap.size w1 w1.drew := (Below.refl _ _).drew
  clear bx0 L0 k0 c0 hfit g1
  obtain ⟨hpl, hsl, hml, hdl, hM⟩ := hplH.out
  refine at_begin (ops := opsA (cLA (cRA (cRA (cRA (cRA (cRA (cRA (Tryz.f16.body.getD .skip))))))))) (n := 18) (fun y => Below w1.heap.size w1 y) (by kernel_rfl) (by kernel_rfl) ?_
  refine tkP 0 1 50 (.int .i64 1) sm11reg rfl (by decide) rfl rfl (y_moveG (wF rfl) rfl rfl) hbd ?_
  simp only [Act.put, plI, plZ, plS]
  refine tkP 1 3 51 (.slice pa N pc) sm11reg rfl (by decide) rfl rfl (y_moveG (wF rfl) rfl rfl) hbd ?_
  simp only [Act.put, plI, plZ, plS]
  refine tkP 2 7 52 (.int .i64 64) sm11reg rfl (by decide) rfl rfl (y_moveG (wF rfl) rfl rfl) hbd ?_
  simp only [Act.put, plI, plZ, plS]
  refine tkP 3 15 53 (.pointer (some ⟨w.heap.size, 0, none⟩)) sm11reg rfl (by decide) rfl rfl (y_fieldG (wF rfl) rfl rfl (fun w => by simp [go_sem])) hbd ?_
  simp only [Act.put, plI, plZ, plS]
  refine tkP 4 31 54 (.int .i64 (N : Int)) sm11reg rfl (by decide) rfl rfl (y_plainG (wF rfl) rfl rfl Tryz.underlying3 rfl (fun _ h => (bx1.below h).c0)) hbd ?_
  simp only [Act.put, plI, plZ, plS]
  refine tkP 5 63 55 (.int .i64 (M : Int)) sm11reg rfl (by decide) rfl rfl (y_subIW (wF rfl) rfl rfl rfl Tryz.underlying3 u_M) hbd ?_
  simp only [Act.put, plI, plZ, plS]
  refine tkP 7 191 57 (.agg (arr .u8 a)) sm11reg rfl (by decide) rfl rfl (y_rowG (cs := vals .u8 a) (wF rfl) rfl rfl Tryz.underlying25 rfl (by rw [vals_length, ha.1]; kernel_rfl) (fun _ h => lies_rangeW (L1.below h))) hbd ?_
  simp only [Act.put, plI, plZ, plS]
  refine tkP 9 703 59 (.slice ta text.length tc) sm11reg rfl (by decide) rfl rfl (y_moveG (wF rfl) rfl rfl) hbd ?_
  simp only [Act.put, plI, plZ, plS]
  refine at_two (i := 6) (j := 8) (m1 := 767) (m2 := 959) sm11reg (by decide) rfl rfl ?_ ?_
  · refine p_makeX (n := M) (d := some 56) rfl (wF rfl) rfl rfl rfl rfl (by omega) ?_
    intro z9 om g9
    have hb9 := keep_trans hbd g9
    obtain ⟨ZG, hZG⟩ : ∃ q : Nat, w1.drew.heap.size = q := ⟨_, rfl⟩
    rw [hZG] at om ⊢
    have rm := om.row
    have tm := om.tidy
    try replace rs := rs.below g9
    refine ⟨hb9, ?_⟩
    simp only [Act.put, plI, plZ, plS]
    refine at_one (i := 8) (m' := 1023) sm11reg (by decide) rfl ?_
    refine p_callG (args := #[.agg (arr .u8 a)]) (d := some 58) rfl (wF rfl) rfl (by simp only [List.map_toArray, List.map_cons, List.map_nil]; rfl) rfl Tryz.call39 ((hsh z9).mono ?_)
    rintro e y10 ⟨sv, rfl, os, g10⟩
    obtain ⟨sa, sc, rfl, _⟩ := os.row.opens hsl
    have rs := os.row
    have ts := os.tidy
    try replace rm := rm.below g10
    have hb10 := keep_trans hb9 g10
    refine ⟨_, rfl, hb10, ?_⟩
    simp only [Act.put, plI, plZ, plS]
    refine at_one (i := 10) (m' := 2047) sm11reg (by decide) rfl ?_
    refine p_build4G (d := some 60) rfl (wF rfl) rfl rfl rfl rfl rfl rfl Tryz.underlying41 hi0 hz1 hz0 ?_
    have hb11 := keep_trans hb10 (keep_alloc y10 (.cells #[.slice pa N pc, .slice (some ⟨ZG, 0, none⟩) M M, .slice sa 22 sc, .slice ta text.length tc] 27))
    have rr := rows_litL (B := y10.heap.size) (k := 4) (texts_cons (rp1.below hb10) tp (texts_cons rm tm (texts_cons rs ts (texts_cons (rt1.below hb10) tt (Texts.nil _))))) rfl rfl (by decide)
    refine ⟨hb11, ?_⟩
    simp only [Act.put, plI, plZ, plS]
    refine at_one (i := 11) (m' := 4095) sm11reg (by decide) rfl ?_
    refine p_callG (args := #[.slice (some ⟨y10.heap.size, 0, none⟩) 4 4]) (d := some 61) rfl (wF rfl) rfl (by simp only [List.map_toArray, List.map_cons, List.map_nil]; rfl) rfl Tryz.call37 ((hjn (y10.alloc (.cells #[.slice pa N pc, .slice (some ⟨ZG, 0, none⟩) M M, .slice sa 22 sc, .slice ta text.length tc] 27)) _ rr).mono ?_)
    rintro e y12 ⟨jv, rfl, oj, g12⟩
    have rj := oj.row
    have tj := oj.tidy
    obtain ⟨ja, jc, rfl, _⟩ := rj.opens rfl
    have hb12 := keep_trans hb11 g12
    refine ⟨_, rfl, hb12, ?_⟩
    simp only [Act.put, plI, plZ, plS]
    refine at_one (i := 12) (m' := 8191) sm11reg (by decide) rfl ?_
    refine p_callG (args := #[.int .i64 1, .slice ja JL.length jc]) (d := some 62) rfl (wF rfl) rfl (by simp only [List.map_toArray, List.map_cons, List.map_nil]; rfl) rfl Tryz.call38 ((hs7 y12 _ rj tj).mono ?_)
    rintro e y13 ⟨kv, rfl, rk, nk, g13⟩
    have kbs := (hb12).size
    obtain ⟨ka, kc, rfl, lk, _⟩ := rk.opens hdl
    have hb13 := keep_trans hb12 g13
    refine ⟨_, rfl, hb13, ?_⟩
    simp only [Act.put, plI, plZ, plS]
    refine tkP 13 16383 49 (.tuple #[.slice ka 32 kc, .int .i64 0]) sm11reg rfl (by decide) rfl rfl (y_moveG (wF rfl) rfl rfl) hb13 ?_
    simp only [Act.put, plI, plZ, plS]
    refine tkP 14 32767 63 (.slice ka 32 kc) sm11reg rfl (by decide) rfl rfl (y_extractG (wF rfl) rfl rfl rfl) hb13 ?_
    simp only [Act.put, plI, plZ, plS]
    refine tkP 15 65535 64 (.int .i64 0) sm11reg rfl (by decide) rfl rfl (y_extractG (wF rfl) rfl rfl rfl) hb13 ?_
    simp only [Act.put, plI, plZ, plS]
    refine tkP 16 131071 13 (.slice ka 32 kc) sm11reg rfl (by decide) rfl rfl (y_assignG (wF rfl) rfl rfl) hb13 ?_
    simp only [Act.put, plI, plZ, plS]
    refine tkP 17 262143 14 (.int .i64 0) sm11reg rfl (by decide) rfl rfl (y_assignG (wF rfl) rfl rfl) hb13 ?_
    simp only [Act.put, plI, plZ, plS]
    refine at_done sm11reg (by decide) ?_
    have cN := (bx1.below hb13).c0
    have hkc : N ≤ kc := by omega
    go_wp2
    go_ret
    have rc := rk.cut (M := N) (by omega)
    refine ⟨_, rfl, rc, fun q hq => ?_, keep_trans k1 hb13⟩
    have h1 := nk q (own_lenW.trans hq)
    have h2 := k1.size
    omega
  · refine p_callG (args := #[.agg (arr .u8 a)]) (d := some 58) rfl (wF rfl) rfl (by simp only [List.map_toArray, List.map_cons, List.map_nil]; rfl) rfl Tryz.call39 ((hsh w1.drew).mono ?_)
    rintro e y9 ⟨sv, rfl, os, g9⟩
    obtain ⟨sa, sc, rfl, _⟩ := os.row.opens hsl
    have rs := os.row
    have ts := os.tidy
    try replace rm := rm.below g9
    have hb9 := keep_trans hbd g9
    refine ⟨_, rfl, hb9, ?_⟩
    simp only [Act.put, plI, plZ, plS]
    refine at_one (i := 6) (m' := 1023) sm11reg (by decide) rfl ?_
    refine p_makeX (n := M) (d := some 56) rfl (wF rfl) rfl rfl rfl rfl (by omega) ?_
    intro z10 om g10
    have hb10 := keep_trans hb9 g10
    obtain ⟨ZG, hZG⟩ : ∃ q : Nat, y9.heap.size = q := ⟨_, rfl⟩
    rw [hZG] at om ⊢
    have rm := om.row
    have tm := om.tidy
    try replace rs := rs.below g10
    refine ⟨hb10, ?_⟩
    simp only [Act.put, plI, plZ, plS]
    refine at_one (i := 10) (m' := 2047) sm11reg (by decide) rfl ?_
    refine p_build4G (d := some 60) rfl (wF rfl) rfl rfl rfl rfl rfl rfl Tryz.underlying41 hi0 hz1 hz0 ?_
    have hb11 := keep_trans hb10 (keep_alloc z10 (.cells #[.slice pa N pc, .slice (some ⟨ZG, 0, none⟩) M M, .slice sa 22 sc, .slice ta text.length tc] 27))
    have rr := rows_litL (B := z10.heap.size) (k := 4) (texts_cons (rp1.below hb10) tp (texts_cons rm tm (texts_cons rs ts (texts_cons (rt1.below hb10) tt (Texts.nil _))))) rfl rfl (by decide)
    refine ⟨hb11, ?_⟩
    simp only [Act.put, plI, plZ, plS]
    refine at_one (i := 11) (m' := 4095) sm11reg (by decide) rfl ?_
    refine p_callG (args := #[.slice (some ⟨z10.heap.size, 0, none⟩) 4 4]) (d := some 61) rfl (wF rfl) rfl (by simp only [List.map_toArray, List.map_cons, List.map_nil]; rfl) rfl Tryz.call37 ((hjn (z10.alloc (.cells #[.slice pa N pc, .slice (some ⟨ZG, 0, none⟩) M M, .slice sa 22 sc, .slice ta text.length tc] 27)) _ rr).mono ?_)
    rintro e y12 ⟨jv, rfl, oj, g12⟩
    have rj := oj.row
    have tj := oj.tidy
    obtain ⟨ja, jc, rfl, _⟩ := rj.opens rfl
    have hb12 := keep_trans hb11 g12
    refine ⟨_, rfl, hb12, ?_⟩
    simp only [Act.put, plI, plZ, plS]
    refine at_one (i := 12) (m' := 8191) sm11reg (by decide) rfl ?_
    refine p_callG (args := #[.int .i64 1, .slice ja JL.length jc]) (d := some 62) rfl (wF rfl) rfl (by simp only [List.map_toArray, List.map_cons, List.map_nil]; rfl) rfl Tryz.call38 ((hs7 y12 _ rj tj).mono ?_)
    rintro e y13 ⟨kv, rfl, rk, nk, g13⟩
    have kbs := (hb12).size
    obtain ⟨ka, kc, rfl, lk, _⟩ := rk.opens hdl
    have hb13 := keep_trans hb12 g13
    refine ⟨_, rfl, hb13, ?_⟩
    simp only [Act.put, plI, plZ, plS]
    refine tkP 13 16383 49 (.tuple #[.slice ka 32 kc, .int .i64 0]) sm11reg rfl (by decide) rfl rfl (y_moveG (wF rfl) rfl rfl) hb13 ?_
    simp only [Act.put, plI, plZ, plS]
    refine tkP 14 32767 63 (.slice ka 32 kc) sm11reg rfl (by decide) rfl rfl (y_extractG (wF rfl) rfl rfl rfl) hb13 ?_
    simp only [Act.put, plI, plZ, plS]
    refine tkP 15 65535 64 (.int .i64 0) sm11reg rfl (by decide) rfl rfl (y_extractG (wF rfl) rfl rfl rfl) hb13 ?_
    simp only [Act.put, plI, plZ, plS]
    refine tkP 16 131071 13 (.slice ka 32 kc) sm11reg rfl (by decide) rfl rfl (y_assignG (wF rfl) rfl rfl) hb13 ?_
    simp only [Act.put, plI, plZ, plS]
    refine tkP 17 262143 14 (.int .i64 0) sm11reg rfl (by decide) rfl rfl (y_assignG (wF rfl) rfl rfl) hb13 ?_
    simp only [Act.put, plI, plZ, plS]
    refine at_done sm11reg (by decide) ?_
    have cN := (bx1.below hb13).c0
    have hkc : N ≤ kc := by omega
    go_wp2
    go_ret
    have rc := rk.cut (M := N) (by omega)
    refine ⟨_, rfl, rc, fun q hq => ?_, keep_trans k1 hb13⟩
    have h1 := nk q (own_lenW.trans hq)
    have h2 := k1.size
    omega
end Go.Proofs.YtpmobjfhhkglbaaGreatDoor
