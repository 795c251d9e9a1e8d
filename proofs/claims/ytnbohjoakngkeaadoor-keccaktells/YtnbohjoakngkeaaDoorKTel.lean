/- The drawn region of the law KeccakTells. -/
import Derived.Test.YtnbohjoakngkeaaDoorPlan4
import Derived.Test.YtnbohjoakngkeaaDoorCSm
namespace Go.Proofs.YtnbohjoakngkeaaDoor
open Go.RowKit
set_option linter.unusedVariables false
set_option linter.unusedSimpArgs false

def tlt7 : List Lt := [(0, some 55, [5]), (1, some 56, [55]), (0, some 57, [5]), (6, some 58, [57]), (10, some 59, [56, 58]), (24, some 60, [59]), (32, some 61, [11, 60]), (32, some 62, [13, 60]), (224, some 63, [61, 62, 60]), (288, some 64, [60, 63]), (768, some 65, [64]), (1024, some 66, [12, 65]), (1024, some 67, [14, 65]), (7168, some 68, [66, 67, 65]), (9216, some 69, [65, 68]), (17408, some 70, [69]), (32768, some 71, [15, 70]), (32768, some 72, [17, 70]), (229376, some 73, [71, 72, 70]), (294912, some 74, [70, 73]), (557056, some 75, [74]), (1048576, some 76, [16, 75]), (1048576, some 77, [18, 75]), (7340032, some 78, [76, 77, 75]), (9437184, some 79, [75, 78]), (17825792, some 80, [79]), (33554432, some 81, [9, 80]), (100663296, some 82, [81, 80]), (33554432, some 83, [9, 80]), (436207616, some 84, [83, 80]), (704643072, some 85, [82, 84, 80]), (1107296256, some 86, [80, 85]), (2684354560, some 87, [86]), (4294967296, some 88, [87]), (12884901888, some 89, [87, 88]), (34359738367, some 10, [89])]
theorem treg7 : Reg (opsOf (cL (cR (cR (cR (cR (cR (cR (Tryd.f3.body.getD .skip))))))))) tlt7 := ⟨by kernel_rfl, by kernel_rfl⟩
theorem tis7 : (cL (cR (cR (cR (cR (cR (cR (Tryd.f3.body.getD .skip)))))))) = .region 7 (opsOf (cL (cR (cR (cR (cR (cR (cR (Tryd.f3.body.getD .skip))))))))) true := by kernel_rfl
/-- cells of a block, from its first on -/
theorem row_range {w : World} {g : Nat} {cs : List Value} {t : TypeId} {fr : Nat × Nat} (h : w.heap[g]? = some (.cells cs.toArray t fr)) : w.rangeAt g 0 cs := fun j v hv => by
  rw [Nat.zero_add, cell_of_row _ _ j _ _ _ h]; simpa using hv
theorem lies_range {w : World} {k : IntKind} {t : TypeId} {g : Nat} {l : List Nat} (h : Lies k t w g l) : w.rangeAt g 0 (vals k l) := row_range h
/-- what stays -/
structure KTS (w : World) (wa : List Nat) (kind : Int) (ws : List Nat) (p : Int) (ot : Bool) (gp gq : Nat) (nk : Int) (v1 v2 : Value) (B : List Nat) (y : World) : Prop where
  a : Lies .u64 23 y w.heap.size wa
  s : Sg y (w.heap.size + 1) kind ws p ot
  p : y.heap[gp]? = some (.cells (sl nk (zs 25) 0 false).toArray 26 (0, 0))
  q : y.heap[gq]? = some (.cells (sl nk (zs 25) 0 false).toArray 26 (0, 0))
  r1 : Row .u8 256 y v1 B
  r2 : Row .u8 256 y v2 B
  bel : Below w.heap.size w y
/-- the frame -/
structure KTF (w : World) (gp gq : Nat) (v1 v2 : Value) (c d : Int) (a : Act) : Prop where
  fz : Fz 90 a
  t5 : a.eval (.tmp 5) = .pointer (some ⟨w.heap.size, 0, none⟩)
  t9 : a.eval (.tmp 9) = .pointer (some ⟨w.heap.size + 1, 0, none⟩)
  t11 : a.eval (.tmp 11) = v1
  t12 : a.eval (.tmp 12) = .int .i64 c
  t13 : a.eval (.tmp 13) = v2
  t14 : a.eval (.tmp 14) = .int .i64 c
  t15 : a.eval (.tmp 15) = .pointer (some ⟨gp, 0, none⟩)
  t16 : a.eval (.tmp 16) = .int .i64 d
  t17 : a.eval (.tmp 17) = .pointer (some ⟨gq, 0, none⟩)
  t18 : a.eval (.tmp 18) = .int .i64 d
section
variable {w : World} {wa : List Nat} {kind : Int} {ws : List Nat} {p : Int} {ot : Bool} {gp gq : Nat} {nk : Int} {v1 v2 : Value} {B : List Nat} {c d : Int} {Q : Exit → Act → World → Prop}
theorem KTS.keep {y y' : World} (h : KTS w wa kind ws p ot gp gq nk v1 v2 B y) (hb : Below y.heap.size y y') : KTS w wa kind ws p ot gp gq nk v1 v2 B y' :=
  ⟨h.a.below hb, h.s.below hb, (hb.block _ (heap_lt h.p)).trans h.p, (hb.block _ (heap_lt h.q)).trans h.q, h.r1.below hb, h.r2.below hb, keep_trans h.bel hb⟩
theorem KTS.cs {y : World} (h : KTS w wa kind ws p ot gp gq nk v1 v2 B y) (hT : Csts w) : Csts y := hT.below h.bel
theorem KTF.step {a : Act} {x : World} (h : KTF w gp gq v1 v2 c d a) {k fuel m : Nat} {v : Value} {dd : Option Nat} {ops : Array Oper} {S : World → Prop} (hd : dd = some k) (h3 : k = 10 ∨ 19 ≤ k) (hk : k < 90)
    (hc : ∀ a' : Act, KTF w gp gq v1 v2 c d a' → a'.eval (.tmp k) = v → (∀ j, k ≠ j → a'.eval (.tmp j) = a.eval (.tmp j)) → At Tryd.prog ops Q S fuel m a' x) : At Tryd.prog ops Q S fuel m (a.put dd v) x := by
  subst hd
  exact hc _ ⟨h.fz.put _ _, (put_else (by omega)).trans h.t5, (put_else (by omega)).trans h.t9, (put_else (by omega)).trans h.t11, (put_else (by omega)).trans h.t12, (put_else (by omega)).trans h.t13, (put_else (by omega)).trans h.t14, (put_else (by omega)).trans h.t15, (put_else (by omega)).trans h.t16, (put_else (by omega)).trans h.t17, (put_else (by omega)).trans h.t18⟩ (put_same (by rw [h.fz.1]; exact hk)) (fun j hj => put_else hj)
set_option maxRecDepth 100000 in
theorem tel_7 (hT : Csts w) (hwa : W25 wa) (hl : ws.length = 25) (hQ : ∀ (a : Act) (x : World), Fz 90 a → a.eval (.tmp 10) = .bool true → Below w.heap.size w x → Q .normal a x)
    {a : Act} {x : World} (F : KTF w gp gq v1 v2 c d a) (hS0 : KTS w wa kind ws p ot gp gq nk v1 v2 B x) : Code.wp Tryd.prog (cL (cR (cR (cR (cR (cR (cR (Tryd.f3.body.getD .skip)))))))) Q a x := by
  rw [tis7]
  have hS := hS0.keep (Below.refl _ _).drew
  have hvl : (vals .u64 wa).length = 25 := by rw [vals_length, hwa.1]
  have hsn : (sl nk (zs 25) 0 false).length = 28 := sl_len (zs_len 25)
  have hss : (sl kind ws p ot).length = 28 := sl_len hl
  refine at_begin (n := 36) (KTS w wa kind ws p ot gp gq nk v1 v2 B) (by kernel_rfl) (by kernel_rfl) ?_
  refine at_take (i := 0) (m' := 1) treg7 rfl (by decide) rfl (y_load_rowW (cs := vals .u64 wa) (wanted_free rfl) rfl F.t5 Tryd.underlying23 rfl (by rw [hvl]; kernel_rfl) (fun _ h => lies_range h.a)) hS ?_
  refine F.step (k := 55) rfl (by decide) (by decide) ?_
  intro a1 F s55 e
  clear e
  refine at_take (i := 2) (m' := 5) treg7 rfl (by decide) rfl (y_load_rowW (cs := vals .u64 wa) (wanted_free rfl) rfl F.t5 Tryd.underlying23 rfl (by rw [hvl]; kernel_rfl) (fun _ h => lies_range h.a)) hS ?_
  refine F.step (k := 57) rfl (by decide) (by decide) ?_
  intro a2 F s57 e
  replace s55 := (e 55 (by decide)).trans s55
  clear e
  refine at_one (i := 1) (m' := 7) treg7 (by decide) rfl ?_
  refine p_callW (args := #[.agg (arr .u64 wa)]) rfl (wanted_free rfl) rfl (by simp only [List.map_toArray, List.map_cons, List.map_nil, s55, arr]) Tryd.call12 ((perm_any wa _ (hS.cs hT) hwa).mono ?_)
  rintro e x3 ⟨rfl, hb⟩
  replace hS := hS.keep hb
  refine ⟨_, rfl, hS, ?_⟩
  refine F.step (k := 56) rfl (by decide) (by decide) ?_
  intro a3 F s56 e
  replace s57 := (e 57 (by decide)).trans s57
  clear e
  refine at_one (i := 3) (m' := 15) treg7 (by decide) rfl ?_
  refine p_callW (args := #[.agg (arr .u64 wa)]) rfl (wanted_free rfl) rfl (by simp only [List.map_toArray, List.map_cons, List.map_nil, s57, arr]) Tryd.call13 ((kperm_any wa _ hwa).mono ?_)
  rintro e x4 ⟨rfl, hb⟩
  replace hS := hS.keep hb
  refine ⟨_, rfl, hS, ?_⟩
  refine F.step (k := 58) rfl (by decide) (by decide) ?_
  intro a4 F s58 e
  replace s56 := (e 56 (by decide)).trans s56
  clear e
  refine at_take (i := 4) (m' := 31) treg7 rfl (by decide) rfl (y_eqW (wanted_free rfl) rfl s56 s58 (eqr_words _ _ (perm wa) (perm_w hwa).1)) hS ?_
  refine F.step (k := 59) rfl (by decide) (by decide) ?_
  intro a5 F s59 e
  clear e
  refine at_take (i := 5) (m' := 63) treg7 rfl (by decide) rfl (y_moveW (wanted_free rfl) rfl s59) hS ?_
  refine F.step (k := 60) rfl (by decide) (by decide) ?_
  intro a6 F s60 e
  clear e
  refine at_take (i := 6) (m' := 127) treg7 rfl (by decide) rfl (y_moveW (wanted_g (j := 5) rfl rfl rfl s60) rfl F.t11) hS ?_
  refine F.step (k := 61) rfl (by decide) (by decide) ?_
  intro a7 F s61 e
  replace s60 := (e 60 (by decide)).trans s60
  clear e
  refine at_take (i := 7) (m' := 255) treg7 rfl (by decide) rfl (y_moveW (wanted_g (j := 5) rfl rfl rfl s60) rfl F.t13) hS ?_
  refine F.step (k := 62) rfl (by decide) (by decide) ?_
  intro a8 F s62 e
  replace s60 := (e 60 (by decide)).trans s60
  replace s61 := (e 61 (by decide)).trans s61
  clear e
  refine at_one (i := 8) (m' := 511) treg7 (by decide) rfl ?_
  refine p_callW (args := #[v1, v2]) rfl (wanted_g (j := 5) rfl rfl rfl s60) rfl (by simp only [List.map_toArray, List.map_cons, List.map_nil, s61, s62]) Tryd.call14 ((rsame_true _ _ B _ hS.r1 hS.r2).mono ?_)
  rintro e x9 ⟨rfl, hb⟩
  replace hS := hS.keep hb
  refine ⟨_, rfl, hS, ?_⟩
  refine F.step (k := 63) rfl (by decide) (by decide) ?_
  intro a9 F s63 e
  replace s60 := (e 60 (by decide)).trans s60
  clear e
  refine at_take (i := 9) (m' := 1023) treg7 rfl (by decide) rfl (y_pick (wanted_free rfl) rfl s60 s63) hS ?_
  refine F.step (k := 64) rfl (by decide) (by decide) ?_
  intro a10 F s64 e
  clear e
  refine at_take (i := 10) (m' := 2047) treg7 rfl (by decide) rfl (y_moveW (wanted_free rfl) rfl s64) hS ?_
  refine F.step (k := 65) rfl (by decide) (by decide) ?_
  intro a11 F s65 e
  clear e
  refine at_take (i := 11) (m' := 4095) treg7 rfl (by decide) rfl (y_moveW (wanted_g (j := 10) rfl rfl rfl s65) rfl F.t12) hS ?_
  refine F.step (k := 66) rfl (by decide) (by decide) ?_
  intro a12 F s66 e
  replace s65 := (e 65 (by decide)).trans s65
  clear e
  refine at_take (i := 12) (m' := 8191) treg7 rfl (by decide) rfl (y_moveW (wanted_g (j := 10) rfl rfl rfl s65) rfl F.t14) hS ?_
  refine F.step (k := 67) rfl (by decide) (by decide) ?_
  intro a13 F s67 e
  replace s65 := (e 65 (by decide)).trans s65
  replace s66 := (e 66 (by decide)).trans s66
  clear e
  refine at_take (i := 13) (m' := 16383) treg7 rfl (by decide) rfl (y_eqW (wanted_g (j := 10) rfl rfl rfl s65) rfl s66 s67 (eqr_int _ _ .i64 c 3)) hS ?_
  refine F.step (k := 68) rfl (by decide) (by decide) ?_
  intro a14 F s68 e
  replace s65 := (e 65 (by decide)).trans s65
  clear e
  refine at_take (i := 14) (m' := 32767) treg7 rfl (by decide) rfl (y_pick (wanted_free rfl) rfl s65 s68) hS ?_
  refine F.step (k := 69) rfl (by decide) (by decide) ?_
  intro a15 F s69 e
  clear e
  refine at_take (i := 15) (m' := 65535) treg7 rfl (by decide) rfl (y_moveW (wanted_free rfl) rfl s69) hS ?_
  refine F.step (k := 70) rfl (by decide) (by decide) ?_
  intro a16 F s70 e
  clear e
  refine at_take (i := 16) (m' := 131071) treg7 rfl (by decide) rfl (y_load_rowW (cs := sl nk (zs 25) 0 false) (wanted_g (j := 15) rfl rfl rfl s70) rfl F.t15 Tryd.underlying26 rfl (by rw [hsn]; kernel_rfl) (fun _ h => row_range h.p)) hS ?_
  refine F.step (k := 71) rfl (by decide) (by decide) ?_
  intro a17 F s71 e
  replace s70 := (e 70 (by decide)).trans s70
  clear e
  refine at_take (i := 17) (m' := 262143) treg7 rfl (by decide) rfl (y_load_rowW (cs := sl nk (zs 25) 0 false) (wanted_g (j := 15) rfl rfl rfl s70) rfl F.t17 Tryd.underlying26 rfl (by rw [hsn]; kernel_rfl) (fun _ h => row_range h.q)) hS ?_
  refine F.step (k := 72) rfl (by decide) (by decide) ?_
  intro a18 F s72 e
  replace s70 := (e 70 (by decide)).trans s70
  replace s71 := (e 71 (by decide)).trans s71
  clear e
  refine at_take (i := 18) (m' := 524287) treg7 rfl (by decide) rfl (y_eqW (wanted_g (j := 15) rfl rfl rfl s70) rfl s71 s72 (eqr_sponge _ _ nk (zs 25) 0 false (zs_len 25))) hS ?_
  refine F.step (k := 73) rfl (by decide) (by decide) ?_
  intro a19 F s73 e
  replace s70 := (e 70 (by decide)).trans s70
  clear e
  refine at_take (i := 19) (m' := 1048575) treg7 rfl (by decide) rfl (y_pick (wanted_free rfl) rfl s70 s73) hS ?_
  refine F.step (k := 74) rfl (by decide) (by decide) ?_
  intro a20 F s74 e
  clear e
  refine at_take (i := 20) (m' := 2097151) treg7 rfl (by decide) rfl (y_moveW (wanted_free rfl) rfl s74) hS ?_
  refine F.step (k := 75) rfl (by decide) (by decide) ?_
  intro a21 F s75 e
  clear e
  refine at_take (i := 21) (m' := 4194303) treg7 rfl (by decide) rfl (y_moveW (wanted_g (j := 20) rfl rfl rfl s75) rfl F.t16) hS ?_
  refine F.step (k := 76) rfl (by decide) (by decide) ?_
  intro a22 F s76 e
  replace s75 := (e 75 (by decide)).trans s75
  clear e
  refine at_take (i := 22) (m' := 8388607) treg7 rfl (by decide) rfl (y_moveW (wanted_g (j := 20) rfl rfl rfl s75) rfl F.t18) hS ?_
  refine F.step (k := 77) rfl (by decide) (by decide) ?_
  intro a23 F s77 e
  replace s75 := (e 75 (by decide)).trans s75
  replace s76 := (e 76 (by decide)).trans s76
  clear e
  refine at_take (i := 23) (m' := 16777215) treg7 rfl (by decide) rfl (y_eqW (wanted_g (j := 20) rfl rfl rfl s75) rfl s76 s77 (eqr_int _ _ .i64 d 3)) hS ?_
  refine F.step (k := 78) rfl (by decide) (by decide) ?_
  intro a24 F s78 e
  replace s75 := (e 75 (by decide)).trans s75
  clear e
  refine at_take (i := 24) (m' := 33554431) treg7 rfl (by decide) rfl (y_pick (wanted_free rfl) rfl s75 s78) hS ?_
  refine F.step (k := 79) rfl (by decide) (by decide) ?_
  intro a25 F s79 e
  clear e
  refine at_take (i := 25) (m' := 67108863) treg7 rfl (by decide) rfl (y_moveW (wanted_free rfl) rfl s79) hS ?_
  refine F.step (k := 80) rfl (by decide) (by decide) ?_
  intro a26 F s80 e
  clear e
  refine at_take (i := 26) (m' := 134217727) treg7 rfl (by decide) rfl (y_load_rowW (cs := sl kind ws p ot) (wanted_g (j := 25) rfl rfl rfl s80) rfl F.t9 Tryd.underlying26 rfl (by rw [hss]; kernel_rfl) (fun _ h => h.s.all)) hS ?_
  refine F.step (k := 81) rfl (by decide) (by decide) ?_
  intro a27 F s81 e
  replace s80 := (e 80 (by decide)).trans s80
  clear e
  refine at_take (i := 28) (m' := 402653183) treg7 rfl (by decide) rfl (y_load_rowW (cs := sl kind ws p ot) (wanted_g (j := 25) rfl rfl rfl s80) rfl F.t9 Tryd.underlying26 rfl (by rw [hss]; kernel_rfl) (fun _ h => h.s.all)) hS ?_
  refine F.step (k := 83) rfl (by decide) (by decide) ?_
  intro a28 F s83 e
  replace s80 := (e 80 (by decide)).trans s80
  replace s81 := (e 81 (by decide)).trans s81
  clear e
  refine at_one (i := 27) (m' := 536870911) treg7 (by decide) rfl ?_
  refine p_callW (args := #[.agg (sl kind ws p ot).toArray]) rfl (wanted_g (j := 25) rfl rfl rfl s80) rfl (by simp only [List.map_toArray, List.map_cons, List.map_nil, s81]) Tryd.call15 ((cfit_any kind ws p ot _ hl).mono ?_)
  rintro e x29 ⟨rfl, hb⟩
  replace hS := hS.keep hb
  refine ⟨_, rfl, hS, ?_⟩
  refine F.step (k := 82) rfl (by decide) (by decide) ?_
  intro a29 F s82 e
  replace s80 := (e 80 (by decide)).trans s80
  replace s83 := (e 83 (by decide)).trans s83
  clear e
  refine at_one (i := 29) (m' := 1073741823) treg7 (by decide) rfl ?_
  refine p_callW (args := #[.agg (sl kind ws p ot).toArray]) rfl (wanted_g (j := 25) rfl rfl rfl s80) rfl (by simp only [List.map_toArray, List.map_cons, List.map_nil, s83]) Tryd.call16 ((kfit_any kind ws p ot _ hl).mono ?_)
  rintro e x30 ⟨rfl, hb⟩
  replace hS := hS.keep hb
  refine ⟨_, rfl, hS, ?_⟩
  refine F.step (k := 84) rfl (by decide) (by decide) ?_
  intro a30 F s84 e
  replace s80 := (e 80 (by decide)).trans s80
  replace s82 := (e 82 (by decide)).trans s82
  clear e
  refine at_take (i := 30) (m' := 2147483647) treg7 rfl (by decide) rfl (y_eqW (wanted_g (j := 25) rfl rfl rfl s80) rfl s82 s84 (eqr_bool _ _ (fitK kind p ot))) hS ?_
  refine F.step (k := 85) rfl (by decide) (by decide) ?_
  intro a31 F s85 e
  replace s80 := (e 80 (by decide)).trans s80
  clear e
  refine at_take (i := 31) (m' := 4294967295) treg7 rfl (by decide) rfl (y_pick (wanted_free rfl) rfl s80 s85) hS ?_
  refine F.step (k := 86) rfl (by decide) (by decide) ?_
  intro a32 F s86 e
  clear e
  refine at_take (i := 32) (m' := 8589934591) treg7 rfl (by decide) rfl (y_moveW (wanted_free rfl) rfl s86) hS ?_
  refine F.step (k := 87) rfl (by decide) (by decide) ?_
  intro a33 F s87 e
  clear e
  refine at_one (i := 33) (m' := 17179869183) treg7 (by decide) rfl ?_
  refine p_callW (args := #[]) rfl (wanted_g (j := 32) rfl rfl rfl s87) rfl (by simp) Tryd.call7 ((awake_any _ (hS.cs hT)).mono ?_)
  rintro e x34 ⟨rfl, hb⟩
  replace hS := hS.keep hb
  refine ⟨_, rfl, hS, ?_⟩
  refine F.step (k := 88) rfl (by decide) (by decide) ?_
  intro a34 F s88 e
  replace s87 := (e 87 (by decide)).trans s87
  clear e
  refine at_take (i := 34) (m' := 34359738367) treg7 rfl (by decide) rfl (y_pick (wanted_free rfl) rfl s87 s88) hS ?_
  refine F.step (k := 89) rfl (by decide) (by decide) ?_
  intro a35 F s89 e
  clear e
  refine at_take (i := 35) (m' := 68719476735) treg7 rfl (by decide) rfl (y_assign (wanted_free rfl) rfl s89) hS ?_
  refine F.step (k := 10) rfl (by decide) (by decide) ?_
  intro a36 F s10 e
  clear e
  exact at_done treg7 (by decide) (hQ _ _ F.fz s10 hS.bel)
end
theorem both_sum (kind : Int) (bv : Value) (l : List Nat) (n : Int) (w : World) (hT : Csts w) (hr : Row .u8 256 w bv l) (hl : l.length ≤ 1000000) :
    ∃ (c : Int) (B : List Nat),
      (∀ x, Below w.heap.size w x → Calls Tryd.prog 8 #[.int .i64 kind, bv, .int .i64 n] x fun e x' => ∃ v, e = .returned (.tuple #[v, .int .i64 c]) ∧ Row .u8 256 x' v B ∧ Below x.heap.size x x') ∧
      (∀ x, Below w.heap.size w x → Calls Tryd.prog 9 #[.int .i64 kind, bv, .int .i64 n] x fun e x' => ∃ v, e = .returned (.tuple #[v, .int .i64 c]) ∧ Row .u8 256 x' v B ∧ Below x.heap.size x x') := by
  by_cases h0 : 0 < rateK kind
  · by_cases h1 : n < 0 ∨ 16777216 < n
    · refine ⟨8, [], fun x _ => (csum_range kind bv n x h0 h1).mono ?_, fun x _ => (ksum_range kind bv n x h0 h1).mono ?_⟩
      · rintro e x' ⟨rfl, hb⟩; exact ⟨_, rfl, Row.nil _ _ _, hb⟩
      · rintro e x' ⟨rfl, hb⟩; exact ⟨_, rfl, Row.nil _ _ _, hb⟩
    · obtain ⟨N, rfl⟩ := Int.eq_ofNat_of_zero_le (show 0 ≤ n by omega)
      exact ⟨0, sumK kind l N, fun x hb => csum_ok kind bv l N x (hT.below hb) h0 (by omega) (hr.below hb) hl, fun x hb => ksum_ok kind bv l N x h0 (by omega) (hr.below hb) hl⟩
  · refine ⟨9, [], fun x _ => (csum_alg kind bv n x (by omega)).mono ?_, fun x _ => (ksum_alg kind bv n x (by omega)).mono ?_⟩
    · rintro e x' ⟨rfl, hb⟩; exact ⟨_, rfl, Row.nil _ _ _, hb⟩
    · rintro e x' ⟨rfl, hb⟩; exact ⟨_, rfl, Row.nil _ _ _, hb⟩
theorem both_new (kind : Int) : ∃ (nk d : Int),
    (∀ x, Calls Tryd.prog 10 #[.int .i64 kind] x fun e x' => e = .returned (.tuple #[.agg (sl nk (zs 25) 0 false).toArray, .int .i64 d]) ∧ Below x.heap.size x x') ∧
    (∀ x, Calls Tryd.prog 11 #[.int .i64 kind] x fun e x' => e = .returned (.tuple #[.agg (sl nk (zs 25) 0 false).toArray, .int .i64 d]) ∧ Below x.heap.size x x') := by
  by_cases h0 : 0 < rateK kind
  · exact ⟨kind, 0, fun x => cnew_ok kind x h0, fun x => knew_ok kind x h0⟩
  · exact ⟨0, 9, fun x => cnew_no kind x (by omega), fun x => knew_no kind x (by omega)⟩
end Go.Proofs.YtnbohjoakngkeaaDoor
