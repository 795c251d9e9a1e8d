/- The parts of a mask. -/
import Derived.Test.YtejlmgbmfeacdaaDoorYC2
import Derived.Test.YtejlmgbmfeacdaaDoorMHma
namespace Go.Proofs.YtejlmgbmfeacdaaDoor
open Go.RowKit
set_option linter.unusedVariables false
set_option linter.unusedSimpArgs false
def mklt : List Lt := [(0, some 4, [1]), (0, some 5, [0]), (2, some 6, [5]), (4, some 7, [6]), (13, some 8, [4, 7]), (31, some 3, [8])]
theorem mkreg : Reg (opsOf (cL (cR (Tryd.f18.body.getD .skip)))) mklt := ⟨by kernel_rfl, by kernel_rfl⟩
theorem mkis : (cL (cR (Tryd.f18.body.getD .skip))) = .region 1 (opsOf (cL (cR (Tryd.f18.body.getD .skip)))) true := by kernel_rfl
theorem leS_1 (n : Nat) : (leS n 1).reverse = [n % 256] := by unfold leS; rw [if_neg (by decide)]; simp [leL]
/-- the frame -/
structure MKF (i q : Nat) (a : Act) : Prop where
  fz : Fz 9 a
  t0 : a.eval (.tmp 0) = .int .u64 ((i : Nat) : Int)
  t1 : a.eval (.tmp 1) = .pointer (some ⟨q, 0, none⟩)
/-- what stays -/
structure MKS (w : World) (q : Nat) (f : Value) (y : World) : Prop where
  o : y.cell? ⟨q, 0, none⟩ = some f
  bel : Below w.heap.size w y
section
variable {w : World} {q i : Nat} {fo : FuncId} {co : Array Value} {Q : Exit → Act → World → Prop} {D : List Nat → List Nat} {P : List Nat}
theorem MKS.keep {f : Value} {y y' : World} (h : MKS w q f y) (hb : Below y.heap.size y y') : MKS w q f y' := ⟨keep_cell h.o hb, keep_trans h.bel hb⟩
theorem MKF.step {a : Act} {x : World} (h : MKF i q a) {k fuel m : Nat} {v : Value} {d : Option Nat} {ops : Array Oper} {S : World → Prop} (hd : d = some k) (h3 : 2 ≤ k) (hk : k < 9)
    (hc : ∀ a' : Act, MKF i q a' → a'.eval (.tmp k) = v → (∀ j, k ≠ j → a'.eval (.tmp j) = a.eval (.tmp j)) → At Tryd.prog ops Q S fuel m a' x) : At Tryd.prog ops Q S fuel m (a.put d v) x := by
  subst hd
  exact hc _ ⟨h.fz.put _ _, (put_else (by omega)).trans h.t0, (put_else (by omega)).trans h.t1⟩ (put_same (by rw [h.fz.1]; exact hk)) (fun j hj => put_else hj)
set_option maxRecDepth 100000 in
theorem mk_1 (hO : Dg D fo co P w) (hi : i < 100000)
    (hQ : ∀ (a : Act) (x : World) (v : Value), Fz 9 a → a.eval (.tmp 3) = v → Own 5 .u8 256 x w.heap.size v (D (P ++ (leL i 4).reverse)) → Below w.heap.size w x → Q .normal a x)
    {a : Act} {x : World} (F : MKF i q a) (hS0 : MKS w q (.func (.func fo) #[] co) x) : Code.wp Tryd.prog (cL (cR (Tryd.f18.body.getD .skip))) Q a x := by
  rw [mkis]
  have hS := hS0.keep (Below.refl _ _).drew
  refine at_begin (n := 6) (MKS w q (.func (.func fo) #[] co)) (by kernel_rfl) (by kernel_rfl) ?_
  refine at_take (i := 0) (m' := 1) mkreg rfl (by decide) rfl (y_loadF rfl rfl F.t1 Tryd.underlying34 (fun _ h => h.o)) hS ?_
  refine F.step (k := 4) rfl (by decide) (by decide) ?_
  intro a1 F1 s4 e1
  refine at_take (i := 1) (m' := 3) mkreg rfl (by decide) rfl (y_move rfl rfl F1.t0) hS ?_
  refine F1.step (k := 5) rfl (by decide) (by decide) ?_
  intro a2 F2 s5 e2
  replace s4 := (e2 4 (by decide)).trans s4
  refine at_one (i := 2) (m' := 7) mkreg (by decide) rfl ?_
  refine p_call (args := #[.int .u64 ((i : Nat) : Int), .int .i64 4]) rfl rfl rfl (by simp only [List.map_toArray, List.map_cons, List.map_nil, s5]; rfl) Tryd.call16 ((be_any i 4 _ (by omega) (by decide) (by decide)).mono ?_)
  rintro e x1 ⟨v1, rfl, hO1, hb1⟩
  rw [leS_4] at hO1
  have hS1 := hS.keep hb1
  refine ⟨_, rfl, hS1, ?_⟩
  refine F2.step (k := 6) rfl (by decide) (by decide) ?_
  intro a3 F3 s6 e3
  replace s4 := (e3 4 (by decide)).trans s4
  refine at_one (i := 3) (m' := 15) mkreg (by decide) rfl ?_
  refine p_rows1 rfl rfl rfl s6 hO1.row hO1.tidy fun jl x2 hJ hb2 => ?_
  have hS2 := hS1.keep hb2
  refine ⟨hS2, ?_⟩
  refine F3.step (k := 7) rfl (by decide) (by decide) ?_
  intro a4 F4 s7 e4
  replace s4 := (e4 4 (by decide)).trans s4
  refine at_one (i := 4) (m' := 31) mkreg (by decide) rfl ?_
  refine p_dyn rfl rfl rfl s4 s7 hO.enters ((hO.calls _ jl [(leL i 4).reverse] hS2.bel hJ (by simp [leL_length])).mono ?_)
  rintro e x3 ⟨v3, rfl, hO3, hb3⟩
  have hS3 := hS2.keep hb3
  refine ⟨_, rfl, hS3, ?_⟩
  refine F4.step (k := 8) rfl (by decide) (by decide) ?_
  intro a5 F5 s8 e5
  refine at_take (i := 5) (m' := 63) mkreg rfl (by decide) rfl (y_assign (wanted_free rfl) rfl s8) hS3 ?_
  refine F5.step (k := 3) rfl (by decide) (by decide) ?_
  intro a6 F6 s3 e6
  rw [List.flatten_singleton] at hO3
  exact at_done mkreg (by decide) (hQ _ _ _ F6.fz s3 (hO3.mono hS2.bel.size) hS3.bel)
end
set_option maxHeartbeats 2000000 in
set_option maxRecDepth 100000 in
theorem mk_any (D : List Nat → List Nat) (fo : FuncId) (co : Array Value) (P : List Nat) (i q : Nat) (w : World) (hO : Dg D fo co P w) (hc : w.cell? ⟨q, 0, none⟩ = some (.func (.func fo) #[] co)) (hi : i < 100000) :
    Calls Tryd.prog 18 #[.int .u64 ((i : Nat) : Int), .pointer (some ⟨q, 0, none⟩)] w fun e w' => ∃ v, e = .returned v ∧ Own 5 .u8 256 w' w.heap.size v (D (P ++ (leL i 4).reverse)) ∧ Below w.heap.size w w' := by
  go_enter Tryd.func18, Tryd.ntmps18
  go_wp2
  refine mk_1 (w := w) (q := q) (i := i) hO hi ?_ ⟨⟨rfl, rfl⟩, rfl, rfl⟩ ⟨hc, Below.refl _ _⟩
  rename_i Q' K hK'
  intro a x v F t3 hOw hb
  refine hK' _ _ (wp_ret ?_)
  exact bodyPost_ret (results_is Tryd.results18 t3 x) F.2 ⟨v, rfl, hOw, hb⟩
/-- the parts of a mask, part after part -/
theorem pt_mask {D : List Nat → List Nat} {fo : FuncId} {co : Array Value} {P : List Nat} {q : Nat} {w : World} (hO : Dg D fo co P w) (hX : Fx w q (.func (.func fo) #[] co)) :
    Pt 18 #[.pointer (some ⟨q, 0, none⟩)] (fun i => D (P ++ (leL i 4).reverse)) w.heap.size q (fun _ x => Below w.heap.size w x) :=
  ⟨Tryd.call18, fun i x x' h hb hg => h.trans (hb.below (Nat.le_refl _) h.size), fun i x h hi hg => (mk_any D fo co P i q x (hO.below h) (hX.below h).cell hi).mono fun e x' ⟨v, h1, h2, h3⟩ => ⟨v, h1, h2.row, keep_trans h h3, But.of_below h3⟩⟩
set_option maxHeartbeats 2000000 in
set_option maxRecDepth 100000 in
theorem cmask_ok (kind : Int) (seed : List Nat) (sv : Value) (n : Nat) (w : World) (hR : Roots w) (hC : Csts w) (h1 : 1 ≤ kind) (h3 : kind ≤ 3) (rs : Row .u8 256 w sv seed) (ts : Tidy sv) (hsl : seed.length ≤ 90000) (hn : n ≤ 90000) :
    Calls Tryd.prog 7 #[.int .i64 kind, sv, .int .i64 (n : Nat)] w fun e w' => ∃ v', e = .returned (.tuple #[v', .int .i64 0]) ∧ Row .u8 256 w' v' (maskD (digD kind) seed n) ∧ Below w.heap.size w w' := by
  have hmf : ∀ (fn : Fn) (first cap : Array Value) (w : World), (Instr.makeFunc fn first cap).run Tryd.prog w = .ok (.func fn first cap) w := fun _ _ _ _ => rfl
  have hz := sizeD_pos h1 (by omega)
  have hz2 := sizeD_le kind
  have hbe := beh_e kind h1 (by omega) w hR hC _ _ [seed] (keep_alloc w (.cells #[sv] 22)) (rows_lit1 rs ts) (by simp; omega)
  have hfst := fun (x : World) (q : Nat) (fo : FuncId) (co : Array Value) (hD : Dg (digD kind) fo co seed x) (hX : Fx x q (.func (.func fo) #[] co)) => first_of n (sizeD kind) q 18 #[.pointer (some ⟨q, 0, none⟩)] (fun i => digD kind (seed ++ (leL i 4).reverse)) (fun _ y => Below x.heap.size x y) x hn (fun i => digD_length hz _) hz (by omega) (fun i => digD_under hz _) (pt_mask hD hX) hX.lt (fun y hb _ => hb)
  have i1 : ¬ kind < 1 := by omega
  have i3 : ¬ 3 < kind := by omega
  have n0 : ¬ (n : Int) < 0 := by omega
  have n1 : ¬ (1048576 : Int) < (n : Int) := by omega
  have HM : Hid (maskD (digD kind) seed n = (outN (fun i => digD kind (seed ++ (leL i 4).reverse)) n).take n) := hide rfl
  rw [List.flatten_singleton] at hbe
  obtain ⟨sa, sc, rfl⟩ := rs.form
  clear hz hz2
  go_enter Tryd.func7, Tryd.ntmps7
  go_wp2_with (first
    | (go_at_call 17; refine hbe.mono ?_; rintro e x1 ⟨fo, co, rfl, hD, hb1⟩)
    | fail)
  have hb2 := keep_alloc x1 (.cells #[.func (.func fo) #[] co] 34)
  have hX2 : Fx (x1.alloc (.cells #[.func (.func fo) #[] co] 34)) x1.heap.size (.func (.func fo) #[] co) := heap_alloc_last x1 _
  have hb3 := keep_trans (keep_alloc w (.cells #[.slice sa seed.length sc] 22)) hb1
  refine (hfst _ _ fo co (hD.below hb2) hX2).mono ?_
  rintro e x3 ⟨v3, rfl, r3, hB3⟩
  obtain ⟨a3, c3, rfl⟩ := r3.form
  rw [← HM.out] at r3 ⊢
  have hbf := keep_trans hb3 (hb2.trans (hB3.below (Nat.le_refl _) (by simp)))
  have HR := hide r3
  clear r3 hB3 hX2 hfst hbe
  go_wp2_with fail
  go_ret2
  exact ⟨_, rfl, HR.out, hbf⟩
set_option maxHeartbeats 1000000 in
set_option maxRecDepth 100000 in
theorem cmask_no (kind : Int) (sv : Value) (n : Int) (w : World) (h : kind < 1 ∨ 3 < kind) : Calls Tryd.prog 7 #[.int .i64 kind, sv, .int .i64 n] w fun e w' => e = .returned (.tuple #[.slice none 0 0, .int .i64 9]) ∧ w' = w := by
  by_cases h1 : kind < 1
  · go_enter Tryd.func7, Tryd.ntmps7
    go_wp2_with fail
    go_ret2
    exact ⟨rfl, rfl⟩
  · have h3 : 3 < kind := by omega
    go_enter Tryd.func7, Tryd.ntmps7
    go_wp2_with fail
    go_ret2
    exact ⟨rfl, rfl⟩
set_option maxHeartbeats 1000000 in
set_option maxRecDepth 100000 in
theorem cmask_range (kind : Int) (sv : Value) (n : Int) (w : World) (h1 : 1 ≤ kind) (h3 : kind ≤ 3) (h : n < 0 ∨ 1048576 < n) : Calls Tryd.prog 7 #[.int .i64 kind, sv, .int .i64 n] w fun e w' => e = .returned (.tuple #[.slice none 0 0, .int .i64 8]) ∧ w' = w := by
  have i1 : ¬ kind < 1 := by omega
  have i3 : ¬ 3 < kind := by omega
  by_cases h0 : n < 0
  · clear h
    go_enter Tryd.func7, Tryd.ntmps7
    go_wp2_with fail
    go_ret2
    exact ⟨rfl, rfl⟩
  · have hN : 1048576 < n := by omega
    clear h
    go_enter Tryd.func7, Tryd.ntmps7
    go_wp2_with fail
    go_ret2
    exact ⟨rfl, rfl⟩
end Go.Proofs.YtejlmgbmfeacdaaDoor

/- The parts of what a key is expanded to. -/
namespace Go.Proofs.YtejlmgbmfeacdaaDoor
open Go.RowKit
set_option linter.unusedVariables false
set_option linter.unusedSimpArgs false
def exlt : List Lt := [(0, some 6, [1]), (0, some 7, [2]), (0, some 8, [3]), (0, some 9, [0]), (8, some 10, [9]), (16, some 11, [10]), (38, some 12, [7, 8, 11]), (97, some 13, [6, 12]), (255, none, [2, 13])]
theorem exreg : Reg (opsOf (cL (cR (Tryd.f15.body.getD .skip)))) exlt := ⟨by kernel_rfl, by kernel_rfl⟩
theorem exis : (cL (cR (Tryd.f15.body.getD .skip))) = .region 1 (opsOf (cL (cR (Tryd.f15.body.getD .skip)))) true := by kernel_rfl
theorem list15Y : ∀ l : List Value, l.length = 15 → ∃ u0 u1 u2 u3 u4 u5 u6 u7 u8 u9 u10 u11 u12 u13 u14, l = [u0, u1, u2, u3, u4, u5, u6, u7, u8, u9, u10, u11, u12, u13, u14]
  | [u0, u1, u2, u3, u4, u5, u6, u7, u8, u9, u10, u11, u12, u13, u14], _ => ⟨u0, u1, u2, u3, u4, u5, u6, u7, u8, u9, u10, u11, u12, u13, u14, rfl⟩
/-- a box of a slice -/
def Sx (w : World) (q : Nat) (v : Value) : Prop := w.heap[q]? = some (.cells #[v] 22 (0, 0))
theorem Sx.lt {w : World} {q : Nat} {f : Value} (h : Sx w q f) : q < w.heap.size := heap_ltY h
theorem Sx.below {w w' : World} {q : Nat} {f : Value} (h : Sx w q f) (hb : Below w.heap.size w w') : Sx w' q f := (hb.block q h.lt).trans h
theorem Sx.but {w w' : World} {q g : Nat} {f : Value} (h : Sx w q f) (hb : But g w w') (hn : q ≠ g) : Sx w' q f := (hb.block q h.lt hn).trans h
theorem Sx.cell {w : World} {q : Nat} {f : Value} (h : Sx w q f) : w.cell? ⟨q, 0, none⟩ = some f := by rw [cell_of_row w q 0 _ _ (0, 0) h]; rfl
theorem Sx.frozen {w : World} {q : Nat} {f : Value} (h : Sx w q f) : w.frozen? ⟨q, 0, none⟩ = false := by
  unfold Sx at h
  simp [World.frozen?, h]
theorem Sx.set {w : World} {q : Nat} {f : Value} (h : Sx w q f) (v : Value) : Sx (w.setCell ⟨q, 0, none⟩ v) q v := by
  unfold Sx at h ⊢
  rw [setCell_eq_setRow _ _ 0 _ _ (0, 0) _ h]
  exact setRow_heap _ _ _ _ _ _ h
theorem Fx.but {w w' : World} {q g : Nat} {f : Value} (h : Fx w q f) (hb : But g w w') (hn : q ≠ g) : Fx w' q f := (hb.block q h.lt hn).trans h
theorem p_loadS {ops : Array Oper} {Q : Exit → Act → World → Prop} {K : Act → World → Prop} {i : Nat} {o : Oper} {v : Value} {a : Act} {w : World} {x : Operand} {t e : TypeId} {p : Addr} (hi : ops[i]? = some o) (hg : o.guard = none) (ho : o.op = .load t x) (hx : a.eval x = .pointer (some p)) (hu : Tryd.prog.underlying t = some (.slice e)) (hc : w.cell? p = some v)
    (h : K (a.put o.dst v) w) : wpOp Tryd.prog ops Q i K a w := by
  refine p_op hi hg ?_ h
  have hag : (isAgg t).run Tryd.prog w = .ok false w := by unfold isAgg; rw [Sem.run_bind, run_underlying hu w]; rfl
  unfold execOp
  simp only [ho, hx]
  simp [Instr.loadAt, Instr.sureAddr, Sem.run_bind, run_underlying hu w, hag, hc, go_sem]
theorem y_addU {ops : Array Oper} {S : World → Prop} {o : Oper} {a : Act} {x y : Operand} {t : TypeId} {n m c : Int} (hg : o.guard = none) (ho : o.op = .binOp .add 37 x y t) (hx : a.eval x = .int .u64 n) (hy : a.eval y = .int .u64 m) (hc : IntKind.u64.wrap (n + m) = c) : YieldsIf Tryd.prog ops S o (.int .u64 c) a := by
  refine y_of hg fun w _ => ?_
  unfold execOp
  simp only [ho, hx, hy]
  simp [hc, go_sem]
/-- the frame -/
structure EXF (i q t r : Nat) (a : Act) : Prop where
  fz : Fz 15 a
  t0 : a.eval (.tmp 0) = .int .u64 ((i : Nat) : Int)
  t1 : a.eval (.tmp 1) = .pointer (some ⟨q, 0, none⟩)
  t2 : a.eval (.tmp 2) = .pointer (some ⟨t, 0, none⟩)
  t3 : a.eval (.tmp 3) = .pointer (some ⟨r, 0, none⟩)
/-- what stays -/
structure EXS (w : World) (q t r : Nat) (f iv : Value) (y : World) : Prop where
  o : y.cell? ⟨q, 0, none⟩ = some f
  i : y.cell? ⟨r, 0, none⟩ = some iv
  but : But t w y
section
variable {w wd : World} {q t r i : Nat} {fo : FuncId} {co : Array Value} {iv tv : Value} {Q : Exit → Act → World → Prop} {D : List Nat → List Nat} {ah info : List Nat}
theorem EXS.keep {f iv : Value} {y y' : World} (h : EXS w q t r f iv y) (hb : Below y.heap.size y y') : EXS w q t r f iv y' := ⟨keep_cell h.o hb, keep_cell h.i hb, h.but.trans (But.of_below hb)⟩
theorem EXF.step {a : Act} {x : World} (h : EXF i q t r a) {k fuel m : Nat} {v : Value} {d : Option Nat} {ops : Array Oper} {S : World → Prop} (hd : d = some k) (h3 : 4 ≤ k) (hk : k < 15)
    (hc : ∀ a' : Act, EXF i q t r a' → a'.eval (.tmp k) = v → (∀ j, k ≠ j → a'.eval (.tmp j) = a.eval (.tmp j)) → At Tryd.prog ops Q S fuel m a' x) : At Tryd.prog ops Q S fuel m (a.put d v) x := by
  subst hd
  exact hc _ ⟨h.fz.put _ _, (put_else (by omega)).trans h.t0, (put_else (by omega)).trans h.t1, (put_else (by omega)).trans h.t2, (put_else (by omega)).trans h.t3⟩ (put_same (by rw [h.fz.1]; exact hk)) (fun j hj => put_else hj)
/-- what is told behind the region -/
def EXQ (w : World) (t : Nat) (O : List Nat) (Q : Exit → Act → World → Prop) : Prop := ∀ (a : Act) (x : World) (v : Value), Fz 15 a → a.eval (.tmp 2) = .pointer (some ⟨t, 0, none⟩) → Sx x t v → Row .u8 256 x v O → New w.heap.size v → But t w x → Q .normal a x
theorem ex_3 (hO : Dg D fo co [] wd) (hwd : Below wd.heap.size wd w) (htd : wd.heap.size ≤ t) (hT : Sx w t tv) (hqt : q ≠ t) (hrt : r ≠ t) (ra : Row .u8 256 w tv ah) (ta : Tidy tv) (ri : Row .u8 256 w iv info) (ti : Tidy iv) (hal : ah.length ≤ 1000) (hil : info.length ≤ 90000) (hQ : EXQ w t (D (ah ++ info ++ [(i + 1) % 256])) Q)
    {a : Act} {x : World} {bv : Value} (F : EXF i q t r a) (hS : EXS w q t r (.func (.func fo) #[] co) iv x) (hb : Below w.heap.size w x) (s6 : a.eval (.tmp 6) = .func (.func fo) #[] co) (s7 : a.eval (.tmp 7) = tv) (s8 : a.eval (.tmp 8) = iv) (s11 : a.eval (.tmp 11) = bv) (rb : Row .u8 256 x bv [(i + 1) % 256]) (tb : Tidy bv) :
    At Tryd.prog (opsOf (cL (cR (Tryd.f15.body.getD .skip)))) Q (EXS w q t r (.func (.func fo) #[] co) iv) 3 63 a x := by
  refine at_one (i := 6) (m' := 127) exreg (by decide) rfl ?_
  refine p_rows3 rfl rfl rfl s7 s8 s11 (ra.below hb) (ri.below hb) rb ta ti tb fun jl x2 hJ hb2 => ?_
  have hS2 := hS.keep hb2
  have hbx := keep_trans hb hb2
  refine ⟨hS2, ?_⟩
  refine F.step (k := 12) rfl (by decide) (by decide) ?_
  intro a1 F1 s12 e1
  replace s6 := (e1 6 (by decide)).trans s6
  refine at_one (i := 7) (m' := 255) exreg (by decide) rfl ?_
  refine p_dyn rfl rfl rfl s6 s12 hO.enters ((hO.calls _ jl [ah, info, [(i + 1) % 256]] (keep_trans hwd hbx) hJ (by simp; omega)).mono ?_)
  rintro e x3 ⟨v3, rfl, hO3, hb3⟩
  have hS3 := hS2.keep hb3
  have hby := keep_trans hbx hb3
  refine ⟨_, rfl, hS3, ?_⟩
  refine F1.step (k := 13) rfl (by decide) (by decide) ?_
  intro a2 F2 s13 e2
  have ef : [] ++ [ah, info, [(i + 1) % 256]].flatten = ah ++ info ++ [(i + 1) % 256] := by simp
  rw [ef] at hO3
  have hT3 := hT.below hby
  have htw := hT.lt
  have hB : But t x3 (x3.setCell ⟨t, 0, none⟩ v3) := (But.refl _ _).setCell 0 v3
  have hn : New w.heap.size v3 := hO3.new.mono hbx.size
  refine at_one (i := 8) (m' := 511) exreg (by decide) rfl ?_
  refine p_putS rfl rfl rfl rfl F2.t2 s13 (by obtain ⟨aa, cc, rfl⟩ := hO3.row.form; exact ⟨aa, _, cc, rfl⟩) Tryd.underlying22 (by kernel_rfl) (by rw [hT3.cell]; rfl) hT3.frozen ⟨⟨But.cell hS3.o hB hqt, But.cell hS3.i hB hrt, hS3.but.trans hB⟩, ?_⟩
  exact at_done exreg (by decide) (hQ _ _ _ F2.fz F2.t2 (hT3.set v3) (hO3.row.but (fun _ b hb' => by have := hn b hb'; omega) hB) hn (hS3.but.trans hB))
set_option maxRecDepth 100000 in
theorem ex_1 (hO : Dg D fo co [] wd) (hwd : Below wd.heap.size wd w) (htd : wd.heap.size ≤ t) (hT : Sx w t tv) (hqt : q ≠ t) (hrt : r ≠ t) (ra : Row .u8 256 w tv ah) (ta : Tidy tv) (ri : Row .u8 256 w iv info) (ti : Tidy iv) (hal : ah.length ≤ 1000) (hil : info.length ≤ 90000) (hi : i < 100000) (hQ : EXQ w t (D (ah ++ info ++ [(i + 1) % 256])) Q)
    {a : Act} {x : World} (F : EXF i q t r a) (hS0 : EXS w q t r (.func (.func fo) #[] co) iv x) (hb0 : Below w.heap.size w x) : Code.wp Tryd.prog (cL (cR (Tryd.f15.body.getD .skip))) Q a x := by
  rw [exis]
  have hbd : Below x.heap.size x x.drew := (Below.refl _ _).drew
  have hS := hS0.keep hbd
  have hb := keep_trans hb0 hbd
  have uw : IntKind.u64.wrap (((i : Nat) : Int) + 1) = (((i + 1 : Nat)) : Int) := by rw [IntKind.wrap_u64]; omega
  refine at_begin (n := 9) (EXS w q t r (.func (.func fo) #[] co) iv) (by kernel_rfl) (by kernel_rfl) ?_
  refine at_take (i := 0) (m' := 1) exreg rfl (by decide) rfl (y_loadF rfl rfl F.t1 Tryd.underlying34 (fun _ h => h.o)) hS ?_
  refine F.step (k := 6) rfl (by decide) (by decide) ?_
  intro a1 F1 s6 e1
  refine at_take (i := 2) (m' := 5) exreg rfl (by decide) rfl (y_loadS rfl rfl F1.t3 Tryd.underlying22 (fun _ h => h.i)) hS ?_
  refine F1.step (k := 8) rfl (by decide) (by decide) ?_
  intro a2 F2 s8 e2
  replace s6 := (e2 6 (by decide)).trans s6
  refine at_take (i := 3) (m' := 13) exreg rfl (by decide) rfl (y_move rfl rfl F2.t0) hS ?_
  refine F2.step (k := 9) rfl (by decide) (by decide) ?_
  intro a3 F3 s9 e3
  replace s6 := (e3 6 (by decide)).trans s6
  replace s8 := (e3 8 (by decide)).trans s8
  refine at_take (i := 4) (m' := 29) exreg rfl (by decide) rfl (y_addU rfl rfl s9 rfl uw) hS ?_
  refine F3.step (k := 10) rfl (by decide) (by decide) ?_
  intro a4 F4 s10 e4
  replace s6 := (e4 6 (by decide)).trans s6
  replace s8 := (e4 8 (by decide)).trans s8
  have hbe := fun y => be_any (i + 1) 1 y (by omega) (by decide) (by decide)
  rw [leS_1] at hbe
  refine at_two (i := 1) (j := 5) (m1 := 31) (m2 := 61) exreg (by decide) rfl rfl ?_ ?_
  · refine p_loadS rfl rfl rfl F4.t2 Tryd.underlying22 (hT.below hb).cell ⟨hS, ?_⟩
    refine F4.step (k := 7) rfl (by decide) (by decide) ?_
    intro a5 F5 s7 e5
    replace s6 := (e5 6 (by decide)).trans s6
    replace s8 := (e5 8 (by decide)).trans s8
    replace s10 := (e5 10 (by decide)).trans s10
    refine at_one (i := 5) (m' := 63) exreg (by decide) rfl ?_
    refine p_call (args := #[.int .u64 ((i + 1 : Nat) : Int), .int .i64 1]) rfl rfl rfl (by simp only [List.map_toArray, List.map_cons, List.map_nil, s10]; rfl) Tryd.call16 ((hbe _).mono ?_)
    rintro e x1 ⟨v1, rfl, hO1, hb1⟩
    refine ⟨_, rfl, hS.keep hb1, ?_⟩
    refine F5.step (k := 11) rfl (by decide) (by decide) ?_
    intro a6 F6 s11 e6
    exact ex_3 hO hwd htd hT hqt hrt ra ta ri ti hal hil hQ F6 (hS.keep hb1) (keep_trans hb hb1) ((e6 6 (by decide)).trans s6) ((e6 7 (by decide)).trans s7) ((e6 8 (by decide)).trans s8) s11 hO1.row hO1.tidy
  · refine p_call (args := #[.int .u64 ((i + 1 : Nat) : Int), .int .i64 1]) rfl rfl rfl (by simp only [List.map_toArray, List.map_cons, List.map_nil, s10]; rfl) Tryd.call16 ((hbe _).mono ?_)
    rintro e x1 ⟨v1, rfl, hO1, hb1⟩
    have hS1 := hS.keep hb1
    have hbx := keep_trans hb hb1
    refine ⟨_, rfl, hS1, ?_⟩
    refine F4.step (k := 11) rfl (by decide) (by decide) ?_
    intro a5 F5 s11 e5
    replace s6 := (e5 6 (by decide)).trans s6
    replace s8 := (e5 8 (by decide)).trans s8
    refine at_one (i := 1) (m' := 63) exreg (by decide) rfl ?_
    refine p_loadS rfl rfl rfl F5.t2 Tryd.underlying22 (hT.below hbx).cell ⟨hS1, ?_⟩
    refine F5.step (k := 7) rfl (by decide) (by decide) ?_
    intro a6 F6 s7 e6
    exact ex_3 hO hwd htd hT hqt hrt ra ta ri ti hal hil hQ F6 hS1 hbx ((e6 6 (by decide)).trans s6) s7 ((e6 8 (by decide)).trans s8) ((e6 11 (by decide)).trans s11) hO1.row hO1.tidy
end
set_option maxHeartbeats 2000000 in
set_option maxRecDepth 100000 in
theorem ex_any (D : List Nat → List Nat) (fo : FuncId) (co : Array Value) (i q t r : Nat) (iv tv : Value) (ah info : List Nat) (w wd : World) (hO : Dg D fo co [] wd) (hwd : Below wd.heap.size wd w) (htd : wd.heap.size ≤ t) (hT : Sx w t tv) (hqt : q ≠ t) (hrt : r ≠ t) (ra : Row .u8 256 w tv ah) (ta : Tidy tv) (ri : Row .u8 256 w iv info) (ti : Tidy iv) (hal : ah.length ≤ 1000) (hil : info.length ≤ 90000) (hi : i < 100000)
    (hX : w.cell? ⟨q, 0, none⟩ = some (.func (.func fo) #[] co)) (hI : w.cell? ⟨r, 0, none⟩ = some iv) :
    Calls Tryd.prog 15 #[.int .u64 ((i : Nat) : Int), .pointer (some ⟨q, 0, none⟩), .pointer (some ⟨t, 0, none⟩), .pointer (some ⟨r, 0, none⟩)] w fun e w' => ∃ v, e = .returned v ∧ Row .u8 256 w' v (D (ah ++ info ++ [(i + 1) % 256])) ∧ New w.heap.size v ∧ Sx w' t v ∧ But t w w' := by
  go_enter Tryd.func15, Tryd.ntmps15
  go_wp2
  refine ex_1 (w := w) (wd := wd) (q := q) (t := t) (r := r) (i := i) hO hwd htd hT hqt hrt ra ta ri ti hal hil hi ?_ ⟨⟨rfl, rfl⟩, rfl, rfl, rfl, rfl⟩ ⟨hX, hI, But.refl _ _⟩ (Below.refl _ _)
  rename_i Q' K hK'
  intro a x v F t2 hS hR hN hB
  obtain ⟨tm, df⟩ := a
  obtain ⟨hsz, hdf⟩ := F
  dsimp only at hsz hdf
  subst hdf
  obtain ⟨ll⟩ := tm
  obtain ⟨u0, u1, u2, u3, u4, u5, u6, u7, u8, u9, u10, u11, u12, u13, u14, rfl⟩ := list15Y ll (by simpa using hsz)
  have e2 : u2 = .pointer (some ⟨t, 0, none⟩) := t2
  subst e2
  have hc := hS.cell
  obtain ⟨va, vn, vc, rfl⟩ : ∃ va vn vc, v = .slice va vn vc := by obtain ⟨a, c, rfl⟩ := hR.form; exact ⟨a, _, c, rfl⟩
  have HH := hide (And.intro hS (And.intro hR (And.intro hN hB)))
  clear t2 hsz hS hR hN hB hT ra ri hX hI
  refine hK' _ _ ?_
  go_wp2
  go_ret
  exact ⟨_, rfl, HH.out.2.1, HH.out.2.2.1, HH.out.1, HH.out.2.2.2⟩
/-- where the parts of a key stand: ahead of part i -/
def ExI (D : List Nat → List Nat) (B : Nat) (key info : List Nat) (wd : World) (g t : Nat) (i : Nat) (x : World) : Prop := Below wd.heap.size wd x ∧ ∃ tv, Sx x t tv ∧ Row .u8 256 x tv (tN D B key info i) ∧ Tidy tv ∧ ∀ b, tv.ownBlock = some b → b ≠ g
theorem row_tidyY {k : IntKind} {m : Nat} {w : World} {v : Value} {l : List Nat} (h : Row k m w v l) (hl : 0 < l.length) : Tidy v := by
  obtain ⟨a, c, rfl, _, _, h3, _⟩ := h
  obtain ⟨b, off, rfl, _⟩ := h3 hl
  exact tidy_at _ _ _
theorem pt_exp {D : List Nat → List Nat} {B Z : Nat} {key info : List Nat} {fo : FuncId} {co : Array Value} {q t r g : Nat} {iv : Value} {wd : World} (hDl : ∀ l, (D l).length = Z) (hZ : 0 < Z) (hZ2 : Z ≤ 1000) (hO : Dg (hmacD D B key) fo co [] wd) (hX : Fx wd q (.func (.func fo) #[] co)) (hI : Sx wd r iv) (ri : Row .u8 256 wd iv info) (ti : Tidy iv) (hil : info.length ≤ 90000) (htd : wd.heap.size ≤ t) (htg : t < g) :
    Pt 15 #[.pointer (some ⟨q, 0, none⟩), .pointer (some ⟨t, 0, none⟩), .pointer (some ⟨r, 0, none⟩)] (fun i => tN D B key info (i + 1)) g t (ExI D B key info wd g t) := by
  have hq := hX.lt
  have hr := hI.lt
  refine ⟨Tryd.call15, ?_, ?_⟩
  · rintro i x x' ⟨h1, tv, h2, h3, h4, h5⟩ hb hg
    exact ⟨h1.trans (hb.below (by omega) h1.size), tv, h2.but hb (by omega), h3.but (fun _ b hb' => h5 b hb') hb, h4, h5⟩
  · rintro i x ⟨h1, tv, h2, h3, h4, h5⟩ hi hg
    refine (ex_any (hmacD D B key) fo co i q t r iv tv (tN D B key info i) info x wd hO h1 htd h2 (by omega) (by omega) h3 h4 (ri.below h1) ti (Nat.le_trans (tN_le D B Z hDl key info i) hZ2) hil hi (hX.below h1).cell (hI.below h1).cell).mono ?_
    rintro e x' ⟨v, rfl, r1, n1, s1, b1⟩
    have el : (hmacD D B key (tN D B key info i ++ info ++ [(i + 1) % 256])).length = Z := hDl _
    have htx := h2.lt
    exact ⟨v, rfl, r1, ⟨h1.trans (b1.below htd h1.size), v, s1, r1, row_tidyY r1 (by rw [el]; exact hZ), fun b hb => by have := n1 b hb; omega⟩, b1⟩
set_option maxHeartbeats 2000000 in
set_option maxRecDepth 100000 in
theorem cexp_ok (kind : Int) (key info : List Nat) (kv iv : Value) (n : Nat) (w : World) (hR : Roots w) (hC : Csts w) (h1 : 1 ≤ kind) (h5 : kind ≤ 5) (rk : Row .u8 256 w kv key) (tk : Tidy kv) (ri : Row .u8 256 w iv info) (ti : Tidy iv) (hkl : key.length ≤ 90000) (hil : info.length ≤ 90000) (hn : n ≤ 255 * sizeD kind) :
    Calls Tryd.prog 5 #[.int .i64 kind, kv, iv, .int .i64 (n : Nat)] w fun e w' => ∃ v', e = .returned (.tuple #[v', .int .i64 0]) ∧ Row .u8 256 w' v' (expD (digD kind) (blkD kind) key info n) ∧ Below w.heap.size w w' := by
  have hmf : ∀ (fn : Fn) (first cap : Array Value) (w : World), (Instr.makeFunc fn first cap).run Tryd.prog w = .ok (.func fn first cap) w := fun _ _ _ _ => rfl
  have hz := sizeD_pos h1 (by omega : kind ≤ 7)
  have hz2 := sizeD_le kind
  have hb0 := keep_alloc w (.cells #[iv] 22)
  have hI0 : Sx (w.alloc (.cells #[iv] 22)) w.heap.size iv := heap_alloc_last w _
  have hke := keyed_any kind key kv _ h1 h5 (beh_e kind h1 (by omega) _ (hR.below hb0) (hC.below hb0)) (rk.below hb0) tk (by omega)
  have hblk := fun x => cblk_any kind x
  have hsz := fun x => csize_any kind x
  have z0 : (((bkD kind : Nat) : Int) == 0) = false := by rw [beq_eq_false_iff_ne]; have := bkD_pos h1 h5; omega
  have hfst := fun (x : World) (q t : Nat) (fo : FuncId) (co : Array Value) (wd : World) (hD : Dg (hmacD (digD kind) (blkD kind) key) fo co [] wd) (hX : Fx wd q (.func (.func fo) #[] co)) (hI : Sx wd w.heap.size iv) (rI : Row .u8 256 wd iv info) (htd : wd.heap.size ≤ t) (htg : t < x.heap.size) =>
    first_of n (sizeD kind) t 15 #[.pointer (some ⟨q, 0, none⟩), .pointer (some ⟨t, 0, none⟩), .pointer (some ⟨w.heap.size, 0, none⟩)] (fun i => tN (digD kind) (blkD kind) key info (i + 1)) (ExI (digD kind) (blkD kind) key info wd x.heap.size t) x (by omega) (fun i => tN_length (digD kind) (blkD kind) (sizeD kind) (digD_length hz) key info i) hz (by omega) (fun i => digD_under hz _) (pt_exp (digD_length hz) hz (by omega) hD hX hI rI ti hil htd htg) htg
  generalize bkD kind = BK at *
  have n0 : ¬ (n : Int) < 0 := by omega
  obtain ⟨N, hN⟩ : ∃ N : Nat, N = 255 * sizeD kind := ⟨_, rfl⟩
  have e_N : 255 * ((sizeD kind : Nat) : Int) = (N : Int) := by omega
  have s_N : IntKind.i64.wrap (N : Int) = (N : Int) := by rw [IntKind.wrap_i64]; omega
  have nN : ¬ (N : Int) < (n : Int) := by omega
  have nNn : ¬ N < n := by omega
  have HM : Hid (expD (digD kind) (blkD kind) key info n = (outN (fun i => tN (digD kind) (blkD kind) key info (i + 1)) n).take n) := hide rfl
  clear hN hn hz hz2
  generalize sizeD kind = Z at *
  obtain ⟨ia, ic, rfl⟩ := ri.form
  obtain ⟨ka, kc, rfl⟩ := rk.form
  go_enter Tryd.func5, Tryd.ntmps5
  go_wp2_with (first
    | (go_at_call 12; refine (hblk _).mono ?_; rintro e x1 ⟨rfl, hx⟩; obtain rfl := hx.symm)
    | (go_at_call 11; refine (hsz _).mono ?_; rintro e x1 ⟨rfl, hx⟩; obtain rfl := hx.symm)
    | (go_at_call 13; refine hke.mono ?_; rintro e x1 ⟨fo, co, rfl, hD, hb1⟩)
    | fail)
  have hbd := keep_alloc x1 (.cells #[.func (.func fo) #[] co] 34)
  have hX : Fx (x1.alloc (.cells #[.func (.func fo) #[] co] 34)) x1.heap.size (.func (.func fo) #[] co) := heap_alloc_last x1 _
  have hDd := hD.below hbd
  have hb2 := keep_trans hb1 hbd
  have hI2 := hI0.below hb2
  have rI2 := (ri.below hb0).below hb2
  have hsd : (x1.alloc (.cells #[.func (.func fo) #[] co] 34)).heap.size = x1.heap.size + 1 := World.size_alloc _ _
  generalize x1.alloc (.cells #[.func (.func fo) #[] co] 34) = wd at *
  have hT : Sx (wd.alloc (.cells #[.slice none 0 0] 22)) wd.heap.size (.slice none 0 0) := heap_alloc_last wd _
  have hbe := keep_alloc wd (.cells #[.slice none 0 0] 22)
  rw [hsd] at hT
  refine (hfst _ x1.heap.size (x1.heap.size + 1) fo co wd hDd hX hI2 rI2 (by omega) (by rw [World.size_alloc]; omega) (fun y hy _ => ⟨keep_trans hbe hy, _, hT.below hy, Row.nil _ _ _, tidy_nil, fun b hb => by simp [Value.ownBlock] at hb⟩)).mono ?_
  rintro e x3 ⟨v3, rfl, r3, hB3⟩
  obtain ⟨a3, c3, rfl⟩ := r3.form
  rw [← HM.out] at r3 ⊢
  have hbf := keep_trans hb0 (keep_trans hb2 (hbe.trans (hB3.below (by omega) (by rw [World.size_alloc]; omega))))
  have HR := hide r3
  clear r3 hB3 hX hfst hke hT hI2 rI2 hDd hsd hbd hbe hb2
  go_wp2_with fail
  go_ret2
  exact ⟨_, rfl, HR.out, hbf⟩
set_option maxHeartbeats 1000000 in
set_option maxRecDepth 100000 in
theorem cexp_no (kind : Int) (kv : Value) (ia : Option Addr) (il ic : Nat) (n : Int) (w : World) (h : kind < 1 ∨ 5 < kind) : Calls Tryd.prog 5 #[.int .i64 kind, kv, .slice ia il ic, .int .i64 n] w fun e w' => e = .returned (.tuple #[.slice none 0 0, .int .i64 9]) ∧ Below w.heap.size w w' := by
  have hblk := fun x => cblk_any kind x
  rw [bkD_no h] at hblk
  clear h
  go_enter Tryd.func5, Tryd.ntmps5
  go_wp2_with (first
    | (go_at_call 12; refine (hblk _).mono ?_; rintro e x1 ⟨rfl, hx⟩; obtain rfl := hx.symm)
    | fail)
  go_ret2
  exact ⟨rfl, keep_alloc _ _⟩
set_option maxHeartbeats 1000000 in
set_option maxRecDepth 100000 in
theorem cexp_range (kind : Int) (kv : Value) (ia : Option Addr) (il ic : Nat) (n : Int) (w : World) (h1 : 1 ≤ kind) (h5 : kind ≤ 5) (h : n < 0 ∨ 255 * (sizeD kind : Int) < n) : Calls Tryd.prog 5 #[.int .i64 kind, kv, .slice ia il ic, .int .i64 n] w fun e w' => e = .returned (.tuple #[.slice none 0 0, .int .i64 8]) ∧ Below w.heap.size w w' := by
  have hblk := fun x => cblk_any kind x
  have z0 : (((bkD kind : Nat) : Int) == 0) = false := by rw [beq_eq_false_iff_ne]; have := bkD_pos h1 h5; omega
  generalize bkD kind = BK at *
  by_cases h0 : n < 0
  · clear h
    go_enter Tryd.func5, Tryd.ntmps5
    go_wp2_with (first
      | (go_at_call 12; refine (hblk _).mono ?_; rintro e x1 ⟨rfl, hx⟩; obtain rfl := hx.symm)
      | fail)
    go_ret2
    exact ⟨rfl, keep_alloc _ _⟩
  · have hs := fun x => csize_any kind x
    have hz := sizeD_le kind
    generalize sizeD kind = Z at *
    obtain ⟨N, hN⟩ : ∃ N : Nat, N = 255 * Z := ⟨_, rfl⟩
    have e_N : 255 * (Z : Int) = (N : Int) := by omega
    have s_N : IntKind.i64.wrap (N : Int) = (N : Int) := by rw [IntKind.wrap_i64]; omega
    have nN : (N : Int) < n := by omega
    clear h hN
    go_enter Tryd.func5, Tryd.ntmps5
    go_wp2_with (first
      | (go_at_call 12; refine (hblk _).mono ?_; rintro e x1 ⟨rfl, hx⟩; obtain rfl := hx.symm)
      | (go_at_call 11; refine (hs _).mono ?_; rintro e x1 ⟨rfl, hx⟩; obtain rfl := hx.symm)
      | fail)
    go_ret2
    exact ⟨rfl, keep_alloc _ _⟩
end Go.Proofs.YtejlmgbmfeacdaaDoor
