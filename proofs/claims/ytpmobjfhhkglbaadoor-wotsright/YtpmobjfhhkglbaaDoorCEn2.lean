/- Contract of keccak.ended: its further regions. -/
import Derived.Test.YtpmobjfhhkglbaaDoorCEn
import Derived.Test.YtpmobjfhhkglbaaDoorCEn0
import Derived.Test.YtpmobjfhhkglbaaDoorWyA
import Derived.Test.YtpmobjfhhkglbaaDoorCPe
import Derived.Test.YtpmobjfhhkglbaaDoorMDig
namespace Go.Proofs.YtpmobjfhhkglbaaDoor
open Go.RowKit
set_option linter.unusedVariables false
set_option linter.unusedSimpArgs false

/-- where ended stands, the array beside it -/
structure En2 (w : World) (kind : Int) (ws : List Nat) (p g : Nat) (X : List Nat) (a : Act) (x : World) : Prop where
  en : En w kind ws p a x
  t3 : a.eval (.tmp 3) = .pointer (some ⟨g, 0, none⟩)
  hg : w.heap.size + 2 ≤ g
  lies : Lies .u64 68 x g X
section
variable {w : World} {kind : Int} {ws : List Nat} {p g : Nat} {X : List Nat} {Q : Exit → Act → World → Prop}
theorem En2.at {a : Act} {x x' : World} (h : En2 w kind ws p g X a x) (hb : Below x.heap.size x x') : En2 w kind ws p g X a x' := ⟨h.en.at hb, h.t3, h.hg, h.lies.below hb⟩
theorem En2.step {a : Act} {x : World} (h : En2 w kind ws p g X a x) {k fuel m : Nat} {v : Value} {d : Option Nat} {ops : Array Oper} {S : World → Prop} (hd : d = some k) (h3 : 4 ≤ k) (hk : k < 25)
    (hc : ∀ a' : Act, En2 w kind ws p g X a' x → a'.eval (.tmp k) = v → (∀ j, k ≠ j → a'.eval (.tmp j) = a.eval (.tmp j)) → At Tryd.prog ops Q S fuel m a' x) : At Tryd.prog ops Q S fuel m (a.put d v) x := by
  subst hd
  exact hc _ ⟨h.en.put (by omega) v, (put_else (by omega)).trans h.t3, h.hg, h.lies⟩ (put_same (by rw [h.en.fz.1]; exact hk)) (fun j hj => put_else hj)
/-- what stays in the second region -/
abbrev SE (w : World) (kind : Int) (ws : List Nat) (p : Nat) (y : World) : Prop := Sg y w.heap.size kind ws p false
theorem at_three {ops : Array Oper} {lt : List Lt} {S : World → Prop} (R : Reg ops lt) {m m1 m2 m3 i j k fuel : Nat} {a : Act} {x : World} (hc : someL lt [i, j, k] m = true) (e1 : m ||| 2 ^ i = m1) (e2 : m ||| 2 ^ j = m2) (e3 : m ||| 2 ^ k = m3)
    (h1 : wpOp Tryd.prog ops (NoPanic Q) i (fun a' w' => S w' ∧ At Tryd.prog ops Q S fuel m1 a' w') a x) (h2 : wpOp Tryd.prog ops (NoPanic Q) j (fun a' w' => S w' ∧ At Tryd.prog ops Q S fuel m2 a' w') a x) (h3 : wpOp Tryd.prog ops (NoPanic Q) k (fun a' w' => S w' ∧ At Tryd.prog ops Q S fuel m3 a' w') a x) : At Tryd.prog ops Q S (fuel + 1) m a x :=
  at_some R [i, j, k] hc fun l hl => by
    simp only [List.mem_cons, List.not_mem_nil, or_false] at hl
    rcases hl with rfl | rfl | rfl
    · rw [e1]; exact h1
    · rw [e2]; exact h2
    · rw [e3]; exact h3
/-- the array is loaded -/
theorem r_0 {ops : Array Oper} {K : Act → World → Prop} {a : Act} {x : World} {i : Nat} {o : Oper} {y : Operand} (hi : ops[i]? = some o) (hg : o.guard = none) (ho : o.op = .load 68 y) (hy : a.eval y = .pointer (some ⟨g, 0, none⟩)) (hX : X.length = 25) (hL : Lies .u64 68 x g X) (h : K (a.put o.dst (.agg (arr .u64 X))) x) : wpOp Tryd.prog ops Q i K a x := by
  refine p_op hi hg ?_ h
  unfold execOp
  simp only [ho, hy]
  simp [hL.load (P := Tryd.prog) 68 (.array 25 49) (by kernel_rfl) rfl (by rw [hX]; kernel_rfl), Sem.run_bind]
theorem p_lit {ops : Array Oper} {K : Act → World → Prop} {a : Act} {x : World} {i : Nat} {o : Oper} {c : Nat} (hi : ops[i]? = some o) (hg : o.guard = none) (ho : o.op = .buildSlice 26 1 #[(0, .const (.int .u8 (c : Nat)))])
    (h : K (a.put o.dst (.slice (some ⟨x.heap.size, 0, none⟩) 1 1)) (x.alloc (.cells #[.int .u8 (c : Nat)] 5))) : wpOp Tryd.prog ops Q i K a x := p_one hi hg ho rfl h
theorem y_less {ops : Array Oper} {S : World → Prop} {o : Oper} {a : Act} {y : Operand} {r : Nat} (hg : o.guard = none) (ho : o.op = .binOp .sub 3 y (.const (.int .i64 1)) 3) (hy : a.eval y = .int .i64 (r : Nat)) (h0 : 0 < r) (hr : r < 1000) : YieldsIf Tryd.prog ops S o (.int .i64 ((r - 1 : Nat) : Int)) a := by
  refine y_of hg fun w _ => ?_
  have e : (r : Int) - 1 = ((r - 1 : Nat) : Int) := by omega
  have r1 : IntKind.i64.wrap ((r - 1 : Nat) : Int) = ((r - 1 : Nat) : Int) := by rw [IntKind.wrap_i64]; omega
  unfold execOp
  simp only [ho, hy, ev_const]
  generalize r - 1 = z at *
  simp [e, r1, go_sem]
theorem f_111 (hX : W25 X) (hr : 0 < rateK kind) (hQ : ∀ (a : Act) (x : World), En2 w kind ws p g (xorL X (rateK kind - 1) [128]) a x → Q .normal a x)
    {a : Act} {x : World} {sv : Value} (E : En2 w kind ws p g X a x) (t13 : a.eval (.tmp 13) = .agg (arr .u64 X)) (t17 : a.eval (.tmp 17) = .int .i64 ((rateK kind - 1 : Nat) : Int)) (t18 : a.eval (.tmp 18) = sv) (hR : Row .u8 256 x sv [128]) :
    At Tryd.prog (opsOf (cL (cR (cR (Tryd.f54.body.getD .skip))))) Q (SE w kind ws p) 2 63 a x := by
  have hrl := rateK_le kind
  refine at_one (i := 6) ereg2 (by decide) rfl ?_
  refine p_call (args := #[.agg (arr .u64 X), .int .i64 ((rateK kind - 1 : Nat) : Int), sv]) rfl rfl rfl (by simp only [List.map_toArray, List.map_cons, List.map_nil, t13, t17, t18]) Tryd.call52 ((xored_any X (rateK kind - 1) sv [128] x hX hR (by show rateK kind - 1 + 1 ≤ 200; omega)).mono ?_)
  rintro e x' ⟨rfl, hb⟩
  have E1 := E.at hb
  refine ⟨_, rfl, E1.en.sg, ?_⟩
  refine E1.step (k := 19) rfl (by decide) (by decide) ?_
  intro a' E' t19 el
  have hY := (xorL_w [128] (rateK kind - 1) hX).1
  generalize xorL X (rateK kind - 1) [128] = Y at *
  refine at_one (i := 7) ereg2 (by decide) rfl ?_
  have hB : But g x' (x'.setRow g (arr .u64 Y)) := But.setRow (But.refl _ _) _
  refine p_row rfl rfl rfl rfl E'.t3 t19 E'.lies (by rw [arr_size, hY]; kernel_rfl) (by rw [arr_size, arr_size, hY, hX.1]) (arr_one _ _) ⟨(E'.en.but hB E'.hg).sg, at_done ereg2 (by decide) (hQ a' _ ⟨E'.en.but hB E'.hg, E'.t3, E'.hg, E'.lies.row⟩)⟩
theorem f_011 (hX : W25 X) (hr : 0 < rateK kind) (hQ : ∀ (a : Act) (x : World), En2 w kind ws p g (xorL X (rateK kind - 1) [128]) a x → Q .normal a x)
    {a : Act} {x : World} {sv : Value} (E : En2 w kind ws p g X a x) (t17 : a.eval (.tmp 17) = .int .i64 ((rateK kind - 1 : Nat) : Int)) (t18 : a.eval (.tmp 18) = sv) (hR : Row .u8 256 x sv [128]) :
    At Tryd.prog (opsOf (cL (cR (cR (Tryd.f54.body.getD .skip))))) Q (SE w kind ws p) 3 62 a x := by
  refine at_one (i := 0) ereg2 (by decide) rfl ?_
  refine r_0 (g := g) (X := X) rfl rfl rfl E.t3 hX.1 E.lies ⟨E.en.sg, ?_⟩
  refine E.step (k := 13) rfl (by decide) (by decide) ?_
  intro a' E' t13 el
  exact f_111 hX hr hQ E' t13 ((el 17 (by decide)).trans t17) ((el 18 (by decide)).trans t18) hR
theorem f_101 (hX : W25 X) (hr : 0 < rateK kind) (hQ : ∀ (a : Act) (x : World), En2 w kind ws p g (xorL X (rateK kind - 1) [128]) a x → Q .normal a x)
    {a : Act} {x : World} {sv : Value} (E : En2 w kind ws p g X a x) (t13 : a.eval (.tmp 13) = .agg (arr .u64 X)) (t15 : a.eval (.tmp 15) = .int .i64 kind) (t18 : a.eval (.tmp 18) = sv) (hR : Row .u8 256 x sv [128]) :
    At Tryd.prog (opsOf (cL (cR (cR (Tryd.f54.body.getD .skip))))) Q (SE w kind ws p) 4 39 a x := by
  refine at_one (i := 3) ereg2 (by decide) rfl ?_
  refine p_call (args := #[.int .i64 kind]) rfl rfl rfl (by simp only [List.map_toArray, List.map_cons, List.map_nil, t15]) Tryd.call50 ((block_any kind x).mono ?_)
  rintro e x' ⟨rfl, rfl⟩
  refine ⟨_, rfl, E.en.sg, ?_⟩
  refine E.step (k := 16) rfl (by decide) (by decide) ?_
  intro a1 E1 t16 e1
  refine at_take (i := 4) ereg2 rfl (by decide) rfl (y_less rfl rfl t16 hr (by have := rateK_le kind; omega)) E1.en.sg ?_
  refine E1.step (k := 17) rfl (by decide) (by decide) ?_
  intro a' E' t17 el
  exact f_111 hX hr hQ E' ((el 13 (by decide)).trans ((e1 13 (by decide)).trans t13)) t17 ((el 18 (by decide)).trans ((e1 18 (by decide)).trans t18)) hR
theorem f_110 (hX : W25 X) (hr : 0 < rateK kind) (hQ : ∀ (a : Act) (x : World), En2 w kind ws p g (xorL X (rateK kind - 1) [128]) a x → Q .normal a x)
    {a : Act} {x : World} (E : En2 w kind ws p g X a x) (t13 : a.eval (.tmp 13) = .agg (arr .u64 X)) (t17 : a.eval (.tmp 17) = .int .i64 ((rateK kind - 1 : Nat) : Int)) :
    At Tryd.prog (opsOf (cL (cR (cR (Tryd.f54.body.getD .skip))))) Q (SE w kind ws p) 3 31 a x := by
  refine at_one (i := 5) ereg2 (by decide) rfl ?_
  have hb := keep_alloc x (.cells #[.int .u8 ((128 : Nat) : Int)] 5)
  refine p_lit (c := 128) rfl rfl rfl ⟨(E.at hb).en.sg, ?_⟩
  refine (E.at hb).step (k := 18) rfl (by decide) (by decide) ?_
  intro a' E' t18 el
  exact f_111 hX hr hQ E' ((el 13 (by decide)).trans t13) ((el 17 (by decide)).trans t17) t18 (one_row x 128 (by decide))
theorem f_001 (hX : W25 X) (hr : 0 < rateK kind) (hQ : ∀ (a : Act) (x : World), En2 w kind ws p g (xorL X (rateK kind - 1) [128]) a x → Q .normal a x)
    {a : Act} {x : World} {sv : Value} (E : En2 w kind ws p g X a x) (t15 : a.eval (.tmp 15) = .int .i64 kind) (t18 : a.eval (.tmp 18) = sv) (hR : Row .u8 256 x sv [128]) :
    At Tryd.prog (opsOf (cL (cR (cR (Tryd.f54.body.getD .skip))))) Q (SE w kind ws p) 5 38 a x := by
  refine at_two (i := 0) (j := 3) ereg2 (by decide) rfl rfl ?_ ?_
  · refine r_0 (g := g) (X := X) rfl rfl rfl E.t3 hX.1 E.lies ⟨E.en.sg, ?_⟩
    refine E.step (k := 13) rfl (by decide) (by decide) ?_
    intro a' E' t13 el
    exact f_101 hX hr hQ E' t13 ((el 15 (by decide)).trans t15) ((el 18 (by decide)).trans t18) hR
  · refine p_call (args := #[.int .i64 kind]) rfl rfl rfl (by simp only [List.map_toArray, List.map_cons, List.map_nil, t15]) Tryd.call50 ((block_any kind x).mono ?_)
    rintro e x' ⟨rfl, rfl⟩
    refine ⟨_, rfl, E.en.sg, ?_⟩
    refine E.step (k := 16) rfl (by decide) (by decide) ?_
    intro a1 E1 t16 e1
    refine at_take (i := 4) ereg2 rfl (by decide) rfl (y_less rfl rfl t16 hr (by have := rateK_le kind; omega)) E1.en.sg ?_
    refine E1.step (k := 17) rfl (by decide) (by decide) ?_
    intro a' E' t17 el
    exact f_011 hX hr hQ E' t17 ((el 18 (by decide)).trans ((e1 18 (by decide)).trans t18)) hR
theorem f_010 (hX : W25 X) (hr : 0 < rateK kind) (hQ : ∀ (a : Act) (x : World), En2 w kind ws p g (xorL X (rateK kind - 1) [128]) a x → Q .normal a x)
    {a : Act} {x : World} (E : En2 w kind ws p g X a x) (t17 : a.eval (.tmp 17) = .int .i64 ((rateK kind - 1 : Nat) : Int)) :
    At Tryd.prog (opsOf (cL (cR (cR (Tryd.f54.body.getD .skip))))) Q (SE w kind ws p) 4 30 a x := by
  refine at_two (i := 0) (j := 5) ereg2 (by decide) rfl rfl ?_ ?_
  · refine r_0 (g := g) (X := X) rfl rfl rfl E.t3 hX.1 E.lies ⟨E.en.sg, ?_⟩
    refine E.step (k := 13) rfl (by decide) (by decide) ?_
    intro a' E' t13 el
    exact f_110 hX hr hQ E' t13 ((el 17 (by decide)).trans t17)
  · have hb := keep_alloc x (.cells #[.int .u8 ((128 : Nat) : Int)] 5)
    refine p_lit (c := 128) rfl rfl rfl ⟨(E.at hb).en.sg, ?_⟩
    refine (E.at hb).step (k := 18) rfl (by decide) (by decide) ?_
    intro a' E' t18 el
    exact f_011 hX hr hQ E' ((el 17 (by decide)).trans t17) t18 (one_row x 128 (by decide))
theorem f_100 (hX : W25 X) (hr : 0 < rateK kind) (hQ : ∀ (a : Act) (x : World), En2 w kind ws p g (xorL X (rateK kind - 1) [128]) a x → Q .normal a x)
    {a : Act} {x : World} (E : En2 w kind ws p g X a x) (t13 : a.eval (.tmp 13) = .agg (arr .u64 X)) (t15 : a.eval (.tmp 15) = .int .i64 kind) :
    At Tryd.prog (opsOf (cL (cR (cR (Tryd.f54.body.getD .skip))))) Q (SE w kind ws p) 5 7 a x := by
  refine at_two (i := 3) (j := 5) ereg2 (by decide) rfl rfl ?_ ?_
  · refine p_call (args := #[.int .i64 kind]) rfl rfl rfl (by simp only [List.map_toArray, List.map_cons, List.map_nil, t15]) Tryd.call50 ((block_any kind x).mono ?_)
    rintro e x' ⟨rfl, rfl⟩
    refine ⟨_, rfl, E.en.sg, ?_⟩
    refine E.step (k := 16) rfl (by decide) (by decide) ?_
    intro a1 E1 t16 e1
    refine at_take (i := 4) ereg2 rfl (by decide) rfl (y_less rfl rfl t16 hr (by have := rateK_le kind; omega)) E1.en.sg ?_
    refine E1.step (k := 17) rfl (by decide) (by decide) ?_
    intro a' E' t17 el
    exact f_110 hX hr hQ E' ((el 13 (by decide)).trans ((e1 13 (by decide)).trans t13)) t17
  · have hb := keep_alloc x (.cells #[.int .u8 ((128 : Nat) : Int)] 5)
    refine p_lit (c := 128) rfl rfl rfl ⟨(E.at hb).en.sg, ?_⟩
    refine (E.at hb).step (k := 18) rfl (by decide) (by decide) ?_
    intro a' E' t18 el
    exact f_101 hX hr hQ E' ((el 13 (by decide)).trans t13) ((el 15 (by decide)).trans t15) t18 (one_row x 128 (by decide))
theorem f_000 (hX : W25 X) (hr : 0 < rateK kind) (hQ : ∀ (a : Act) (x : World), En2 w kind ws p g (xorL X (rateK kind - 1) [128]) a x → Q .normal a x)
    {a : Act} {x : World} (E : En2 w kind ws p g X a x) (t15 : a.eval (.tmp 15) = .int .i64 kind) :
    At Tryd.prog (opsOf (cL (cR (cR (Tryd.f54.body.getD .skip))))) Q (SE w kind ws p) 6 6 a x := by
  refine at_three (i := 0) (j := 3) (k := 5) ereg2 (by decide) rfl rfl rfl ?_ ?_ ?_
  · refine r_0 (g := g) (X := X) rfl rfl rfl E.t3 hX.1 E.lies ⟨E.en.sg, ?_⟩
    refine E.step (k := 13) rfl (by decide) (by decide) ?_
    intro a' E' t13 el
    exact f_100 hX hr hQ E' t13 ((el 15 (by decide)).trans t15)
  · refine p_call (args := #[.int .i64 kind]) rfl rfl rfl (by simp only [List.map_toArray, List.map_cons, List.map_nil, t15]) Tryd.call50 ((block_any kind x).mono ?_)
    rintro e x' ⟨rfl, rfl⟩
    refine ⟨_, rfl, E.en.sg, ?_⟩
    refine E.step (k := 16) rfl (by decide) (by decide) ?_
    intro a1 E1 t16 e1
    refine at_take (i := 4) ereg2 rfl (by decide) rfl (y_less rfl rfl t16 hr (by have := rateK_le kind; omega)) E1.en.sg ?_
    refine E1.step (k := 17) rfl (by decide) (by decide) ?_
    intro a' E' t17 el
    exact f_010 hX hr hQ E' t17
  · have hb := keep_alloc x (.cells #[.int .u8 ((128 : Nat) : Int)] 5)
    refine p_lit (c := 128) rfl rfl rfl ⟨(E.at hb).en.sg, ?_⟩
    refine (E.at hb).step (k := 18) rfl (by decide) (by decide) ?_
    intro a' E' t18 el
    exact f_001 hX hr hQ E' ((el 15 (by decide)).trans t15) t18 (one_row x 128 (by decide))
/-- the second region -/
theorem en_2 (hX : W25 X) (hr : 0 < rateK kind) (hQ : ∀ (a : Act) (x : World), En2 w kind ws p g (xorL X (rateK kind - 1) [128]) a x → Q .normal a x)
    {a : Act} {x : World} (E0 : En2 w kind ws p g X a x) : Code.wp Tryd.prog (cL (cR (cR (Tryd.f54.body.getD .skip)))) Q a x := by
  rw [eis2]
  have E := E0.at (Below.refl _ _).drew
  refine at_begin (n := 8) (SE w kind ws p) (by kernel_rfl) (by kernel_rfl) ?_
  refine at_take (i := 1) ereg2 rfl (by decide) rfl (y_field rfl rfl E.en.t1 (field0 _)) E.en.sg ?_
  refine E.step (k := 14) rfl (by decide) (by decide) ?_
  intro a1 E1 s14 _
  refine at_take (i := 2) ereg2 rfl (by decide) rfl (y_load rfl rfl s14 Tryd.underlying3 (fun _ h => h.kind)) E1.en.sg ?_
  refine E1.step (k := 15) rfl (by decide) (by decide) ?_
  intro a2 E2 s15 _
  exact f_000 hX hr hQ E2 s15
/-- the third region -/
theorem en_3 (hT : Csts w) (hX : W25 X) (hQ : ∀ (a : Act) (x : World), Fz 25 a → a.eval (.tmp 2) = .pointer (some ⟨w.heap.size + 1, 0, none⟩) → x.heap[w.heap.size + 1]? = some (.cells (sl kind (perm X) 0 true).toArray 70 (0, 0)) → Below w.heap.size w x → Q .normal a x)
    {a : Act} {x : World} (E0 : En2 w kind ws p g X a x) : Code.wp Tryd.prog (cL (cR (cR (cR (Tryd.f54.body.getD .skip))))) Q a x := by
  rw [eis3]
  have E := E0.at (Below.refl _ _).drew
  have hvl : (vals .u64 X).length = 25 := by rw [vals_length, hX.1]
  have hpl := (perm_w hX).1
  refine at_begin (n := 6) (fun y => Sg y w.heap.size kind ws p false ∧ Lies .u64 68 y g X) (by kernel_rfl) (by kernel_rfl) ?_
  refine at_take (i := 0) ereg3 rfl (by decide) rfl (y_field rfl rfl E.en.t1 (field0 _)) ⟨E.en.sg, E.lies⟩ ?_
  refine E.step (k := 20) rfl (by decide) (by decide) ?_
  intro a1 E1 s20 _
  refine at_take (i := 1) ereg3 rfl (by decide) rfl (y_load rfl rfl s20 Tryd.underlying3 (fun _ h => h.1.kind)) ⟨E1.en.sg, E1.lies⟩ ?_
  refine E1.step (k := 21) rfl (by decide) (by decide) ?_
  intro a2 E2 s21 _
  refine at_take (i := 2) ereg3 rfl (by decide) rfl (y_load_row (cs := vals .u64 X) rfl rfl E2.t3 Tryd.underlying68 rfl (by rw [hvl]; kernel_rfl) (fun y h => fun j v hv => by
    have hj : j < X.length := by have := (List.getElem?_eq_some_iff.1 hv).1; rwa [vals_length] at this
    rw [Nat.zero_add, h.2.cell hj, ← vals_get .u64 X j hj]; exact hv)) ⟨E2.en.sg, E2.lies⟩ ?_
  refine E2.step (k := 22) rfl (by decide) (by decide) ?_
  intro a3 E3 s22 e3
  replace s21 := (e3 21 (by decide)).trans s21
  refine at_one (i := 3) ereg3 (by decide) rfl ?_
  refine p_call (args := #[.agg (arr .u64 X)]) rfl rfl rfl (by simp only [List.map_toArray, List.map_cons, List.map_nil, s22]; rfl) Tryd.call53 ((perm_any X _ (hT.below E3.en.bel) hX).mono ?_)
  rintro e x' ⟨rfl, hb⟩
  have E4 := E3.at hb
  refine ⟨_, rfl, ⟨E4.en.sg, E4.lies⟩, ?_⟩
  generalize perm X = M at *
  refine E4.step (k := 23) rfl (by decide) (by decide) ?_
  intro a5 E5 s23 e5
  replace s21 := (e5 21 (by decide)).trans s21
  refine at_take (i := 4) ereg3 rfl (by decide) rfl (y_sponge rfl rfl s21 s23 hpl) ⟨E5.en.sg, E5.lies⟩ ?_
  refine E5.step (k := 24) rfl (by decide) (by decide) ?_
  intro a6 E6 s24 e6
  have hsz : (sl kind M 0 true).toArray.size = 28 := by simp [sl_len hpl]
  have hsz0 : (sl 0 (zs 25) 0 false).toArray.size = 28 := by simp [sl_len (zs_len 25)]
  have hB : But (w.heap.size + 1) x' (x'.setRow (w.heap.size + 1) (sl kind M 0 true).toArray) := But.setRow (But.refl _ _) _
  refine at_one (i := 5) ereg3 (by decide) rfl ?_
  refine p_row rfl rfl rfl rfl E6.en.t2 s24 E6.en.rb (by rw [hsz]; kernel_rfl) (by rw [hsz, hsz0]) (all_oneCell_toArray (sl_one _ _ _ _)) ⟨⟨E6.en.sg.but hB (by omega), E6.lies.but hB (by have := E6.hg; omega)⟩, at_done ereg3 (by decide) (hQ a6 _ E6.en.fz E6.en.t2 (setRow_heap x' (w.heap.size + 1) _ _ 70 _ E6.en.rb) (E6.en.bel.trans (hB.below (by omega) E6.en.bel.size)))⟩
end
set_option maxHeartbeats 4000000 in
set_option maxRecDepth 100000 in
theorem ended_any (kind : Int) (ws : List Nat) (p : Nat) (w : World) (hT : Csts w) (hw : W25 ws) (hr : 0 < rateK kind) (hp : p < rateK kind) :
    Calls Tryd.prog 54 #[.agg (sl kind ws p false).toArray] w fun e w' => e = .returned (.agg (sl kind (endK (rateK kind) (markK kind) (ws, p)) 0 true).toArray) ∧ Below w.heap.size w w' := by
  have hz := zero28
  have hrl := rateK_le kind
  have hS : Sg ((w.alloc (.cells (sl kind ws p false).toArray 70)).alloc (.cells (sl 0 (zs 25) 0 false).toArray 70)) w.heap.size kind ws p false := (Sg.new w 70 kind ws p false hw.1).below (keep_alloc _ _)
  have hR : ((w.alloc (.cells (sl kind ws p false).toArray 70)).alloc (.cells (sl 0 (zs 25) 0 false).toArray 70)).heap[w.heap.size + 1]? = some (.cells (sl 0 (zs 25) 0 false).toArray 70 (0, 0)) := by
    have := heap_alloc_last (w.alloc (.cells (sl kind ws p false).toArray 70)) (.cells (sl 0 (zs 25) 0 false).toArray 70)
    rw [World.size_alloc] at this
    exact this
  have hb := keep_trans (keep_alloc w (.cells (sl kind ws p false).toArray 70)) (keep_alloc _ (.cells (sl 0 (zs 25) 0 false).toArray 70))
  have hend : endK (rateK kind) (markK kind) (ws, p) = perm (xorL (xorL ws p [markK kind]) (rateK kind - 1) [128]) := rfl
  have HEND := hide hend
  clear hend
  have hw1 := xorL_w [markK kind] p hw
  have hw2 := xorL_w [128] (rateK kind - 1) hw1
  have hml := (perm_w hw2).1
  go_enter Tryd.func54, Tryd.ntmps54
  go_wp2
  generalize (w.alloc (.cells (sl kind ws p false).toArray 70)).alloc (.cells (sl 0 (zs 25) 0 false).toArray 70) = x1 at *
  refine en_1 (w := w) (kind := kind) (ws := ws) (p := p) hw (by omega) ?_ ⟨⟨rfl, rfl⟩, rfl, rfl, hS, hR, hb⟩
  rename_i Q' K hK
  intro a1 x2 g E1 t3 hg hL
  refine hK a1 x2 (wp_seq (en_2 hw1 hr ?_ ⟨E1, t3, hg, hL⟩))
  intro a2 x3 E2
  refine wp_seq (en_3 hT hw2 ?_ E2)
  intro a3 x4 F3 t2 hR4 hb4
  refine wp_ret ?_
  refine bodyPost_ret (v := .agg (sl kind (perm (xorL (xorL ws p [markK kind]) (rateK kind - 1) [128])) 0 true).toArray) ?_ F3.2 ⟨by rw [HEND.out], hb4⟩
  exact results_cell_row Tryd.results54 _ _ (w.heap.size + 1) _ _ _ _ t2 hR4 Tryd.underlying70 rfl (by rw [List.size_toArray, sl_len hml]; kernel_rfl)
end Go.Proofs.YtpmobjfhhkglbaaDoor

/- Contract of keccak.Squeeze. -/
namespace Go.Proofs.YtpmobjfhhkglbaaDoor
open Go.RowKit
set_option linter.unusedVariables false
set_option linter.unusedSimpArgs false

theorem fitK_of {kind : Int} {p : Nat} {o : Bool} (hr : 0 < rateK kind) (hp : p ≤ rateK kind) (ho : o = false → p < rateK kind) : fitK kind p o = true := by
  unfold fitK
  cases o with
  | false =>
    have := ho rfl
    simp only [Bool.and_eq_true, Bool.or_eq_true, decide_eq_true_iff]
    exact ⟨hr, by omega, .inl (by omega)⟩
  | true =>
    simp only [Bool.and_eq_true, Bool.or_eq_true, decide_eq_true_iff, Bool.true_and]
    exact ⟨hr, by omega, by omega⟩
theorem taken_all (kind : Int) (ws : List Nat) (p n : Nat) (w : World) (hT : Csts w) (hw : W25 ws) (hr : 0 < rateK kind) (hp : p ≤ rateK kind) (hn : n ≤ 16777216) :
    Calls Tryd.prog 55 #[.agg (sl kind ws p true).toArray, .int .i64 n] w fun e w' => ∃ v, e = .returned (.tuple #[.agg (sl kind (sqzS (rateK kind) (ws, p) n).1 ((sqzS (rateK kind) (ws, p) n).2 : Nat) true).toArray, v]) ∧ Own 5 .u8 256 w' w.heap.size v (sqzB (rateK kind) (ws, p) n) ∧ Below w.heap.size w w' := by
  by_cases h0 : 0 < n
  · exact taken_any kind ws p n w hT hw hr hp hn h0
  · obtain rfl : n = 0 := by omega
    refine (taken_none kind ws p w hw.1).mono ?_
    rintro e w' ⟨rfl, hb⟩
    exact ⟨_, rfl, own_nil _ _ _ _ _, hb⟩
set_option maxHeartbeats 4000000 in
set_option maxRecDepth 100000 in
theorem csqz_any (kind : Int) (ws : List Nat) (p : Nat) (o : Bool) (n : Nat) (w : World) (hT : Csts w) (hw : W25 ws) (hr : 0 < rateK kind) (hp : p ≤ rateK kind) (ho : o = false → p < rateK kind) (hn : n ≤ 16777216) :
    Calls Tryd.prog 41 #[.agg (sl kind ws p o).toArray, .int .i64 n] w fun e w' => ∃ v, e = .returned (.tuple #[.agg (sl kind (sqzS (rateK kind) (begK kind ws p o) n).1 ((sqzS (rateK kind) (begK kind ws p o) n).2 : Nat) true).toArray, v]) ∧ Own 5 .u8 256 w' w.heap.size v (sqzB (rateK kind) (begK kind ws p o) n) ∧ Below w.heap.size w w' := by
  have hz := zero28
  have hl := hw.1
  have hS : Sg ((w.alloc (.cells (sl kind ws p o).toArray 70)).alloc (.cells (sl 0 (zs 25) 0 false).toArray 70)) w.heap.size kind ws p o := (Sg.new w 70 kind ws p o hl).below (keep_alloc _ _)
  have hA : ((w.alloc (.cells (sl kind ws p o).toArray 70)).alloc (.cells (sl 0 (zs 25) 0 false).toArray 70)).heap[w.heap.size]? = some (.cells (sl kind ws p o).toArray 70 (0, 0)) := ((keep_alloc _ _).block _ (by simp)).trans (heap_alloc_last w _)
  have hR : ((w.alloc (.cells (sl kind ws p o).toArray 70)).alloc (.cells (sl 0 (zs 25) 0 false).toArray 70)).heap[w.heap.size + 1]? = some (.cells (sl 0 (zs 25) 0 false).toArray 70 (0, 0)) := by
    have := heap_alloc_last (w.alloc (.cells (sl kind ws p o).toArray 70)) (.cells (sl 0 (zs 25) 0 false).toArray 70)
    rw [World.size_alloc] at this
    exact this
  have hb := keep_trans (keep_alloc w (.cells (sl kind ws p o).toArray 70)) (keep_alloc _ (.cells (sl 0 (zs 25) 0 false).toArray 70))
  have hll := hS.all
  have hsz : (sl kind ws p o).toArray.size = 28 := by simp [sl_len hl]
  have hsz0 : (sl 0 (zs 25) 0 false).toArray.size = 28 := by simp [sl_len (zs_len 25)]
  have hft := fun w' => cfit_any kind ws p o w' hl
  rw [fitK_of hr hp ho] at hft
  have hW2 : w.heap.size + 1 < ((w.alloc (.cells (sl kind ws p o).toArray 70)).alloc (.cells (sl 0 (zs 25) 0 false).toArray 70)).heap.size := by simp
  have n0 : ¬ (n : Int) < 0 := by omega
  have n1 : ¬ (16777216 : Int) < (n : Int) := by omega
  cases o with
  | true =>
    have hbk : begK kind ws p true = (ws, p) := rfl
    rw [hbk]
    have hsq := fun w' (hT' : Csts w') => taken_all kind ws p n w' hT' hw hr hp hn
    have hzl := (sqzS_w (rate := rateK kind) (s := (ws, p)) hw n).1
    generalize sqzS (rateK kind) (ws, p) n = sN at *
    generalize sqzB (rateK kind) (ws, p) n = O at *
    have hszN : (sl kind sN.1 (sN.2 : Nat) true).toArray.size = 28 := by simp [sl_len hzl]
    go_enter Tryd.func41, Tryd.ntmps41
    go_wp2_with (first
      | (refine wpList_load_mid rfl 70 _ (by rfl) w.heap.size 0 (by rfl) (sl kind ws p true) _ hll Tryd.underlying70 rfl (by rw [sl_len hl]; kernel_rfl) ?_)
      | (go_at_call 51; refine (hft _).mono ?_; rintro e w1 ⟨rfl, hb1⟩; have hS1 := hS.below hb1; have c27 := hS1.out; have hl1 := hS1.all; have hR1 := (hb1.block _ hW2).trans hR; have hbx := keep_trans hb hb1)
      | (refine wpList_load_mid rfl 70 _ (by rfl) w.heap.size 0 (by rfl) (sl kind ws p true) _ hl1 Tryd.underlying70 rfl (by rw [sl_len hl]; kernel_rfl) ?_)
      | (go_at_call 55; refine (hsq _ (hT.below hbx)).mono ?_; rintro e w4 ⟨v4, rfl, hO4, hb4⟩; have hR4 := (hb4.block _ (heap_lt hR1)).trans hR1; have hby := keep_trans hbx hb4)
      | (refine wpList_store_row rfl 70 _ _ (by rfl) (w.heap.size + 1) (sl kind sN.1 (sN.2 : Nat) true).toArray (by rfl) (by rfl) _ _ hR4 (by rw [hszN]; kernel_rfl) (by rw [hszN, hsz0]) (all_oneCell_toArray (sl_one _ _ _ _)) ?_)
      | fail)
    have hfu := setRow_heap w4 (w.heap.size + 1) _ (sl kind sN.1 (sN.2 : Nat) true).toArray 70 _ hR4
    have hB : But (w.heap.size + 1) w4 (w4.setRow (w.heap.size + 1) (sl kind sN.1 (sN.2 : Nat) true).toArray) := But.setRow (But.refl (w.heap.size + 1) _) _
    have hlv := run_loadVar_row (P := Tryd.prog) _ (w.heap.size + 1) _ 70 _ _ _ hfu Tryd.underlying70 rfl (by rw [hszN]; kernel_rfl)
    have hbf := hby.trans (hB.below (by omega) hby.size)
    have hlt1 := heap_lt hR1
    refine bodyPost_ret (v := .tuple #[.agg (sl kind sN.1 (sN.2 : Nat) true).toArray, v4]) ?_ rfl ⟨_, rfl, Own.mono ⟨own_but hO4.1 hB (by omega), hO4.2⟩ (by have := hbx.size; omega), hbf⟩
    simp [results, Tryd.results41, asAddr, hlv]
  | false =>
    have hp2 := ho rfl
    have hbk : begK kind ws p false = (endK (rateK kind) (markK kind) (ws, p), 0) := rfl
    have hew : W25 (endK (rateK kind) (markK kind) (ws, p)) := endK_w (s := (ws, p)) hw
    have hend := fun w' (hT' : Csts w') => ended_any kind ws p w' hT' hw hr hp2
    rw [hbk]
    clear hbk
    generalize endK (rateK kind) (markK kind) (ws, p) = E at *
    have hsq := fun w' (hT' : Csts w') => taken_all kind E 0 n w' hT' hew hr (Nat.zero_le _) hn
    have hzl := (sqzS_w (rate := rateK kind) (s := (E, 0)) hew n).1
    generalize sqzS (rateK kind) (E, 0) n = sN at *
    generalize sqzB (rateK kind) (E, 0) n = O at *
    have hszN : (sl kind sN.1 (sN.2 : Nat) true).toArray.size = 28 := by simp [sl_len hzl]
    have hszE : (sl kind E 0 true).toArray.size = 28 := by simp [sl_len hew.1]
    go_enter Tryd.func41, Tryd.ntmps41
    go_wp2_with (first
      | (refine wpList_load_mid rfl 70 _ (by rfl) w.heap.size 0 (by rfl) (sl kind ws p false) _ hll Tryd.underlying70 rfl (by rw [sl_len hl]; kernel_rfl) ?_)
      | (go_at_call 51; refine (hft _).mono ?_; rintro e w1 ⟨rfl, hb1⟩; have hS1 := hS.below hb1; have c27 := hS1.out; have hl1 := hS1.all; have hA1 := (hb1.block _ (heap_lt hA)).trans hA; have hR1 := (hb1.block _ hW2).trans hR; have hbx := keep_trans hb hb1)
      | (refine wpList_load_mid rfl 70 _ (by rfl) w.heap.size 0 (by rfl) (sl kind ws p false) _ hl1 Tryd.underlying70 rfl (by rw [sl_len hl]; kernel_rfl) ?_)
      | (go_at_call 54; refine (hend _ (hT.below hbx)).mono ?_; rintro e w2 ⟨rfl, hb2⟩; have hA2 := (hb2.block _ (heap_lt hA1)).trans hA1; have hR2 := (hb2.block _ (heap_lt hR1)).trans hR1)
      | (refine wpList_store_row rfl 70 _ _ (by rfl) w.heap.size (sl kind E 0 true).toArray (by rfl) (by rfl) _ _ hA2 (by rw [hszE]; kernel_rfl) (by rw [hszE, hsz]) (all_oneCell_toArray (sl_one _ _ _ _)) ?_; have hA3 := setRow_heap w2 w.heap.size _ (sl kind E 0 true).toArray 70 _ hA2; have hB3 : But w.heap.size w2 (w2.setRow w.heap.size (sl kind E 0 true).toArray) := But.setRow (But.refl _ _) _; have hR3 := (hB3.block _ (heap_lt hR2) (by omega)).trans hR2; have hb3 := (keep_trans hbx hb2).trans (hB3.below (Nat.le_refl _) (keep_trans hbx hb2).size))
      | (refine wpList_load_row rfl 70 _ (by rfl) w.heap.size (by rfl) _ _ _ _ hA3 Tryd.underlying70 rfl (by rw [hszE]; kernel_rfl) ?_)
      | (go_at_call 55; refine (hsq _ (hT.below hb3)).mono ?_; rintro e w4 ⟨v4, rfl, hO4, hb4⟩; have hR4 := (hb4.block _ (heap_lt hR3)).trans hR3; have hby := keep_trans hb3 hb4)
      | (refine wpList_store_row rfl 70 _ _ (by rfl) (w.heap.size + 1) (sl kind sN.1 (sN.2 : Nat) true).toArray (by rfl) (by rfl) _ _ hR4 (by rw [hszN]; kernel_rfl) (by rw [hszN, hsz0]) (all_oneCell_toArray (sl_one _ _ _ _)) ?_)
      | fail)
    have hfu := setRow_heap w4 (w.heap.size + 1) _ (sl kind sN.1 (sN.2 : Nat) true).toArray 70 _ hR4
    have hB : But (w.heap.size + 1) w4 (w4.setRow (w.heap.size + 1) (sl kind sN.1 (sN.2 : Nat) true).toArray) := But.setRow (But.refl (w.heap.size + 1) _) _
    have hlv := run_loadVar_row (P := Tryd.prog) _ (w.heap.size + 1) _ 70 _ _ _ hfu Tryd.underlying70 rfl (by rw [hszN]; kernel_rfl)
    have hbf := hby.trans (hB.below (by omega) hby.size)
    have hlt3 := heap_lt hR3
    refine bodyPost_ret (v := .tuple #[.agg (sl kind sN.1 (sN.2 : Nat) true).toArray, v4]) ?_ rfl ⟨_, rfl, Own.mono ⟨own_but hO4.1 hB (by omega), hO4.2⟩ (by have := hb3.size; omega), hbf⟩
    simp [results, Tryd.results41, asAddr, hlv]
end Go.Proofs.YtpmobjfhhkglbaaDoor

/- mac's absorbed: a sum of keccak with texts more. -/
namespace Go.Proofs.YtpmobjfhhkglbaaDoor
open Go.RowKit
set_option linter.unusedVariables false
set_option linter.unusedSimpArgs false

/-- what stands behind the bytes P -/
def stK (kind : Int) (P : List Nat) : List Nat × Nat := absK (rateK kind) (zs 25, 0) P
theorem stK_app (kind : Int) (hr : 0 < rateK kind) (P b : List Nat) : absK (rateK kind) (stK kind P) b = stK kind (P ++ b) := by
  unfold stK
  exact (absK_parts _ _ _ _).symm
theorem stK_w (kind : Int) (P : List Nat) : W25 (stK kind P).1 := absK_w P _ zs_w
theorem stK_at {kind : Int} (hr : 0 < rateK kind) (P : List Nat) : (stK kind P).2 < rateK kind := absK_at P _ hr
/-- a sponge behind the bytes P, as cells -/
def spK (kind : Int) (P : List Nat) : Array Value := (sl kind (stK kind P).1 ((stK kind P).2 : Nat) false).toArray
theorem spK_size (kind : Int) (P : List Nat) : (spK kind P).size = 28 := by unfold spK; simp [sl_len (stK_w kind P).1]
theorem spK_one (kind : Int) (P : List Nat) : (spK kind P).all (·.oneCell') = true := all_oneCell_toArray (sl_one _ _ _ _)
theorem spK_abs (kind : Int) (P b : List Nat) (bv : Value) (w : World) (hT : Csts w) (hr : 0 < rateK kind) (hRb : Row .u8 256 w bv b) (hbl : b.length ≤ 1000000) :
    Calls Tryd.prog 39 #[.agg (spK kind P), bv] w fun e w' => e = .returned (.agg (spK kind (P ++ b))) ∧ Below w.heap.size w w' := by
  have h := cabs_any kind (stK kind P).1 (stK kind P).2 bv b w hT (stK_w kind P) (stK_at hr P) hRb hbl
  have e : absK (rateK kind) ((stK kind P).1, (stK kind P).2) b = stK kind (P ++ b) := stK_app kind hr P b
  rw [e] at h
  exact h
/-- it lies in block q -/
def KAt (w : World) (q : Nat) (kind : Int) (P : List Nat) : Prop := w.heap[q]? = some (.cells (spK kind P) 70 (0, 0))
theorem KAt.lt {w : World} {q : Nat} {kind : Int} {P : List Nat} (h : KAt w q kind P) : q < w.heap.size := by
  unfold KAt at h
  rcases Nat.lt_or_ge q w.heap.size with hlt | hge
  · exact hlt
  · rw [Array.getElem?_eq_none hge] at h; cases h
theorem KAt.below {w w' : World} {q : Nat} {kind : Int} {P : List Nat} (h : KAt w q kind P) (hb : Below w.heap.size w w') : KAt w' q kind P := (hb.block q h.lt).trans h
end Go.Proofs.YtpmobjfhhkglbaaDoor
