import Derived.Test.YtpmobjfhhkglbaaGreatDoorWyU
import Derived.Test.YtpmobjfhhkglbaaGreatDoorWtF
import Derived.Test.YtpmobjfhhkglbaaGreatDoorPApp
import Derived.Test.YtpmobjfhhkglbaaGreatDoorWtP
import Derived.Deep.AppendLies
set_option maxHeartbeats 8000000
set_option maxRecDepth 100000
namespace Go.Proofs.YtpmobjfhhkglbaaGreatDoor
open Go.ChangeShapes Go.WideShapes Go.ChangeAt Go.RowKit Go.Deep
set_option linter.unusedVariables false
set_option linter.unusedSimpArgs false
theorem Tryz.cellsSlW : Tryz.prog.cellsOf 23 = 6 := by kernel_rfl
theorem Tryz.cellsAdW : Tryz.prog.cellsOf 25 = 32 := by kernel_rfl
theorem Tryz.cellsIntW : Tryz.prog.cellsOf 3 = 1 := by kernel_rfl
theorem Tryz.cellsBoolW : Tryz.prog.cellsOf 4 = 1 := by kernel_rfl
structure SlIs (cs : Array Value) (xn xh xd xa xk : Int) (xs : Bool) : Prop where
  is : cs = #[.int .i64 xn, .int .i64 xh, .int .i64 xd, .int .i64 xa, .int .i64 xk, .bool xs]
  hn : -9223372036854775808 ≤ xn ∧ xn ≤ 9223372036854775807
  hh : -9223372036854775808 ≤ xh ∧ xh ≤ 9223372036854775807
structure AdIs (cs : Array Value) (bk : List Nat) : Prop where
  is : cs = arr .u8 bk
  pl : Pl bk
theorem read_slh {H : Type} {enc : TypeId × Value → H} {W : World} {fuel : Nat} {cs : Array Value} {x : DataW H × List MemPlace}
    (h : DataW.trod enc Tryz.prog W 0 (fun _ => true) true fuel 23 cs.toList = some x) : ∃ xn xh xd xa xk xs, SlIs cs xn xh xd xa xk xs := by
  obtain ⟨l⟩ := cs
  obtain ⟨xs, n, _, _, hcl, hlen, hf⟩ := DataW.trod_struct Tryz.underlying23 h
  rw [Tryz.cellsSlW] at hcl
  match l, hcl with
  | [c0, c1, c2, c3, c4, c5], _ =>
    have hlen' : xs.length = 6 := hlen
    match xs, hlen' with
    | [y0, y1, y2, y3, y4, y5], _ =>
      have g0 := hf 0 _ rfl
      have g1 := hf 1 _ rfl
      have g2 := hf 2 _ rfl
      have g3 := hf 3 _ rfl
      have g4 := hf 4 _ rfl
      have g5 := hf 5 _ rfl
      simp [Tryz.cellsIntW, Tryz.cellsBoolW] at g0 g1 g2 g3 g4 g5
      obtain ⟨t0, e0, _, w0⟩ := DataW.trod_int Tryz.underlying3 g0
      obtain ⟨t1, e1, _, w1⟩ := DataW.trod_int Tryz.underlying3 g1
      obtain ⟨t2, e2, _, _⟩ := DataW.trod_int Tryz.underlying3 g2
      obtain ⟨t3, e3, _, _⟩ := DataW.trod_int Tryz.underlying3 g3
      obtain ⟨t4, e4, _, _⟩ := DataW.trod_int Tryz.underlying3 g4
      obtain ⟨t5, e5, _⟩ := DataW.trod_bool Tryz.underlying4 g5
      simp at e0 e1 e2 e3 e4 e5
      exact ⟨t0, t1, t2, t3, t4, t5, ⟨by rw [e0, e1, e2, e3, e4, e5], wf_i64 t0 w0, wf_i64 t1 w1⟩⟩
theorem read_adrs {H : Type} {enc : TypeId × Value → H} {W : World} {fuel : Nat} {cs : Array Value} {x : DataW H × List MemPlace}
    (h : DataW.trod enc Tryz.prog W 0 (fun _ => true) true fuel 25 cs.toList = some x) : ∃ bk, AdIs cs bk := by
  obtain ⟨l⟩ := cs
  obtain ⟨zs, m, _, _, hcl, hzl, hz⟩ := DataW.trod_array Tryz.underlying25 h
  rw [Tryz.cellsAdW] at hcl
  have hcl : l.length = 32 := hcl
  obtain ⟨ws, h1, h2, h3⟩ := bytes_inQ l (fun i hi => by
    have hi' : i < 32 := by omega
    have := hz i hi'
    rw [Tryz.cellsU8, Nat.mul_one] at this
    have hd : (l.drop i).take 1 = [l[i]] := by
      rw [List.drop_eq_getElem_cons hi]; rfl
    change DataW.trod enc Tryz.prog W 0 (fun _ => true) true m 5 ((l.drop i).take 1) = _ at this
    rw [hd, List.getElem?_eq_getElem (by omega)] at this
    obtain ⟨n, hn, hb⟩ := read_u8 this
    exact ⟨n, by rw [List.getElem?_eq_getElem hi, hn], hb⟩)
  exact ⟨ws, by unfold arr; rw [← h3], by omega, h2⟩
end Go.Proofs.YtpmobjfhhkglbaaGreatDoor

namespace Go.Proofs.YtpmobjfhhkglbaaGreatDoor
open Go.RowKit
set_option linter.unusedVariables false
set_option linter.unusedSimpArgs false
theorem y_addU32W {ops : Array Oper} {S : World → Prop} {o : Oper} {a : Act} {x y : Operand} {t t' : TypeId} {i j q : Int} (hw : Region.wanted o (yielded ops a.tmps) = true) (ho : o.op = .binOp .add t x y t') (hx : a.eval x = .int .u32 i) (hy : a.eval y = .int .u32 j) (hu : Tryz.prog.underlying t = some (.int .u32)) (hb : IntKind.u32.wrap (i + j) = q) : YieldsIf Tryz.prog ops S o (.int .u32 q) a := by
  refine y_ofG hw fun w _ => ?_
  unfold execOp
  simp only [ho, hx, hy]
  simp [go_sem, Sem.run_bind, run_underlying hu, hb]
structure BxV (W : World) (B : Nat) (N H D A K : Int) (sh : Bool) (f : Value) : Prop where
  here : W.heap[B]? = some (.cells (sgC N H D A K sh f).toArray 56 (0, 0))
theorem BxV.below {W W' : World} {B : Nat} {N H D A K : Int} {sh : Bool} {f : Value} (h : BxV W B N H D A K sh f) (hb : Below W.heap.size W W') : BxV W' B N H D A K sh f := ⟨(hb.block B (heap_ltW h.here)).trans h.here⟩
theorem BxV.but {W W' : World} {B g : Nat} {N H D A K : Int} {sh : Bool} {f : Value} (h : BxV W B N H D A K sh f) (hb : But g W W') (hn : B ≠ g) : BxV W' B N H D A K sh f := ⟨(hb.block B (heap_ltW h.here) hn).trans h.here⟩
theorem BxV.new (W : World) (N H D A K : Int) (sh : Bool) (f : Value) : BxV (W.alloc (.cells (sgC N H D A K sh f).toArray 56)) W.heap.size N H D A K sh f := ⟨heap_alloc_last W _⟩
theorem BxV.c0 {W : World} {B : Nat} {N H D A K : Int} {sh : Bool} {f : Value} (h : BxV W B N H D A K sh f) : W.cell? ⟨B, 0, none⟩ = some (.int .i64 N) := by rw [cell_of_row _ _ 0 _ _ _ h.here]; rfl
theorem BxV.c6 {W : World} {B : Nat} {N H D A K : Int} {sh : Bool} {f : Value} (h : BxV W B N H D A K sh f) : W.cell? ⟨B, 6, none⟩ = some f := by rw [cell_of_row _ _ 6 _ _ _ h.here]; rfl
theorem BxV.range {W : World} {B : Nat} {N H D A K : Int} {sh : Bool} {f : Value} (h : BxV W B N H D A K sh f) : W.rangeAt B 0 (sgC N H D A K sh f) := row_rangeW h.here
theorem boxV (w : World) (N H D A K : Int) (sh : Bool) (f : Value) {a : List Nat} : BxV ((w.alloc (.cells (sgC N H D A K sh f).toArray 56)).alloc (.cells (arr .u8 a) 25)) w.heap.size N H D A K sh f ∧ Lies .u8 25 ((w.alloc (.cells (sgC N H D A K sh f).toArray 56)).alloc (.cells (arr .u8 a) 25)) (w.heap.size + 1) a ∧ Below w.heap.size w ((w.alloc (.cells (sgC N H D A K sh f).toArray 56)).alloc (.cells (arr .u8 a) 25)) := by
  have L0 := Lies.new .u8 25 (w.alloc (.cells (sgC N H D A K sh f).toArray 56)) a
  rw [World.size_alloc] at L0
  exact ⟨(BxV.new w N H D A K sh f).below (keep_alloc _ _), L0, keep_trans (keep_alloc _ _) (keep_alloc _ _)⟩
section
variable {N : Nat} {H D A K : Int} {fn : FuncId} {cap : Array Value} {Inv : World → Prop} {F : List Nat → List Nat → List Nat}
theorem wcnt_any (sh : Bool) (f : Value) (w : World) (hN : N ≤ 1000) :
    Calls Tryz.prog 41 #[.agg (sgC (N : Int) H D A K sh f).toArray] w fun e w' => e = .returned (.int .i64 ((2 * N + 3 : Nat) : Int)) ∧ Below w.heap.size w w' := by
  have hct := fun y => wdct_any N y hN
  have k0 := keep_alloc w (.cells (sgC (N : Int) H D A K sh f).toArray 56)
  have c0 := (BxV.new w (N : Int) H D A K sh f).c0
  go_enter Tryz.func41, Tryz.ntmps41
  go_wp2_with (first
    | (go_at_call 33; refine (hct _).mono ?_; rintro e w1 ⟨rfl, hx⟩; obtain rfl := hx.symm)
    | fail)
  go_ret
  exact ⟨rfl, k0⟩
def bn1lt : List Lt := [(0, some 9, [4]), (1, some 10, [9]), (0, some 11, [5]), (4, some 12, [11]), (0, some 13, [2]), (16, some 14, [13]), (40, some 15, [12, 14]), (0, some 16, [3]), (194, some 17, [10, 15, 16]), (511, some 8, [17])]
theorem bn1reg : Reg (opsA (cLA (cRA (Tryz.f43.body.getD .skip)))) bn1lt := ⟨by kernel_rfl, by kernel_rfl⟩
theorem wbgn_any (sh : Bool) (a secret : List Nat) (i : Nat) (sv : Value) (w : World) (hD : Tl F fn cap Inv) (hI : Inv w) (ha : Pl a) (hs : Row .u8 256 w sv secret) (ts : Tidy sv) (hsl : secret.length ≤ 50000) (hi : i < 65536) :
    Calls Tryz.prog 43 #[.agg (sgC (N : Int) H D A K sh (.func (.func fn) #[] cap)).toArray, .agg (arr .u8 a), .int .i64 (i : Int), sv] w fun e w' => ∃ v, e = .returned v ∧ Row .u8 256 w' v (wbg F a secret i) ∧ New w.heap.size v ∧ Below w.heap.size w w' := by
  obtain ⟨sx, La, k0⟩ := boxV w (N : Int) H D A K sh (.func (.func fn) #[] cap) (a := a)
  obtain ⟨sa, sc, rfl, _⟩ := hs.opens rfl
  have h2 := (ha.put 2 5).put 3 (pairA a)
  have h3 := h2.put 4 i
  have hot := fun x => woft_any a 5 x ha (by decide)
  have hp3 := fun x => wput_any (putA (putA a 2 5) 3 (pairA a)) 4 i x h2 (by omega)
  unfold wbg
  try dsimp only
  have hcl := fun (x : World) (k : Below w.heap.size w x) => hD.calls x (putA (putA (putA a 2 5) 3 (pairA a)) 4 i) secret _ (hD.keep _ _ hI k) h3 (hs.below k) ts hsl
  generalize putA (putA (putA a 2 5) 3 (pairA a)) 4 i = P3 at *
  generalize putA (putA a 2 5) 3 (pairA a) = P2 at *
  generalize F P3 secret = OUT at *
  have hen := hD.enters
  obtain ⟨W0, hW0⟩ : ∃ W0 : World, W0 = (w.alloc (.cells (sgC (N : Int) H D A K sh (.func (.func fn) #[] cap)).toArray 56)).alloc (.cells (arr .u8 a) 25) := ⟨_, rfl⟩
  rw [← hW0] at sx La k0
  have hbd : Below W0.heap.size W0 W0.drew := (Below.refl _ _).drew
  clear hs hD
  go_enter Tryz.func43, Tryz.ntmps43
  go_wp2
  rw [← hW0]
  clear hW0
  refine at_begin (ops := opsA (cLA (cRA (Tryz.f43.body.getD .skip)))) (n := 10) (fun y => Below W0.heap.size W0 y) (by kernel_rfl) (by kernel_rfl) ?_
  refine tkP 0 1 9 (.pointer (some ⟨w.heap.size, 6, none⟩)) bn1reg rfl (by decide) rfl rfl (y_fieldG (wF rfl) rfl rfl (fun w => by simp [go_sem])) hbd ?_
  simp only [Act.put, plI, plZ, plS]
  refine tkP 1 3 10 (.func (.func fn) #[] cap) bn1reg rfl (by decide) rfl rfl (y_plainG (wF rfl) rfl rfl Tryz.underlying54 rfl (fun _ h => (sx.below h).c6)) hbd ?_
  simp only [Act.put, plI, plZ, plS]
  refine tkP 2 7 11 (.agg (arr .u8 a)) bn1reg rfl (by decide) rfl rfl (y_rowG (cs := vals .u8 a) (wF rfl) rfl rfl Tryz.underlying25 rfl (by rw [vals_length, ha.1]; kernel_rfl) (fun _ h => lies_rangeW (La.below h))) hbd ?_
  simp only [Act.put, plI, plZ, plS]
  refine tkP 4 23 13 (.int .i64 (i : Int)) bn1reg rfl (by decide) rfl rfl (y_moveG (wF rfl) rfl rfl) hbd ?_
  simp only [Act.put, plI, plZ, plS]
  refine tkP 5 55 14 (.int .u64 (i : Int)) bn1reg rfl (by decide) rfl rfl (y_convI (wF rfl) rfl rfl (conv_i64u64W i (by omega))) hbd ?_
  simp only [Act.put, plI, plZ, plS]
  refine tkP 7 183 16 (.slice sa secret.length sc) bn1reg rfl (by decide) rfl rfl (y_moveG (wF rfl) rfl rfl) hbd ?_
  simp only [Act.put, plI, plZ, plS]
  refine at_one (i := 3) (m' := 191) bn1reg (by decide) rfl ?_
  refine p_callG (args := #[.agg (arr .u8 a), .int .u64 5]) (d := some 12) rfl (wF rfl) rfl (by simp only [List.map_toArray, List.map_cons, List.map_nil]; rfl) rfl Tryz.call63 ((hot W0.drew).mono ?_)
  rintro e y7 ⟨rfl, g7⟩
  have hb7 := keep_trans hbd g7
  refine ⟨_, rfl, hb7, ?_⟩
  simp only [Act.put, plI, plZ, plS]
  refine at_one (i := 6) (m' := 255) bn1reg (by decide) rfl ?_
  refine p_callG (args := #[.agg (arr .u8 P2), .int .i64 4, .int .u64 (i : Int)]) (d := some 15) rfl (wF rfl) rfl (by simp only [List.map_toArray, List.map_cons, List.map_nil]; rfl) rfl Tryz.call9 ((hp3 y7).mono ?_)
  rintro e y8 ⟨rfl, g8⟩
  have hb8 := keep_trans hb7 g8
  refine ⟨_, rfl, hb8, ?_⟩
  simp only [Act.put, plI, plZ, plS]
  refine at_one (i := 8) (m' := 511) bn1reg (by decide) rfl ?_
  refine p_callF (d := some 17) rfl rfl (wF rfl) rfl rfl rfl rfl hen ((hcl y8 (keep_trans k0 hb8)).mono ?_)
  rintro e y9 ⟨xv, rfl, rx, nx, g9⟩
  have kbs := (hb8).size
  have hb9 := keep_trans hb8 g9
  refine ⟨_, rfl, ?_⟩
  refine ⟨hb9, ?_⟩
  simp only [Act.put, plI, plZ, plS]
  refine tkP 9 1023 8 (xv) bn1reg rfl (by decide) rfl rfl (y_assignG (wF rfl) rfl rfl) hb9 ?_
  simp only [Act.put, plI, plZ, plS]
  refine at_done bn1reg (by decide) ?_
  go_wp2
  go_ret
  exact ⟨_, rfl, rx, nx.mono (Nat.le_trans k0.size kbs), keep_trans k0 hb9⟩
def WaL (w W1 : World) (F : List Nat → List Nat → List Nat) (a : List Nat) (f n : Nat) (y : List Nat) (yv vy vj : Value) (wr : World) : Prop := ∃ k : Nat, k ≤ n ∧ vj = .int .u32 (k : Int) ∧ Row .u8 256 wr vy (wch F a f k y) ∧ Tidy vy ∧ (New w.heap.size vy ∨ vy = yv) ∧ Below W1.heap.size W1 wr
def al5lt : List Lt := [(0, some 24, [6]), (1, some 25, [24]), (0, some 26, [7]), (0, some 27, [4]), (0, some 28, [13]), (24, some 29, [27, 28]), (32, some 30, [29]), (68, some 31, [26, 30]), (0, some 32, [3]), (386, some 33, [25, 31, 32]), (1023, some 3, [33])]
theorem al5reg : Reg (opsA (cRA (cBA (cLA (cRA (cRA (cLpA (cBA (cRA (cLA (cRA (cRA (Tryz.f42.body.getD .skip))))))))))))) al5lt := ⟨by kernel_rfl, by kernel_rfl⟩
theorem walg_any (sh : Bool) (a y : List Nat) (c f n : Nat) (yv : Value) (w : World) (hD : Tl F fn cap Inv) (hI : Inv w) (ha : Pl a) (hF : ∀ p x, (F p x).length = N) (hN : 0 < N ∧ N ≤ 1000) (hy : Row .u8 256 w yv y) (ty : Tidy yv) (hyl : y.length = N) (hc : c < 65536) (hfn : f + n ≤ 16) :
    Calls Tryz.prog 42 #[.agg (sgC (N : Int) H D A K sh (.func (.func fn) #[] cap)).toArray, .agg (arr .u8 a), .int .i64 (c : Int), yv, .int .u32 (f : Int), .int .u32 ((f + n : Nat) : Int)] w fun e w' => ∃ v, e = .returned v ∧ Row .u8 256 w' v (wch F (putA a 4 c) f n y) ∧ Tidy v ∧ (New w.heap.size v ∨ v = yv) ∧ Below w.heap.size w w' := by
  obtain ⟨sx0, La0, k0⟩ := boxV w (N : Int) H D A K sh (.func (.func fn) #[] cap) (a := a)
  have hp1 := fun x => wput_any a 4 c x ha (by omega)
  have hP4 := ha.put 4 c
  have hz4 := hP4.1
  have u_c : IntKind.u64.wrap (c : Int) = (c : Int) := by rw [IntKind.wrap_u64]; omega
  generalize putA a 4 c = PC at *
  have hal := ha.1
  have hwl : ∀ k, (wch F PC f k y).length = N := wch_len hF f y hyl
  have hP := fun (b : Nat) (hb : b < 18446744073709551616) x => wput_any PC 5 b x hP4 hb
  have hen := hD.enters
  have hS : ∀ (b : Nat) (z : List Nat) x zv, z.length = N → Below w.heap.size w x → Row .u8 256 x zv z → Tidy zv → Calls Tryz.prog fn (#[.agg (arr .u8 (putA PC 5 b)), zv] ++ cap) x fun e w' => ∃ v, e = .returned v ∧ Row .u8 256 w' v (F (putA PC 5 b) z) ∧ New x.heap.size v ∧ Below x.heap.size x w' := fun b z x zv hz k rz tz => hD.calls x (putA PC 5 b) z zv (hD.keep _ _ hI k) (hP4.put 5 b) rz tz (by omega)
  obtain ⟨M, hM⟩ : ∃ M : Nat, f + n = M := ⟨_, rfl⟩
  rw [hM]
  have e_n : (M : Int) - (f : Int) = (n : Int) := by omega
  have s_n : IntKind.u32.wrap (n : Int) = (n : Int) := by rw [IntKind.wrap_u32]; omega
  obtain ⟨ya0, yc0, rfl, _⟩ := hy.opens hyl
  have HY := hide (And.intro hy (And.intro ty (And.intro hyl (And.intro hfn (And.intro hM hwl)))))
  have hSH := hide hS
  have hPH := hide hP
  have k1s := k0.size
  have HB := hide hP4
  clear hI hD hS hP hy ty hyl hF hfn hM hwl ha hP4
  go_enter Tryz.func42, Tryz.ntmps42
  go_wp2_with (first
    | (refine wpList_load_row rfl 25 _ (by rfl) (w.heap.size + 1) (by rfl) _ _ _ (.array 32 5) La0 (by kernel_rfl) rfl (by rw [arr_size, hal]; kernel_rfl) ?_)
    | (go_at_call 9; refine (hp1 _).mono ?_; rintro e x1 ⟨rfl, g1⟩; have La1 := La0.below g1)
    | (refine wpList_store_row rfl 25 _ _ (by rfl) (w.heap.size + 1) (arr .u8 PC) (by rfl) (by rfl) _ _ La1 (by rw [arr_size, hz4]; kernel_rfl) (by rw [arr_size, arr_size, hz4, hal]) (arr_one _ _) ?_)
    | fail)
  have hB1 : But (w.heap.size + 1) x1 (x1.setRow (w.heap.size + 1) (arr .u8 PC)) := (But.refl _ _).setRow _
  have hxs := g1.size
  have La2 : Lies .u8 25 (x1.setRow (w.heap.size + 1) (arr .u8 PC)) (w.heap.size + 1) PC := La1.row
  have sx2 := (sx0.below g1).but hB1 (by omega)
  have kx := keep_trans k0 g1
  have k2 : Below w.heap.size w (x1.setRow (w.heap.size + 1) (arr .u8 PC)) := kx.trans (hB1.below (by omega) kx.size)
  obtain ⟨W1, hW1⟩ : ∃ W1 : World, W1 = x1.setRow (w.heap.size + 1) (arr .u8 PC) := ⟨_, rfl⟩
  rw [← hW1] at La2 sx2 k2 ⊢
  have H0 := hide (show WaL w W1 F PC f n y (.slice ya0 N yc0) (.slice ya0 N yc0) (.int .u32 0) W1 from ⟨0, Nat.zero_le _, rfl, HY.out.1.below k2, HY.out.2.1, .inr rfl, Below.refl _ _⟩)
  have HK2 := hide (And.intro k2 (And.intro La2 sx2))
  clear hW1 hB1 La1 sx0 La0 kx g1 hxs La2 sx2 k2 hp1 k0
  go_loopw [3, 21] (fun vy vj wr => WaL w W1 F PC f n y (.slice ya0 N yc0) vy vj wr) (fun _ vj _ => n - (intOf vj).toNat)
  case atStart => exact H0.out
  case round =>
    obtain ⟨k, hk, rfl, rY, tY, nY, hbr⟩ := hrel
    obtain ⟨_, _, _, hfn, hM, hwl⟩ := HY.out
    obtain ⟨k2, La2, sx2⟩ := HK2.out
    clear H0
    rename World => wr
    obtain ⟨ya, yc, rfl, _⟩ := rY.opens (hwl k)
    by_cases hlt : k < n
    · have hkT : (k : Int) < (n : Int) := by omega
      obtain ⟨b, hb⟩ : ∃ b : Nat, b = f + k := ⟨_, rfl⟩
      have e_b : (f : Int) + (k : Int) = (b : Int) := by omega
      have s_b : IntKind.u32.wrap (b : Int) = (b : Int) := by rw [IntKind.wrap_u32]; omega
      have hput := hPH.out b (by omega)
      have hst : F (putA PC 5 b) (wch F PC f k y) = wch F PC f (k + 1) y := by rw [hb]; rfl
      have hsum := fun x zv => hSH.out b (wch F PC f k y) x zv (hwl k)
      rw [hst] at hsum
      have hpl := (HB.out.put 5 b).1
      generalize putA PC 5 b = PA at *
      obtain ⟨Q, hQ⟩ : ∃ x : Nat, x = k + 1 := ⟨_, rfl⟩
      have e_Q : (k : Int) + 1 = (Q : Int) := by omega
      have s_Q : IntKind.u32.wrap (Q : Int) = (Q : Int) := by rw [IntKind.wrap_u32]; omega
      have hbd : Below wr.heap.size wr wr.drew := (Below.refl _ _).drew
      have kwr := keep_trans k2 hbr
      have sx := sx2.below hbr
      have La := La2.below hbr
      have hb64 : b < 4294967296 := by omega
      have HK := hide (And.intro hQ (And.intro hlt (And.intro hbr (And.intro nY hst))))
      clear hQ hlt hbr hst hwl hM hfn La2 sx2 hk nY k2
      go_wp2
      refine at_begin (ops := opsA (cRA (cBA (cLA (cRA (cRA (cLpA (cBA (cRA (cLA (cRA (cRA (Tryz.f42.body.getD .skip))))))))))))) (n := 11) (fun y => Below wr.heap.size wr y) (by kernel_rfl) (by kernel_rfl) ?_
      refine tkP 0 1 24 (.pointer (some ⟨w.heap.size, 6, none⟩)) al5reg rfl (by decide) rfl rfl (y_fieldG (wF rfl) rfl rfl (fun w => by simp [go_sem])) hbd ?_
      simp only [Act.put, plI, plZ, plS]
      refine tkP 1 3 25 (.func (.func fn) #[] cap) al5reg rfl (by decide) rfl rfl (y_plainG (wF rfl) rfl rfl Tryz.underlying54 rfl (fun _ h => (sx.below h).c6)) hbd ?_
      simp only [Act.put, plI, plZ, plS]
      refine tkP 2 7 26 (.agg (arr .u8 PC)) al5reg rfl (by decide) rfl rfl (y_rowG (cs := vals .u8 PC) (wF rfl) rfl rfl Tryz.underlying25 rfl (by rw [vals_length, hz4]; kernel_rfl) (fun _ h => lies_rangeW (La.below h))) hbd ?_
      simp only [Act.put, plI, plZ, plS]
      refine tkP 3 15 27 (.int .u32 (f : Int)) al5reg rfl (by decide) rfl rfl (y_moveG (wF rfl) rfl rfl) hbd ?_
      simp only [Act.put, plI, plZ, plS]
      refine tkP 4 31 28 (.int .u32 (k : Int)) al5reg rfl (by decide) rfl rfl (y_moveG (wF rfl) rfl rfl) hbd ?_
      simp only [Act.put, plI, plZ, plS]
      refine tkP 5 63 29 (.int .u32 (b : Int)) al5reg rfl (by decide) rfl rfl (y_addU32W (wF rfl) rfl rfl rfl Tryz.underlying42 (e_b.symm ▸ s_b)) hbd ?_
      simp only [Act.put, plI, plZ, plS]
      refine tkP 6 127 30 (.int .u64 (b : Int)) al5reg rfl (by decide) rfl rfl (y_convI (wF rfl) rfl rfl (conv_u32u64W b hb64)) hbd ?_
      simp only [Act.put, plI, plZ, plS]
      refine tkP 8 383 32 (.slice ya N yc) al5reg rfl (by decide) rfl rfl (y_moveG (wF rfl) rfl rfl) hbd ?_
      simp only [Act.put, plI, plZ, plS]
      refine at_one (i := 7) (m' := 511) al5reg (by decide) rfl ?_
      refine p_callG (args := #[.agg (arr .u8 PC), .int .i64 5, .int .u64 (b : Int)]) (d := some 31) rfl (wF rfl) rfl (by simp only [List.map_toArray, List.map_cons, List.map_nil]; rfl) rfl Tryz.call9 ((hput wr.drew).mono ?_)
      rintro e y9 ⟨rfl, g9⟩
      have hb9 := keep_trans hbd g9
      refine ⟨_, rfl, hb9, ?_⟩
      simp only [Act.put, plI, plZ, plS]
      refine at_one (i := 9) (m' := 1023) al5reg (by decide) rfl ?_
      refine p_callF (d := some 33) rfl rfl (wF rfl) rfl rfl rfl rfl hen ((hsum y9 _ (keep_trans kwr hb9) (rY.below hb9) tY).mono ?_)
      rintro e y10 ⟨xv, rfl, rx, nx, g10⟩
      have kbs := (hb9).size
      have hb10 := keep_trans hb9 g10
      refine ⟨_, rfl, ?_⟩
      refine ⟨hb10, ?_⟩
      simp only [Act.put, plI, plZ, plS]
      refine tkP 10 2047 3 (xv) al5reg rfl (by decide) rfl rfl (y_assignG (wF rfl) rfl rfl) hb10 ?_
      simp only [Act.put, plI, plZ, plS]
      refine at_done al5reg (by decide) ?_
      go_wp2
      obtain ⟨hQ, hlt, hbr, nY, hst⟩ := HK.out
      obtain ⟨_, _, _, hfn, hM, hwl⟩ := HY.out
      exact ⟨⟨Q, by omega, rfl, by rw [hQ]; exact rx, new_ntidy rx (by rw [hwl (k + 1)]; omega), .inl (nx.mono (Nat.le_trans kwr.size kbs)), keep_trans hbr hb10⟩, by simp [intOf]; omega⟩
    · obtain rfl : k = n := by omega
      have hge : ¬ ((k : Int) < (k : Int)) := by omega
      have HK := hide (And.intro rY (And.intro (keep_trans k2 hbr) nY))
      clear rY nY hbr hwl k2 hfn hM La2 sx2
      go_wp2
      go_ret
      exact ⟨_, rfl, HK.out.1, tY, HK.out.2.2, HK.out.2.1⟩
def ke1lt : List Lt := [(0, some 7, [3]), (1, some 8, [7]), (0, some 9, [4]), (4, some 10, [9]), (0, some 11, [2]), (24, some 12, [11]), (42, some 13, [8, 10, 12]), (127, some 6, [13])]
theorem ke1reg : Reg (opsA (cLA (cRA (Tryz.f44.body.getD .skip)))) ke1lt := ⟨by kernel_rfl, by kernel_rfl⟩
theorem wkey_any (sh : Bool) (a : List Nat) (ends : List (List Nat)) (ev : Value) (w : World) (hD : Tl F fn cap Inv) (hI : Inv w) (ha : Pl a) (he : Rows2 w ev ends) (hel : ends.flatten.length ≤ 50000) :
    Calls Tryz.prog 44 #[.agg (sgC (N : Int) H D A K sh (.func (.func fn) #[] cap)).toArray, .agg (arr .u8 a), ev] w fun e w' => ∃ v, e = .returned v ∧ Row .u8 256 w' v (wky F a ends) ∧ New w.heap.size v ∧ Below w.heap.size w w' := by
  obtain ⟨sx, La, k0⟩ := boxV w (N : Int) H D A K sh (.func (.func fn) #[] cap) (a := a)
  have h2 := (ha.put 2 1).put 3 (pairA a)
  have hot := fun x => woft_any a 1 x ha (by decide)
  unfold wky
  try dsimp only
  have hcl := fun (x : World) jv (k : Below w.heap.size w x) rj tj => hD.calls x (putA (putA a 2 1) 3 (pairA a)) ends.flatten jv (hD.keep _ _ hI k) h2 rj tj hel
  have hjn := fun y (r : Rows2 y ev ends) => join_any ev ends y r (by omega)
  generalize putA (putA a 2 1) 3 (pairA a) = P2 at *
  generalize F P2 ends.flatten = OUT at *
  have hen := hD.enters
  obtain ⟨ea, ec, rfl, _⟩ := id he
  obtain ⟨W0, hW0⟩ : ∃ W0 : World, W0 = (w.alloc (.cells (sgC (N : Int) H D A K sh (.func (.func fn) #[] cap)).toArray 56)).alloc (.cells (arr .u8 a) 25) := ⟨_, rfl⟩
  rw [← hW0] at sx La k0
  have hbd : Below W0.heap.size W0 W0.drew := (Below.refl _ _).drew
  have re := he.below k0
  clear he hD hI hel
  go_enter Tryz.func44, Tryz.ntmps44
  go_wp2
  rw [← hW0]
  clear hW0
  refine at_begin (ops := opsA (cLA (cRA (Tryz.f44.body.getD .skip)))) (n := 8) (fun y => Below W0.heap.size W0 y) (by kernel_rfl) (by kernel_rfl) ?_
  refine tkP 0 1 7 (.pointer (some ⟨w.heap.size, 6, none⟩)) ke1reg rfl (by decide) rfl rfl (y_fieldG (wF rfl) rfl rfl (fun w => by simp [go_sem])) hbd ?_
  simp only [Act.put, plI, plZ, plS]
  refine tkP 1 3 8 (.func (.func fn) #[] cap) ke1reg rfl (by decide) rfl rfl (y_plainG (wF rfl) rfl rfl Tryz.underlying54 rfl (fun _ h => (sx.below h).c6)) hbd ?_
  simp only [Act.put, plI, plZ, plS]
  refine tkP 2 7 9 (.agg (arr .u8 a)) ke1reg rfl (by decide) rfl rfl (y_rowG (cs := vals .u8 a) (wF rfl) rfl rfl Tryz.underlying25 rfl (by rw [vals_length, ha.1]; kernel_rfl) (fun _ h => lies_rangeW (La.below h))) hbd ?_
  simp only [Act.put, plI, plZ, plS]
  refine tkP 4 23 11 (.slice ea ends.length ec) ke1reg rfl (by decide) rfl rfl (y_moveG (wF rfl) rfl rfl) hbd ?_
  simp only [Act.put, plI, plZ, plS]
  refine at_one (i := 3) (m' := 31) ke1reg (by decide) rfl ?_
  refine p_callG (args := #[.agg (arr .u8 a), .int .u64 1]) (d := some 10) rfl (wF rfl) rfl (by simp only [List.map_toArray, List.map_cons, List.map_nil]; rfl) rfl Tryz.call63 ((hot W0.drew).mono ?_)
  rintro e y5 ⟨rfl, g5⟩
  have hb5 := keep_trans hbd g5
  refine ⟨_, rfl, hb5, ?_⟩
  simp only [Act.put, plI, plZ, plS]
  refine at_one (i := 5) (m' := 63) ke1reg (by decide) rfl ?_
  refine p_callG (args := #[.slice ea ends.length ec]) (d := some 12) rfl (wF rfl) rfl (by simp only [List.map_toArray, List.map_cons, List.map_nil]; rfl) rfl Tryz.call32 ((hjn y5 (re.below hb5)).mono ?_)
  rintro e y6 ⟨jv, rfl, oj, g6⟩
  have rj := oj.row
  have tj := oj.tidy
  have hb6 := keep_trans hb5 g6
  refine ⟨_, rfl, hb6, ?_⟩
  simp only [Act.put, plI, plZ, plS]
  refine at_one (i := 6) (m' := 127) ke1reg (by decide) rfl ?_
  refine p_callF (d := some 13) rfl rfl (wF rfl) rfl rfl rfl rfl hen ((hcl y6 _ (keep_trans k0 hb6) rj tj).mono ?_)
  rintro e y7 ⟨xv, rfl, rx, nx, g7⟩
  have kbs := (hb6).size
  have hb7 := keep_trans hb6 g7
  refine ⟨_, rfl, ?_⟩
  refine ⟨hb7, ?_⟩
  simp only [Act.put, plI, plZ, plS]
  refine tkP 7 255 6 (xv) ke1reg rfl (by decide) rfl rfl (y_assignG (wF rfl) rfl rfl) hb7 ?_
  simp only [Act.put, plI, plZ, plS]
  refine at_done ke1reg (by decide) ?_
  go_wp2
  go_ret
  exact ⟨_, rfl, rx, nx.mono (Nat.le_trans k0.size kbs), keep_trans k0 hb7⟩
end
theorem made_sg (x : World) (cs : List Value) : Below x.heap.size x ((x.alloc (.cells (sgC 0 0 0 0 0 false .nilFunc).toArray 56)).setRow x.heap.size cs.toArray) ∧ ((x.alloc (.cells (sgC 0 0 0 0 0 false .nilFunc).toArray 56)).setRow x.heap.size cs.toArray).heap[x.heap.size]? = some (.cells cs.toArray 56 (0, 0)) := by
  have ka := keep_alloc x (.cells (sgC 0 0 0 0 0 false .nilFunc).toArray 56)
  have hB : But x.heap.size (x.alloc (.cells (sgC 0 0 0 0 0 false .nilFunc).toArray 56)) ((x.alloc (.cells (sgC 0 0 0 0 0 false .nilFunc).toArray 56)).setRow x.heap.size cs.toArray) := (But.refl _ _).setRow _
  exact ⟨ka.trans (hB.below (Nat.le_refl _) ka.size), setRow_heap _ _ _ _ _ _ (heap_alloc_last x _)⟩
section
variable {N : Nat} {H D A K : Int}
end
def Apart1 (w : World) (vo u : Value) : Prop := ∀ q, u.ownBlock = some q → q < w.heap.size ∧ vo.ownBlock ≠ some q
structure GrT (w : World) (B : Nat) (vo : Value) (ls : List (List Nat)) : Prop where
  ex : ∃ us, w.ownsRow B 27 1 vo ls.length us ∧ Texts w us ls ∧ ∀ u ∈ us, Apart1 w vo u
theorem GrT.nil (w : World) (B : Nat) : GrT w B (.slice none 0 0) [] := ⟨⟨[], World.ownsRow_nil _ _ _ _, Texts.nil _, fun u h => by cases h⟩⟩
theorem GrT.rows {w : World} {B : Nat} {vo : Value} {ls : List (List Nat)} (h : GrT w B vo ls) : Rows2 w vo ls := by
  obtain ⟨us, h1, h2, _⟩ := h.ex
  exact h2.rows2 h1
theorem GrT.below {w w' : World} {B : Nat} {vo : Value} {ls : List (List Nat)} (h : GrT w B vo ls) (hb : Below w.heap.size w w') : GrT w' B vo ls := by
  obtain ⟨us, h1, h2, h3⟩ := h.ex
  refine ⟨⟨us, h1.kept (row := none) ⟨hb.os, hb.tape, hb.output, hb.size, fun k hk _ => hb.block k hk⟩ ?_, h2.below hb, fun u hu q hq => ?_⟩⟩
  · cases hvo : vo.ownBlock with
    | none => exact .inl rfl
    | some q => exact .inr (by simp)
  · obtain ⟨k1, k2⟩ := h3 u hu q hq
    exact ⟨Nat.lt_of_lt_of_le k1 hb.size, k2⟩
theorem GrT.slice {w : World} {B : Nat} {vo : Value} {ls : List (List Nat)} (h : GrT w B vo ls) : ∃ a c, vo = .slice a ls.length c := by
  obtain ⟨us, h1, _, _⟩ := h.ex
  rcases h1.2 with ⟨rfl, h0⟩ | ⟨g, cap, cur, rfl, _⟩
  · exact ⟨none, 0, by rw [h0]⟩
  · exact ⟨_, _, rfl⟩
theorem row_grownT {w w' : World} {row : Option Nat} {u : Value} {l : List Nat} (h : Row .u8 256 w u l) (hg : w.grownBy w' row) (hn : ∀ q, u.ownBlock = some q → some q ≠ row) : Row .u8 256 w' u l := by
  obtain ⟨a, cap, rfl, h1, h2, h3, h4⟩ := h
  refine ⟨a, cap, rfl, h1, h2, fun hl => ?_, h4⟩
  obtain ⟨b, off, rfl, hc⟩ := h3 hl
  refine ⟨b, off, rfl, fun i hi => hg.cell (hc i hi) (hn b (by simp [Value.ownBlock]))⟩
theorem GrT.push {w w' : World} {B g cap : Nat} {vo u : Value} {ls : List (List Nat)} {x : List Nat} {us : List Value} (ht : Texts w us ls) (ha : ∀ u ∈ us, Apart1 w vo u) (hu : Row .u8 256 w u x) (tu : Tidy u) (au : Apart1 w vo u)
    (hown : w'.ownsRow B 27 1 (.slice (some ⟨g, 0, none⟩) (ls.length + 1) cap) (ls.length + 1) (us ++ [u])) (hg : w.grownBy w' vo.ownBlock) (hl : vo.ownBlock = some g ∨ g = w.heap.size) : GrT w' B (.slice (some ⟨g, 0, none⟩) (ls.length + 1) cap) (ls ++ [x]) := by
  have ap : ∀ v, Apart1 w vo v → Apart1 w' (.slice (some ⟨g, 0, none⟩) (ls.length + 1) cap) v := fun v hv q hq => by
    obtain ⟨k1, k2⟩ := hv q hq
    refine ⟨Nat.lt_of_lt_of_le k1 hg.size, fun e => ?_⟩
    have eg : g = q := by simpa [Value.ownBlock] using e
    rcases hl with h | h
    · exact k2 (by rw [h, eg])
    · omega
  refine ⟨⟨us ++ [u], by rw [List.length_append]; exact hown, ?_, fun v hv => ?_⟩⟩
  · have h1 : Texts w' us ls := ⟨ht.1, fun i hi => by
      obtain ⟨v, k1, k2, k3⟩ := ht.2 i hi
      exact ⟨v, k1, row_grownT k2 hg (fun q hq e => (ha v (List.mem_of_getElem? k1) q hq).2 e.symm), k3⟩⟩
    exact h1.append (Texts.one (row_grownT hu hg (fun q hq e => (au q hq).2 e.symm)) tu)
  · rcases List.mem_append.1 hv with h | h
    · exact ap v (ha v h)
    · have : v = u := by simpa using h
      rw [this]
      exact ap u au
theorem apart_new {w w' : World} {B n : Nat} {vo u : Value} {l : List Nat} {us : List Value} (hown : w.ownsRow B 27 1 vo n us) (hu : Row .u8 256 w' u l) (hl : 0 < l.length) (hn : New w.heap.size u) : Apart1 w' vo u := fun q hq =>
  ⟨hu.old hl hq, fun e => by have h1 := (hown.lt q e).2; have h2 := hn q hq; omega⟩
theorem apart_old {w w0 : World} {B n : Nat} {vo u : Value} {l : List Nat} {us : List Value} (hown : w.ownsRow B 27 1 vo n us) (hu : Row .u8 256 w0 u l) (hl : 0 < l.length) (hB : w0.heap.size ≤ B) (hw : w0.heap.size ≤ w.heap.size) : Apart1 w vo u := fun q hq =>
  ⟨Nat.lt_of_lt_of_le (hu.old hl hq) hw, fun e => by have h1 := (hown.lt q e).1; have h2 := hu.old hl hq; omega⟩
theorem Apart1.below {w w' : World} {vo u : Value} (h : Apart1 w vo u) (hs : w.heap.size ≤ w'.heap.size) : Apart1 w' vo u := fun q hq => ⟨Nat.lt_of_lt_of_le (h q hq).1 hs, (h q hq).2⟩
end Go.Proofs.YtpmobjfhhkglbaaGreatDoor
