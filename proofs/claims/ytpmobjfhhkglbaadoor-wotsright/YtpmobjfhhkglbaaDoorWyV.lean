/- Keys of chains, the program's own: a signer's count, begins, along, key. -/
import Derived.Test.YtpmobjfhhkglbaaDoorWyU
import Derived.Test.YtpmobjfhhkglbaaDoorMDig
import Derived.Test.YtpmobjfhhkglbaaDoorHKit
import Derived.Test.YtpmobjfhhkglbaaDoorPlan2
import Derived.Deep.AppendLies
namespace Go.Proofs.YtpmobjfhhkglbaaDoor
open Go.RowKit
set_option linter.unusedVariables false
set_option linter.unusedSimpArgs false

theorem y_addU32W {ops : Array Oper} {S : World → Prop} {o : Oper} {a : Act} {x y : Operand} {t t' : TypeId} {i j q : Int} (hw : Region.wanted o (yielded ops a.tmps) = true) (ho : o.op = .binOp .add t x y t') (hx : a.eval x = .int .u32 i) (hy : a.eval y = .int .u32 j) (hu : Tryd.prog.underlying t = some (.int .u32)) (hb : IntKind.u32.wrap (i + j) = q) : YieldsIf Tryd.prog ops S o (.int .u32 q) a := by
  refine y_ofG hw fun w _ => ?_
  unfold execOp
  simp only [ho, hx, hy]
  simp [go_sem, Sem.run_bind, run_underlying hu, hb]
/-- a signer in a box -/
structure BxV (W : World) (B : Nat) (N H D A K : Int) (sh : Bool) (f : Value) : Prop where
  here : W.heap[B]? = some (.cells (sgC N H D A K sh f).toArray 35 (0, 0))
theorem BxV.below {W W' : World} {B : Nat} {N H D A K : Int} {sh : Bool} {f : Value} (h : BxV W B N H D A K sh f) (hb : Below W.heap.size W W') : BxV W' B N H D A K sh f := ⟨(hb.block B (heap_ltW h.here)).trans h.here⟩
theorem BxV.but {W W' : World} {B g : Nat} {N H D A K : Int} {sh : Bool} {f : Value} (h : BxV W B N H D A K sh f) (hb : But g W W') (hn : B ≠ g) : BxV W' B N H D A K sh f := ⟨(hb.block B (heap_ltW h.here) hn).trans h.here⟩
theorem BxV.new (W : World) (N H D A K : Int) (sh : Bool) (f : Value) : BxV (W.alloc (.cells (sgC N H D A K sh f).toArray 35)) W.heap.size N H D A K sh f := ⟨heap_alloc_last W _⟩
theorem BxV.c0 {W : World} {B : Nat} {N H D A K : Int} {sh : Bool} {f : Value} (h : BxV W B N H D A K sh f) : W.cell? ⟨B, 0, none⟩ = some (.int .i64 N) := by rw [cell_of_row _ _ 0 _ _ _ h.here]; rfl
theorem BxV.c6 {W : World} {B : Nat} {N H D A K : Int} {sh : Bool} {f : Value} (h : BxV W B N H D A K sh f) : W.cell? ⟨B, 6, none⟩ = some f := by rw [cell_of_row _ _ 6 _ _ _ h.here]; rfl
theorem BxV.range {W : World} {B : Nat} {N H D A K : Int} {sh : Bool} {f : Value} (h : BxV W B N H D A K sh f) : W.rangeAt B 0 (sgC N H D A K sh f) := row_rangeW h.here
theorem boxV (w : World) (N H D A K : Int) (sh : Bool) (f : Value) {a : List Nat} : BxV ((w.alloc (.cells (sgC N H D A K sh f).toArray 35)).alloc (.cells (arr .u8 a) 23)) w.heap.size N H D A K sh f ∧ Lies .u8 23 ((w.alloc (.cells (sgC N H D A K sh f).toArray 35)).alloc (.cells (arr .u8 a) 23)) (w.heap.size + 1) a ∧ Below w.heap.size w ((w.alloc (.cells (sgC N H D A K sh f).toArray 35)).alloc (.cells (arr .u8 a) 23)) := by
  have L0 := Lies.new .u8 23 (w.alloc (.cells (sgC N H D A K sh f).toArray 35)) a
  rw [World.size_alloc] at L0
  exact ⟨(BxV.new w N H D A K sh f).below (keep_alloc _ _), L0, keep_trans (keep_alloc _ _) (keep_alloc _ _)⟩
section
variable {N : Nat} {H D A K : Int} {fn : FuncId} {cap : Array Value} {Inv : World → Prop} {F : List Nat → List Nat → List Nat}
set_option maxHeartbeats 4000000 in
set_option maxRecDepth 100000 in
theorem wcnt_any (sh : Bool) (f : Value) (w : World) (hN : N ≤ 1000) :
    Calls Tryd.prog 10 #[.agg (sgC (N : Int) H D A K sh f).toArray] w fun e w' => e = .returned (.int .i64 ((2 * N + 3 : Nat) : Int)) ∧ Below w.heap.size w w' := by
  have hct := fun y => wdct_any N y hN
  have k0 := keep_alloc w (.cells (sgC (N : Int) H D A K sh f).toArray 35)
  have c0 := (BxV.new w (N : Int) H D A K sh f).c0
  go_enter Tryd.func10, Tryd.ntmps10
  go_wp2_with (first
    | (go_at_call 18; refine (hct _).mono ?_; rintro e w1 ⟨rfl, hx⟩; obtain rfl := hx.symm)
    | fail)
  go_ret
  exact ⟨rfl, k0⟩
def bn1lt : List Lt := [(0, some 9, [4]), (1, some 10, [9]), (0, some 11, [5]), (4, some 12, [11]), (0, some 13, [2]), (16, some 14, [13]), (40, some 15, [12, 14]), (0, some 16, [3]), (194, some 17, [10, 15, 16]), (511, some 8, [17])]
theorem bn1reg : Reg (opsA (cLA (cRA (Tryd.f12.body.getD .skip)))) bn1lt := ⟨by kernel_rfl, by kernel_rfl⟩
set_option maxHeartbeats 4000000 in
set_option maxRecDepth 100000 in
theorem wbgn_any (sh : Bool) (a secret : List Nat) (i : Nat) (sv : Value) (w : World) (hD : Tl F fn cap Inv) (hI : Inv w) (ha : Pl a) (hs : Row .u8 256 w sv secret) (ts : Tidy sv) (hsl : secret.length ≤ 50000) (hi : i < 65536) :
    Calls Tryd.prog 12 #[.agg (sgC (N : Int) H D A K sh (.func (.func fn) #[] cap)).toArray, .agg (arr .u8 a), .int .i64 (i : Int), sv] w fun e w' => ∃ v, e = .returned v ∧ Row .u8 256 w' v (wbg F a secret i) ∧ New w.heap.size v ∧ Below w.heap.size w w' := by
  obtain ⟨sx, La, k0⟩ := boxV w (N : Int) H D A K sh (.func (.func fn) #[] cap) (a := a)
  obtain ⟨sa, sc, rfl, _⟩ := hs.opens rfl
  have h2 := (ha.put 2 5).put 3 (pairA a)
  have h3 := h2.put 4 i
  have hot := fun x => woft_any a 5 x ha (by decide)
  have hp3 := fun x => wput_any (putA (putA a 2 5) 3 (pairA a)) 4 i x h2 (by omega)
  unfold wbg
  try dsimp only
  have hcl := fun (x : World) (k : Below w.heap.size w x) => hD.calls x (putA (putA (putA a 2 5) 3 (pairA a)) 4 i) secret _ (hD.keep _ _ hI k) h3 (hs.below k) ts hsl
  generalize putA (putA (putA a 2 5) 3 (pairA a)) 4 i = P3 at *
  generalize putA (putA a 2 5) 3 (pairA a) = P2 at *
  generalize F P3 secret = OUT at *
  have hen := hD.enters
  obtain ⟨W0, hW0⟩ : ∃ W0 : World, W0 = (w.alloc (.cells (sgC (N : Int) H D A K sh (.func (.func fn) #[] cap)).toArray 35)).alloc (.cells (arr .u8 a) 23) := ⟨_, rfl⟩
  rw [← hW0] at sx La k0
  have hbd : Below W0.heap.size W0 W0.drew := (Below.refl _ _).drew
  clear hs hD
  go_enter Tryd.func12, Tryd.ntmps12
  go_wp2
  rw [← hW0]
  clear hW0
  refine at_begin (ops := opsA (cLA (cRA (Tryd.f12.body.getD .skip)))) (n := 10) (fun y => Below W0.heap.size W0 y) (by kernel_rfl) (by kernel_rfl) ?_
  refine at_takeD (i := 0) (m' := 1) (d := some 9) (v := .pointer (some ⟨w.heap.size, 6, none⟩)) bn1reg rfl (by decide) rfl rfl (y_fieldG (wanted_free rfl) rfl rfl (fun w => by simp [go_sem])) hbd ?_
  simp only [Act.put, List.setIfInBounds_toArray, List.set_cons_zero, List.set_cons_succ]
  refine at_takeD (i := 1) (m' := 3) (d := some 10) (v := .func (.func fn) #[] cap) bn1reg rfl (by decide) rfl rfl (y_plainG (wanted_free rfl) rfl rfl Tryd.underlying33 rfl (fun _ h => (sx.below h).c6)) hbd ?_
  simp only [Act.put, List.setIfInBounds_toArray, List.set_cons_zero, List.set_cons_succ]
  refine at_takeD (i := 2) (m' := 7) (d := some 11) (v := .agg (arr .u8 a)) bn1reg rfl (by decide) rfl rfl (y_rowG (cs := vals .u8 a) (wanted_free rfl) rfl rfl Tryd.underlying23 rfl (by rw [vals_length, ha.1]; kernel_rfl) (fun _ h => lies_rangeW (La.below h))) hbd ?_
  simp only [Act.put, List.setIfInBounds_toArray, List.set_cons_zero, List.set_cons_succ]
  refine at_takeD (i := 4) (m' := 23) (d := some 13) (v := .int .i64 (i : Int)) bn1reg rfl (by decide) rfl rfl (y_moveG (wanted_free rfl) rfl rfl) hbd ?_
  simp only [Act.put, List.setIfInBounds_toArray, List.set_cons_zero, List.set_cons_succ]
  refine at_takeD (i := 5) (m' := 55) (d := some 14) (v := .int .u64 (i : Int)) bn1reg rfl (by decide) rfl rfl (y_convI (wanted_free rfl) rfl rfl (conv_i64u64W i (by omega))) hbd ?_
  simp only [Act.put, List.setIfInBounds_toArray, List.set_cons_zero, List.set_cons_succ]
  refine at_takeD (i := 7) (m' := 183) (d := some 16) (v := .slice sa secret.length sc) bn1reg rfl (by decide) rfl rfl (y_moveG (wanted_free rfl) rfl rfl) hbd ?_
  simp only [Act.put, List.setIfInBounds_toArray, List.set_cons_zero, List.set_cons_succ]
  refine at_one (i := 3) (m' := 191) bn1reg (by decide) rfl ?_
  refine p_callG (args := #[.agg (arr .u8 a), .int .u64 5]) (d := some 12) rfl (wanted_free rfl) rfl (by simp only [List.map_toArray, List.map_cons, List.map_nil]; rfl) rfl Tryd.call19 ((hot W0.drew).mono ?_)
  rintro e y7 ⟨rfl, g7⟩
  have hb7 := keep_trans hbd g7
  refine ⟨_, rfl, hb7, ?_⟩
  simp only [Act.put, List.setIfInBounds_toArray, List.set_cons_zero, List.set_cons_succ]
  refine at_one (i := 6) (m' := 255) bn1reg (by decide) rfl ?_
  refine p_callG (args := #[.agg (arr .u8 P2), .int .i64 4, .int .u64 (i : Int)]) (d := some 15) rfl (wanted_free rfl) rfl (by simp only [List.map_toArray, List.map_cons, List.map_nil]; rfl) rfl Tryd.call17 ((hp3 y7).mono ?_)
  rintro e y8 ⟨rfl, g8⟩
  have hb8 := keep_trans hb7 g8
  refine ⟨_, rfl, hb8, ?_⟩
  simp only [Act.put, List.setIfInBounds_toArray, List.set_cons_zero, List.set_cons_succ]
  refine at_one (i := 8) (m' := 511) bn1reg (by decide) rfl ?_
  refine p_callF (d := some 17) rfl rfl (wanted_free rfl) rfl rfl rfl rfl hen ((hcl y8 (keep_trans k0 hb8)).mono ?_)
  rintro e y9 ⟨xv, rfl, rx, nx, g9⟩
  have kbs := (hb8).size
  have hb9 := keep_trans hb8 g9
  refine ⟨_, rfl, ?_⟩
  refine ⟨hb9, ?_⟩
  simp only [Act.put, List.setIfInBounds_toArray, List.set_cons_zero, List.set_cons_succ]
  refine at_takeD (i := 9) (m' := 1023) (d := some 8) (v := xv) bn1reg rfl (by decide) rfl rfl (y_assignG (wanted_free rfl) rfl rfl) hb9 ?_
  simp only [Act.put, List.setIfInBounds_toArray, List.set_cons_zero, List.set_cons_succ]
  refine at_done bn1reg (by decide) ?_
  go_wp2
  go_ret
  exact ⟨_, rfl, rx, nx.mono (Nat.le_trans k0.size kbs), keep_trans k0 hb9⟩
/-- where a chain's steps stand -/
def WaL (w W1 : World) (F : List Nat → List Nat → List Nat) (a : List Nat) (f n : Nat) (y : List Nat) (yv vy vj : Value) (wr : World) : Prop := ∃ k : Nat, k ≤ n ∧ vj = .int .u32 (k : Int) ∧ Row .u8 256 wr vy (wch F a f k y) ∧ Tidy vy ∧ (New w.heap.size vy ∨ vy = yv) ∧ Below W1.heap.size W1 wr
def al5lt : List Lt := [(0, some 24, [6]), (1, some 25, [24]), (0, some 26, [7]), (0, some 27, [4]), (0, some 28, [13]), (24, some 29, [27, 28]), (32, some 30, [29]), (68, some 31, [26, 30]), (0, some 32, [3]), (386, some 33, [25, 31, 32]), (1023, some 3, [33])]
theorem al5reg : Reg (opsA (cRA (cBA (cLA (cRA (cRA (cLpA (cBA (cRA (cLA (cRA (cRA (Tryd.f11.body.getD .skip))))))))))))) al5lt := ⟨by kernel_rfl, by kernel_rfl⟩
set_option maxHeartbeats 4000000 in
set_option maxRecDepth 100000 in
theorem walg_any (sh : Bool) (a y : List Nat) (c f n : Nat) (yv : Value) (w : World) (hD : Tl F fn cap Inv) (hI : Inv w) (ha : Pl a) (hF : ∀ p x, (F p x).length = N) (hN : 0 < N ∧ N ≤ 1000) (hy : Row .u8 256 w yv y) (ty : Tidy yv) (hyl : y.length = N) (hc : c < 65536) (hfn : f + n ≤ 16) :
    Calls Tryd.prog 11 #[.agg (sgC (N : Int) H D A K sh (.func (.func fn) #[] cap)).toArray, .agg (arr .u8 a), .int .i64 (c : Int), yv, .int .u32 (f : Int), .int .u32 ((f + n : Nat) : Int)] w fun e w' => ∃ v, e = .returned v ∧ Row .u8 256 w' v (wch F (putA a 4 c) f n y) ∧ Tidy v ∧ (New w.heap.size v ∨ v = yv) ∧ Below w.heap.size w w' := by
  obtain ⟨sx0, La0, k0⟩ := boxV w (N : Int) H D A K sh (.func (.func fn) #[] cap) (a := a)
  have hp1 := fun x => wput_any a 4 c x ha (by omega)
  have hP4 := ha.put 4 c
  have hz4 := hP4.1
  have u_c : IntKind.u64.wrap (c : Int) = (c : Int) := by rw [IntKind.wrap_u64]; omega
  generalize putA a 4 c = PC at *
  have hal := ha.1
  have hwl : ∀ k, (wch F PC f k y).length = N := wch_len hF f y hyl
  have hP := fun (b : Nat) (hb : b < 18446744073709551616) x => wput_any PC 5 b x hP4 hb
  have hen := hD.enters
  have hS : ∀ (b : Nat) (z : List Nat) x zv, z.length = N → Below w.heap.size w x → Row .u8 256 x zv z → Tidy zv → Calls Tryd.prog fn (#[.agg (arr .u8 (putA PC 5 b)), zv] ++ cap) x fun e w' => ∃ v, e = .returned v ∧ Row .u8 256 w' v (F (putA PC 5 b) z) ∧ New x.heap.size v ∧ Below x.heap.size x w' := fun b z x zv hz k rz tz => hD.calls x (putA PC 5 b) z zv (hD.keep _ _ hI k) (hP4.put 5 b) rz tz (by omega)
  obtain ⟨M, hM⟩ : ∃ M : Nat, f + n = M := ⟨_, rfl⟩
  rw [hM]
  have e_n : (M : Int) - (f : Int) = (n : Int) := by omega
  have s_n : IntKind.u32.wrap (n : Int) = (n : Int) := by rw [IntKind.wrap_u32]; omega
  obtain ⟨ya0, yc0, rfl, _⟩ := hy.opens hyl
  have HY := hide (And.intro hy (And.intro ty (And.intro hyl (And.intro hfn (And.intro hM hwl)))))
  have hSH := hide hS
  have hPH := hide hP
  have k1s := k0.size
  have HB := hide hP4
  clear hI hD hS hP hy ty hyl hF hfn hM hwl ha hP4
  go_enter Tryd.func11, Tryd.ntmps11
  go_wp2_with (first
    | (refine wpList_load_row rfl 23 _ (by rfl) (w.heap.size + 1) (by rfl) _ _ _ (.array 32 5) La0 (by kernel_rfl) rfl (by rw [arr_size, hal]; kernel_rfl) ?_)
    | (go_at_call 17; refine (hp1 _).mono ?_; rintro e x1 ⟨rfl, g1⟩; have La1 := La0.below g1)
    | (refine wpList_store_row rfl 23 _ _ (by rfl) (w.heap.size + 1) (arr .u8 PC) (by rfl) (by rfl) _ _ La1 (by rw [arr_size, hz4]; kernel_rfl) (by rw [arr_size, arr_size, hz4, hal]) (arr_one _ _) ?_)
    | fail)
  have hB1 : But (w.heap.size + 1) x1 (x1.setRow (w.heap.size + 1) (arr .u8 PC)) := (But.refl _ _).setRow _
  have hxs := g1.size
  have La2 : Lies .u8 23 (x1.setRow (w.heap.size + 1) (arr .u8 PC)) (w.heap.size + 1) PC := La1.row
  have sx2 := (sx0.below g1).but hB1 (by omega)
  have kx := keep_trans k0 g1
  have k2 : Below w.heap.size w (x1.setRow (w.heap.size + 1) (arr .u8 PC)) := kx.trans (hB1.below (by omega) kx.size)
  obtain ⟨W1, hW1⟩ : ∃ W1 : World, W1 = x1.setRow (w.heap.size + 1) (arr .u8 PC) := ⟨_, rfl⟩
  rw [← hW1] at La2 sx2 k2 ⊢
  have H0 := hide (show WaL w W1 F PC f n y (.slice ya0 N yc0) (.slice ya0 N yc0) (.int .u32 0) W1 from ⟨0, Nat.zero_le _, rfl, HY.out.1.below k2, HY.out.2.1, .inr rfl, Below.refl _ _⟩)
  have HK2 := hide (And.intro k2 (And.intro La2 sx2))
  clear hW1 hB1 La1 sx0 La0 kx g1 hxs La2 sx2 k2 hp1 k0
  go_loopw [3, 21] (fun vy vj wr => WaL w W1 F PC f n y (.slice ya0 N yc0) vy vj wr) (fun _ vj _ => n - (intOf vj).toNat)
  case atStart => exact H0.out
  case round =>
    obtain ⟨k, hk, rfl, rY, tY, nY, hbr⟩ := hrel
    obtain ⟨_, _, _, hfn, hM, hwl⟩ := HY.out
    obtain ⟨k2, La2, sx2⟩ := HK2.out
    clear H0
    rename World => wr
    obtain ⟨ya, yc, rfl, _⟩ := rY.opens (hwl k)
    by_cases hlt : k < n
    · have hkT : (k : Int) < (n : Int) := by omega
      obtain ⟨b, hb⟩ : ∃ b : Nat, b = f + k := ⟨_, rfl⟩
      have e_b : (f : Int) + (k : Int) = (b : Int) := by omega
      have s_b : IntKind.u32.wrap (b : Int) = (b : Int) := by rw [IntKind.wrap_u32]; omega
      have hput := hPH.out b (by omega)
      have hst : F (putA PC 5 b) (wch F PC f k y) = wch F PC f (k + 1) y := by rw [hb]; rfl
      have hsum := fun x zv => hSH.out b (wch F PC f k y) x zv (hwl k)
      rw [hst] at hsum
      have hpl := (HB.out.put 5 b).1
      generalize putA PC 5 b = PA at *
      obtain ⟨Q, hQ⟩ : ∃ x : Nat, x = k + 1 := ⟨_, rfl⟩
      have e_Q : (k : Int) + 1 = (Q : Int) := by omega
      have s_Q : IntKind.u32.wrap (Q : Int) = (Q : Int) := by rw [IntKind.wrap_u32]; omega
      have hbd : Below wr.heap.size wr wr.drew := (Below.refl _ _).drew
      have kwr := keep_trans k2 hbr
      have sx := sx2.below hbr
      have La := La2.below hbr
      have hb64 : b < 4294967296 := by omega
      have HK := hide (And.intro hQ (And.intro hlt (And.intro hbr (And.intro nY hst))))
      clear hQ hlt hbr hst hwl hM hfn La2 sx2 hk nY k2
      go_wp2
      refine at_begin (ops := opsA (cRA (cBA (cLA (cRA (cRA (cLpA (cBA (cRA (cLA (cRA (cRA (Tryd.f11.body.getD .skip))))))))))))) (n := 11) (fun y => Below wr.heap.size wr y) (by kernel_rfl) (by kernel_rfl) ?_
      refine at_takeD (i := 0) (m' := 1) (d := some 24) (v := .pointer (some ⟨w.heap.size, 6, none⟩)) al5reg rfl (by decide) rfl rfl (y_fieldG (wanted_free rfl) rfl rfl (fun w => by simp [go_sem])) hbd ?_
      simp only [Act.put, List.setIfInBounds_toArray, List.set_cons_zero, List.set_cons_succ]
      refine at_takeD (i := 1) (m' := 3) (d := some 25) (v := .func (.func fn) #[] cap) al5reg rfl (by decide) rfl rfl (y_plainG (wanted_free rfl) rfl rfl Tryd.underlying33 rfl (fun _ h => (sx.below h).c6)) hbd ?_
      simp only [Act.put, List.setIfInBounds_toArray, List.set_cons_zero, List.set_cons_succ]
      refine at_takeD (i := 2) (m' := 7) (d := some 26) (v := .agg (arr .u8 PC)) al5reg rfl (by decide) rfl rfl (y_rowG (cs := vals .u8 PC) (wanted_free rfl) rfl rfl Tryd.underlying23 rfl (by rw [vals_length, hz4]; kernel_rfl) (fun _ h => lies_rangeW (La.below h))) hbd ?_
      simp only [Act.put, List.setIfInBounds_toArray, List.set_cons_zero, List.set_cons_succ]
      refine at_takeD (i := 3) (m' := 15) (d := some 27) (v := .int .u32 (f : Int)) al5reg rfl (by decide) rfl rfl (y_moveG (wanted_free rfl) rfl rfl) hbd ?_
      simp only [Act.put, List.setIfInBounds_toArray, List.set_cons_zero, List.set_cons_succ]
      refine at_takeD (i := 4) (m' := 31) (d := some 28) (v := .int .u32 (k : Int)) al5reg rfl (by decide) rfl rfl (y_moveG (wanted_free rfl) rfl rfl) hbd ?_
      simp only [Act.put, List.setIfInBounds_toArray, List.set_cons_zero, List.set_cons_succ]
      refine at_takeD (i := 5) (m' := 63) (d := some 29) (v := .int .u32 (b : Int)) al5reg rfl (by decide) rfl rfl (y_addU32W (wanted_free rfl) rfl rfl rfl Tryd.underlying42 (e_b.symm ▸ s_b)) hbd ?_
      simp only [Act.put, List.setIfInBounds_toArray, List.set_cons_zero, List.set_cons_succ]
      refine at_takeD (i := 6) (m' := 127) (d := some 30) (v := .int .u64 (b : Int)) al5reg rfl (by decide) rfl rfl (y_convI (wanted_free rfl) rfl rfl (conv_u32u64W b hb64)) hbd ?_
      simp only [Act.put, List.setIfInBounds_toArray, List.set_cons_zero, List.set_cons_succ]
      refine at_takeD (i := 8) (m' := 383) (d := some 32) (v := .slice ya N yc) al5reg rfl (by decide) rfl rfl (y_moveG (wanted_free rfl) rfl rfl) hbd ?_
      simp only [Act.put, List.setIfInBounds_toArray, List.set_cons_zero, List.set_cons_succ]
      refine at_one (i := 7) (m' := 511) al5reg (by decide) rfl ?_
      refine p_callG (args := #[.agg (arr .u8 PC), .int .i64 5, .int .u64 (b : Int)]) (d := some 31) rfl (wanted_free rfl) rfl (by simp only [List.map_toArray, List.map_cons, List.map_nil]; rfl) rfl Tryd.call17 ((hput wr.drew).mono ?_)
      rintro e y9 ⟨rfl, g9⟩
      have hb9 := keep_trans hbd g9
      refine ⟨_, rfl, hb9, ?_⟩
      simp only [Act.put, List.setIfInBounds_toArray, List.set_cons_zero, List.set_cons_succ]
      refine at_one (i := 9) (m' := 1023) al5reg (by decide) rfl ?_
      refine p_callF (d := some 33) rfl rfl (wanted_free rfl) rfl rfl rfl rfl hen ((hsum y9 _ (keep_trans kwr hb9) (rY.below hb9) tY).mono ?_)
      rintro e y10 ⟨xv, rfl, rx, nx, g10⟩
      have kbs := (hb9).size
      have hb10 := keep_trans hb9 g10
      refine ⟨_, rfl, ?_⟩
      refine ⟨hb10, ?_⟩
      simp only [Act.put, List.setIfInBounds_toArray, List.set_cons_zero, List.set_cons_succ]
      refine at_takeD (i := 10) (m' := 2047) (d := some 3) (v := xv) al5reg rfl (by decide) rfl rfl (y_assignG (wanted_free rfl) rfl rfl) hb10 ?_
      simp only [Act.put, List.setIfInBounds_toArray, List.set_cons_zero, List.set_cons_succ]
      refine at_done al5reg (by decide) ?_
      go_wp2
      obtain ⟨hQ, hlt, hbr, nY, hst⟩ := HK.out
      obtain ⟨_, _, _, hfn, hM, hwl⟩ := HY.out
      exact ⟨⟨Q, by omega, rfl, by rw [hQ]; exact rx, new_ntidy rx (by rw [hwl (k + 1)]; omega), .inl (nx.mono (Nat.le_trans kwr.size kbs)), keep_trans hbr hb10⟩, by simp [intOf]; omega⟩
    · obtain rfl : k = n := by omega
      have hge : ¬ ((k : Int) < (k : Int)) := by omega
      have HK := hide (And.intro rY (And.intro (keep_trans k2 hbr) nY))
      clear rY nY hbr hwl k2 hfn hM La2 sx2
      go_wp2
      go_ret
      exact ⟨_, rfl, HK.out.1, tY, HK.out.2.2, HK.out.2.1⟩
def ke1lt : List Lt := [(0, some 7, [3]), (1, some 8, [7]), (0, some 9, [4]), (4, some 10, [9]), (0, some 11, [2]), (24, some 12, [11]), (42, some 13, [8, 10, 12]), (127, some 6, [13])]
theorem ke1reg : Reg (opsA (cLA (cRA (Tryd.f13.body.getD .skip)))) ke1lt := ⟨by kernel_rfl, by kernel_rfl⟩
set_option maxHeartbeats 4000000 in
set_option maxRecDepth 100000 in
theorem wkey_any (sh : Bool) (a : List Nat) (ends : List (List Nat)) (ev : Value) (w : World) (hD : Tl F fn cap Inv) (hI : Inv w) (ha : Pl a) (he : Rows2 w ev ends) (hel : ends.flatten.length ≤ 50000) :
    Calls Tryd.prog 13 #[.agg (sgC (N : Int) H D A K sh (.func (.func fn) #[] cap)).toArray, .agg (arr .u8 a), ev] w fun e w' => ∃ v, e = .returned v ∧ Row .u8 256 w' v (wky F a ends) ∧ New w.heap.size v ∧ Below w.heap.size w w' := by
  obtain ⟨sx, La, k0⟩ := boxV w (N : Int) H D A K sh (.func (.func fn) #[] cap) (a := a)
  have h2 := (ha.put 2 1).put 3 (pairA a)
  have hot := fun x => woft_any a 1 x ha (by decide)
  unfold wky
  try dsimp only
  have hcl := fun (x : World) jv (k : Below w.heap.size w x) rj tj => hD.calls x (putA (putA a 2 1) 3 (pairA a)) ends.flatten jv (hD.keep _ _ hI k) h2 rj tj hel
  have hjn := fun y (r : Rows2 y ev ends) => join_any ev ends y r (by omega)
  generalize putA (putA a 2 1) 3 (pairA a) = P2 at *
  generalize F P2 ends.flatten = OUT at *
  have hen := hD.enters
  obtain ⟨ea, ec, rfl, _⟩ := id he
  obtain ⟨W0, hW0⟩ : ∃ W0 : World, W0 = (w.alloc (.cells (sgC (N : Int) H D A K sh (.func (.func fn) #[] cap)).toArray 35)).alloc (.cells (arr .u8 a) 23) := ⟨_, rfl⟩
  rw [← hW0] at sx La k0
  have hbd : Below W0.heap.size W0 W0.drew := (Below.refl _ _).drew
  have re := he.below k0
  clear he hD hI hel
  go_enter Tryd.func13, Tryd.ntmps13
  go_wp2
  rw [← hW0]
  clear hW0
  refine at_begin (ops := opsA (cLA (cRA (Tryd.f13.body.getD .skip)))) (n := 8) (fun y => Below W0.heap.size W0 y) (by kernel_rfl) (by kernel_rfl) ?_
  refine at_takeD (i := 0) (m' := 1) (d := some 7) (v := .pointer (some ⟨w.heap.size, 6, none⟩)) ke1reg rfl (by decide) rfl rfl (y_fieldG (wanted_free rfl) rfl rfl (fun w => by simp [go_sem])) hbd ?_
  simp only [Act.put, List.setIfInBounds_toArray, List.set_cons_zero, List.set_cons_succ]
  refine at_takeD (i := 1) (m' := 3) (d := some 8) (v := .func (.func fn) #[] cap) ke1reg rfl (by decide) rfl rfl (y_plainG (wanted_free rfl) rfl rfl Tryd.underlying33 rfl (fun _ h => (sx.below h).c6)) hbd ?_
  simp only [Act.put, List.setIfInBounds_toArray, List.set_cons_zero, List.set_cons_succ]
  refine at_takeD (i := 2) (m' := 7) (d := some 9) (v := .agg (arr .u8 a)) ke1reg rfl (by decide) rfl rfl (y_rowG (cs := vals .u8 a) (wanted_free rfl) rfl rfl Tryd.underlying23 rfl (by rw [vals_length, ha.1]; kernel_rfl) (fun _ h => lies_rangeW (La.below h))) hbd ?_
  simp only [Act.put, List.setIfInBounds_toArray, List.set_cons_zero, List.set_cons_succ]
  refine at_takeD (i := 4) (m' := 23) (d := some 11) (v := .slice ea ends.length ec) ke1reg rfl (by decide) rfl rfl (y_moveG (wanted_free rfl) rfl rfl) hbd ?_
  simp only [Act.put, List.setIfInBounds_toArray, List.set_cons_zero, List.set_cons_succ]
  refine at_one (i := 3) (m' := 31) ke1reg (by decide) rfl ?_
  refine p_callG (args := #[.agg (arr .u8 a), .int .u64 1]) (d := some 10) rfl (wanted_free rfl) rfl (by simp only [List.map_toArray, List.map_cons, List.map_nil]; rfl) rfl Tryd.call19 ((hot W0.drew).mono ?_)
  rintro e y5 ⟨rfl, g5⟩
  have hb5 := keep_trans hbd g5
  refine ⟨_, rfl, hb5, ?_⟩
  simp only [Act.put, List.setIfInBounds_toArray, List.set_cons_zero, List.set_cons_succ]
  refine at_one (i := 5) (m' := 63) ke1reg (by decide) rfl ?_
  refine p_callG (args := #[.slice ea ends.length ec]) (d := some 12) rfl (wanted_free rfl) rfl (by simp only [List.map_toArray, List.map_cons, List.map_nil]; rfl) rfl Tryd.call15 ((hjn y5 (re.below hb5)).mono ?_)
  rintro e y6 ⟨jv, rfl, oj, g6⟩
  have rj := oj.row
  have tj := oj.tidy
  have hb6 := keep_trans hb5 g6
  refine ⟨_, rfl, hb6, ?_⟩
  simp only [Act.put, List.setIfInBounds_toArray, List.set_cons_zero, List.set_cons_succ]
  refine at_one (i := 6) (m' := 127) ke1reg (by decide) rfl ?_
  refine p_callF (d := some 13) rfl rfl (wanted_free rfl) rfl rfl rfl rfl hen ((hcl y6 _ (keep_trans k0 hb6) rj tj).mono ?_)
  rintro e y7 ⟨xv, rfl, rx, nx, g7⟩
  have kbs := (hb6).size
  have hb7 := keep_trans hb6 g7
  refine ⟨_, rfl, ?_⟩
  refine ⟨hb7, ?_⟩
  simp only [Act.put, List.setIfInBounds_toArray, List.set_cons_zero, List.set_cons_succ]
  refine at_takeD (i := 7) (m' := 255) (d := some 6) (v := xv) ke1reg rfl (by decide) rfl rfl (y_assignG (wanted_free rfl) rfl rfl) hb7 ?_
  simp only [Act.put, List.setIfInBounds_toArray, List.set_cons_zero, List.set_cons_succ]
  refine at_done ke1reg (by decide) ?_
  go_wp2
  go_ret
  exact ⟨_, rfl, rx, nx.mono (Nat.le_trans k0.size kbs), keep_trans k0 hb7⟩
end
end Go.Proofs.YtpmobjfhhkglbaaDoor

/- Keys of chains, the program's own: Sum and Draw where they answer. -/
namespace Go.Proofs.YtpmobjfhhkglbaaDoor
open Go.RowKit
set_option linter.unusedVariables false
set_option linter.unusedSimpArgs false

theorem made_sg (x : World) (cs : List Value) : Below x.heap.size x ((x.alloc (.cells (sgC 0 0 0 0 0 false .nilFunc).toArray 35)).setRow x.heap.size cs.toArray) ∧ ((x.alloc (.cells (sgC 0 0 0 0 0 false .nilFunc).toArray 35)).setRow x.heap.size cs.toArray).heap[x.heap.size]? = some (.cells cs.toArray 35 (0, 0)) := by
  have ka := keep_alloc x (.cells (sgC 0 0 0 0 0 false .nilFunc).toArray 35)
  have hB : But x.heap.size (x.alloc (.cells (sgC 0 0 0 0 0 false .nilFunc).toArray 35)) ((x.alloc (.cells (sgC 0 0 0 0 0 false .nilFunc).toArray 35)).setRow x.heap.size cs.toArray) := (But.refl _ _).setRow _
  exact ⟨ka.trans (hB.below (Nat.le_refl _) ka.size), setRow_heap _ _ _ _ _ _ (heap_alloc_last x _)⟩
section
variable {N : Nat} {H D A K : Int}
end
end Go.Proofs.YtpmobjfhhkglbaaDoor

/- Keys of chains: the document's Public, Sign, Candidate. -/
namespace Go.Proofs.YtpmobjfhhkglbaaDoor
open Go.RowKit
set_option linter.unusedVariables false
set_option linter.unusedSimpArgs false

section
variable {ops : Array Oper} {S : World → Prop}
theorem y_midW {o : Oper} {a : Act} {x y z : Operand} {u : Value} {aa : Option Addr} {n c F G : Nat} (hw : Region.wanted o (yielded ops a.tmps) = true) (ho : o.op = .slice 26 x (some y) (some z) none) (hx : a.eval x = .slice aa n c) (hy : a.eval y = .int .i64 (F : Int)) (hz : a.eval z = .int .i64 (G : Int)) (hr : ∀ w : World, (Instr.slice 26 (.slice aa n c) (some (.int .i64 (F : Int))) (some (.int .i64 (G : Int))) none).run Tryd.prog w = .ok u w) : YieldsIf Tryd.prog ops S o u a := by
  refine y_ofG hw fun w _ => ?_
  have h := hr w
  unfold execOp
  simp only [ho, hx, Option.map_none, Option.map_some, hy, hz]
  simp [Instr.sliceAt, Sem.run_bind, h, run_underlying Tryd.underlying26, go_sem]
end
theorem mid_runW {b o n c F G L : Nat} (hF : F < c) (hG : G ≤ c) (hL : F + L = G) (w : World) : (Instr.slice 26 (.slice (some ⟨b, o, none⟩) n c) (some (.int .i64 (F : Int))) (some (.int .i64 (G : Int))) none).run Tryd.prog w = .ok (.slice (some ⟨b, o + F, none⟩) L (c - F)) w := by
  obtain ⟨A, h1, h2⟩ := slice_mid (some ⟨b, o, none⟩) n c F G (by omega) hG
  rcases h2 with ⟨_, h2⟩ | rfl
  · omega
  · rw [h1 w, show G - F = L by omega]; simp only [Option.map_some, Addr.add]; by_cases h0 : F = 0 <;> simp [h0]
section
variable {N : Nat} {H D A K : Int}
theorem fit3 (hF : FitX (N : Int) H D A K) : N = 16 ∨ N = 24 ∨ N = 32 := by have := hF.1; omega
end
end Go.Proofs.YtpmobjfhhkglbaaDoor
