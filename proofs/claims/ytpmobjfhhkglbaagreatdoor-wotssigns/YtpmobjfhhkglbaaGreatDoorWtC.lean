import Derived.Test.YtpmobjfhhkglbaaGreatDoorWtB
set_option maxHeartbeats 8000000
set_option maxRecDepth 100000
namespace Go.Proofs.YtpmobjfhhkglbaaGreatDoor
open Go.RowKit
set_option linter.unusedVariables false
set_option linter.unusedSimpArgs false
theorem conv_u32u64W (n : Nat) (h : n < 4294967296) (w : World) : (convert 42 26 (.int .u32 (n : Int))).run Tryz.prog w = .ok (.int .u64 (n : Int)) w := by
  have : IntKind.u64.wrap (n : Int) = (n : Int) := by rw [IntKind.wrap_u64]; omega
  simp [go_sem, convert, this]
theorem conv_i64u64W (n : Nat) (h : n < 18446744073709551616) (w : World) : (convert 3 26 (.int .i64 (n : Int))).run Tryz.prog w = .ok (.int .u64 (n : Int)) w := by
  have : IntKind.u64.wrap (n : Int) = (n : Int) := by rw [IntKind.wrap_u64]; omega
  simp [go_sem, convert, this]
theorem BxSW.range {W : World} {B : Nat} {N H D A K : Int} {sh : Bool} (h : BxSW W B N H D A K sh) : W.rangeAt B 0 [.int .i64 N, .int .i64 H, .int .i64 D, .int .i64 A, .int .i64 K, .bool sh] := fun j v hv => by
  rw [Nat.zero_add]
  simp only [World.cell?, h.here]
  simpa using hv
theorem p_allocAd {ops : Array Oper} {K : Act → World → Prop} {Q : Exit → Act → World → Prop} {i : Nat} {o : Oper} {a : Act} {x : World} {d : Option Nat} (hi : ops[i]? = some o) (hw : Region.wanted o (yielded ops a.tmps) = true) (ho : o.op = .alloc 25) (hd : o.dst = d)
    (h : K (a.put d (.pointer (some ⟨x.heap.size, 0, none⟩))) (x.alloc (.cells (arr .u8 zP) 25))) : wpOp Tryz.prog ops Q i K a x := by
  have hz := zeroAd
  have hr : (execOp a.eval o).run Tryz.prog x = .ok (.value (.pointer (some ⟨x.heap.size, 0, none⟩))) (x.alloc (.cells (arr .u8 zP) 25)) := by
    unfold execOp
    simp only [ho]
    simp [go_sem, hz]
  unfold wpOp
  simp only [hi]
  rw [if_pos hw]
  left
  unfold Oper.wp
  rw [hr]
  show K (a.put o.dst _) _
  rw [hd]
  exact h
section
variable {N : Nat} {H D A K : Int}
theorem rsumW_ok (sh : Bool) (pub a text : List Nat) (pv tv : Value) (w : World) (hF : FitX (N : Int) H D A K) (ha : Pl a) (hp : Row .u8 256 w pv pub) (tp : Tidy pv) (ht : Row .u8 256 w tv text) (tt : Tidy tv) (hpl : pub.length = N) (htl : text.length ≤ 50000) :
    Calls Tryz.prog 16 #[slV (N : Int) H D A K sh, pv, .agg (arr .u8 a), tv] w fun e w' => ∃ v, e = .returned v ∧ Row .u8 256 w' v (sumW N sh pub a text) ∧ New w.heap.size v ∧ Below w.heap.size w w' := by
  cases sh
  · by_cases h1 : 16 < N
    · by_cases h2 : N < text.length
      · exact rsumW_m pub a text pv tv w hF ha hp tp ht tt hpl htl h1 h2
      · exact rsumW_f pub a text pv tv w hF ha hp tp ht tt hpl htl h1 h2
    · exact rsumW_s pub a text pv tv w hF ha hp tp ht tt hpl htl h1
  · exact rsumW_t pub a text pv tv w hF ha hp tp ht tt hpl htl
theorem fitN (hF : FitX (N : Int) H D A K) : 16 ≤ N ∧ N ≤ 32 := by have := hF.1; omega
theorem boxW (w : World) (sh : Bool) {a : List Nat} : BxSW ((w.alloc (.cells #[.int .i64 (N : Int), .int .i64 H, .int .i64 D, .int .i64 A, .int .i64 K, .bool sh] 23)).alloc (.cells (arr .u8 a) 25)) w.heap.size (N : Int) H D A K sh ∧ Lies .u8 25 ((w.alloc (.cells #[.int .i64 (N : Int), .int .i64 H, .int .i64 D, .int .i64 A, .int .i64 K, .bool sh] 23)).alloc (.cells (arr .u8 a) 25)) (w.heap.size + 1) a ∧ Below w.heap.size w ((w.alloc (.cells #[.int .i64 (N : Int), .int .i64 H, .int .i64 D, .int .i64 A, .int .i64 K, .bool sh] 23)).alloc (.cells (arr .u8 a) 25)) := by
  have L0 := Lies.new .u8 25 (w.alloc (.cells #[.int .i64 (N : Int), .int .i64 H, .int .i64 D, .int .i64 A, .int .i64 K, .bool sh] 23)) a
  rw [World.size_alloc] at L0
  exact ⟨(BxSW.new w (N : Int) H D A K sh).below (keep_alloc _ _), L0, keep_trans (keep_alloc _ _) (keep_alloc _ _)⟩
theorem rdrawW_ok (sh : Bool) (pub a secret : List Nat) (pv sv : Value) (w : World) (hF : FitX (N : Int) H D A K) (ha : Pl a) (hp : Row .u8 256 w pv pub) (tp : Tidy pv) (hs : Row .u8 256 w sv secret) (ts : Tidy sv) (hpl : pub.length = N) (hsl : secret.length = N) :
    Calls Tryz.prog 18 #[slV (N : Int) H D A K sh, pv, sv, .agg (arr .u8 a)] w fun e w' => ∃ v, e = .returned v ∧ Row .u8 256 w' v (sumW N sh pub a secret) ∧ New w.heap.size v ∧ Below w.heap.size w w' := by
  have hN := fitN hF
  obtain ⟨bx, La, k0⟩ := boxW (N := N) (H := H) (D := D) (A := A) (K := K) w sh (a := a)
  have hsum := rsumW_ok sh pub a secret pv sv _ hF ha (hp.below k0) tp (hs.below k0) ts hpl (by omega)
  obtain ⟨pa, pc, rfl, _⟩ := hp.opens hpl
  obtain ⟨sa, sc, rfl, _⟩ := hs.opens hsl
  unfold slV at hsum ⊢
  generalize sumW N sh pub a secret = SS at *
  have c0 := bx.c0
  have hal := ha.1
  clear hF hN hpl hsl hp hs
  go_enter Tryz.func18, Tryz.ntmps18
  go_wp2_with (first
    | (refine wpList_load_rowS (by rfl) 23 _ (by rfl) w.heap.size (by rfl) _ _ _ _ bx.here Tryz.underlying23 (by kernel_rfl) ?_)
    | (refine wpList_load_row rfl 25 _ (by rfl) (w.heap.size + 1) (by rfl) _ _ _ (.array 32 5) La (by kernel_rfl) rfl (by rw [arr_size, hal]; kernel_rfl) ?_)
    | (go_at_call 16; refine hsum.mono ?_; rintro e w1 ⟨v, rfl, r1, n1, g1⟩)
    | fail)
  go_ret
  exact ⟨_, rfl, r1, n1.mono k0.size, keep_trans k0 g1⟩
def WcL (w W0 : World) (Fs : List Nat → List Nat → List Nat) (a : List Nat) (F n : Nat) (y : List Nat) (yv vy vj : Value) (wr : World) : Prop := ∃ k : Nat, k ≤ n ∧ vj = .int .u32 ((F + k : Nat) : Int) ∧ Row .u8 256 wr vy (wch Fs a F k y) ∧ Tidy vy ∧ (New w.heap.size vy ∨ vy = yv) ∧ Below W0.heap.size W0 wr
def ch4lt : List Lt := [(0, some 20, [6]), (0, some 21, [4]), (0, some 22, [11]), (0, some 23, [13]), (8, some 24, [23]), (20, some 25, [22, 24]), (0, some 26, [1]), (99, some 27, [20, 21, 25, 26]), (255, some 1, [27])]
theorem ch4reg : Reg (opsA (cBA (cLA (cRA (cLpA (cBA (cRA (cLA (cRA (Tryz.f46.body.getD .skip)))))))))) ch4lt := ⟨by kernel_rfl, by kernel_rfl⟩
theorem rchainW_any (sh : Bool) (pub a y : List Nat) (F n : Nat) (pv yv : Value) (w : World) (hF : FitX (N : Int) H D A K) (ha : Pl a) (hp : Row .u8 256 w pv pub) (tp : Tidy pv) (hy : Row .u8 256 w yv y) (ty : Tidy yv) (hpl : pub.length = N) (hyl : y.length = N) (hFn : F + n ≤ 16) :
    Calls Tryz.prog 46 #[slV (N : Int) H D A K sh, yv, .int .u32 (F : Int), .int .u32 ((F + n : Nat) : Int), pv, .agg (arr .u8 a)] w fun e w' => ∃ v, e = .returned v ∧ Row .u8 256 w' v (wch (fun p x => sumW N sh pub p x) a F n y) ∧ Tidy v ∧ (New w.heap.size v ∨ v = yv) ∧ Below w.heap.size w w' := by
  have hN := fitN hF
  obtain ⟨bx, La, k0⟩ := boxW (N := N) (H := H) (D := D) (A := A) (K := K) w sh (a := a)
  obtain ⟨pa, pc, rfl, _⟩ := hp.opens hpl
  have hS : ∀ (b : Nat) (z : List Nat) x zv, z.length = N → Row .u8 256 x (.slice pa N pc) pub → Row .u8 256 x zv z → Tidy zv → Calls Tryz.prog 16 #[slV (N : Int) H D A K sh, .slice pa N pc, .agg (arr .u8 (putA a 5 b)), zv] x fun e w' => ∃ v, e = .returned v ∧ Row .u8 256 w' v (sumW N sh pub (putA a 5 b) z) ∧ New x.heap.size v ∧ Below x.heap.size x w' := fun b z x zv hz rp rz tz => rsumW_ok sh pub (putA a 5 b) z _ zv x hF (ha.put 5 b) rp tp rz tz hpl (by omega)
  have hP := fun (b : Nat) (hb : b < 18446744073709551616) x => rput_any a 5 b x ha hb
  obtain ⟨Fs, hFs⟩ : ∃ Fs : List Nat → List Nat → List Nat, Fs = fun p x => sumW N sh pub p x := ⟨_, rfl⟩
  have hFl : ∀ p x, (Fs p x).length = N := fun p x => by rw [hFs]; exact sumW_len hN.2 _ _ _ _
  have hFe : ∀ p x, sumW N sh pub p x = Fs p x := fun p x => by rw [hFs]
  rw [← hFs]
  simp only [hFe] at hS
  have hwl : ∀ k, (wch Fs a F k y).length = N := wch_len hFl F y hyl
  unfold slV at hS ⊢
  obtain ⟨W0, hW0⟩ : ∃ W0 : World, W0 = (w.alloc (.cells #[.int .i64 (N : Int), .int .i64 H, .int .i64 D, .int .i64 A, .int .i64 K, .bool sh] 23)).alloc (.cells (arr .u8 a) 25) := ⟨_, rfl⟩
  rw [← hW0] at bx La k0
  obtain ⟨T, hTT⟩ : ∃ T : Nat, T = F + n := ⟨_, rfl⟩
  rw [← hTT]
  have H0 := hide (show WcL w W0 Fs a F n y yv yv (.int .u32 (F : Int)) W0 from ⟨0, Nat.zero_le _, rfl, hy.below k0, ty, .inr rfl, Below.refl _ _⟩)
  have HA := hide (And.intro bx (And.intro La (And.intro (hp.below k0) (And.intro k0 (And.intro hwl (And.intro hTT (And.intro hFn ha)))))))
  have hSH := hide hS
  have hPH := hide hP
  obtain ⟨ya0, yc0, rfl, _⟩ := hy.opens hyl
  have hNp := hide (show 0 < N by omega)
  clear bx La k0 hS hP hFs hFl hFe hwl hTT hFn hF hp hy ty hyl hpl ha hN
  go_enter Tryz.func46, Tryz.ntmps46
  go_wp2
  rw [← hW0]
  clear hW0
  go_loopw [1, 13] (fun vy vj wr => WcL w W0 Fs a F n y (.slice ya0 N yc0) vy vj wr) (fun _ vj _ => T - (intOf vj).toNat)
  case atStart => exact H0.out
  case round =>
    obtain ⟨k, hk, rfl, rY, tY, nY, hbr⟩ := hrel
    obtain ⟨bx0, La0, rp0, k0, hwl, hTT, hFn, ha⟩ := HA.out
    clear H0
    rename World => wr
    have bx := bx0.below hbr
    have La := La0.below hbr
    have rp := rp0.below hbr
    obtain ⟨b, hb⟩ : ∃ b : Nat, b = F + k := ⟨_, rfl⟩
    rw [← hb]
    obtain ⟨ya, yc, rfl, _⟩ := rY.opens (hwl k)
    by_cases hlt : k < n
    · have hbT : (b : Int) < (T : Int) := by omega
      have hb16 : b < 16 := by omega
      have hput := hPH.out b (by omega)
      have hsum := fun x zv => hSH.out b (wch Fs a F k y) x zv (hwl k)
      have hst : Fs (putA a 5 b) (wch Fs a F k y) = wch Fs a F (k + 1) y := by rw [hb]; rfl
      rw [hst] at hsum
      have hpl := (ha.put 5 b).1
      generalize putA a 5 b = PA at *
      obtain ⟨Q, hQ⟩ : ∃ x : Nat, x = b + 1 := ⟨_, rfl⟩
      have e_Q : (b : Int) + 1 = (Q : Int) := by omega
      have s_Q : IntKind.u32.wrap (Q : Int) = (Q : Int) := by rw [IntKind.wrap_u32]; omega
      have ry := rY
      have ty := tY
      have hbd : Below wr.heap.size wr wr.drew := (Below.refl _ _).drew
      have HK := hide (And.intro hb (And.intro hQ (And.intro hlt (And.intro hbr (And.intro hTT k0)))))
      clear hb hQ hlt hbr hwl hTT hst hk rY nY bx0 La0 rp0 hFn k0 hpl
      go_wp2
      refine at_begin (ops := opsA (cBA (cLA (cRA (cLpA (cBA (cRA (cLA (cRA (Tryz.f46.body.getD .skip)))))))))) (n := 9) (fun y => Below wr.heap.size wr y) (by kernel_rfl) (by kernel_rfl) ?_
      refine tkP 0 1 20 (.agg #[.int .i64 (N : Int), .int .i64 H, .int .i64 D, .int .i64 A, .int .i64 K, .bool sh]) ch4reg rfl (by decide) rfl rfl (y_rowG (cs := [.int .i64 (N : Int), .int .i64 H, .int .i64 D, .int .i64 A, .int .i64 K, .bool sh]) (wF rfl) rfl rfl Tryz.underlying23 rfl (by kernel_rfl) (fun _ h => (bx.below h).range)) hbd ?_
      simp only [Act.put, plI, plZ, plS]
      refine tkP 1 3 21 (.slice pa N pc) ch4reg rfl (by decide) rfl rfl (y_moveG (wF rfl) rfl rfl) hbd ?_
      simp only [Act.put, plI, plZ, plS]
      refine tkP 2 7 22 (.agg (arr .u8 a)) ch4reg rfl (by decide) rfl rfl (y_rowG (cs := vals .u8 a) (wF rfl) rfl rfl Tryz.underlying25 rfl (by rw [vals_length, ha.1]; kernel_rfl) (fun _ h => lies_rangeW (La.below h))) hbd ?_
      simp only [Act.put, plI, plZ, plS]
      refine tkP 3 15 23 (.int .u32 (b : Int)) ch4reg rfl (by decide) rfl rfl (y_moveG (wF rfl) rfl rfl) hbd ?_
      simp only [Act.put, plI, plZ, plS]
      refine tkP 4 31 24 (.int .u64 (b : Int)) ch4reg rfl (by decide) rfl rfl (y_convI (wF rfl) rfl rfl (conv_u32u64W b (by omega))) hbd ?_
      simp only [Act.put, plI, plZ, plS]
      refine tkP 6 95 26 (.slice ya N yc) ch4reg rfl (by decide) rfl rfl (y_moveG (wF rfl) rfl rfl) hbd ?_
      simp only [Act.put, plI, plZ, plS]
      refine at_one (i := 5) (m' := 127) ch4reg (by decide) rfl ?_
      refine p_callG (args := #[.agg (arr .u8 a), .int .i64 5, .int .u64 (b : Int)]) (d := some 25) rfl (wF rfl) rfl (by simp only [List.map_toArray, List.map_cons, List.map_nil]; rfl) rfl Tryz.call10 ((hput wr.drew).mono ?_)
      rintro e y7 ⟨rfl, g7⟩
      have hb7 := keep_trans hbd g7
      refine ⟨_, rfl, hb7, ?_⟩
      simp only [Act.put, plI, plZ, plS]
      refine at_one (i := 7) (m' := 255) ch4reg (by decide) rfl ?_
      refine p_callG (args := #[.agg #[.int .i64 (N : Int), .int .i64 H, .int .i64 D, .int .i64 A, .int .i64 K, .bool sh], .slice pa N pc, .agg (arr .u8 PA), .slice ya N yc]) (d := some 27) rfl (wF rfl) rfl (by simp only [List.map_toArray, List.map_cons, List.map_nil]; rfl) rfl Tryz.call16 ((hsum y7 _ (rp.below hb7) (ry.below hb7) ty).mono ?_)
      rintro e y8 ⟨xv, rfl, rx, nx, g8⟩
      have kbs := (hb7).size
      have hb8 := keep_trans hb7 g8
      refine ⟨_, rfl, hb8, ?_⟩
      simp only [Act.put, plI, plZ, plS]
      refine tkP 8 511 1 (xv) ch4reg rfl (by decide) rfl rfl (y_assignG (wF rfl) rfl rfl) hb8 ?_
      simp only [Act.put, plI, plZ, plS]
      refine at_done ch4reg (by decide) ?_
      go_wp2
      obtain ⟨hb, hQ, hlt, hbr, hTT, k0⟩ := HK.out
      exact ⟨⟨k + 1, by omega, by rw [hQ, hb]; rfl, rx, new_ntidy rx (by rw [HA.out.2.2.2.2.1]; have := HA.out.2.2.2.2.2.2.2; have hN0 : 0 < N := hNp.out; omega), .inl (nx.mono (Nat.le_trans (Nat.le_trans k0.size hbr.size) kbs)), keep_trans hbr hb8⟩, by simp [intOf]; omega⟩
    · obtain rfl : k = n := by omega
      have hge : ¬ ((b : Int) < (T : Int)) := by omega
      have HK := hide (And.intro rY (And.intro (keep_trans k0 hbr) nY))
      clear rY nY hbr hwl hb k0
      go_wp2
      go_ret
      exact ⟨_, rfl, HK.out.1, tY, HK.out.2.2, HK.out.2.1⟩
def bg1lt : List Lt := [(0, some 12, [8]), (1, some 13, [12]), (0, some 14, [8]), (6, some 15, [14]), (10, some 16, [13, 15]), (0, some 11, []), (63, none, [11, 16])]
theorem bg1reg : Reg (opsA (cLA (cRA (Tryz.f47.body.getD .skip)))) bg1lt := ⟨by kernel_rfl, by kernel_rfl⟩
theorem bg_reg {Q : Exit → Act → World → Prop} {x0 x1 x2 x3 x4 x5 x6 x7 x9 x10 x11 x12 x13 x14 x15 x16 x17 x18 x19 x20 x21 x22 x23 x24 : Value} {B q : Nat} {a P1 P2 : List Nat} {W : World} (ha : Pl a) (La : Lies .u8 25 W B a) (h2l : P2.length = 32)
    (hp1 : ∀ x, Calls Tryz.prog 10 #[.agg (arr .u8 a), .int .i64 2, .int .u64 5] x fun e w' => e = .returned (.agg (arr .u8 P1)) ∧ Below x.heap.size x w')
    (hpr : ∀ x, Calls Tryz.prog 64 #[.agg (arr .u8 a)] x fun e w' => e = .returned (.int .u64 (q : Int)) ∧ Below x.heap.size x w')
    (hp2 : ∀ x, Calls Tryz.prog 10 #[.agg (arr .u8 P1), .int .i64 3, .int .u64 (q : Int)] x fun e w' => e = .returned (.agg (arr .u8 P2)) ∧ Below x.heap.size x w')
    (hQ : ∀ (y12 y13 y14 y15 y16 : Value) (Z : Nat) (z : World), Lies .u8 25 z Z P2 → W.heap.size ≤ Z → Below W.heap.size W z → Q .normal { tmps := #[x0, x1, x2, x3, x4, x5, x6, x7, .pointer (some ⟨B, 0, none⟩), x9, x10, .pointer (some ⟨Z, 0, none⟩), y12, y13, y14, y15, y16, x17, x18, x19, x20, x21, x22, x23, x24], defers := [] } z) :
    (Code.region 1 (opsA (cLA (cRA (Tryz.f47.body.getD .skip)))) true).wp Tryz.prog Q { tmps := #[x0, x1, x2, x3, x4, x5, x6, x7, .pointer (some ⟨B, 0, none⟩), x9, x10, x11, x12, x13, x14, x15, x16, x17, x18, x19, x20, x21, x22, x23, x24], defers := [] } W := by
  have hbd : Below W.heap.size W W.drew := (Below.refl _ _).drew
  refine at_begin (ops := opsA (cLA (cRA (Tryz.f47.body.getD .skip)))) (n := 7) (fun y => Below W.heap.size W y) (by kernel_rfl) (by kernel_rfl) ?_
  refine tkP 0 1 12 (.agg (arr .u8 a)) bg1reg rfl (by decide) rfl rfl (y_rowG (cs := vals .u8 a) (wF rfl) rfl rfl Tryz.underlying25 rfl (by rw [vals_length, ha.1]; kernel_rfl) (fun _ h => lies_rangeW (La.below h))) hbd ?_
  simp only [Act.put, plI, plZ, plS]
  refine tkP 2 5 14 (.agg (arr .u8 a)) bg1reg rfl (by decide) rfl rfl (y_rowG (cs := vals .u8 a) (wF rfl) rfl rfl Tryz.underlying25 rfl (by rw [vals_length, ha.1]; kernel_rfl) (fun _ h => lies_rangeW (La.below h))) hbd ?_
  simp only [Act.put, plI, plZ, plS]
  refine at_two (i := 1) (j := 5) (m1 := 7) (m2 := 37) bg1reg (by decide) rfl rfl ?_ ?_
  · refine p_callG (args := #[.agg (arr .u8 a), .int .i64 2, .int .u64 5]) (d := some 13) rfl (wF rfl) rfl (by simp only [List.map_toArray, List.map_cons, List.map_nil]; rfl) rfl Tryz.call10 ((hp1 W.drew).mono ?_)
    rintro e y3 ⟨rfl, g3⟩
    try replace lz := lz.below g3
    have hb3 := keep_trans hbd g3
    refine ⟨_, rfl, hb3, ?_⟩
    simp only [Act.put, plI, plZ, plS]
    refine at_two (i := 3) (j := 5) (m1 := 15) (m2 := 39) bg1reg (by decide) rfl rfl ?_ ?_
    · refine p_callG (args := #[.agg (arr .u8 a)]) (d := some 15) rfl (wF rfl) rfl (by simp only [List.map_toArray, List.map_cons, List.map_nil]; rfl) rfl Tryz.call64 ((hpr y3).mono ?_)
      rintro e y4 ⟨rfl, g4⟩
      try replace lz := lz.below g4
      have hb4 := keep_trans hb3 g4
      refine ⟨_, rfl, hb4, ?_⟩
      simp only [Act.put, plI, plZ, plS]
      refine at_two (i := 4) (j := 5) (m1 := 31) (m2 := 47) bg1reg (by decide) rfl rfl ?_ ?_
      · refine p_callG (args := #[.agg (arr .u8 P1), .int .i64 3, .int .u64 (q : Int)]) (d := some 16) rfl (wF rfl) rfl (by simp only [List.map_toArray, List.map_cons, List.map_nil]; rfl) rfl Tryz.call10 ((hp2 y4).mono ?_)
        rintro e y5 ⟨rfl, g5⟩
        try replace lz := lz.below g5
        have hb5 := keep_trans hb4 g5
        refine ⟨_, rfl, hb5, ?_⟩
        simp only [Act.put, plI, plZ, plS]
        refine at_one (i := 5) (m' := 63) bg1reg (by decide) rfl ?_
        refine p_allocAd rfl (wF rfl) rfl rfl ?_
        have hb6 := keep_trans hb5 (keep_alloc y5 (.cells (arr .u8 zP) 25))
        have lz := Lies.new .u8 25 y5 zP
        have hge := (hb5).size
        obtain ⟨Z, hZ⟩ : ∃ Z : Nat, y5.heap.size = Z := ⟨_, rfl⟩
        rw [hZ] at lz hge ⊢
        obtain ⟨z6, hz6⟩ : ∃ z : World, z = y5.alloc (.cells (arr .u8 zP) 25) := ⟨_, rfl⟩
        rw [← hz6] at lz hb6 ⊢
        clear hZ hz6
        refine ⟨hb6, ?_⟩
        simp only [Act.put, plI, plZ, plS]
        refine at_one (i := 6) (m' := 127) bg1reg (by decide) rfl ?_
        refine p_rowA (cells := arr .u8 P2) rfl rfl rfl rfl rfl rfl lz (by rw [arr_size, h2l]; kernel_rfl) (by rw [arr_size, arr_size, h2l]; rfl) (arr_one _ _) ?_
        have lf : Lies .u8 25 (z6.setRow Z (arr .u8 P2)) Z P2 := lz.row
        have hb7 : Below W.heap.size W (z6.setRow Z (arr .u8 P2)) := (hb6).trans (((But.refl Z _).setRow _).below hge (hb6).size)
        refine ⟨hb7, ?_⟩
        refine at_done bg1reg (by decide) ?_
        exact hQ _ _ _ _ _ _ _ lf hge hb7
      · refine p_allocAd rfl (wF rfl) rfl rfl ?_
        have hb5 := keep_trans hb4 (keep_alloc y4 (.cells (arr .u8 zP) 25))
        have lz := Lies.new .u8 25 y4 zP
        have hge := (hb4).size
        obtain ⟨Z, hZ⟩ : ∃ Z : Nat, y4.heap.size = Z := ⟨_, rfl⟩
        rw [hZ] at lz hge ⊢
        obtain ⟨z5, hz5⟩ : ∃ z : World, z = y4.alloc (.cells (arr .u8 zP) 25) := ⟨_, rfl⟩
        rw [← hz5] at lz hb5 ⊢
        clear hZ hz5
        refine ⟨hb5, ?_⟩
        simp only [Act.put, plI, plZ, plS]
        refine at_one (i := 4) (m' := 63) bg1reg (by decide) rfl ?_
        refine p_callG (args := #[.agg (arr .u8 P1), .int .i64 3, .int .u64 (q : Int)]) (d := some 16) rfl (wF rfl) rfl (by simp only [List.map_toArray, List.map_cons, List.map_nil]; rfl) rfl Tryz.call10 ((hp2 z5).mono ?_)
        rintro e y6 ⟨rfl, g6⟩
        try replace lz := lz.below g6
        have hb6 := keep_trans hb5 g6
        refine ⟨_, rfl, hb6, ?_⟩
        simp only [Act.put, plI, plZ, plS]
        refine at_one (i := 6) (m' := 127) bg1reg (by decide) rfl ?_
        refine p_rowA (cells := arr .u8 P2) rfl rfl rfl rfl rfl rfl lz (by rw [arr_size, h2l]; kernel_rfl) (by rw [arr_size, arr_size, h2l]; rfl) (arr_one _ _) ?_
        have lf : Lies .u8 25 (y6.setRow Z (arr .u8 P2)) Z P2 := lz.row
        have hb7 : Below W.heap.size W (y6.setRow Z (arr .u8 P2)) := (hb6).trans (((But.refl Z _).setRow _).below hge (hb6).size)
        refine ⟨hb7, ?_⟩
        refine at_done bg1reg (by decide) ?_
        exact hQ _ _ _ _ _ _ _ lf hge hb7
    · refine p_allocAd rfl (wF rfl) rfl rfl ?_
      have hb4 := keep_trans hb3 (keep_alloc y3 (.cells (arr .u8 zP) 25))
      have lz := Lies.new .u8 25 y3 zP
      have hge := (hb3).size
      obtain ⟨Z, hZ⟩ : ∃ Z : Nat, y3.heap.size = Z := ⟨_, rfl⟩
      rw [hZ] at lz hge ⊢
      obtain ⟨z4, hz4⟩ : ∃ z : World, z = y3.alloc (.cells (arr .u8 zP) 25) := ⟨_, rfl⟩
      rw [← hz4] at lz hb4 ⊢
      clear hZ hz4
      refine ⟨hb4, ?_⟩
      simp only [Act.put, plI, plZ, plS]
      refine at_one (i := 3) (m' := 47) bg1reg (by decide) rfl ?_
      refine p_callG (args := #[.agg (arr .u8 a)]) (d := some 15) rfl (wF rfl) rfl (by simp only [List.map_toArray, List.map_cons, List.map_nil]; rfl) rfl Tryz.call64 ((hpr z4).mono ?_)
      rintro e y5 ⟨rfl, g5⟩
      try replace lz := lz.below g5
      have hb5 := keep_trans hb4 g5
      refine ⟨_, rfl, hb5, ?_⟩
      simp only [Act.put, plI, plZ, plS]
      refine at_one (i := 4) (m' := 63) bg1reg (by decide) rfl ?_
      refine p_callG (args := #[.agg (arr .u8 P1), .int .i64 3, .int .u64 (q : Int)]) (d := some 16) rfl (wF rfl) rfl (by simp only [List.map_toArray, List.map_cons, List.map_nil]; rfl) rfl Tryz.call10 ((hp2 y5).mono ?_)
      rintro e y6 ⟨rfl, g6⟩
      try replace lz := lz.below g6
      have hb6 := keep_trans hb5 g6
      refine ⟨_, rfl, hb6, ?_⟩
      simp only [Act.put, plI, plZ, plS]
      refine at_one (i := 6) (m' := 127) bg1reg (by decide) rfl ?_
      refine p_rowA (cells := arr .u8 P2) rfl rfl rfl rfl rfl rfl lz (by rw [arr_size, h2l]; kernel_rfl) (by rw [arr_size, arr_size, h2l]; rfl) (arr_one _ _) ?_
      have lf : Lies .u8 25 (y6.setRow Z (arr .u8 P2)) Z P2 := lz.row
      have hb7 : Below W.heap.size W (y6.setRow Z (arr .u8 P2)) := (hb6).trans (((But.refl Z _).setRow _).below hge (hb6).size)
      refine ⟨hb7, ?_⟩
      refine at_done bg1reg (by decide) ?_
      exact hQ _ _ _ _ _ _ _ lf hge hb7
  · refine p_allocAd rfl (wF rfl) rfl rfl ?_
    have hb3 := keep_trans hbd (keep_alloc W.drew (.cells (arr .u8 zP) 25))
    have lz := Lies.new .u8 25 W.drew zP
    have hge := (hbd).size
    obtain ⟨Z, hZ⟩ : ∃ Z : Nat, W.drew.heap.size = Z := ⟨_, rfl⟩
    rw [hZ] at lz hge ⊢
    obtain ⟨z3, hz3⟩ : ∃ z : World, z = W.drew.alloc (.cells (arr .u8 zP) 25) := ⟨_, rfl⟩
    rw [← hz3] at lz hb3 ⊢
    clear hZ hz3
    refine ⟨hb3, ?_⟩
    simp only [Act.put, plI, plZ, plS]
    refine at_one (i := 1) (m' := 39) bg1reg (by decide) rfl ?_
    refine p_callG (args := #[.agg (arr .u8 a), .int .i64 2, .int .u64 5]) (d := some 13) rfl (wF rfl) rfl (by simp only [List.map_toArray, List.map_cons, List.map_nil]; rfl) rfl Tryz.call10 ((hp1 z3).mono ?_)
    rintro e y4 ⟨rfl, g4⟩
    try replace lz := lz.below g4
    have hb4 := keep_trans hb3 g4
    refine ⟨_, rfl, hb4, ?_⟩
    simp only [Act.put, plI, plZ, plS]
    refine at_one (i := 3) (m' := 47) bg1reg (by decide) rfl ?_
    refine p_callG (args := #[.agg (arr .u8 a)]) (d := some 15) rfl (wF rfl) rfl (by simp only [List.map_toArray, List.map_cons, List.map_nil]; rfl) rfl Tryz.call64 ((hpr y4).mono ?_)
    rintro e y5 ⟨rfl, g5⟩
    try replace lz := lz.below g5
    have hb5 := keep_trans hb4 g5
    refine ⟨_, rfl, hb5, ?_⟩
    simp only [Act.put, plI, plZ, plS]
    refine at_one (i := 4) (m' := 63) bg1reg (by decide) rfl ?_
    refine p_callG (args := #[.agg (arr .u8 P1), .int .i64 3, .int .u64 (q : Int)]) (d := some 16) rfl (wF rfl) rfl (by simp only [List.map_toArray, List.map_cons, List.map_nil]; rfl) rfl Tryz.call10 ((hp2 y5).mono ?_)
    rintro e y6 ⟨rfl, g6⟩
    try replace lz := lz.below g6
    have hb6 := keep_trans hb5 g6
    refine ⟨_, rfl, hb6, ?_⟩
    simp only [Act.put, plI, plZ, plS]
    refine at_one (i := 6) (m' := 127) bg1reg (by decide) rfl ?_
    refine p_rowA (cells := arr .u8 P2) rfl rfl rfl rfl rfl rfl lz (by rw [arr_size, h2l]; kernel_rfl) (by rw [arr_size, arr_size, h2l]; rfl) (arr_one _ _) ?_
    have lf : Lies .u8 25 (y6.setRow Z (arr .u8 P2)) Z P2 := lz.row
    have hb7 : Below W.heap.size W (y6.setRow Z (arr .u8 P2)) := (hb6).trans (((But.refl Z _).setRow _).below hge (hb6).size)
    refine ⟨hb7, ?_⟩
    refine at_done bg1reg (by decide) ?_
    exact hQ _ _ _ _ _ _ _ lf hge hb7
def bg2lt : List Lt := [(0, some 17, [5]), (0, some 18, [2]), (0, some 19, [1]), (0, some 20, [11]), (0, some 21, [4]), (16, some 22, [21]), (40, some 23, [20, 22]), (71, some 24, [17, 18, 19, 23]), (255, some 10, [24])]
theorem bg2reg : Reg (opsA (cLA (cRA (cRA (Tryz.f47.body.getD .skip))))) bg2lt := ⟨by kernel_rfl, by kernel_rfl⟩
theorem rbeginW_any (sh : Bool) (pub a secret : List Nat) (i : Nat) (pv sv : Value) (w : World) (hF : FitX (N : Int) H D A K) (ha : Pl a) (hp : Row .u8 256 w pv pub) (tp : Tidy pv) (hs : Row .u8 256 w sv secret) (ts : Tidy sv) (hpl : pub.length = N) (hsl : secret.length = N) (hi : i < 65536) :
    Calls Tryz.prog 47 #[slV (N : Int) H D A K sh, sv, pv, .agg (arr .u8 a), .int .i64 (i : Int)] w fun e w' => ∃ v, e = .returned v ∧ Row .u8 256 w' v (wbg (fun p x => sumW N sh pub p x) a secret i) ∧ New w.heap.size v ∧ Below w.heap.size w w' := by
  obtain ⟨bx0, La, k0⟩ := boxW (N := N) (H := H) (D := D) (A := A) (K := K) w sh (a := a)
  obtain ⟨pa, pc, rfl, _⟩ := hp.opens hpl
  obtain ⟨sa, sc, rfl, _⟩ := hs.opens hsl
  have hq64 : pairA a < 18446744073709551616 := by
    have : (List.take 4 (List.drop 20 a)).length = 4 := by rw [List.length_take, List.length_drop, ha.1]; decide
    have := numL_small ((a.drop 20).take 4) (fun x hx => ha.2 x (List.mem_of_mem_drop (List.mem_of_mem_take hx))) 8 (by decide) (by omega)
    unfold pairA
    omega
  have h1 := ha.put 2 5
  have h2 := h1.put 3 (pairA a)
  have h3 := h2.put 4 i
  have hp1 := fun x => rput_any a 2 5 x ha (by decide)
  have hpr := fun x => rpair_any a x ha
  have hp2 := fun x => rput_any (putA a 2 5) 3 (pairA a) x h1 hq64
  have hp3 := fun x => rput_any (putA (putA a 2 5) 3 (pairA a)) 4 i x h2 (by omega)
  have hdr := fun x pv sv (rp : Row .u8 256 x pv pub) (rs : Row .u8 256 x sv secret) (tp : Tidy pv) (ts : Tidy sv) => rdrawW_ok sh pub (putA (putA (putA a 2 5) 3 (pairA a)) 4 i) secret pv sv x hF h3 rp tp rs ts hpl hsl
  unfold slV at hdr ⊢
  unfold wbg
  dsimp only
  generalize putA (putA (putA a 2 5) 3 (pairA a)) 4 i = P3 at *
  generalize putA (putA a 2 5) 3 (pairA a) = P2 at *
  generalize putA a 2 5 = P1 at *
  generalize pairA a = q at *
  generalize sumW N sh pub P3 secret = SS at *
  obtain ⟨W0, hW0⟩ : ∃ W0 : World, W0 = (w.alloc (.cells #[.int .i64 (N : Int), .int .i64 H, .int .i64 D, .int .i64 A, .int .i64 K, .bool sh] 23)).alloc (.cells (arr .u8 a) 25) := ⟨_, rfl⟩
  rw [← hW0] at bx0 La k0
  have rp0 := hp.below k0
  have rs0 := hs.below k0
  have h2l := h2.1
  clear hp hs hpl hsl hF
  go_enter Tryz.func47, Tryz.ntmps47
  go_wp2
  rw [← hW0]
  refine bg_reg ha La h2l hp1 hpr hp2 ?_
  intro y12 y13 y14 y15 y16 Z z lf hge hbz
  have bx := bx0.below hbz
  have rp := rp0.below hbz
  have rs := rs0.below hbz
  have kz := keep_trans k0 hbz
  clear bx0 La rp0 rs0 k0 hp1 hp2 hpr hW0 hge hbz h2l
  go_wp2
  have hbd : Below z.heap.size z z.drew := (Below.refl _ _).drew
  have hdr := fun x pv sv rp rs => hdr x pv sv rp rs
  refine at_begin (ops := opsA (cLA (cRA (cRA (Tryz.f47.body.getD .skip))))) (n := 9) (fun y => Below z.heap.size z y) (by kernel_rfl) (by kernel_rfl) ?_
  refine tkP 0 1 17 (.agg #[.int .i64 (N : Int), .int .i64 H, .int .i64 D, .int .i64 A, .int .i64 K, .bool sh]) bg2reg rfl (by decide) rfl rfl (y_rowG (cs := [.int .i64 (N : Int), .int .i64 H, .int .i64 D, .int .i64 A, .int .i64 K, .bool sh]) (wF rfl) rfl rfl Tryz.underlying23 rfl (by kernel_rfl) (fun _ h => (bx.below h).range)) hbd ?_
  simp only [Act.put, plI, plZ, plS]
  refine tkP 1 3 18 (.slice pa N pc) bg2reg rfl (by decide) rfl rfl (y_moveG (wF rfl) rfl rfl) hbd ?_
  simp only [Act.put, plI, plZ, plS]
  refine tkP 2 7 19 (.slice sa N sc) bg2reg rfl (by decide) rfl rfl (y_moveG (wF rfl) rfl rfl) hbd ?_
  simp only [Act.put, plI, plZ, plS]
  refine tkP 3 15 20 (.agg (arr .u8 P2)) bg2reg rfl (by decide) rfl rfl (y_rowG (cs := vals .u8 P2) (wF rfl) rfl rfl Tryz.underlying25 rfl (by rw [vals_length, h2.1]; kernel_rfl) (fun _ h => lies_rangeW (lf.below h))) hbd ?_
  simp only [Act.put, plI, plZ, plS]
  refine tkP 4 31 21 (.int .i64 (i : Int)) bg2reg rfl (by decide) rfl rfl (y_moveG (wF rfl) rfl rfl) hbd ?_
  simp only [Act.put, plI, plZ, plS]
  refine tkP 5 63 22 (.int .u64 (i : Int)) bg2reg rfl (by decide) rfl rfl (y_convI (wF rfl) rfl rfl (conv_i64u64W i (by omega))) hbd ?_
  simp only [Act.put, plI, plZ, plS]
  refine at_one (i := 6) (m' := 127) bg2reg (by decide) rfl ?_
  refine p_callG (args := #[.agg (arr .u8 P2), .int .i64 4, .int .u64 (i : Int)]) (d := some 23) rfl (wF rfl) rfl (by simp only [List.map_toArray, List.map_cons, List.map_nil]; rfl) rfl Tryz.call10 ((hp3 z.drew).mono ?_)
  rintro e y7 ⟨rfl, g7⟩
  have hb7 := keep_trans hbd g7
  refine ⟨_, rfl, hb7, ?_⟩
  simp only [Act.put, plI, plZ, plS]
  refine at_one (i := 7) (m' := 255) bg2reg (by decide) rfl ?_
  refine p_callG (args := #[.agg #[.int .i64 (N : Int), .int .i64 H, .int .i64 D, .int .i64 A, .int .i64 K, .bool sh], .slice pa N pc, .slice sa N sc, .agg (arr .u8 P3)]) (d := some 24) rfl (wF rfl) rfl (by simp only [List.map_toArray, List.map_cons, List.map_nil]; rfl) rfl Tryz.call18 ((hdr y7 _ _ (rp.below hb7) (rs.below hb7) tp ts).mono ?_)
  rintro e y8 ⟨xv, rfl, rx, nx, g8⟩
  have kbs := (hb7).size
  have hb8 := keep_trans hb7 g8
  refine ⟨_, rfl, hb8, ?_⟩
  simp only [Act.put, plI, plZ, plS]
  refine tkP 8 511 10 (xv) bg2reg rfl (by decide) rfl rfl (y_assignG (wF rfl) rfl rfl) hb8 ?_
  simp only [Act.put, plI, plZ, plS]
  refine at_done bg2reg (by decide) ?_
  go_wp2
  go_ret
  exact ⟨_, rfl, rx, nx.mono (Nat.le_trans kz.size kbs), keep_trans kz hb8⟩
def ky1lt : List Lt := [(0, some 9, [4]), (0, some 10, [2]), (0, some 11, [7]), (4, some 12, [11]), (0, some 13, [7]), (24, some 14, [13]), (40, some 15, [12, 14]), (0, some 16, [1]), (192, some 17, [16]), (323, some 18, [9, 10, 15, 17]), (1023, some 8, [18])]
theorem ky1reg : Reg (opsA (cLA (cRA (Tryz.f48.body.getD .skip)))) ky1lt := ⟨by kernel_rfl, by kernel_rfl⟩
theorem rkeyW_any (sh : Bool) (pub a : List Nat) (ends : List (List Nat)) (pv ev : Value) (w : World) (hF : FitX (N : Int) H D A K) (ha : Pl a) (hp : Row .u8 256 w pv pub) (tp : Tidy pv) (he : Rows2 w ev ends) (hpl : pub.length = N) (hel : ends.flatten.length ≤ 50000) :
    Calls Tryz.prog 48 #[slV (N : Int) H D A K sh, ev, pv, .agg (arr .u8 a)] w fun e w' => ∃ v, e = .returned v ∧ Row .u8 256 w' v (wky (fun p x => sumW N sh pub p x) a ends) ∧ New w.heap.size v ∧ Below w.heap.size w w' := by
  obtain ⟨bx, La, k0⟩ := boxW (N := N) (H := H) (D := D) (A := A) (K := K) w sh (a := a)
  obtain ⟨pa, pc, rfl, _⟩ := hp.opens hpl
  have hq64 : pairA a < 18446744073709551616 := by
    have : (List.take 4 (List.drop 20 a)).length = 4 := by rw [List.length_take, List.length_drop, ha.1]; decide
    have := numL_small ((a.drop 20).take 4) (fun x hx => ha.2 x (List.mem_of_mem_drop (List.mem_of_mem_take hx))) 8 (by decide) (by omega)
    unfold pairA
    omega
  have h1 := ha.put 2 1
  have h2 := h1.put 3 (pairA a)
  have hp1 := fun x => rput_any a 2 1 x ha (by decide)
  have hpr := fun x => rpair_any a x ha
  have hp2 := fun x => rput_any (putA a 2 1) 3 (pairA a) x h1 hq64
  have hjn := fun x lv (r : Rows2 x lv ends) => rjoin_any lv _ x r (by omega)
  have hsum := fun x pv tv (rp : Row .u8 256 x pv pub) (rt : Row .u8 256 x tv ends.flatten) (tt : Tidy tv) (tp : Tidy pv) => rsumW_ok sh pub (putA (putA a 2 1) 3 (pairA a)) ends.flatten pv tv x hF h2 rp tp rt tt hpl hel
  unfold slV at hsum ⊢
  unfold wky
  dsimp only
  generalize putA (putA a 2 1) 3 (pairA a) = P2 at *
  generalize putA a 2 1 = P1 at *
  generalize pairA a = q at *
  have re0 := he
  obtain ⟨ea, ec, rfl, _⟩ := he
  obtain ⟨EE, hEE⟩ : ∃ x, x = ends.flatten := ⟨_, rfl⟩
  rw [← hEE] at hjn hsum ⊢
  generalize sumW N sh pub P2 EE = SS at *
  generalize ends.length = en at *
  obtain ⟨W0, hW0⟩ : ∃ W0 : World, W0 = (w.alloc (.cells #[.int .i64 (N : Int), .int .i64 H, .int .i64 D, .int .i64 A, .int .i64 K, .bool sh] 23)).alloc (.cells (arr .u8 a) 25) := ⟨_, rfl⟩
  rw [← hW0] at bx La k0
  have rp := hp.below k0
  have re := re0.below k0
  have hbd : Below W0.heap.size W0 W0.drew := (Below.refl _ _).drew
  clear hp hpl hF hEE re0 hel
  go_enter Tryz.func48, Tryz.ntmps48
  go_wp2
  rw [← hW0]
  clear hW0
  refine at_begin (ops := opsA (cLA (cRA (Tryz.f48.body.getD .skip)))) (n := 11) (fun y => Below W0.heap.size W0 y) (by kernel_rfl) (by kernel_rfl) ?_
  refine tkP 0 1 9 (.agg #[.int .i64 (N : Int), .int .i64 H, .int .i64 D, .int .i64 A, .int .i64 K, .bool sh]) ky1reg rfl (by decide) rfl rfl (y_rowG (cs := [.int .i64 (N : Int), .int .i64 H, .int .i64 D, .int .i64 A, .int .i64 K, .bool sh]) (wF rfl) rfl rfl Tryz.underlying23 rfl (by kernel_rfl) (fun _ h => (bx.below h).range)) hbd ?_
  simp only [Act.put, plI, plZ, plS]
  refine tkP 1 3 10 (.slice pa N pc) ky1reg rfl (by decide) rfl rfl (y_moveG (wF rfl) rfl rfl) hbd ?_
  simp only [Act.put, plI, plZ, plS]
  refine tkP 2 7 11 (.agg (arr .u8 a)) ky1reg rfl (by decide) rfl rfl (y_rowG (cs := vals .u8 a) (wF rfl) rfl rfl Tryz.underlying25 rfl (by rw [vals_length, ha.1]; kernel_rfl) (fun _ h => lies_rangeW (La.below h))) hbd ?_
  simp only [Act.put, plI, plZ, plS]
  refine tkP 4 23 13 (.agg (arr .u8 a)) ky1reg rfl (by decide) rfl rfl (y_rowG (cs := vals .u8 a) (wF rfl) rfl rfl Tryz.underlying25 rfl (by rw [vals_length, ha.1]; kernel_rfl) (fun _ h => lies_rangeW (La.below h))) hbd ?_
  simp only [Act.put, plI, plZ, plS]
  refine tkP 7 151 16 (.slice ea en ec) ky1reg rfl (by decide) rfl rfl (y_moveG (wF rfl) rfl rfl) hbd ?_
  simp only [Act.put, plI, plZ, plS]
  refine at_one (i := 3) (m' := 159) ky1reg (by decide) rfl ?_
  refine p_callG (args := #[.agg (arr .u8 a), .int .i64 2, .int .u64 1]) (d := some 12) rfl (wF rfl) rfl (by simp only [List.map_toArray, List.map_cons, List.map_nil]; rfl) rfl Tryz.call10 ((hp1 W0.drew).mono ?_)
  rintro e y6 ⟨rfl, g6⟩
  have hb6 := keep_trans hbd g6
  refine ⟨_, rfl, hb6, ?_⟩
  simp only [Act.put, plI, plZ, plS]
  refine at_one (i := 5) (m' := 191) ky1reg (by decide) rfl ?_
  refine p_callG (args := #[.agg (arr .u8 a)]) (d := some 14) rfl (wF rfl) rfl (by simp only [List.map_toArray, List.map_cons, List.map_nil]; rfl) rfl Tryz.call64 ((hpr y6).mono ?_)
  rintro e y7 ⟨rfl, g7⟩
  have hb7 := keep_trans hb6 g7
  refine ⟨_, rfl, hb7, ?_⟩
  simp only [Act.put, plI, plZ, plS]
  refine at_one (i := 6) (m' := 255) ky1reg (by decide) rfl ?_
  refine p_callG (args := #[.agg (arr .u8 P1), .int .i64 3, .int .u64 (q : Int)]) (d := some 15) rfl (wF rfl) rfl (by simp only [List.map_toArray, List.map_cons, List.map_nil]; rfl) rfl Tryz.call10 ((hp2 y7).mono ?_)
  rintro e y8 ⟨rfl, g8⟩
  have hb8 := keep_trans hb7 g8
  refine ⟨_, rfl, hb8, ?_⟩
  simp only [Act.put, plI, plZ, plS]
  refine at_one (i := 8) (m' := 511) ky1reg (by decide) rfl ?_
  refine p_callG (args := #[.slice ea en ec]) (d := some 17) rfl (wF rfl) rfl (by simp only [List.map_toArray, List.map_cons, List.map_nil]; rfl) rfl Tryz.call37 ((hjn y8 _ (re.below hb8)).mono ?_)
  rintro e y9 ⟨jv, rfl, oj, g9⟩
  have rj := oj.row
  have tj := oj.tidy
  obtain ⟨ja, jc, rfl, _⟩ := rj.opens rfl
  have hb9 := keep_trans hb8 g9
  refine ⟨_, rfl, hb9, ?_⟩
  simp only [Act.put, plI, plZ, plS]
  refine at_one (i := 9) (m' := 1023) ky1reg (by decide) rfl ?_
  refine p_callG (args := #[.agg #[.int .i64 (N : Int), .int .i64 H, .int .i64 D, .int .i64 A, .int .i64 K, .bool sh], .slice pa N pc, .agg (arr .u8 P2), .slice ja EE.length jc]) (d := some 18) rfl (wF rfl) rfl (by simp only [List.map_toArray, List.map_cons, List.map_nil]; rfl) rfl Tryz.call16 ((hsum y9 _ _ (rp.below hb9) rj tj tp).mono ?_)
  rintro e y10 ⟨xv, rfl, rx, nx, g10⟩
  have kbs := (hb9).size
  have hb10 := keep_trans hb9 g10
  refine ⟨_, rfl, hb10, ?_⟩
  simp only [Act.put, plI, plZ, plS]
  refine tkP 10 2047 8 (xv) ky1reg rfl (by decide) rfl rfl (y_assignG (wF rfl) rfl rfl) hb10 ?_
  simp only [Act.put, plI, plZ, plS]
  refine at_done ky1reg (by decide) ?_
  go_wp2
  go_ret
  exact ⟨_, rfl, rx, nx.mono (Nat.le_trans k0.size kbs), keep_trans k0 hb10⟩
end
end Go.Proofs.YtpmobjfhhkglbaaGreatDoor
