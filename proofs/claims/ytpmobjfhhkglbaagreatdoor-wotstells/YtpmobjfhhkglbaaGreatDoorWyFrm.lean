/- How a kind of signatures and a place that came in are read. -/
import Derived.Test.YtpmobjfhhkglbaaGreatDoorWyU
import Derived.Test.YtpmobjfhhkglbaaGreatDoorWtF
import Derived.Test.YtpmobjfhhkglbaaGreatDoorWtC
import Derived.Test.YtpmobjfhhkglbaaGreatDoorPApp
import Derived.Test.YtpmobjfhhkglbaaGreatDoorWtP
import Derived.Deep.AppendLies
import Derived.Test.YtpmobjfhhkglbaaGreatDoorWyQ
import Derived.Test.YtpmobjfhhkglbaaGreatDoorHHsh
import Derived.Test.YtpmobjfhhkglbaaGreatDoorBitm
import Derived.ChangeKeysEq
namespace Go.Proofs.YtpmobjfhhkglbaaGreatDoor
open Go.ChangeShapes Go.WideShapes Go.ChangeAt Go.RowKit Go.Deep
set_option linter.unusedVariables false
set_option linter.unusedSimpArgs false

theorem Tryz.cellsSlW : Tryz.prog.cellsOf 23 = 6 := by kernel_rfl
theorem Tryz.cellsAdW : Tryz.prog.cellsOf 25 = 32 := by kernel_rfl
theorem Tryz.cellsIntW : Tryz.prog.cellsOf 3 = 1 := by kernel_rfl
theorem Tryz.cellsBoolW : Tryz.prog.cellsOf 4 = 1 := by kernel_rfl
/-- a kind, as it came in -/
structure SlIs (cs : Array Value) (xn xh xd xa xk : Int) (xs : Bool) : Prop where
  is : cs = #[.int .i64 xn, .int .i64 xh, .int .i64 xd, .int .i64 xa, .int .i64 xk, .bool xs]
  hn : -9223372036854775808 ≤ xn ∧ xn ≤ 9223372036854775807
  hh : -9223372036854775808 ≤ xh ∧ xh ≤ 9223372036854775807
/-- a place, as it came in -/
structure AdIs (cs : Array Value) (bk : List Nat) : Prop where
  is : cs = arr .u8 bk
  pl : Pl bk
set_option maxRecDepth 100000 in
theorem read_slh {H : Type} {enc : TypeId × Value → H} {W : World} {fuel : Nat} {cs : Array Value} {x : DataW H × List MemPlace}
    (h : DataW.trod enc Tryz.prog W 0 (fun _ => true) true fuel 23 cs.toList = some x) : ∃ xn xh xd xa xk xs, SlIs cs xn xh xd xa xk xs := by
  obtain ⟨l⟩ := cs
  obtain ⟨xs, n, _, _, hcl, hlen, hf⟩ := DataW.trod_struct Tryz.underlying23 h
  rw [Tryz.cellsSlW] at hcl
  match l, hcl with
  | [c0, c1, c2, c3, c4, c5], _ =>
    have hlen' : xs.length = 6 := hlen
    match xs, hlen' with
    | [y0, y1, y2, y3, y4, y5], _ =>
      have g0 := hf 0 _ rfl
      have g1 := hf 1 _ rfl
      have g2 := hf 2 _ rfl
      have g3 := hf 3 _ rfl
      have g4 := hf 4 _ rfl
      have g5 := hf 5 _ rfl
      simp [Tryz.cellsIntW, Tryz.cellsBoolW] at g0 g1 g2 g3 g4 g5
      obtain ⟨t0, e0, _, w0⟩ := DataW.trod_int Tryz.underlying3 g0
      obtain ⟨t1, e1, _, w1⟩ := DataW.trod_int Tryz.underlying3 g1
      obtain ⟨t2, e2, _, _⟩ := DataW.trod_int Tryz.underlying3 g2
      obtain ⟨t3, e3, _, _⟩ := DataW.trod_int Tryz.underlying3 g3
      obtain ⟨t4, e4, _, _⟩ := DataW.trod_int Tryz.underlying3 g4
      obtain ⟨t5, e5, _⟩ := DataW.trod_bool Tryz.underlying4 g5
      simp at e0 e1 e2 e3 e4 e5
      exact ⟨t0, t1, t2, t3, t4, t5, ⟨by rw [e0, e1, e2, e3, e4, e5], wf_i64 t0 w0, wf_i64 t1 w1⟩⟩
theorem read_adrs {H : Type} {enc : TypeId × Value → H} {W : World} {fuel : Nat} {cs : Array Value} {x : DataW H × List MemPlace}
    (h : DataW.trod enc Tryz.prog W 0 (fun _ => true) true fuel 25 cs.toList = some x) : ∃ bk, AdIs cs bk := by
  obtain ⟨l⟩ := cs
  obtain ⟨zs, m, _, _, hcl, hzl, hz⟩ := DataW.trod_array Tryz.underlying25 h
  rw [Tryz.cellsAdW] at hcl
  have hcl : l.length = 32 := hcl
  obtain ⟨ws, h1, h2, h3⟩ := bytes_inQ l (fun i hi => by
    have hi' : i < 32 := by omega
    have := hz i hi'
    rw [Tryz.cellsU8, Nat.mul_one] at this
    have hd : (l.drop i).take 1 = [l[i]] := by
      rw [List.drop_eq_getElem_cons hi]; rfl
    change DataW.trod enc Tryz.prog W 0 (fun _ => true) true m 5 ((l.drop i).take 1) = _ at this
    rw [hd, List.getElem?_eq_getElem (by omega)] at this
    obtain ⟨n, hn, hb⟩ := read_u8 this
    exact ⟨n, by rw [List.getElem?_eq_getElem hi, hn], hb⟩)
  exact ⟨ws, by unfold arr; rw [← h3], by omega, h2⟩
end Go.Proofs.YtpmobjfhhkglbaaGreatDoor

/- Keys of chains, the program's own: a signer's count, begins, along, key. -/
namespace Go.Proofs.YtpmobjfhhkglbaaGreatDoor
open Go.RowKit
set_option linter.unusedVariables false
set_option linter.unusedSimpArgs false

/-- a signer in a box -/
structure BxV (W : World) (B : Nat) (N H D A K : Int) (sh : Bool) (f : Value) : Prop where
  here : W.heap[B]? = some (.cells (sgC N H D A K sh f).toArray 56 (0, 0))
theorem BxV.below {W W' : World} {B : Nat} {N H D A K : Int} {sh : Bool} {f : Value} (h : BxV W B N H D A K sh f) (hb : Below W.heap.size W W') : BxV W' B N H D A K sh f := ⟨(hb.block B (heap_ltW h.here)).trans h.here⟩
theorem BxV.but {W W' : World} {B g : Nat} {N H D A K : Int} {sh : Bool} {f : Value} (h : BxV W B N H D A K sh f) (hb : But g W W') (hn : B ≠ g) : BxV W' B N H D A K sh f := ⟨(hb.block B (heap_ltW h.here) hn).trans h.here⟩
theorem BxV.new (W : World) (N H D A K : Int) (sh : Bool) (f : Value) : BxV (W.alloc (.cells (sgC N H D A K sh f).toArray 56)) W.heap.size N H D A K sh f := ⟨heap_alloc_last W _⟩
theorem BxV.c0 {W : World} {B : Nat} {N H D A K : Int} {sh : Bool} {f : Value} (h : BxV W B N H D A K sh f) : W.cell? ⟨B, 0, none⟩ = some (.int .i64 N) := by rw [cell_of_row _ _ 0 _ _ _ h.here]; rfl
theorem BxV.c6 {W : World} {B : Nat} {N H D A K : Int} {sh : Bool} {f : Value} (h : BxV W B N H D A K sh f) : W.cell? ⟨B, 6, none⟩ = some f := by rw [cell_of_row _ _ 6 _ _ _ h.here]; rfl
theorem BxV.range {W : World} {B : Nat} {N H D A K : Int} {sh : Bool} {f : Value} (h : BxV W B N H D A K sh f) : W.rangeAt B 0 (sgC N H D A K sh f) := row_rangeW h.here
section
variable {N : Nat} {H D A K : Int} {fn : FuncId} {cap : Array Value} {Inv : World → Prop} {F : List Nat → List Nat → List Nat}
end
end Go.Proofs.YtpmobjfhhkglbaaGreatDoor

/- Keys of chains, the program's own: Sum and Draw where they answer. -/
namespace Go.Proofs.YtpmobjfhhkglbaaGreatDoor
open Go.RowKit
set_option linter.unusedVariables false
set_option linter.unusedSimpArgs false

theorem made_sg (x : World) (cs : List Value) : Below x.heap.size x ((x.alloc (.cells (sgC 0 0 0 0 0 false .nilFunc).toArray 56)).setRow x.heap.size cs.toArray) ∧ ((x.alloc (.cells (sgC 0 0 0 0 0 false .nilFunc).toArray 56)).setRow x.heap.size cs.toArray).heap[x.heap.size]? = some (.cells cs.toArray 56 (0, 0)) := by
  have ka := keep_alloc x (.cells (sgC 0 0 0 0 0 false .nilFunc).toArray 56)
  have hB : But x.heap.size (x.alloc (.cells (sgC 0 0 0 0 0 false .nilFunc).toArray 56)) ((x.alloc (.cells (sgC 0 0 0 0 0 false .nilFunc).toArray 56)).setRow x.heap.size cs.toArray) := (But.refl _ _).setRow _
  exact ⟨ka.trans (hB.below (Nat.le_refl _) ka.size), setRow_heap _ _ _ _ _ _ (heap_alloc_last x _)⟩
section
variable {N : Nat} {H D A K : Int}
set_option maxHeartbeats 8000000 in
set_option maxRecDepth 100000 in
theorem wsum_ok (sh : Bool) (pub a text : List Nat) (pv tv : Value) (w : World) (hC : Csts w) (hT : Roots w) (hF : FitX (N : Int) H D A K) (ha : Pl a) (hp : Row .u8 256 w pv pub) (tp : Tidy pv) (ht : Row .u8 256 w tv text) (tt : Tidy tv) (hpl : pub.length = N) (htl : text.length ≤ 50000) :
    Calls Tryz.prog 15 #[slV (N : Int) H D A K sh, pv, .agg (arr .u8 a), tv] w fun e w' => ∃ v, e = .returned v ∧ Row .u8 256 w' v (sumW N sh pub a text) ∧ New w.heap.size v ∧ Below w.heap.size w w' := by
  obtain ⟨ta, tc, rfl, _⟩ := ht.opens rfl
  have hsg := fun x (k : Below w.heap.size w x) => wsig_ok sh pub pv w x k hC hT hF hp tp hpl
  obtain ⟨bx, La, k0⟩ := boxW (N := N) (H := H) (D := D) (A := A) (K := K) w sh (a := a)
  unfold slV at hsg ⊢
  have hzs := zeroSg
  have bx0 := bx.here
  have hal := ha.1
  obtain ⟨pa, pc, rfl, _⟩ := hp.opens hpl
  have hN := fitN hF
  have htl5 : text.length ≤ 50000 := by omega
  have HF := hide (And.intro hF (And.intro ha (And.intro ht tt)))
  clear hp hC hT hF tp ha ht tt htl
  go_enter Tryz.func15, Tryz.ntmps15
  go_wp2_with (first
    | (refine wpList_load_rowS (by rfl) 23 _ (by rfl) w.heap.size (by rfl) _ _ _ _ bx0 Tryz.underlying23 (by kernel_rfl) ?_)
    | (go_at_call 35; refine (hsg _ k0).mono ?_; rintro e x1 ⟨fn, cap, Inv, rfl, hD, hI, hBt, g1⟩; have hn1 := heap_alloc_last x1 (.cells (sgC 0 0 0 0 0 false .nilFunc).toArray 56))
    | (refine wpList_store_row rfl 56 _ _ (by rfl) x1.heap.size (sgC (N : Int) H D A K sh (.func (.func fn) #[] cap)).toArray (by rfl) (by rfl) _ _ hn1 (by kernel_rfl) rfl (sg_one _ _ _ _ _ _ rfl) ?_; obtain ⟨g2, hsx⟩ := made_sg x1 (sgC (N : Int) H D A K sh (.func (.func fn) #[] cap)); have hc6 := (BxV.mk hsx).c6; have hc0 := (BxV.mk hsx).c0; have hen := hD.enters; have k2 := keep_trans k0 (keep_trans g1 g2); have La2 := (La.below g1).below g2)
    | (refine wpList_load_row rfl 25 _ (by rfl) (w.heap.size + 1) (by rfl) _ _ _ (.array 32 5) La2 (by kernel_rfl) rfl (by rw [arr_size, hal]; kernel_rfl) ?_)
    | fail)
  refine (hD.calls _ a text _ (hD.keep _ _ hI g2) HF.out.2.1 (HF.out.2.2.1.below k2) HF.out.2.2.2 htl5).mono ?_
  rintro e w2 ⟨v2, rfl, r2, n2, g3⟩
  go_wp2
  go_ret
  exact ⟨_, rfl, r2, n2.mono k2.size, keep_trans k2 g3⟩
set_option maxHeartbeats 8000000 in
set_option maxRecDepth 100000 in
theorem wdrw_ok (sh : Bool) (pub a text : List Nat) (pv tv : Value) (w : World) (hC : Csts w) (hT : Roots w) (hF : FitX (N : Int) H D A K) (ha : Pl a) (hp : Row .u8 256 w pv pub) (tp : Tidy pv) (ht : Row .u8 256 w tv text) (tt : Tidy tv) (hpl : pub.length = N) (htl : text.length = N) :
    Calls Tryz.prog 17 #[slV (N : Int) H D A K sh, pv, tv, .agg (arr .u8 a)] w fun e w' => ∃ v, e = .returned v ∧ Row .u8 256 w' v (sumW N sh pub a text) ∧ New w.heap.size v ∧ Below w.heap.size w w' := by
  obtain ⟨ta, tc, rfl, _⟩ := ht.opens htl
  have hsg := fun x (k : Below w.heap.size w x) => wsec_ok sh pub pv ta tc w x k hC hT hF hp tp hpl
  obtain ⟨bx, La, k0⟩ := boxW (N := N) (H := H) (D := D) (A := A) (K := K) w sh (a := a)
  unfold slV at hsg ⊢
  have hzs := zeroSg
  have bx0 := bx.here
  have hal := ha.1
  obtain ⟨pa, pc, rfl, _⟩ := hp.opens hpl
  have hN := fitN hF
  have htl5 : text.length ≤ 50000 := by omega
  have HF := hide (And.intro hF (And.intro ha (And.intro ht tt)))
  clear hp hC hT hF tp ha ht tt htl
  go_enter Tryz.func17, Tryz.ntmps17
  go_wp2_with (first
    | (refine wpList_load_rowS (by rfl) 23 _ (by rfl) w.heap.size (by rfl) _ _ _ _ bx0 Tryz.underlying23 (by kernel_rfl) ?_)
    | (go_at_call 40; refine (hsg _ k0).mono ?_; rintro e x1 ⟨fn, cap, Inv, rfl, hD, hI, hBt, g1⟩; have hn1 := heap_alloc_last x1 (.cells (sgC 0 0 0 0 0 false .nilFunc).toArray 56))
    | (refine wpList_store_row rfl 56 _ _ (by rfl) x1.heap.size (sgC (N : Int) H D A K sh (.func (.func fn) #[] cap)).toArray (by rfl) (by rfl) _ _ hn1 (by kernel_rfl) rfl (sg_one _ _ _ _ _ _ rfl) ?_; obtain ⟨g2, hsx⟩ := made_sg x1 (sgC (N : Int) H D A K sh (.func (.func fn) #[] cap)); have hc6 := (BxV.mk hsx).c6; have hc0 := (BxV.mk hsx).c0; have hen := hD.enters; have k2 := keep_trans k0 (keep_trans g1 g2); have La2 := (La.below g1).below g2)
    | (refine wpList_load_row rfl 25 _ (by rfl) (w.heap.size + 1) (by rfl) _ _ _ (.array 32 5) La2 (by kernel_rfl) rfl (by rw [arr_size, hal]; kernel_rfl) ?_)
    | fail)
  refine (hD.calls _ a text _ (hD.keep _ _ hI g2) HF.out.2.1 (HF.out.2.2.1.below k2) HF.out.2.2.2 htl5).mono ?_
  rintro e w2 ⟨v2, rfl, r2, n2, g3⟩
  go_wp2
  go_ret
  exact ⟨_, rfl, r2, n2.mono k2.size, keep_trans k2 g3⟩
end
end Go.Proofs.YtpmobjfhhkglbaaGreatDoor

/- Keys of chains: the document's Public, Sign, Candidate. -/
namespace Go.Proofs.YtpmobjfhhkglbaaGreatDoor
open Go.RowKit
set_option linter.unusedVariables false
set_option linter.unusedSimpArgs false

section
variable {ops : Array Oper} {S : World → Prop}
end
section
variable {N : Nat} {H D A K : Int}
theorem rdgW_ok (d : List Nat) (dv : Value) (w : World) (hN : N = 16 ∨ N = 24 ∨ N = 32) (hd : Row .u8 256 w dv d) (td : Tidy dv) (hl : d.length = N) :
    Calls Tryz.prog 13 #[.int .i64 (N : Int), dv] w fun e w' => ∃ v, e = .returned v ∧ Own 42 .u32 4294967296 w' w.heap.size v (dgW N d) ∧ Below w.heap.size w w' := by
  rcases hN with rfl | rfl | rfl
  · exact rdgW_16 d dv w hd td hl
  · exact rdgW_24 d dv w hd td hl
  · exact rdgW_32 d dv w hd td hl
end
end Go.Proofs.YtpmobjfhhkglbaaGreatDoor

/- Keys of chains, the program's own: where they tell none. -/
namespace Go.Proofs.YtpmobjfhhkglbaaGreatDoor
open Go.RowKit
set_option linter.unusedVariables false
set_option linter.unusedSimpArgs false

section
variable {N : Nat} {H D A K : Int}
set_option maxHeartbeats 8000000 in
set_option maxRecDepth 100000 in
theorem wsum_no (sh : Bool) (a : List Nat) (pa ta : Option Addr) (pl pc tl tc : Nat) (w : World) (hF : FitX (N : Int) H D A K) (h : ¬ pl = N) :
    Calls Tryz.prog 15 #[slV (N : Int) H D A K sh, .slice pa pl pc, .agg (arr .u8 a), .slice ta tl tc] w fun e w' => e = .returned (.slice none 0 0) ∧ Below w.heap.size w w' := by
  have hH : -9223372036854775808 ≤ H ∧ H ≤ 9223372036854775807 := by have := hF.2.2.1; have := hF.2.1; have := hF.2.2.2.1; omega
  obtain ⟨bx, La, k0⟩ := boxW (N := N) (H := H) (D := D) (A := A) (K := K) w sh (a := a)
  have bx0 := bx.here
  have hzs := zeroSg
  have hno := fun y => wsig_no (H := H) (D := D) (A := A) (K := K) (N : Int) sh pa pl pc y hH (fun e => h (by have := e.2; omega))
  unfold slV at hno ⊢
  clear hF hH
  go_enter Tryz.func15, Tryz.ntmps15
  go_wp2_with (first
    | (refine wpList_load_rowS (by rfl) 23 _ (by rfl) w.heap.size (by rfl) _ _ _ _ bx0 Tryz.underlying23 (by kernel_rfl) ?_)
    | (go_at_call 35; refine (hno _).mono ?_; rintro e x1 ⟨rfl, g1⟩; have hn1 := heap_alloc_last x1 (.cells (sgC 0 0 0 0 0 false .nilFunc).toArray 56))
    | (refine wpList_store_row rfl 56 _ _ (by rfl) x1.heap.size (sgC 0 0 0 0 0 false .nilFunc).toArray (by rfl) (by rfl) _ _ hn1 (by kernel_rfl) rfl (sg_one _ _ _ _ _ _ rfl) ?_)
    | fail)
  go_ret
  obtain ⟨g2, _⟩ := made_sg x1 (sgC 0 0 0 0 0 false .nilFunc)
  exact ⟨rfl, keep_trans k0 (keep_trans g1 g2)⟩
set_option maxHeartbeats 8000000 in
set_option maxRecDepth 100000 in
theorem wdrw_no (sh : Bool) (a : List Nat) (pa sa : Option Addr) (pl pc sl sc : Nat) (w : World) (hF : FitX (N : Int) H D A K) (h : ¬ (sl = N ∧ pl = N)) :
    Calls Tryz.prog 17 #[slV (N : Int) H D A K sh, .slice pa pl pc, .slice sa sl sc, .agg (arr .u8 a)] w fun e w' => e = .returned (.slice none 0 0) ∧ Below w.heap.size w w' := by
  have hH : -9223372036854775808 ≤ H ∧ H ≤ 9223372036854775807 := by have := hF.2.2.1; have := hF.2.1; have := hF.2.2.2.1; omega
  obtain ⟨bx, La, k0⟩ := boxW (N := N) (H := H) (D := D) (A := A) (K := K) w sh (a := a)
  have bx0 := bx.here
  have hzs := zeroSg
  have hno := fun y => wsec_no (H := H) (D := D) (A := A) (K := K) (N : Int) sh sa pa sl sc pl pc y hH (fun e => h ⟨by have := e.2.1; omega, by have := e.2.2; omega⟩)
  unfold slV at hno ⊢
  clear hF hH
  go_enter Tryz.func17, Tryz.ntmps17
  go_wp2_with (first
    | (refine wpList_load_rowS (by rfl) 23 _ (by rfl) w.heap.size (by rfl) _ _ _ _ bx0 Tryz.underlying23 (by kernel_rfl) ?_)
    | (go_at_call 40; refine (hno _).mono ?_; rintro e x1 ⟨rfl, g1⟩; have hn1 := heap_alloc_last x1 (.cells (sgC 0 0 0 0 0 false .nilFunc).toArray 56))
    | (refine wpList_store_row rfl 56 _ _ (by rfl) x1.heap.size (sgC 0 0 0 0 0 false .nilFunc).toArray (by rfl) (by rfl) _ _ hn1 (by kernel_rfl) rfl (sg_one _ _ _ _ _ _ rfl) ?_)
    | fail)
  go_ret
  obtain ⟨g2, _⟩ := made_sg x1 (sgC 0 0 0 0 0 false .nilFunc)
  exact ⟨rfl, keep_trans k0 (keep_trans g1 g2)⟩
end
end Go.Proofs.YtpmobjfhhkglbaaGreatDoor

/- Keys of chains: words for the laws: few, awake. -/
namespace Go.Proofs.YtpmobjfhhkglbaaGreatDoor
open Go.RowKit
set_option linter.unusedVariables false
set_option linter.unusedSimpArgs false

theorem cell_row0Y (w : World) (us : Array Value) (t : TypeId) (i : Nat) (u : Value) (h : us[i]? = some u) : (w.alloc (.cells us t)).cell? ⟨w.heap.size, i, none⟩ = some u := by
  rw [World.cell?_alloc_at _ _ _ _ rfl]
  exact h
set_option maxHeartbeats 2000000 in
set_option maxRecDepth 100000 in
theorem fewY (g N : Nat) (len cp : Nat → Nat) (ad : Nat → Option Addr) (w : World) (hN : N ≤ 10) (hc : ∀ i, i < N → w.cell? ⟨g, i, none⟩ = some (.slice (ad i) (len i) (cp i))) :
    Calls Tryz.prog 5 #[.slice (some ⟨g, 0, none⟩) N N] w fun e w' => e = .returned (.bool (decide (∀ i, i < N → len i ≤ 300))) ∧ w' = w := by
  go_enter Tryz.func5, Tryz.ntmps5
  go_wp2
  go_loop [7] (fun i => ∃ k : Nat, k ≤ N ∧ i = .int .i64 k ∧ Hid (∀ j, j < k → len j ≤ 300)) (fun i => N - (intOf i).toNat)
  case atStart => exact ⟨0, Nat.zero_le _, rfl, hide (fun j hj => by omega)⟩
  case round =>
    obtain ⟨k, hk, rfl, HA⟩ := hrel
    by_cases hlt : k < N
    · have hcell := hc k hlt
      have hkN : (k : Int) < (N : Int) := by omega
      have z_k : (0 : Int) ≤ (k : Int) := Int.natCast_nonneg _
      obtain ⟨Q, hQ⟩ : ∃ x : Nat, x = k + 1 := ⟨_, rfl⟩
      have e_Q : (k : Int) + 1 = (Q : Int) := by omega
      have s_Q : IntKind.i64.wrap (Q : Int) = (Q : Int) := by rw [IntKind.wrap_i64]; omega
      by_cases hl : 300 < len k
      · have g1 : (300 : Int) < (len k : Int) := by omega
        have g2 : (len k : Int) > 300 := by omega
        have hd : decide (∀ i, i < N → len i ≤ 300) = false := decide_eq_false fun h => by have := h k hlt; omega
        have HD := hide hd
        clear hc hd hQ
        obtain ⟨n, hn⟩ : ∃ n, n = len k := ⟨_, rfl⟩
        rw [← hn] at hcell g1 g2
        generalize ad k = aa at *
        generalize cp k = cc at *
        go_wp2
        go_ret
        exact ⟨by rw [HD.out]; rfl, rfl⟩
      · have g1 : ¬ (300 : Int) < (len k : Int) := by omega
        have g2 : ¬ (len k : Int) > 300 := by omega
        have HB : Hid (∀ j, j < k + 1 → len j ≤ 300) := hide fun j hj => by
          by_cases e : j = k
          · rw [e]; omega
          · exact HA.out j (by omega)
        have HQ := hide hQ
        clear hc hQ
        obtain ⟨n, hn⟩ : ∃ n, n = len k := ⟨_, rfl⟩
        rw [← hn] at hcell g1 g2
        generalize ad k = aa at *
        generalize cp k = cc at *
        go_wp2
        go_round
        case rel => exact ⟨k + 1, by omega, vint (by have := HQ.out; omega), HB⟩
        case measure => have := HQ.out; simp [intOf]; omega
    · obtain rfl : k = N := by omega
      have hd : decide (∀ i, i < k → len i ≤ 300) = true := decide_eq_true HA.out
      have hge : ¬ ((k : Int) < (k : Int)) := by omega
      have HD := hide hd
      clear hc hd
      go_wp2
      go_ret
      exact ⟨by rw [HD.out]; rfl, rfl⟩
theorem few2Y (a0 a1 : Option Addr) (n0 n1 c0 c1 : Nat) (w : World) :
    Calls Tryz.prog 5 #[.slice (some ⟨w.heap.size, 0, none⟩) 2 2] (w.alloc (.cells #[.slice a0 n0 c0, .slice a1 n1 c1] 27)) fun e w' => e = .returned (.bool (decide (n0 ≤ 300 ∧ n1 ≤ 300))) ∧ Below w.heap.size w w' := by
  have h := fewY w.heap.size 2 (fun i => if i = 0 then n0 else n1) (fun i => if i = 0 then c0 else c1) (fun i => if i = 0 then a0 else a1) (w.alloc (.cells #[.slice a0 n0 c0, .slice a1 n1 c1] 27)) (by decide) (fun i hi => by
    match i, hi with
    | 0, _ => exact cell_row0Y _ _ _ _ _ rfl
    | 1, _ => exact cell_row0Y _ _ _ _ _ rfl)
  refine h.mono fun e w' hh => ⟨?_, by rw [hh.2]; exact keep_alloc _ _⟩
  rw [hh.1]
  congr 2
  refine decide_eq_decide.2 ⟨fun h => ⟨h 0 (by decide), h 1 (by decide)⟩, ?_⟩
  rintro ⟨h0, h1⟩ i hi
  match i, hi with
  | 0, _ => exact h0
  | 1, _ => exact h1
theorem wpList_buildY {ops : Array Oper} {rest : List Oper} {o : Oper} {a : Act} {w : World} {Q : Exit → Act → World → Prop} (hg : Region.wanted o (yielded ops a.tmps) = true) (t : TypeId) (ho : o.op = .build t #[]) (cells : Array Value)
    (hr : (Instr.build t #[]).run Tryz.prog w = .ok (.agg cells) w)
    (h : wpList Tryz.prog ops Q rest (a.put o.dst (.agg cells)) w) : wpList Tryz.prog ops Q (o :: rest) a w := by
  refine BigFrame.wpList_want hg fun K hK => ?_
  unfold Oper.wp execOp
  simp only [ho, List.map_toArray, List.map_nil]
  simp [Sem.run_bind, hr]
  exact hK _ _ h
theorem build_ad (w : World) : (Instr.build 25 #[]).run Tryz.prog w = .ok (.agg (arr .u8 zP)) w := by kernel_rfl
theorem dg_zero : dgW 16 (List.replicate 16 0) = List.replicate 32 0 ++ [1, 14, 0] := by decide
set_option maxHeartbeats 4000000 in
set_option maxRecDepth 100000 in
theorem awakeY_any (w : World) : Calls Tryz.prog 6 #[] w fun e w' => e = .returned (.bool true) ∧ Below w.heap.size w w' := by
  obtain ⟨i0, hi, hz0, hz1, hz2⟩ := info_parts Tryz.info5
  have hz := zeroAd
  have hPz : Pl zP := ⟨by decide, fun x hx => by rw [List.eq_of_mem_replicate (show x ∈ List.replicate 32 0 from hx)]; decide⟩
  have hdg := fun y dv (r : Row .u8 256 y dv (List.replicate 16 0)) (t : Tidy dv) => wdig_ok (.inl rfl) _ dv y r t (List.length_replicate)
  rw [dg_zero] at hdg
  have hp1 := fun y => wput_any zP 4 7 y hPz (by decide)
  have h1 := hPz.put 4 7
  have hp2 := fun y => wput_any (putA zP 4 7) 2 2 y h1 (by decide)
  have h2 := h1.put 2 2
  have e1 : el (putA zP 4 7) 27 = 7 := by decide
  have e2 : el (putA (putA zP 4 7) 2 2) 19 = 2 := by decide
  have e3 : el (putA (putA zP 4 7) 2 2) 27 = 0 := by decide
  generalize putA (putA zP 4 7) 2 2 = A2 at *
  generalize putA zP 4 7 = A1 at *
  have hix : ∀ w : World, (Instr.index 25 (.agg (arr .u8 A1)) (.int .i64 27)).run Tryz.prog w = .ok (.int .u8 7) w := fun w => by
    have h := index_arr (P := Tryz.prog) 25 5 32 .u8 A1 Tryz.underlying25 Tryz.underlying5 (by kernel_rfl) h1.1 27 (by decide) w
    rw [e1] at h
    exact h
  have hl35 : (List.replicate 32 0 ++ [1, 14, 0]).length = 35 := by decide
  have d0 : el (List.replicate 32 0 ++ [1, 14, 0]) 0 = 0 := by decide
  have d32 : el (List.replicate 32 0 ++ [1, 14, 0]) 32 = 1 := by decide
  have d33 : el (List.replicate 32 0 ++ [1, 14, 0]) 33 = 14 := by decide
  have d34 : el (List.replicate 32 0 ++ [1, 14, 0]) 34 = 0 := by decide
  generalize List.replicate 32 0 ++ [1, 14, 0] = DS at *
  have ZR : Under 256 (List.replicate 16 0) := Under.replicate 256 16 (by decide)
  have hl2 := h2.1
  have hzl : zP.length = 32 := by decide
  have hbz := build_ad
  generalize zP = ZP at *
  go_enter Tryz.func6, Tryz.ntmps6
  go_wp2_with (first
    | (at_make; refine wpList_make_full _ rfl _ _ 27 rfl w.heap.size 5 i0 (.int .u8 0) 1 Tryz.underlying27 hi hz0 hz1 _ _ _ _ 16 rfl rfl rfl rfl (by rw [hz2]; omega) (by unfold maxLen; omega) (Nat.le_refl _) ?_; intro w1 hown hgrow; have kw := (Below.refl w.heap.size w).grown hgrow (Nat.le_refl _) (fun k h => by cases h); rw [made_u8] at hown; have ow : Own 5 .u8 256 w1 w.heap.size (.slice (some ⟨w.heap.size, 0, none⟩) 16 16) (List.replicate 16 0) := ⟨by rw [List.length_replicate]; exact hown, ZR⟩)
    | (go_at_call 12; refine (hdg _ _ ow.row tidy_someW).mono ?_; rintro e w2 ⟨v2, rfl, o2, hb2⟩; obtain ⟨da, dc, rfl, _, _, hcl⟩ := o2.row.opens hl35; obtain ⟨db, do_, rfl, hcell⟩ := hcl (by decide); have c0 := hcell 0 (by decide); rw [Nat.add_zero] at c0; have c32 := hcell 32 (by decide); have c33 := hcell 33 (by decide); have c34 := hcell 34 (by decide); rw [d0] at c0; rw [d32] at c32; rw [d33] at c33; rw [d34] at c34; clear hcl hcell)
    | (refine wpList_buildY (by rfl) 25 (by rfl) (arr .u8 ZP) (hbz _) ?_)
    | (go_at_call 9; have hp1x := hp1; clear hp1; refine (hp1x _).mono ?_; rintro e w3 ⟨rfl, hb3⟩)
    | (go_at_call 9; have hu2 := hp2; clear hp2; refine (hu2 _).mono ?_; rintro e w4 ⟨rfl, hb4⟩; have hn4 := heap_alloc_last w4 (.cells (arr .u8 ZP) 25))
    | (refine wpList_store_row rfl 25 _ _ (by rfl) w4.heap.size (arr .u8 A2) (by rfl) (by rfl) _ _ hn4 (by rw [arr_size, hl2]; kernel_rfl) (by rw [arr_size, arr_size, hl2, hzl]) (arr_one _ _) ?_; have ka := keep_alloc w4 (.cells (arr .u8 ZP) 25); have kz := keep_trans (keep_trans hb3 hb4) (ka.trans (((But.refl w4.heap.size (w4.alloc (.cells (arr .u8 ZP) 25))).setRow (arr .u8 A2)).below (Nat.le_refl _) ka.size)); have Lz : Lies .u8 25 ((w4.alloc (.cells (arr .u8 ZP) 25)).setRow w4.heap.size (arr .u8 A2)) w4.heap.size A2 := setRow_heap _ _ _ _ _ _ hn4; have x0 := keep_cell c0 kz; have x32 := keep_cell c32 kz; have x33 := keep_cell c33 kz; have x34 := keep_cell c34 kz; have x19 := Lz.cell (i := 19) (by rw [hl2]; decide); have x27 := Lz.cell (i := 27) (by rw [hl2]; decide); rw [e2] at x19; rw [e3] at x27)
    | (go_at_call 9; refine (hp1x _).mono ?_; rintro e w6 ⟨rfl, hb6⟩)
    | fail)
  go_ret
  exact ⟨rfl, keep_trans (keep_trans (keep_trans kw hb2) kz) hb6⟩
end Go.Proofs.YtpmobjfhhkglbaaGreatDoor

/- Keys of chains: where the document refuses. -/
namespace Go.Proofs.YtpmobjfhhkglbaaGreatDoor
open Go.RowKit
set_option linter.unusedVariables false
set_option linter.unusedSimpArgs false

section
variable {N : Nat} {H D A K : Int}
set_option maxHeartbeats 4000000 in
set_option maxRecDepth 100000 in
theorem rsumW_no (sh : Bool) (a : List Nat) (pa ta : Option Addr) (pl pc tl tc : Nat) (w : World) (h : ¬ pl = N) :
    Calls Tryz.prog 16 #[slV (N : Int) H D A K sh, .slice pa pl pc, .agg (arr .u8 a), .slice ta tl tc] w fun e w' => e = .returned (.slice none 0 0) ∧ Below w.heap.size w w' := by
  obtain ⟨bx, La, k0⟩ := boxW (N := N) (H := H) (D := D) (A := A) (K := K) w sh (a := a)
  have c0 := bx.c0
  have b1 : ((pl : Int) != (N : Int)) = true := by simp; omega
  unfold slV
  clear h
  go_enter Tryz.func16, Tryz.ntmps16
  go_wp2
  go_ret
  exact ⟨rfl, k0⟩
set_option maxHeartbeats 4000000 in
set_option maxRecDepth 100000 in
theorem rdrawW_no (sh : Bool) (a : List Nat) (ha : Pl a) (pa sa : Option Addr) (pl pc sl sc : Nat) (w : World) (h : ¬ (pl = N ∧ sl = N)) :
    Calls Tryz.prog 18 #[slV (N : Int) H D A K sh, .slice pa pl pc, .slice sa sl sc, .agg (arr .u8 a)] w fun e w' => e = .returned (.slice none 0 0) ∧ Below w.heap.size w w' := by
  obtain ⟨bx, La, k0⟩ := boxW (N := N) (H := H) (D := D) (A := A) (K := K) w sh (a := a)
  have c0 := bx.c0
  have hal := ha.1
  by_cases hs : sl = N
  · have hsum := fun y => rsumW_no (N := N) (H := H) (D := D) (A := A) (K := K) sh a pa sa pl pc sl sc y (fun e => h ⟨e, hs⟩)
    have b1 : ((sl : Int) != (N : Int)) = false := by simp; omega
    unfold slV at hsum ⊢
    clear h hs
    go_enter Tryz.func18, Tryz.ntmps18
    go_wp2_with (first
      | (refine wpList_load_rowS (by rfl) 23 _ (by rfl) w.heap.size (by rfl) _ _ _ _ bx.here Tryz.underlying23 (by kernel_rfl) ?_)
      | (refine wpList_load_row rfl 25 _ (by rfl) (w.heap.size + 1) (by rfl) _ _ _ (.array 32 5) La (by kernel_rfl) rfl (by rw [arr_size, hal]; kernel_rfl) ?_)
      | (go_at_call 16; refine (hsum _).mono ?_; rintro e w1 ⟨rfl, g1⟩)
      | fail)
    go_ret
    exact ⟨rfl, keep_trans k0 g1⟩
  · have b1 : ((sl : Int) != (N : Int)) = true := by simp; omega
    unfold slV
    clear h hs
    go_enter Tryz.func18, Tryz.ntmps18
    go_wp2
    go_ret
    exact ⟨rfl, k0⟩
end
set_option maxHeartbeats 4000000 in
set_option maxRecDepth 100000 in
theorem rdgW_no (n : Int) (da : Option Addr) (dl dc : Nat) (w : World) (h : ¬ ((n = 16 ∨ n = 24 ∨ n = 32) ∧ (dl : Int) = n)) :
    Calls Tryz.prog 13 #[.int .i64 n, .slice da dl dc] w fun e w' => e = .returned (.slice none 0 0) ∧ w' = w := by
  by_cases h16 : n = 16
  · subst h16
    have b : ((dl : Int) != 16) = true := by simp; omega
    clear h
    go_enter Tryz.func13, Tryz.ntmps13
    go_wp2
    go_ret
    exact ⟨rfl, rfl⟩
  by_cases h24 : n = 24
  · subst h24
    have b : ((dl : Int) != 24) = true := by simp; omega
    clear h
    go_enter Tryz.func13, Tryz.ntmps13
    go_wp2
    go_ret
    exact ⟨rfl, rfl⟩
  by_cases h32 : n = 32
  · subst h32
    have b : ((dl : Int) != 32) = true := by simp; omega
    clear h
    go_enter Tryz.func13, Tryz.ntmps13
    go_wp2
    go_ret
    exact ⟨rfl, rfl⟩
  have b1 : (n != 16) = true := bne_iff_ne.2 h16
  have b2 : (n != 24) = true := bne_iff_ne.2 h24
  have b3 : (n != 32) = true := bne_iff_ne.2 h32
  clear h h16 h24 h32
  go_enter Tryz.func13, Tryz.ntmps13
  go_wp2
  go_ret
  exact ⟨rfl, rfl⟩
end Go.Proofs.YtpmobjfhhkglbaaGreatDoor

/- Whether two sums that go on are the same: the code's, and the document's. -/
namespace Go.Proofs.YtpmobjfhhkglbaaGreatDoor
open Go.RowKit
set_option linter.unusedVariables false
set_option linter.unusedSimpArgs false

theorem run_items_arr {P : Program} (w : World) (d : Nat) {e : TypeId} {k : IntKind} (he : P.underlying e = some (.int k)) (xs ys : List Nat) : ∀ is : List Nat, (∀ i ∈ is, i < xs.length ∧ i < ys.length) →
    (Op.eqItems (d + 1) e 1 (arr k xs) (arr k ys) is).run P w = .ok (is.all (fun i => el xs i == el ys i)) w
  | [], _ => by simp [Op.eqItems]
  | i :: is, h => by
    obtain ⟨h1, h2⟩ := h i (by simp)
    have hag : (isAgg e).run P w = .ok false w := by unfold isAgg; rw [Sem.run_bind, run_underlying he w]; rfl
    have px : (part e (arr k xs) (i * 1)).run P w = .ok (.int k (el xs i)) w := by simp [part, hag, arr_get k xs i h1]
    have py : (part e (arr k ys) (i * 1)).run P w = .ok (.int k (el ys i)) w := by simp [part, hag, arr_get k ys i h2]
    have pe := run_equalIn_int (P := P) w d e k k (el xs i) (el ys i) he
    have ih := run_items_arr w d he xs ys is (fun j hj => h j (by simp [hj]))
    have hc : ((el xs i : Int) == (el ys i : Int)) = (el xs i == el ys i) := by rw [Bool.eq_iff_iff]; simp; omega
    rw [hc] at pe
    simp only [Op.eqItems, Sem.run_bind, px, py, pe, Result.andThen_ok, List.all_cons]
    cases hb : (el xs i == el ys i)
    · simp
    · simpa using ih
end Go.Proofs.YtpmobjfhhkglbaaGreatDoor
