/- Keys of chains, the program's own: signers of a kind. -/
import Derived.Test.YtpmobjfhhkglbaaDoorWyT
import Derived.Test.YtpmobjfhhkglbaaDoorRows
import Derived.Test.YtpmobjfhhkglbaaDoorBase
import Derived.WalkKit
import Derived.ProofKit
import Derived.OpenShut
import Derived.ShutString
import Derived.ChangeOld
import Derived.Below
import Derived.Test.YtpmobjfhhkglbaaDoorWtM
import Derived.Stop.Joined
import Derived.Lib.LaidU8
import Derived.Lay
import Derived.LaidMore
import Derived.HandedShaped
import Derived.SevenTiedAt
import Derived.Test.YtpmobjfhhkglbaaDoorTie
import Derived.Test.YtpmobjfhhkglbaaDoorCards
import Derived.Deep.Slices
import Derived.Test.YtpmobjfhhkglbaaDoorHKit
import Derived.Test.YtpmobjfhhkglbaaDoorPlan2
import Derived.Test.YtpmobjfhhkglbaaDoorWyP
namespace Go.Proofs.YtpmobjfhhkglbaaDoor
open Go.RowKit
set_option linter.unusedVariables false
set_option linter.unusedSimpArgs false

theorem Bt.mono {b m m' : Nat} {Inv : World → Prop} (h : Bt b m' Inv) (hm : m ≤ m') : Bt b m Inv := fun x y g hI hB h1 h2 => h x y g hI hB h1 (by omega)
theorem sumW_sha {pub : List Nat} : (fun a t => sumW 16 false pub a t) = fun a t => (digD 1 ((pub ++ List.replicate (64 - 16) 0) ++ (shA a ++ t))).take 16 := by
  funext a t
  unfold sumW
  rw [List.append_assoc]
  simp
theorem sumW_either {N : Nat} {pub : List Nat} (h : 16 < N) : (fun a t => sumW N false pub a t) = fun a t => sumE N pub a t := by
  funext a t
  unfold sumW sumE
  rw [List.append_assoc]
  by_cases h2 : N < t.length
  · simp [h, h2]
  · simp [h2]
section
variable {N : Nat} {H D A K : Int}
set_option maxHeartbeats 4000000 in
set_option maxRecDepth 100000 in
theorem wsof_any (sh : Bool) (pub : List Nat) (pv : Value) (wb w : World) (kb : Below wb.heap.size wb w) (hC : Csts wb) (hT : Roots wb) (hF : FitX (N : Int) H D A K) (hpb : Row .u8 256 wb pv pub) (tP : Tidy pv) (hpl : pub.length = N) :
    Calls Tryd.prog 25 #[slV (N : Int) H D A K sh, pv] w fun e w' => ∃ fn cap Inv, e = .returned (.func (.func fn) #[] cap) ∧ Tl (fun a t => sumW N sh pub a t) fn cap Inv ∧ Inv w' ∧ Bt wb.heap.size w.heap.size Inv ∧ Below w.heap.size w w' := by
  have hN := fitN hF
  have bx := BxSW.new w (N : Int) H D A K sh
  have k0 := keep_alloc w (.cells #[.int .i64 (N : Int), .int .i64 H, .int .i64 D, .int .i64 A, .int .i64 K, .bool sh] 25)
  have kw := keep_trans kb k0
  have c5 := bx.c5
  have c0 := bx.c0
  have hsz : w.heap.size ≤ (w.alloc (.cells #[.int .i64 (N : Int), .int .i64 H, .int .i64 D, .int .i64 A, .int .i64 K, .bool sh] 25)).heap.size := k0.size
  unfold slV
  cases sh
  · by_cases h16 : N = 16
    · subst h16
      have hsh := wsha_any 16 pub pv wb _ kw hT (hpb.below kw) tP (by decide) hpl
      rw [← sumW_sha] at hsh
      obtain ⟨pa, pc, rfl, _⟩ := hpb.opens hpl
      have hHid := hide hF
      clear hpb hF kb kw hN hC hT
      go_enter Tryd.func25, Tryd.ntmps25
      go_wp2_with (first
        | (go_at_call 35; refine hsh.mono ?_; rintro e x1 ⟨fn, cap, Inv, rfl, hD, hI, hBt, hb1⟩)
        | fail)
      go_ret
      exact ⟨_, _, _, rfl, hD, hI, hBt.mono hsz, keep_trans k0 hb1⟩
    · have hei := wei_any N pub pv wb _ kw hT hpb tP hN hpl
      rw [← sumW_either (by omega)] at hei
      have b16 : ((N : Int) == 16) = false := by rw [beq_eq_false_iff_ne]; omega
      have n16 : ¬ (N : Int) = 16 := by omega
      obtain ⟨pa, pc, rfl, _⟩ := hpb.opens hpl
      have hHid := hide hF
      clear hpb hF kb kw hN hC hT
      go_enter Tryd.func25, Tryd.ntmps25
      go_wp2_with (first
        | (go_at_call 36; refine hei.mono ?_; rintro e x1 ⟨fn, cap, Inv, rfl, hD, hI, hBt, hb1⟩)
        | fail)
      go_ret
      exact ⟨_, _, _, rfl, hD, hI, hBt.mono hsz, keep_trans k0 hb1⟩
  · have hsk := wshk_any N pub pv wb _ kw hC (hpb.below kw) (by omega) (by omega)
    obtain ⟨pa, pc, rfl, _⟩ := hpb.opens hpl
    have hHid := hide hF
    clear hpb hF kb kw hN hC hT
    go_enter Tryd.func25, Tryd.ntmps25
    go_wp2_with (first
      | (go_at_call 34; refine hsk.mono ?_; rintro e x1 ⟨fn, cap, Inv, rfl, hD, hI, hBt, hb1⟩)
      | fail)
    go_ret
    exact ⟨_, _, _, rfl, hD, hI, hBt.mono hsz, keep_trans k0 hb1⟩
/-- a signer as a value: its kind, and what tells its sums -/
def sgC (N H D A K : Int) (sh : Bool) (f : Value) : List Value := [.int .i64 N, .int .i64 H, .int .i64 D, .int .i64 A, .int .i64 K, .bool sh, f]
theorem sg_one (N H D A K : Int) (sh : Bool) {f : Value} (h : f.oneCell' = true) : (sgC N H D A K sh f).toArray.all (·.oneCell') = true := by
  unfold sgC
  simp [Value.oneCell', h]
  exact h
theorem zeroSg : ∀ w, (zeroValue 35).run Tryd.prog w = .ok (.agg (sgC 0 0 0 0 0 false .nilFunc).toArray) w := fun _ => by kernel_rfl
theorem ret_sg {fn : Func} {p u : Tmp} (h : fn.results = #[.cell p 35, .tmp u]) (tmps : Array Value) (w : World) {B : Nat} {cs : List Value} {v : Value} (hp : tmps.getD p undef = .pointer (some ⟨B, 0, none⟩)) (hv : tmps.getD u undef = v)
    (hB : w.heap[B]? = some (.cells cs.toArray 35 (0, 0))) (hl : cs.length = 7) : (results fn tmps).run Tryd.prog w = .ok (.tuple #[.agg cs.toArray, v]) w := by
  subst hv
  have hp' : tmps[p]?.getD undef = .pointer (some ⟨B, 0, none⟩) := by simpa using hp
  simp [results, h, hp', asAddr, run_loadVar_row w B 35 35 cs.toArray (0, 0) _ hB Tryd.underlying35 rfl (by rw [List.size_toArray, hl]; kernel_rfl)]
theorem y_buildSg {ops : Array Oper} {S : World → Prop} {o : Oper} {a : Act} {x y : Operand} {M : Int} {H D A K : Int} {sh : Bool} {fn : FuncId} {cap : Array Value} (hw : Region.wanted o (yielded ops a.tmps) = true) (ho : o.op = .build 35 #[(0, x), (1, y)]) (hx : a.eval x = slV M H D A K sh) (hy : a.eval y = .func (.func fn) #[] cap) : YieldsIf Tryd.prog ops S o (.agg (sgC M H D A K sh (.func (.func fn) #[] cap)).toArray) a := by
  refine y_ofG hw fun w _ => ?_
  unfold execOp
  simp only [ho, List.map_toArray, List.map_cons, List.map_nil, hx, hy, slV, sgC]
  simp [go_sem]
/-- where a signer is made: the kind in its box, another signer beside it -/
structure US (w : World) (N H D A K : Int) (sh : Bool) (y : World) : Prop where
  bel : Below w.heap.size w y
  bx : BxSW y w.heap.size N H D A K sh
  zz : ∃ old : Array Value, old.size = 7 ∧ y.heap[w.heap.size + 1]? = some (.cells old 35 (0, 0))
theorem US.keep {w : World} {N H D A K : Int} {sh : Bool} {x y : World} (h : US w N H D A K sh x) (k : Below x.heap.size x y) : US w N H D A K sh y :=
  ⟨keep_trans h.bel k, h.bx.below k, h.zz.imp fun l q => ⟨q.1, (k.block _ (heap_ltW q.2)).trans q.2⟩⟩
theorem US.row {w : World} {N H D A K : Int} {sh : Bool} {y : World} (h : US w N H D A K sh y) (cs : List Value) (hl : cs.length = 7) : US w N H D A K sh (y.setRow (w.heap.size + 1) cs.toArray) := by
  obtain ⟨z, _, hz⟩ := h.zz
  have hB : But (w.heap.size + 1) y (y.setRow (w.heap.size + 1) cs.toArray) := (But.refl _ _).setRow _
  exact ⟨h.bel.trans (hB.below (by omega) h.bel.size), ⟨(hB.block _ h.bx.lt (by omega)).trans h.bx.here⟩, _, by simpa using hl, setRow_heap y _ _ _ _ _ hz⟩
def so3lt : List Lt := [(0, some 17, [2]), (0, some 18, [2]), (0, some 19, [1]), (6, some 20, [18, 19]), (9, some 21, [17, 20]), (31, none, [4, 21]), (63, some 5, [])]
theorem so3reg : Reg (opsA (cLA (cRA (cRA (Tryd.f16.body.getD .skip))))) so3lt := ⟨by kernel_rfl, by kernel_rfl⟩
set_option maxHeartbeats 4000000 in
set_option maxRecDepth 100000 in
theorem wsig_ok (sh : Bool) (pub : List Nat) (pv : Value) (wb w : World) (kb : Below wb.heap.size wb w) (hC : Csts wb) (hT : Roots wb) (hF : FitX (N : Int) H D A K) (hpb : Row .u8 256 wb pv pub) (tP : Tidy pv) (hpl : pub.length = N) :
    Calls Tryd.prog 16 #[slV (N : Int) H D A K sh, pv] w fun e w' => ∃ fn cap Inv, e = .returned (.tuple #[.agg (sgC (N : Int) H D A K sh (.func (.func fn) #[] cap)).toArray, .bool true]) ∧ Tl (fun a t => sumW N sh pub a t) fn cap Inv ∧ Inv w' ∧ Bt wb.heap.size w.heap.size Inv ∧ Below w.heap.size w w' := by
  have hso := fun x (k : Below w.heap.size w x) => wsof_any sh pub pv wb x (keep_trans kb k) hC hT hF hpb tP hpl
  have hfit := fun y => wfit_any (N : Int) H D A K sh y (by have := hF.2.2.1; have := hF.2.1; have := hF.2.2.2.1; omega)
  rw [decide_eq_true hF] at hfit
  unfold slV at hfit ⊢
  have hzs := zeroSg
  obtain ⟨W0, hW0⟩ : ∃ W0 : World, W0 = (w.alloc (.cells #[.int .i64 (N : Int), .int .i64 H, .int .i64 D, .int .i64 A, .int .i64 K, .bool sh] 25)).alloc (.cells (sgC 0 0 0 0 0 false .nilFunc).toArray 35) := ⟨_, rfl⟩
  have bx : BxSW W0 w.heap.size (N : Int) H D A K sh := by rw [hW0]; exact (BxSW.new w (N : Int) H D A K sh).below (keep_alloc _ _)
  have hz1 : W0.heap[w.heap.size + 1]? = some (.cells (sgC 0 0 0 0 0 false .nilFunc).toArray 35 (0, 0)) := by
    rw [hW0]
    have := heap_alloc_last (w.alloc (.cells #[.int .i64 (N : Int), .int .i64 H, .int .i64 D, .int .i64 A, .int .i64 K, .bool sh] 25)) (.cells (sgC 0 0 0 0 0 false .nilFunc).toArray 35)
    rw [World.size_alloc] at this
    exact this
  have k0 : Below w.heap.size w W0 := by rw [hW0]; exact keep_trans (keep_alloc _ _) (keep_alloc _ _)
  have hU0 : US w (N : Int) H D A K sh W0 := ⟨k0, bx, _, rfl, hz1⟩
  have hbnd : wb.heap.size ≤ w.heap.size := kb.size
  obtain ⟨pa, pc, rfl, _⟩ := hpb.opens hpl
  subst hW0
  clear hpb hC hT kb k0
  have bx0 := bx.here
  have c0 := bx.c0
  have hN0 : ((N : Int) != (N : Int)) = false := by simp
  have HF := hide hF
  clear hF
  go_enter Tryd.func16, Tryd.ntmps16
  go_wp2_with (first
    | (refine wpList_load_rowS (by rfl) 25 _ (by rfl) w.heap.size (by rfl) _ _ _ _ bx0 Tryd.underlying25 (by kernel_rfl) ?_)
    | (go_at_call 24; refine (hfit _).mono ?_; rintro e w1 ⟨rfl, g1⟩; have c0 := (bx.below g1).c0)
    | fail)
  have hU1 := hU0.keep g1
  have hbd : US w (N : Int) H D A K sh w1.drew := hU1.keep (Below.refl _ _).drew
  clear hU0 hU1 bx0 c0 hz1 bx
  refine at_begin (ops := opsA (cLA (cRA (cRA (Tryd.f16.body.getD .skip))))) (n := 7) (fun y => US w (N : Int) H D A K sh y) (by kernel_rfl) (by kernel_rfl) ?_
  refine at_takeD (i := 0) (m' := 1) (d := some 17) (v := .agg #[.int .i64 (N : Int), .int .i64 H, .int .i64 D, .int .i64 A, .int .i64 K, .bool sh]) so3reg rfl (by decide) rfl rfl (y_rowG (cs := [.int .i64 (N : Int), .int .i64 H, .int .i64 D, .int .i64 A, .int .i64 K, .bool sh]) (wanted_free rfl) rfl rfl Tryd.underlying25 rfl (by kernel_rfl) (fun _ h => h.bx.range)) hbd ?_
  simp only [Act.put, List.setIfInBounds_toArray, List.set_cons_zero, List.set_cons_succ]
  refine at_takeD (i := 1) (m' := 3) (d := some 18) (v := .agg #[.int .i64 (N : Int), .int .i64 H, .int .i64 D, .int .i64 A, .int .i64 K, .bool sh]) so3reg rfl (by decide) rfl rfl (y_rowG (cs := [.int .i64 (N : Int), .int .i64 H, .int .i64 D, .int .i64 A, .int .i64 K, .bool sh]) (wanted_free rfl) rfl rfl Tryd.underlying25 rfl (by kernel_rfl) (fun _ h => h.bx.range)) hbd ?_
  simp only [Act.put, List.setIfInBounds_toArray, List.set_cons_zero, List.set_cons_succ]
  refine at_takeD (i := 2) (m' := 7) (d := some 19) (v := .slice pa N pc) so3reg rfl (by decide) rfl rfl (y_moveG (wanted_free rfl) rfl rfl) hbd ?_
  simp only [Act.put, List.setIfInBounds_toArray, List.set_cons_zero, List.set_cons_succ]
  refine at_one (i := 3) (m' := 15) so3reg (by decide) rfl ?_
  refine p_callG (args := #[.agg #[.int .i64 (N : Int), .int .i64 H, .int .i64 D, .int .i64 A, .int .i64 K, .bool sh], .slice pa N pc]) (d := some 20) rfl (wanted_free rfl) rfl (by simp only [List.map_toArray, List.map_cons, List.map_nil]; rfl) rfl Tryd.call25 ((hso w1.drew (hbd).bel).mono ?_)
  rintro e y4 ⟨fn, cap, Inv, rfl, hD, hI, hBt, g4⟩
  have hge := (hbd).bel.size
  have hlt := heap_ltW ((hbd).zz.choose_spec.2)
  have hb4 := US.keep hbd g4
  refine ⟨_, rfl, hb4, ?_⟩
  simp only [Act.put, List.setIfInBounds_toArray, List.set_cons_zero, List.set_cons_succ]
  refine at_takeD (i := 4) (m' := 31) (d := some 21) (v := .agg (sgC (N : Int) H D A K sh (.func (.func fn) #[] cap)).toArray) so3reg rfl (by decide) rfl rfl (y_buildSg (wanted_free rfl) rfl rfl rfl) hb4 ?_
  simp only [Act.put, List.setIfInBounds_toArray, List.set_cons_zero, List.set_cons_succ]
  refine at_one (i := 5) (m' := 63) so3reg (by decide) rfl ?_
  obtain ⟨old, hol, hoz⟩ := (hb4).zz
  refine p_rowA (cells := (sgC (N : Int) H D A K sh (.func (.func fn) #[] cap)).toArray) rfl rfl rfl rfl rfl rfl hoz (by kernel_rfl) (by rw [hol]; rfl) (sg_one _ _ _ _ _ _ rfl) ?_
  have hfin := setRow_heap y4 (w.heap.size + 1) _ (sgC (N : Int) H D A K sh (.func (.func fn) #[] cap)).toArray 35 _ hoz
  have hIf := hBt y4 (y4.setRow (w.heap.size + 1) (sgC (N : Int) H D A K sh (.func (.func fn) #[] cap)).toArray) (w.heap.size + 1) hI ((But.refl _ _).setRow _) (by omega) (by omega)
  have hb6 := (hb4).row (sgC (N : Int) H D A K sh (.func (.func fn) #[] cap)) rfl
  refine ⟨hb6, ?_⟩
  refine at_takeD (i := 6) (m' := 127) (d := some 5) (v := .bool true) so3reg rfl (by decide) rfl rfl (y_assignG (wanted_free rfl) rfl rfl) hb6 ?_
  simp only [Act.put, List.setIfInBounds_toArray, List.set_cons_zero, List.set_cons_succ]
  refine at_done so3reg (by decide) ?_
  go_wp2
  refine bodyPost_ret (ret_sg rfl _ _ rfl rfl hfin rfl) rfl ⟨_, _, _, rfl, hD, hIf, hBt.mono hge, (hb6).bel⟩
set_option maxHeartbeats 4000000 in
set_option maxRecDepth 100000 in
theorem wsec_ok (sh : Bool) (pub : List Nat) (pv : Value) (sa : Option Addr) (sc : Nat) (wb w : World) (kb : Below wb.heap.size wb w) (hC : Csts wb) (hT : Roots wb) (hF : FitX (N : Int) H D A K) (hpb : Row .u8 256 wb pv pub) (tP : Tidy pv) (hpl : pub.length = N) :
    Calls Tryd.prog 9 #[slV (N : Int) H D A K sh, .slice sa N sc, pv] w fun e w' => ∃ fn cap Inv, e = .returned (.tuple #[.agg (sgC (N : Int) H D A K sh (.func (.func fn) #[] cap)).toArray, .bool true]) ∧ Tl (fun a t => sumW N sh pub a t) fn cap Inv ∧ Inv w' ∧ Bt wb.heap.size w.heap.size Inv ∧ Below w.heap.size w w' := by
  have hsg := fun x (k : Below w.heap.size w x) => wsig_ok sh pub pv wb x (keep_trans kb k) hC hT hF hpb tP hpl
  unfold slV at hsg ⊢
  have hzs := zeroSg
  have bx : BxSW ((w.alloc (.cells #[.int .i64 (N : Int), .int .i64 H, .int .i64 D, .int .i64 A, .int .i64 K, .bool sh] 25)).alloc (.cells (sgC 0 0 0 0 0 false .nilFunc).toArray 35)) w.heap.size (N : Int) H D A K sh := (BxSW.new w (N : Int) H D A K sh).below (keep_alloc _ _)
  have hz1 : ((w.alloc (.cells #[.int .i64 (N : Int), .int .i64 H, .int .i64 D, .int .i64 A, .int .i64 K, .bool sh] 25)).alloc (.cells (sgC 0 0 0 0 0 false .nilFunc).toArray 35)).heap[w.heap.size + 1]? = some (.cells (sgC 0 0 0 0 0 false .nilFunc).toArray 35 (0, 0)) := by
    have := heap_alloc_last (w.alloc (.cells #[.int .i64 (N : Int), .int .i64 H, .int .i64 D, .int .i64 A, .int .i64 K, .bool sh] 25)) (.cells (sgC 0 0 0 0 0 false .nilFunc).toArray 35)
    rw [World.size_alloc] at this
    exact this
  have k0 : Below w.heap.size w ((w.alloc (.cells #[.int .i64 (N : Int), .int .i64 H, .int .i64 D, .int .i64 A, .int .i64 K, .bool sh] 25)).alloc (.cells (sgC 0 0 0 0 0 false .nilFunc).toArray 35)) := keep_trans (keep_alloc _ _) (keep_alloc _ _)
  have bx0 := bx.here
  have c0 := bx.c0
  have hN0 : ((N : Int) != (N : Int)) = false := by simp
  have hlt := heap_ltW hz1
  have hbnd := kb.size
  obtain ⟨pa, pc, rfl, _⟩ := hpb.opens hpl
  have HF := hide hF
  clear hpb hC hT kb hF
  go_enter Tryd.func9, Tryd.ntmps9
  go_wp2_with (first
    | (refine wpList_load_rowS (by rfl) 25 _ (by rfl) w.heap.size (by rfl) _ _ _ _ bx0 Tryd.underlying25 (by kernel_rfl) ?_)
    | (go_at_call 16; refine (hsg _ k0).mono ?_; rintro e w1 ⟨fn, cap, Inv, rfl, hD, hI, hBt, g1⟩; have hz2 := (g1.block _ hlt).trans hz1)
    | (refine wpList_store_row rfl 35 _ _ (by rfl) (w.heap.size + 1) (sgC (N : Int) H D A K sh (.func (.func fn) #[] cap)).toArray (by rfl) (by rfl) _ _ hz2 (by kernel_rfl) rfl (sg_one _ _ _ _ _ _ rfl) ?_)
    | fail)
  have kz := keep_trans k0 g1
  have hIf := hBt w1 (w1.setRow (w.heap.size + 1) (sgC (N : Int) H D A K sh (.func (.func fn) #[] cap)).toArray) (w.heap.size + 1) hI ((But.refl _ _).setRow _) (by omega) hlt
  have k0s := k0.size
  refine bodyPost_ret (ret_sg rfl _ _ rfl rfl (setRow_heap w1 (w.heap.size + 1) _ _ _ _ hz2) rfl) rfl ⟨_, _, _, rfl, hD, hIf, hBt.mono k0s, kz.trans (((But.refl _ _).setRow _).below (by omega) kz.size)⟩
end
end Go.Proofs.YtpmobjfhhkglbaaDoor

/- What the laws' frames are told of a slice of integers, and how it is a row. -/
namespace Go.Proofs.YtpmobjfhhkglbaaDoor
open Go.ChangeShapes Go.WideShapes Go.ChangeAt Go.RowKit
set_option linter.unusedVariables false

theorem own : ownKnob Tryd.prog.godebug = none := by kernel_rfl
theorem laidOut : laidOutB Tryd.prog = true := by kernel_rfl

theorem wf_u8 (n : Int) (h : (Lit.int .u8 n).wf = true) : 0 ≤ n ∧ n < (256 : Nat) := by have := bounds_u8 h; omega
end Go.Proofs.YtpmobjfhhkglbaaDoor

/- The tables as the row lists them, and how they are read: sha and keccak. -/
namespace Go.Proofs.YtpmobjfhhkglbaaDoor
open Go.ChangeShapes Go.WideShapes Go.ChangeAt Go.RowKit Go.Lib
set_option linter.unusedVariables false
set_option linter.unusedSimpArgs false

/-- a law's frame where the row lists variables: the contract is told that they read so, and that the world is well shaped -/
theorem change_laid_shaped {H : Type} {enc : TypeId × Value → H} {a : Assume} {C : Checked} {os : Os} {f : FuncId} {fn : Func} {s : ChangeSpec} {conds : List PathCond} {apart fresh handsOn again : Bool} {X : World → Array Value → Prop}
    (hX : ∀ (w w' : World) (args : Array Value), w.heap = w'.heap → X w args → X w' args)
    (own : ownKnob C.prog.godebug = none) (started : os.Started) (noInit : C.prog.inits.idxOf? f = none) (hfn : C.prog.funcs[f]? = some fn)
    (witness : ∃ (w : World) (tape : Tape) (i : Input), w.os = os ∧ (w.forCall tape i).Shaped C.prog ∧ i.vars = [] ∧ Input.okWide C.prog (w.forCall tape i) .any w.heap.size f i ∧
      ((s.pre enc C.prog fn conds apart (w.forCall tape i).memory i.args ∧ X (w.forCall tape i).memory i.args) ∧ sizedMet enc C.prog fn (OpenSpec.ofChange s) apart (w.forCall tape i).memory i.args) ∧ a.holds C.prog (lone (Frame.enter C.prog f i.args .normal) [] (w.forCall tape i)))
    (contract : ∀ (W : World) (base : Nat) (args : Array Value) (ds gs : List (DataW H)) (before : List MemPlace),
      (∀ (j : Nat) t v, fn.params[j]? = some t → args[j]? = some v → Value.okWide C.prog W .any base t v) →
      DataW.Whole enc C.prog fn.params.toList s.vars apart W args.toList ds gs before →
      (DataW.weightsEach C.prog (fn.params.toList ++ s.plain.varTypes C.prog) (ds ++ gs)).all (· ≤ reachBytes) = true → X W args → W.ShapedOpen C.prog →
      Calls C.prog f args W fun e W' => ∃ v, e = .returned v ∧ s.post enc C.prog fn apart fresh handsOn again W args v W') :
    ReturnsInHanded a C os f .any (fun w args => (s.pre enc C.prog fn conds apart w args ∧ X w args) ∧ sizedMet enc C.prog fn (OpenSpec.ofChange s) apart w args) (s.post enc C.prog fn apart fresh handsOn again) := by
  refine returnsInHanded_of_calls own started noInit witness ?_
  intro w tape i _ hsh _ hok hpre _
  obtain ⟨_, _, _, fn', hfn', _, _, _, _, hval⟩ := hok
  obtain rfl : fn' = fn := Option.some.inj (hfn'.symm.trans hfn)
  obtain ⟨⟨⟨ds, gs, before, hw, hc⟩, hx⟩, hz⟩ := hpre
  have hw' := DataW.Whole.of_heap (w' := w.forCall tape i) (by rfl) hw
  refine (contract (w.forCall tape i) w.heap.size i.args ds gs before hval hw' (hz.weights hw) (hX _ _ _ (by rfl) hx) hsh).mono fun e W' ⟨v, he, hp⟩ => ?_
  subst he
  exact ChangeSpec.post_blind hp

theorem tabC : (Rows.laid_apostille_sha_cubeRoots : DataW Unit) = tabData .u64 (cubes.map Int.ofNat) := by kernel_rfl
theorem tabS : (Rows.laid_apostille_sha_squareRoots : DataW Unit) = tabData .u64 (squares.map Int.ofNat) := by kernel_rfl
theorem tabK : (Rows.laid_apostille_keccak_constants : DataW Unit) = tabData .u64 (csts.map Int.ofNat) := by kernel_rfl
theorem tab_cells {w : World} {n : String} {g : Nat} {t : TypeId} {l : List Nat} (hn : Tryd.prog.globalNamed n = some g) (hy : (Tryd.prog.globals[g]?).map (·.type) = some t) (ht : Tryd.prog.underlying t = some (.array l.length 49)) (hc : Tryd.prog.cellsOf t = l.length) (hc1 : Tryd.prog.cellsOf 49 = 1)
    (h : VarReads Tryd.prog w n (tabData .u64 (l.map Int.ofNat))) : w.rangeAt g 0 (vals .u64 l) := by
  obtain ⟨g', t', cs, fuel, p, hg, hty, hvar, hd⟩ := h
  obtain rfl := Option.some.inj (hn.symm.trans hg)
  obtain rfl := Option.some.inj (hy.symm.trans hty)
  have hcs := cells_of_tab ht Tryd.underlying49 hc1 hc hd
  intro j v hv
  have := World.var?_cell hg hvar j
  rw [Nat.zero_add, this, ← Array.getElem?_toList, hcs]
  simpa [vals] using hv
def Vars (w : World) : Prop := Roots w ∧ Csts w
theorem under24 : Tryd.prog.underlying 100 = some (.array csts.length 49) := by rw [csts_length]; exact Tryd.underlying100
theorem cells24 : Tryd.prog.cellsOf 100 = csts.length := by rw [csts_length]; kernel_rfl
set_option maxRecDepth 100000 in
theorem vars_of_laid {W : World} (h : laidMetH Tryd.prog [("apostille/keccak.constants", Rows.laid_apostille_keccak_constants), ("apostille/sha.cubeRoots", Rows.laid_apostille_sha_cubeRoots), ("apostille/sha.squareRoots", Rows.laid_apostille_sha_squareRoots)] W) (hsh : W.ShapedOpen Tryd.prog) : Vars W := by
  rw [MakeChecks.laidMetH_plain _ _ _ (by kernel_rfl)] at h
  rw [tabC, tabS, tabK] at h
  exact ⟨⟨tab_cells (by kernel_rfl) (by kernel_rfl) Tryd.underlying107 (by kernel_rfl) (by kernel_rfl) (Lib.laidMet.reads h (.tail _ (.head _))), tab_cells (by kernel_rfl) (by kernel_rfl) Tryd.underlying95 (by kernel_rfl) (by kernel_rfl) (Lib.laidMet.reads h (.tail _ (.tail _ (.head _))))⟩, tab_cells (t := 100) (by kernel_rfl) (by kernel_rfl) under24 cells24 (by kernel_rfl) (Lib.laidMet.reads h (.head _))⟩
end Go.Proofs.YtpmobjfhhkglbaaDoor

/- How ids of 16 bytes, and digests and seeds of 32, that came in are read. -/
namespace Go.Proofs.YtpmobjfhhkglbaaDoor
open Go.ChangeShapes Go.WideShapes Go.ChangeAt Go.RowKit Go.Deep
set_option linter.unusedVariables false
set_option linter.unusedSimpArgs false

theorem Tryd.cellsU8 : Tryd.prog.cellsOf 5 = 1 := by kernel_rfl
theorem Tryd.cellsB32 : Tryd.prog.cellsOf 22 = 32 := by kernel_rfl
theorem okWide_array {P : Program} {w : World} {r : Reach} {base : Nat} {t e : TypeId} {n : Nat} {v : Value} (ht : P.underlying t = some (.array n e)) (h : Value.okWide P w r base t v) : ∃ cs, v = .agg cs ∧ cs.size = P.cellsOf t := by
  simp only [Value.okWide, ht] at h
  obtain ⟨cs, h1, h2, _⟩ := h
  exact ⟨cs, h1, h2⟩
/-- 32 bytes, as they came in -/
structure HBIs (cs : Array Value) (bk : List Nat) : Prop where
  is : cs = arr .u8 bk
  len : bk.length = 32
  und : Under 256 bk
theorem read_u8 {H : Type} {enc : TypeId × Value → H} {W : World} {fuel : Nat} {v : Value} {x : DataW H × List MemPlace}
    (h : DataW.trod enc Tryd.prog W 0 (fun _ => true) true fuel 5 [v] = some x) : ∃ n : Nat, v = .int .u8 (n : Int) ∧ n < 256 := by
  obtain ⟨t, e0, _, hw⟩ := DataW.trod_int Tryd.underlying5 h
  have hb := wf_u8 t hw
  simp at e0
  exact ⟨t.toNat, by rw [e0, Int.toNat_of_nonneg hb.1], by omega⟩
theorem bytes_inQ : ∀ l : List Value, (∀ i, i < l.length → ∃ n : Nat, l[i]? = some (.int .u8 (n : Int)) ∧ n < 256) → ∃ ws : List Nat, ws.length = l.length ∧ Under 256 ws ∧ l = vals .u8 ws
  | [], _ => ⟨[], rfl, fun x hx => by simp at hx, rfl⟩
  | v :: l, h => by
    obtain ⟨ws, h1, h2, h3⟩ := bytes_inQ l (fun i hi => by
      have := h (i + 1) (by simp; omega)
      simpa using this)
    obtain ⟨n, hn, hb⟩ := h 0 (by simp)
    have hv : v = .int .u8 (n : Int) := by simpa using hn
    refine ⟨n :: ws, by simp [h1], fun x hx => ?_, by rw [hv, h3]; rfl⟩
    rcases List.mem_cons.1 hx with rfl | hx
    · exact hb
    · exact h2 x hx
theorem read_halves {H : Type} {enc : TypeId × Value → H} {W : World} {fuel : Nat} {cs : Array Value} {x : DataW H × List MemPlace}
    (h : DataW.trod enc Tryd.prog W 0 (fun _ => true) true fuel 22 cs.toList = some x) : ∃ bk, HBIs cs bk := by
  obtain ⟨l⟩ := cs
  obtain ⟨zs, m, _, _, hcl, hzl, hz⟩ := DataW.trod_array Tryd.underlying22 h
  rw [Tryd.cellsB32] at hcl
  have hcl : l.length = 32 := hcl
  obtain ⟨ws, h1, h2, h3⟩ := bytes_inQ l (fun i hi => by
    have hi' : i < 32 := by omega
    have := hz i hi'
    rw [Tryd.cellsU8, Nat.mul_one] at this
    have hd : (l.drop i).take 1 = [l[i]] := by
      rw [List.drop_eq_getElem_cons hi]; rfl
    change DataW.trod enc Tryd.prog W 0 (fun _ => true) true m 5 ((l.drop i).take 1) = _ at this
    rw [hd, List.getElem?_eq_getElem (by omega)] at this
    obtain ⟨n, hn, hb⟩ := read_u8 this
    exact ⟨n, by rw [List.getElem?_eq_getElem hi, hn], hb⟩)
  exact ⟨ws, by unfold arr; rw [← h3], by omega, h2⟩
/-- an array's bytes, boxed, are a text -/
theorem row_boxL {w : World} {g : Nat} {bk : List Nat} {t : TypeId} (hb : w.heap[g]? = some (.cells (arr .u8 bk) t (0, 0))) (hu : Under 256 bk) (hl : bk.length ≤ 1000) : Row .u8 256 w (.slice (some ⟨g, 0, none⟩) bk.length bk.length) bk :=
  ⟨_, bk.length, rfl, Nat.le_refl _, by unfold maxLen; omega, fun _ => ⟨g, 0, rfl, fun i hi => by
    have hL : Lies .u8 t w g bk := hb
    rw [Nat.zero_add]
    exact hL.cell hi⟩, hu⟩
section
variable {ops : Array Oper} {S : World → Prop}
end
end Go.Proofs.YtpmobjfhhkglbaaDoor

/- How a kind of signatures and a place that came in are read. -/
namespace Go.Proofs.YtpmobjfhhkglbaaDoor
open Go.ChangeShapes Go.WideShapes Go.ChangeAt Go.RowKit Go.Deep
set_option linter.unusedVariables false
set_option linter.unusedSimpArgs false

theorem Tryd.cellsAdW : Tryd.prog.cellsOf 23 = 32 := by kernel_rfl
/-- a place, as it came in -/
structure AdIs (cs : Array Value) (bk : List Nat) : Prop where
  is : cs = arr .u8 bk
  pl : Pl bk
theorem read_adrs {H : Type} {enc : TypeId × Value → H} {W : World} {fuel : Nat} {cs : Array Value} {x : DataW H × List MemPlace}
    (h : DataW.trod enc Tryd.prog W 0 (fun _ => true) true fuel 23 cs.toList = some x) : ∃ bk, AdIs cs bk := by
  obtain ⟨l⟩ := cs
  obtain ⟨zs, m, _, _, hcl, hzl, hz⟩ := DataW.trod_array Tryd.underlying23 h
  rw [Tryd.cellsAdW] at hcl
  have hcl : l.length = 32 := hcl
  obtain ⟨ws, h1, h2, h3⟩ := bytes_inQ l (fun i hi => by
    have hi' : i < 32 := by omega
    have := hz i hi'
    rw [Tryd.cellsU8, Nat.mul_one] at this
    have hd : (l.drop i).take 1 = [l[i]] := by
      rw [List.drop_eq_getElem_cons hi]; rfl
    change DataW.trod enc Tryd.prog W 0 (fun _ => true) true m 5 ((l.drop i).take 1) = _ at this
    rw [hd, List.getElem?_eq_getElem (by omega)] at this
    obtain ⟨n, hn, hb⟩ := read_u8 this
    exact ⟨n, by rw [List.getElem?_eq_getElem hi, hn], hb⟩)
  exact ⟨ws, by unfold arr; rw [← h3], by omega, h2⟩
end Go.Proofs.YtpmobjfhhkglbaaDoor
