/- Keys of chains: the program's answers and the document's are the same. -/
import Derived.Test.YtpmobjfhhkglbaaGreatDoorWyFrm
import Derived.Test.YtpmobjfhhkglbaaGreatDoorBitm
namespace Go.Proofs.YtpmobjfhhkglbaaGreatDoor
open Go.RowKit
set_option linter.unusedVariables false
set_option linter.unusedSimpArgs false

section
variable {N : Nat} {H D A K : Int}
/-- a call that tells the text X -/
def TellsY (f : FuncId) (args : Array Value) (X : List Nat) (w : World) : Prop := ∀ y, Below w.heap.size w y → Calls Tryz.prog f args y fun e w' => ∃ v, e = .returned v ∧ Row .u8 256 w' v X ∧ Below y.heap.size y w'
theorem both_sumY (sh : Bool) (pub a text : List Nat) (pv tv : Value) (w : World) (hC : Csts w) (hT : Roots w) (hF : FitX (N : Int) H D A K) (ha : Pl a) (hp : Row .u8 256 w pv pub) (tp : Tidy pv) (ht : Row .u8 256 w tv text) (tt : Tidy tv) (htl : text.length ≤ 300) :
    ∃ X, TellsY 15 #[slV (N : Int) H D A K sh, pv, .agg (arr .u8 a), tv] X w ∧ TellsY 16 #[slV (N : Int) H D A K sh, pv, .agg (arr .u8 a), tv] X w := by
  by_cases hpl : pub.length = N
  · refine ⟨sumW N sh pub a text, fun y k => ?_, fun y k => ?_⟩
    · exact (wsum_ok sh pub a text pv tv y (hC.below k) (hT.below k) hF ha (hp.below k) tp (ht.below k) tt hpl (by omega)).mono fun e w' ⟨v, h1, h2, _, h4⟩ => ⟨v, h1, h2, h4⟩
    · exact (rsumW_ok sh pub a text pv tv y hF ha (hp.below k) tp (ht.below k) tt hpl (by omega)).mono fun e w' ⟨v, h1, h2, _, h4⟩ => ⟨v, h1, h2, h4⟩
  · obtain ⟨pa, pc, rfl, _⟩ := hp.opens rfl
    obtain ⟨ta, tc, rfl, _⟩ := ht.opens rfl
    refine ⟨[], fun y k => ?_, fun y k => ?_⟩
    · exact (wsum_no sh a pa ta _ pc _ tc y hF hpl).mono fun e w' ⟨h1, h4⟩ => ⟨_, h1, Row.nil _ _ _, h4⟩
    · exact (rsumW_no sh a pa ta _ pc _ tc y hpl).mono fun e w' ⟨h1, h4⟩ => ⟨_, h1, Row.nil _ _ _, h4⟩
theorem both_drwY (sh : Bool) (pub a text : List Nat) (pv tv : Value) (w : World) (hC : Csts w) (hT : Roots w) (hF : FitX (N : Int) H D A K) (ha : Pl a) (hp : Row .u8 256 w pv pub) (tp : Tidy pv) (ht : Row .u8 256 w tv text) (tt : Tidy tv) :
    ∃ X, TellsY 17 #[slV (N : Int) H D A K sh, pv, tv, .agg (arr .u8 a)] X w ∧ TellsY 18 #[slV (N : Int) H D A K sh, pv, tv, .agg (arr .u8 a)] X w := by
  by_cases hl : pub.length = N ∧ text.length = N
  · obtain ⟨hpl, htl⟩ := hl
    refine ⟨sumW N sh pub a text, fun y k => ?_, fun y k => ?_⟩
    · exact (wdrw_ok sh pub a text pv tv y (hC.below k) (hT.below k) hF ha (hp.below k) tp (ht.below k) tt hpl htl).mono fun e w' ⟨v, h1, h2, _, h4⟩ => ⟨v, h1, h2, h4⟩
    · exact (rdrawW_ok sh pub a text pv tv y hF ha (hp.below k) tp (ht.below k) tt hpl htl).mono fun e w' ⟨v, h1, h2, _, h4⟩ => ⟨v, h1, h2, h4⟩
  · obtain ⟨pa, pc, rfl, _⟩ := hp.opens rfl
    obtain ⟨ta, tc, rfl, _⟩ := ht.opens rfl
    refine ⟨[], fun y k => ?_, fun y k => ?_⟩
    · exact (wdrw_no sh a pa ta _ pc _ tc y hF (fun h => hl ⟨h.2, h.1⟩)).mono fun e w' ⟨h1, h4⟩ => ⟨_, h1, Row.nil _ _ _, h4⟩
    · exact (rdrawW_no sh a ha pa ta _ pc _ tc y hl).mono fun e w' ⟨h1, h4⟩ => ⟨_, h1, Row.nil _ _ _, h4⟩
end
theorem both_digY (n : Int) (d : List Nat) (dv : Value) (w : World) (hd : Row .u8 256 w dv d) (td : Tidy dv) :
    ∃ X, (∀ y, Below w.heap.size w y → Calls Tryz.prog 12 #[.int .i64 n, dv] y fun e w' => ∃ v, e = .returned v ∧ Row .u32 4294967296 w' v X ∧ Below y.heap.size y w') ∧ (∀ y, Below w.heap.size w y → Calls Tryz.prog 13 #[.int .i64 n, dv] y fun e w' => ∃ v, e = .returned v ∧ Row .u32 4294967296 w' v X ∧ Below y.heap.size y w') := by
  by_cases hl : (n = 16 ∨ n = 24 ∨ n = 32) ∧ (d.length : Int) = n
  · obtain ⟨N, rfl⟩ : ∃ N : Nat, n = (N : Int) := ⟨n.toNat, by omega⟩
    have hN : N = 16 ∨ N = 24 ∨ N = 32 := by omega
    have hdl : d.length = N := by omega
    refine ⟨dgW N d, fun y k => ?_, fun y k => ?_⟩
    · exact (wdig_ok hN d dv y (hd.below k) td hdl).mono fun e w' ⟨v, h1, h2, h4⟩ => ⟨v, h1, h2.row, h4⟩
    · exact (rdgW_ok d dv y hN (hd.below k) td hdl).mono fun e w' ⟨v, h1, h2, h4⟩ => ⟨v, h1, h2.row, h4⟩
  · obtain ⟨da, dc, rfl, _⟩ := hd.opens rfl
    refine ⟨[], fun y k => ?_, fun y k => ?_⟩
    · exact (wdig_no n da _ dc y hl).mono fun e w' ⟨h1, h4⟩ => ⟨_, h1, Row.nil _ _ _, by rw [h4]; exact Below.refl _ _⟩
    · exact (rdgW_no n da _ dc y hl).mono fun e w' ⟨h1, h4⟩ => ⟨_, h1, Row.nil _ _ _, by rw [h4]; exact Below.refl _ _⟩
/-- places are compared -/
theorem run_eqAdY (w : World) (l : List Nat) (h : l.length = 32) : (binOp .neq 25 (.agg (arr .u8 l)) (.agg (arr .u8 l))).run Tryz.prog w = .ok (.bool false) w := by
  obtain ⟨i0, hi0, _⟩ := info_byte
  have he : (Op.equalIn 10000 25 (.agg (arr .u8 l)) (.agg (arr .u8 l))).run Tryz.prog w = .ok true w := by
    rw [run_equalIn_array w 9999 (arr .u8 l) (arr .u8 l) Tryz.underlying25 hi0, show Tryz.prog.cellsOf 5 = 1 by kernel_rfl, run_items_arr w 9998 Tryz.underlying5 l l (List.range 32) (fun i hi => by have := List.mem_range.1 hi; omega)]
    simp
  simp only [binOp]
  simp [Op.equal, Op.maxDepth, he]
theorem y_neAdY {ops : Array Oper} {S : World → Prop} {o : Oper} {a : Act} {x y : Operand} {t' : TypeId} {l : List Nat} (hw : Region.wanted o (yielded ops a.tmps) = true) (ho : o.op = .binOp .neq 25 x y t') (hx : a.eval x = .agg (arr .u8 l)) (hy : a.eval y = .agg (arr .u8 l)) (h : l.length = 32) : YieldsIf Tryz.prog ops S o (.bool false) a := by
  refine y_ofG hw fun w _ => ?_
  unfold execOp
  simp only [ho, hx, hy]
  simp [eqGuard, run_eqAdY w l h, Sem.run_bind]
end Go.Proofs.YtpmobjfhhkglbaaGreatDoor
