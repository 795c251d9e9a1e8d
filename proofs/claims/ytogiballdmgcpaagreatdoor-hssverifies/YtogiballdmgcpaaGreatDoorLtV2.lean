/- Trees of leaves that sign once: the document's Verify, where the form is another. -/
import Derived.Test.YtogiballdmgcpaaGreatDoorLtV
import Derived.Test.YtogiballdmgcpaaGreatDoorLmD
namespace Go.Proofs.YtogiballdmgcpaaGreatDoor
open Go.RowKit
set_option linter.unusedVariables false
set_option linter.unusedSimpArgs false

def v6lt : List Lt := [(0, some 46, [9]), (1, some 47, [46]), (2, some 48, [47]), (4, some 49, [48]), (8, some 50, [8, 49]), (24, some 51, [50, 49]), (8, some 52, [0, 49]), (72, some 53, [52, 49]), (168, some 54, [51, 53, 49]), (264, some 55, [54, 49]), (520, some 56, [49, 55])]
theorem v6reg : Reg (opsA (cLA (cLA (cRA (cRA (cRA (cRA (Tryz.f38.body.getD .skip)))))))) v6lt := ⟨by kernel_rfl, by kernel_rfl⟩
set_option maxHeartbeats 4000000 in
set_option maxRecDepth 100000 in
theorem rver_more (pub sig : List Nat) (pv tv sv : Value) (w : World) (hp : Row .u8 256 w pv pub) (hs : Row .u8 256 w sv sig) (h : vKey pub) (hc : ctE sig = 0) (hm : ctN sig < sig.length) :
    Calls Tryz.prog 38 #[pv, tv, sv] w fun e w' => e = .returned (.int .i64 1) ∧ Below w.heap.size w w' := by
  obtain ⟨h56, h0, h1⟩ := h
  have hrow := hp
  have hct := rcut_ok sig sv w hs hc
  obtain ⟨g8, gw0, gL1, gH0, gL2⟩ := ctE_zero hc
  have hbz : ∀ (w1 : World) (u v : Value), Bx2T (w1.alloc (.cells #[u, v] 45)) w1.heap.size u v := fun w1 u v => Bx2T.new w1 u v
  obtain ⟨pa, pc, rfl, lc1, lc2, ho⟩ := hp.opens h56
  obtain ⟨bb, bo, rfl, _⟩ := ho (by decide)
  have r4 : Row .u8 256 w (.slice (some ⟨bb, bo, none⟩) 4 pc) (pub.take 4) := hrow.cut (by omega)
  have r8 : Row .u8 256 w (.slice (some ⟨bb, bo + 4, none⟩) 4 (pc - 4)) ((pub.drop 4).take 4) := hrow.mid (i := 4) (j := 8) (by decide) (by omega)
  have rp8 : Row .u8 256 w (.slice (some ⟨bb, bo, none⟩) 8 pc) (pub.take 8) := hrow.cut (by omega)
  have hn4 := rnum_any _ _ _ r4
  have hn8 := rnum_any _ _ _ r8
  have hht := fun y => rheight_any (numL (pub.take 4)) y (numL_lt _)
  have hdg := fun y => rdigit_any (numL ((pub.drop 4).take 4)) y (numL_lt _)
  have hHb : ((hgtL (numL (pub.take 4)) : Int) == 0) = false := by simp; exact h0
  have hHi : ¬ (hgtL (numL (pub.take 4)) : Int) = 0 := by omega
  have hDb : ((dgtL (numL ((pub.drop 4).take 4)) : Int) == 0) = false := by simp; exact h1
  have hDi : ¬ (dgtL (numL ((pub.drop 4).take 4)) : Int) = 0 := by omega
  generalize hgtL (numL (pub.take 4)) = HH at *
  generalize dgtL (numL ((pub.drop 4).take 4)) = DD at *
  generalize numL (pub.take 4) = X at *
  generalize numL ((pub.drop 4).take 4) = Y at *
  have h4c : (4 : Int) ≤ (pc : Int) := by omega
  have h8c : (8 : Int) ≤ (pc : Int) := by omega
  have hz := zeroTr
  obtain ⟨R, hRl⟩ : ∃ R, (sig.drop (ctN sig)).length = R := ⟨_, rfl⟩
  have hR0 : Hid (true = decide (0 < R)) := by rw [List.length_drop] at hRl; exact hide (decide_eq_true (by omega)).symm
  clear hp hrow r4 r8 rp8 ho h0 h1 hc hs hm lc1 lc2 g8 gw0 gL1 gH0 gL2
  go_enter Tryz.func38, Tryz.ntmps38
  go_wp2_with (first
    | (go_at_call 36; have hu := hn4; clear hn4; refine hu.mono ?_; rintro e yy ⟨rfl, hy⟩; obtain rfl := hy.symm; clear hu)
    | (go_at_call 36; have hu := hn8; clear hn8; refine hu.mono ?_; rintro e yy ⟨rfl, hy⟩; obtain rfl := hy.symm; clear hu)
    | (go_at_call 68; refine (hht _).mono ?_; rintro e yy ⟨rfl, hy⟩; obtain rfl := hy.symm)
    | (go_at_call 66; refine (hdg _).mono ?_; rintro e yy ⟨rfl, hy⟩; obtain rfl := hy.symm)
    | (go_at_call 37; refine hct.mono ?_; rintro e w1 ⟨v1, v2, rfl, r1, r2, hb1⟩; obtain ⟨a2, c2, rfl, _⟩ := r2.opens hRl)
    | fail)
  have HB := hide (keep_trans hb1 (keep_alloc w1 (.cells #[.int .i64 (ctH sig : Nat), .int .i64 (ctW sig : Nat)] 45)))
  clear hbz hct r1 r2 hht hdg
  refine at_begin (ops := (opsA (cLA (cLA (cRA (cRA (cRA (cRA (Tryz.f38.body.getD .skip))))))))) (n := 11) (fun _ => True) (by kernel_rfl) (by kernel_rfl) ?_
  refine at_takeD (i := 0) (m' := 1) (d := some 46) (v := .slice a2 R c2) v6reg rfl (by decide) rfl rfl (y_move rfl rfl rfl) trivial ?_
  simp only [Act.put, List.setIfInBounds_toArray, List.set_cons_zero, List.set_cons_succ]
  refine at_takeD (i := 1) (m' := 3) (d := some 47) (v := .int .i64 (R : Int)) v6reg rfl (by decide) rfl rfl (y_lenG rfl rfl rfl) trivial ?_
  simp only [Act.put, List.setIfInBounds_toArray, List.set_cons_zero, List.set_cons_succ]
  refine at_takeD (i := 2) (m' := 7) (d := some 48) (v := .bool true) v6reg rfl (by decide) rfl rfl (y_gtrG rfl rfl rfl hR0.out) trivial ?_
  simp only [Act.put, List.setIfInBounds_toArray, List.set_cons_zero, List.set_cons_succ]
  refine at_takeD (i := 3) (m' := 15) (d := some 49) (v := .bool true) v6reg rfl (by decide) rfl rfl (y_move rfl rfl rfl) trivial ?_
  simp only [Act.put, List.setIfInBounds_toArray, List.set_cons_zero, List.set_cons_succ]
  refine at_takeD (i := 4) (m' := 31) (d := some 50) (v := undef) v6reg rfl (by decide) rfl rfl (y_unG (wanted_nG (j := 3) (d := 49) (b := false) rfl rfl rfl rfl)) trivial ?_
  simp only [Act.put, List.setIfInBounds_toArray, List.set_cons_zero, List.set_cons_succ]
  refine at_takeD (i := 5) (m' := 63) (d := some 51) (v := undef) v6reg rfl (by decide) rfl rfl (y_unG (wanted_nG (j := 3) (d := 49) (b := false) rfl rfl rfl rfl)) trivial ?_
  simp only [Act.put, List.setIfInBounds_toArray, List.set_cons_zero, List.set_cons_succ]
  refine at_takeD (i := 6) (m' := 127) (d := some 52) (v := undef) v6reg rfl (by decide) rfl rfl (y_unG (wanted_nG (j := 3) (d := 49) (b := false) rfl rfl rfl rfl)) trivial ?_
  simp only [Act.put, List.setIfInBounds_toArray, List.set_cons_zero, List.set_cons_succ]
  refine at_takeD (i := 7) (m' := 255) (d := some 53) (v := undef) v6reg rfl (by decide) rfl rfl (y_unG (wanted_nG (j := 3) (d := 49) (b := false) rfl rfl rfl rfl)) trivial ?_
  simp only [Act.put, List.setIfInBounds_toArray, List.set_cons_zero, List.set_cons_succ]
  refine at_takeD (i := 8) (m' := 511) (d := some 54) (v := undef) v6reg rfl (by decide) rfl rfl (y_unG (wanted_nG (j := 3) (d := 49) (b := false) rfl rfl rfl rfl)) trivial ?_
  simp only [Act.put, List.setIfInBounds_toArray, List.set_cons_zero, List.set_cons_succ]
  refine at_takeD (i := 9) (m' := 1023) (d := some 55) (v := undef) v6reg rfl (by decide) rfl rfl (y_unG (wanted_nG (j := 3) (d := 49) (b := false) rfl rfl rfl rfl)) trivial ?_
  simp only [Act.put, List.setIfInBounds_toArray, List.set_cons_zero, List.set_cons_succ]
  refine at_takeD (i := 10) (m' := 2047) (d := some 56) (v := .bool true) v6reg rfl (by decide) rfl rfl (y_pickT rfl rfl rfl rfl) trivial ?_
  simp only [Act.put, List.setIfInBounds_toArray, List.set_cons_zero, List.set_cons_succ]
  refine at_done v6reg (by decide) ?_
  go_wp2
  go_ret
  exact ⟨rfl, HB.out.drew⟩
end Go.Proofs.YtogiballdmgcpaaGreatDoor

/- Trees of leaves that sign once: the document's Verify, the heads compared. -/
namespace Go.Proofs.YtogiballdmgcpaaGreatDoor
open Go.RowKit
set_option linter.unusedVariables false
set_option linter.unusedSimpArgs false

set_option maxHeartbeats 4000000 in
set_option maxRecDepth 100000 in
theorem v6_reg (Q : Exit → Act → World → Prop) (x1 x2 x3 x4 x5 x6 x7 x10 x11 x12 x13 x14 x15 x16 x17 x18 x19 x20 x21 x22 x23 x24 x25 x26 x27 x28 x29 x30 x31 x32 x33 x34 x35 x36 x37 x38 x39 x40 x41 x42 x43 x44 x45 x46 x47 x48 x49 x50 x51 x52 x53 x54 x55 x56 x57 x58 x59 x60 x61 x62 x63 x64 x65 x66 x67 x68 x69 x70 x71 x72 x73 x74 x75 x76 x77 x78 x79 x80 x81 x82 x83 x84 x85 x86 x87 x88 x89 x90 x91 x92 x93 x94 x95 x96 x97 x98 x99 x100 x101 x102 x103 x104 x105 x106 x107 x108 x109 x110 x111 x112 x113 x114 x115 x116 x117 x118 x119 x120 x121 x122 x123 x124 : Value) (B H W bb bo pc c2 : Nat) (a2 : Option Addr) (hd p8 : List Nat) (W0 : World) (hB : Bx2T W0 B (.int .i64 (H : Int)) (.int .i64 (W : Int))) (r8 : Row .u8 256 W0 (.slice (some ⟨bb, bo, none⟩) 8 pc) p8) (h8 : 8 ≤ pc)
    (hh : ∀ y, Calls Tryz.prog 47 #[.agg #[.int .i64 (H : Int), .int .i64 (W : Int)]] y fun e w' => ∃ v, e = .returned v ∧ Row .u8 256 w' v hd ∧ New y.heap.size v ∧ Tidy v ∧ Below y.heap.size y w')
    (hQ : ∀ (y51 : Value) (z : World), Below W0.heap.size W0 z → Q .normal { tmps := #[.slice (some ⟨bb, bo, none⟩) 56 pc, x1, x2, x3, x4, x5, x6, x7, .pointer (some ⟨B, 0, none⟩), .slice a2 0 c2, x10, x11, x12, x13, x14, x15, x16, x17, x18, x19, x20, x21, x22, x23, x24, x25, x26, x27, x28, x29, x30, x31, x32, x33, x34, x35, x36, x37, x38, x39, x40, x41, x42, x43, x44, x45, .slice a2 0 c2, .int .i64 0, .bool false, .bool false, .agg #[.int .i64 (H : Int), .int .i64 (W : Int)], y51, .slice (some ⟨bb, bo, none⟩) 56 pc, .slice (some ⟨bb, bo, none⟩) 8 pc, .bool (decide (hd = p8)), .bool (!decide (hd = p8)), .bool (!decide (hd = p8)), x57, x58, x59, x60, x61, x62, x63, x64, x65, x66, x67, x68, x69, x70, x71, x72, x73, x74, x75, x76, x77, x78, x79, x80, x81, x82, x83, x84, x85, x86, x87, x88, x89, x90, x91, x92, x93, x94, x95, x96, x97, x98, x99, x100, x101, x102, x103, x104, x105, x106, x107, x108, x109, x110, x111, x112, x113, x114, x115, x116, x117, x118, x119, x120, x121, x122, x123, x124], defers := [] } z) :
    (Code.region 6 (opsA (cLA (cLA (cRA (cRA (cRA (cRA (Tryz.f38.body.getD .skip)))))))) true).wp Tryz.prog Q { tmps := #[.slice (some ⟨bb, bo, none⟩) 56 pc, x1, x2, x3, x4, x5, x6, x7, .pointer (some ⟨B, 0, none⟩), .slice a2 0 c2, x10, x11, x12, x13, x14, x15, x16, x17, x18, x19, x20, x21, x22, x23, x24, x25, x26, x27, x28, x29, x30, x31, x32, x33, x34, x35, x36, x37, x38, x39, x40, x41, x42, x43, x44, x45, x46, x47, x48, x49, x50, x51, x52, x53, x54, x55, x56, x57, x58, x59, x60, x61, x62, x63, x64, x65, x66, x67, x68, x69, x70, x71, x72, x73, x74, x75, x76, x77, x78, x79, x80, x81, x82, x83, x84, x85, x86, x87, x88, x89, x90, x91, x92, x93, x94, x95, x96, x97, x98, x99, x100, x101, x102, x103, x104, x105, x106, x107, x108, x109, x110, x111, x112, x113, x114, x115, x116, x117, x118, x119, x120, x121, x122, x123, x124], defers := [] } W0 := by
  have hbd : Below W0.heap.size W0 W0.drew := (Below.refl _ _).drew
  have hSf : ∀ y, Below W0.heap.size W0 y → y.rangeAt B 0 [.int .i64 (H : Int), .int .i64 (W : Int)] := fun y hy => (hB.below hy).range
  have hS0 := hSf _ hbd
  refine at_begin (ops := (opsA (cLA (cLA (cRA (cRA (cRA (cRA (Tryz.f38.body.getD .skip))))))))) (n := 11) (fun y => y.rangeAt B 0 [.int .i64 (H : Int), .int .i64 (W : Int)]) (by kernel_rfl) (by kernel_rfl) ?_
  refine at_takeD (i := 0) (m' := 1) (d := some 46) (v := .slice a2 0 c2) v6reg rfl (by decide) rfl rfl (y_move rfl rfl rfl) hS0 ?_
  simp only [Act.put, List.setIfInBounds_toArray, List.set_cons_zero, List.set_cons_succ]
  refine at_takeD (i := 1) (m' := 3) (d := some 47) (v := .int .i64 0) v6reg rfl (by decide) rfl rfl (y_lenG (n := 0) rfl rfl rfl) hS0 ?_
  simp only [Act.put, List.setIfInBounds_toArray, List.set_cons_zero, List.set_cons_succ]
  refine at_takeD (i := 2) (m' := 7) (d := some 48) (v := .bool false) v6reg rfl (by decide) rfl rfl (y_gtrG (n := 0) rfl rfl rfl rfl) hS0 ?_
  simp only [Act.put, List.setIfInBounds_toArray, List.set_cons_zero, List.set_cons_succ]
  refine at_takeD (i := 3) (m' := 15) (d := some 49) (v := .bool false) v6reg rfl (by decide) rfl rfl (y_move rfl rfl rfl) hS0 ?_
  simp only [Act.put, List.setIfInBounds_toArray, List.set_cons_zero, List.set_cons_succ]
  refine at_takeD (i := 4) (m' := 31) (d := some 50) (v := .agg #[.int .i64 (H : Int), .int .i64 (W : Int)]) v6reg rfl (by decide) rfl rfl (y_rowG (cs := [.int .i64 (H : Int), .int .i64 (W : Int)]) (wanted_gG (j := 3) (d := 49) (b := false) rfl rfl rfl rfl) rfl rfl Tryz.underlying45 rfl (by kernel_rfl) (fun _ h => h)) hS0 ?_
  simp only [Act.put, List.setIfInBounds_toArray, List.set_cons_zero, List.set_cons_succ]
  refine at_takeD (i := 6) (m' := 95) (d := some 52) (v := .slice (some ⟨bb, bo, none⟩) 56 pc) v6reg rfl (by decide) rfl rfl (y_moveG (wanted_gG (j := 3) (d := 49) (b := false) rfl rfl rfl rfl) rfl rfl) hS0 ?_
  simp only [Act.put, List.setIfInBounds_toArray, List.set_cons_zero, List.set_cons_succ]
  refine at_takeD (i := 7) (m' := 223) (d := some 53) (v := .slice (some ⟨bb, bo, none⟩) 8 pc) v6reg rfl (by decide) rfl rfl (y_toG (F := 8) (wanted_gG (j := 3) (d := 49) (b := false) rfl rfl rfl rfl) rfl rfl rfl h8) hS0 ?_
  simp only [Act.put, List.setIfInBounds_toArray, List.set_cons_zero, List.set_cons_succ]
  refine at_one (i := 5) (m' := 255) v6reg (by decide) rfl ?_
  refine p_callG (args := #[.agg #[.int .i64 (H : Int), .int .i64 (W : Int)]]) (d := some 51) rfl (wanted_gG (j := 3) (d := 49) (b := false) rfl rfl rfl rfl) rfl (by simp only [List.map_toArray, List.map_cons, List.map_nil]; rfl) rfl Tryz.call47 ((hh _).mono ?_)
  rintro e z1 ⟨v1, rfl, r1, n1, t1, hb1⟩
  have k1 := keep_trans hbd hb1
  refine ⟨_, rfl, hSf _ k1, ?_⟩
  simp only [Act.put, List.setIfInBounds_toArray, List.set_cons_zero, List.set_cons_succ]
  refine at_one (i := 8) (m' := 511) v6reg (by decide) rfl ?_
  refine p_callG (args := #[v1, .slice (some ⟨bb, bo, none⟩) 8 pc]) (d := some 54) rfl (wanted_gG (j := 3) (d := 49) (b := false) rfl rfl rfl rfl) rfl (by simp only [List.map_toArray, List.map_cons, List.map_nil]; rfl) rfl Tryz.call13 ((rsame_b v1 _ hd p8 _ r1 (r8.below k1)).mono ?_)
  rintro e z2 ⟨rfl, hb2⟩
  have k2 := keep_trans k1 hb2
  refine ⟨_, rfl, hSf _ k2, ?_⟩
  simp only [Act.put, List.setIfInBounds_toArray, List.set_cons_zero, List.set_cons_succ]
  refine at_takeD (i := 9) (m' := 1023) (d := some 55) (v := .bool (!decide (hd = p8))) v6reg rfl (by decide) rfl rfl (y_notG (wanted_gG (j := 3) (d := 49) (b := false) rfl rfl rfl rfl) rfl rfl) (hSf _ k2) ?_
  simp only [Act.put, List.setIfInBounds_toArray, List.set_cons_zero, List.set_cons_succ]
  refine at_takeD (i := 10) (m' := 2047) (d := some 56) (v := .bool (!decide (hd = p8))) v6reg rfl (by decide) rfl rfl (y_pickE rfl rfl rfl rfl) (hSf _ k2) ?_
  simp only [Act.put, List.setIfInBounds_toArray, List.set_cons_zero, List.set_cons_succ]
  refine at_done v6reg (by decide) ?_
  exact hQ _ _ k2
end Go.Proofs.YtogiballdmgcpaaGreatDoor

/- Trees of leaves that sign once: the document's Verify, where the heads are unlike, and where a leaf is none. -/
namespace Go.Proofs.YtogiballdmgcpaaGreatDoor
open Go.RowKit
set_option linter.unusedVariables false
set_option linter.unusedSimpArgs false

/-- the head that a signature asks of a key -/
def hdT (sig : List Nat) : List Nat := be4 (lmCode (ctH sig : Int)) ++ be4 (numL ((sig.drop 4).take 4))
set_option maxHeartbeats 4000000 in
set_option maxRecDepth 100000 in
theorem rver_head (pub sig : List Nat) (pv tv sv : Value) (w : World) (hp : Row .u8 256 w pv pub) (hs : Row .u8 256 w sv sig) (h : vKey pub) (hc : ctE sig = 0) (hm : sig.length = ctN sig) (hdd : ¬ hdT sig = pub.take 8) :
    Calls Tryz.prog 38 #[pv, tv, sv] w fun e w' => e = .returned (.int .i64 1) ∧ Below w.heap.size w w' := by
  obtain ⟨h56, h0, h1⟩ := h
  have hrow := hp
  have hct := rcut_ok sig sv w hs hc
  obtain ⟨g8, gw0, gL1, gH0, gL2⟩ := ctE_zero hc
  have hbz : ∀ (w1 : World) (u v : Value), Bx2T (w1.alloc (.cells #[u, v] 45)) w1.heap.size u v := fun w1 u v => Bx2T.new w1 u v
  obtain ⟨pa, pc, rfl, lc1, lc2, ho⟩ := hp.opens h56
  obtain ⟨bb, bo, rfl, _⟩ := ho (by decide)
  have r4 : Row .u8 256 w (.slice (some ⟨bb, bo, none⟩) 4 pc) (pub.take 4) := hrow.cut (by omega)
  have r8 : Row .u8 256 w (.slice (some ⟨bb, bo + 4, none⟩) 4 (pc - 4)) ((pub.drop 4).take 4) := hrow.mid (i := 4) (j := 8) (by decide) (by omega)
  have rp8 : Row .u8 256 w (.slice (some ⟨bb, bo, none⟩) 8 pc) (pub.take 8) := hrow.cut (by omega)
  have hn4 := rnum_any _ _ _ r4
  have hn8 := rnum_any _ _ _ r8
  have hht := fun y => rheight_any (numL (pub.take 4)) y (numL_lt _)
  have hdg := fun y => rdigit_any (numL ((pub.drop 4).take 4)) y (numL_lt _)
  have hHb : ((hgtL (numL (pub.take 4)) : Int) == 0) = false := by simp; exact h0
  have hHi : ¬ (hgtL (numL (pub.take 4)) : Int) = 0 := by omega
  have hDb : ((dgtL (numL ((pub.drop 4).take 4)) : Int) == 0) = false := by simp; exact h1
  have hDi : ¬ (dgtL (numL ((pub.drop 4).take 4)) : Int) = 0 := by omega
  generalize hgtL (numL (pub.take 4)) = HH at *
  generalize dgtL (numL ((pub.drop 4).take 4)) = DD at *
  generalize numL (pub.take 4) = X at *
  generalize numL ((pub.drop 4).take 4) = Y at *
  have h4c : (4 : Int) ≤ (pc : Int) := by omega
  have h8c : (8 : Int) ≤ (pc : Int) := by omega
  have hz := zeroTr
  obtain ⟨R, hRl⟩ : ∃ R, (sig.drop (ctN sig)).length = R := ⟨_, rfl⟩
  obtain rfl : R = 0 := by rw [List.length_drop] at hRl; omega
  obtain ⟨n, m, s, hk⟩ : ∃ n m s, Kd (ctW sig) n m s (numL ((sig.drop 4).take 4)) := by
    rcases dgtL_or (numL ((sig.drop 4).take 4)) with hz | hz
    · exact absurd hz gw0
    · exact hz
  have hhd := fun y => rhead_any (ctH sig : Int) y hk
  obtain ⟨hd, hhe⟩ : ∃ hd, hd = be4 (lmCode (ctH sig : Int)) ++ be4 (numL ((sig.drop 4).take 4)) := ⟨_, rfl⟩
  unfold hdT at hdd
  rw [← hhe] at hhd hdd
  have h8p : 8 ≤ pc := by omega
  have HD := hide (decide_eq_false hdd)
  generalize pub.take 8 = p8 at *
  clear hp hrow r4 r8 ho h0 h1 hc hs hm lc1 lc2 g8 gw0 gL1 gH0 gL2 hdd hhe hk
  generalize ctH sig = H at *
  generalize ctW sig = W at *
  go_enter Tryz.func38, Tryz.ntmps38
  go_wp2_with (first
    | (go_at_call 36; have hu := hn4; clear hn4; refine hu.mono ?_; rintro e yy ⟨rfl, hy⟩; obtain rfl := hy.symm; clear hu)
    | (go_at_call 36; have hu := hn8; clear hn8; refine hu.mono ?_; rintro e yy ⟨rfl, hy⟩; obtain rfl := hy.symm; clear hu)
    | (go_at_call 68; refine (hht _).mono ?_; rintro e yy ⟨rfl, hy⟩; obtain rfl := hy.symm)
    | (go_at_call 66; refine (hdg _).mono ?_; rintro e yy ⟨rfl, hy⟩; obtain rfl := hy.symm)
    | (go_at_call 37; refine hct.mono ?_; rintro e w1 ⟨v1, v2, rfl, r1, r2, hb1⟩; obtain ⟨a2, c2, rfl, _⟩ := r2.opens hRl)
    | fail)
  have hB := hbz w1 (.int .i64 (H : Int)) (.int .i64 (W : Int))
  have kA := keep_trans hb1 (keep_alloc w1 (.cells #[.int .i64 (H : Int), .int .i64 (W : Int)] 45))
  have rq8 := rp8.below kA
  clear hbz hct r1 r2 hht hdg
  refine v6_reg _ _ _ _ _ _ _ _ _ _ _ _ _ _ _ _ _ _ _ _ _ _ _ _ _ _ _ _ _ _ _ _ _ _ _ _ _ _ _ _ _ _ _ _ _ _ _ _ _ _ _ _ _ _ _ _ _ _ _ _ _ _ _ _ _ _ _ _ _ _ _ _ _ _ _ _ _ _ _ _ _ _ _ _ _ _ _ _ _ _ _ _ _ _ _ _ _ _ _ _ _ _ _ _ _ _ _ _ _ _ _ _ _ _ _ _ _ _ _ _ _ _ _ w1.heap.size H W bb bo pc c2 a2 hd p8 _ hB rq8 h8p hhd ?_
  intro y51 z hbz2
  rw [HD.out]
  have HB := hide (keep_trans kA hbz2)
  clear hB kA rq8 hbz2 hhd
  go_wp2
  go_ret
  exact ⟨rfl, HB.out⟩
set_option maxHeartbeats 4000000 in
set_option maxRecDepth 100000 in
theorem rver_spent (pub sig : List Nat) (pv tv sv : Value) (w : World) (hp : Row .u8 256 w pv pub) (hs : Row .u8 256 w sv sig) (h : vKey pub) (hc : ctE sig = 0) (hm : sig.length = ctN sig) (hdd : hdT sig = pub.take 8) (hq : 2 ^ ctH sig ≤ numL (sig.take 4)) :
    Calls Tryz.prog 38 #[pv, tv, sv] w fun e w' => e = .returned (.int .i64 13) ∧ Below w.heap.size w w' := by
  obtain ⟨h56, h0, h1⟩ := h
  have hrow := hp
  have hct := rcut_ok sig sv w hs hc
  obtain ⟨g8, gw0, gL1, gH0, gL2⟩ := ctE_zero hc
  have hbz : ∀ (w1 : World) (u v : Value), Bx2T (w1.alloc (.cells #[u, v] 45)) w1.heap.size u v := fun w1 u v => Bx2T.new w1 u v
  obtain ⟨pa, pc, rfl, lc1, lc2, ho⟩ := hp.opens h56
  obtain ⟨bb, bo, rfl, _⟩ := ho (by decide)
  have r4 : Row .u8 256 w (.slice (some ⟨bb, bo, none⟩) 4 pc) (pub.take 4) := hrow.cut (by omega)
  have r8 : Row .u8 256 w (.slice (some ⟨bb, bo + 4, none⟩) 4 (pc - 4)) ((pub.drop 4).take 4) := hrow.mid (i := 4) (j := 8) (by decide) (by omega)
  have rp8 : Row .u8 256 w (.slice (some ⟨bb, bo, none⟩) 8 pc) (pub.take 8) := hrow.cut (by omega)
  have hn4 := rnum_any _ _ _ r4
  have hn8 := rnum_any _ _ _ r8
  have hht := fun y => rheight_any (numL (pub.take 4)) y (numL_lt _)
  have hdg := fun y => rdigit_any (numL ((pub.drop 4).take 4)) y (numL_lt _)
  have hHb : ((hgtL (numL (pub.take 4)) : Int) == 0) = false := by simp; exact h0
  have hHi : ¬ (hgtL (numL (pub.take 4)) : Int) = 0 := by omega
  have hDb : ((dgtL (numL ((pub.drop 4).take 4)) : Int) == 0) = false := by simp; exact h1
  have hDi : ¬ (dgtL (numL ((pub.drop 4).take 4)) : Int) = 0 := by omega
  generalize hgtL (numL (pub.take 4)) = HH at *
  generalize dgtL (numL ((pub.drop 4).take 4)) = DD at *
  generalize numL (pub.take 4) = X at *
  generalize numL ((pub.drop 4).take 4) = Y at *
  have h4c : (4 : Int) ≤ (pc : Int) := by omega
  have h8c : (8 : Int) ≤ (pc : Int) := by omega
  have hz := zeroTr
  obtain ⟨R, hRl⟩ : ∃ R, (sig.drop (ctN sig)).length = R := ⟨_, rfl⟩
  obtain rfl : R = 0 := by rw [List.length_drop] at hRl; omega
  obtain ⟨n, m, s, hk⟩ : ∃ n m s, Kd (ctW sig) n m s (numL ((sig.drop 4).take 4)) := by
    rcases dgtL_or (numL ((sig.drop 4).take 4)) with hz | hz
    · exact absurd hz gw0
    · exact hz
  have hhd := fun y => rhead_any (ctH sig : Int) y hk
  obtain ⟨hd, hhe⟩ : ∃ hd, hd = be4 (lmCode (ctH sig : Int)) ++ be4 (numL ((sig.drop 4).take 4)) := ⟨_, rfl⟩
  unfold hdT at hdd
  rw [← hhe] at hhd hdd
  have h8p : 8 ≤ pc := by omega
  have HD := hide (decide_eq_true hdd)
  have hHl := ctH_le sig
  obtain ⟨L, hL⟩ : ∃ L, sig.length = L := ⟨_, rfl⟩
  obtain ⟨sa, sc, rfl, ls1, ls2, hso⟩ := hs.opens hL
  obtain ⟨sb, so, rfl, _⟩ := hso (by omega)
  have rs4 : Row .u8 256 w (.slice (some ⟨sb, so, none⟩) 4 sc) (sig.take 4) := hs.cut (by omega)
  have hnq := fun y (hy : Below w.heap.size w y) => rnum_any _ _ _ (rs4.below hy)
  have hql := numL_lt (sig.take 4)
  generalize numL (sig.take 4) = q at *
  have h4s : (4 : Int) ≤ (sc : Int) := by omega
  generalize pub.take 8 = p8 at *
  obtain ⟨M, hM⟩ : ∃ M, M = 2 ^ ctH sig := ⟨_, rfl⟩
  have hMb : M ≤ 33554432 := by rw [hM]; exact Nat.le_trans (Nat.pow_le_pow_right (by decide) hHl) (by decide)
  have e_M : (2 : Int) ^ ctH sig = (M : Int) := by rw [hM]; norm_cast
  rw [← hM] at hq
  have s_M : IntKind.u64.wrap (M : Int) = (M : Int) := by rw [IntKind.wrap_u64]; omega
  have h_q : (M : Int) ≤ (q : Int) := by omega
  have g_q : (q : Int) ≥ (M : Int) := by omega
  clear hp hrow r4 r8 ho h0 h1 hc hm lc1 lc2 g8 gw0 gL1 gH0 gL2 hdd hhe hk hM hq hql hL hso ls1 ls2 hs rs4
  generalize ctH sig = H at *
  generalize ctW sig = W at *
  go_enter Tryz.func38, Tryz.ntmps38
  go_wp2_with (first
    | (go_at_call 36; have hu := hn4; clear hn4; refine hu.mono ?_; rintro e yy ⟨rfl, hy⟩; obtain rfl := hy.symm; clear hu)
    | (go_at_call 36; have hu := hn8; clear hn8; refine hu.mono ?_; rintro e yy ⟨rfl, hy⟩; obtain rfl := hy.symm; clear hu)
    | (go_at_call 68; refine (hht _).mono ?_; rintro e yy ⟨rfl, hy⟩; obtain rfl := hy.symm)
    | (go_at_call 66; refine (hdg _).mono ?_; rintro e yy ⟨rfl, hy⟩; obtain rfl := hy.symm)
    | (go_at_call 37; refine hct.mono ?_; rintro e w1 ⟨v1, v2, rfl, r1, r2, hb1⟩; obtain ⟨a2, c2, rfl, _⟩ := r2.opens hRl)
    | fail)
  have hB := hbz w1 (.int .i64 (H : Int)) (.int .i64 (W : Int))
  have kA := keep_trans hb1 (keep_alloc w1 (.cells #[.int .i64 (H : Int), .int .i64 (W : Int)] 45))
  have rq8 := rp8.below kA
  clear hbz hct r1 r2 hht hdg
  refine v6_reg _ _ _ _ _ _ _ _ _ _ _ _ _ _ _ _ _ _ _ _ _ _ _ _ _ _ _ _ _ _ _ _ _ _ _ _ _ _ _ _ _ _ _ _ _ _ _ _ _ _ _ _ _ _ _ _ _ _ _ _ _ _ _ _ _ _ _ _ _ _ _ _ _ _ _ _ _ _ _ _ _ _ _ _ _ _ _ _ _ _ _ _ _ _ _ _ _ _ _ _ _ _ _ _ _ _ _ _ _ _ _ _ _ _ _ _ _ _ _ _ _ _ _ w1.heap.size H W bb bo pc c2 a2 hd p8 _ hB rq8 h8p hhd ?_
  intro y51 z hbz2
  rw [HD.out]
  have hBz := hB.below hbz2
  have cH := hBz.c0
  have kZ := keep_trans kA hbz2
  have hnz := hnq z kZ
  have HB := hide kZ
  clear hB kA rq8 hbz2 hhd hnq kZ
  go_wp2_with (first
    | (go_at_call 36; refine hnz.mono ?_; rintro e yy ⟨rfl, hy⟩; obtain rfl := hy.symm)
    | fail)
  go_ret
  exact ⟨rfl, HB.out⟩
end Go.Proofs.YtogiballdmgcpaaGreatDoor

/- Leaves that sign once: the document's Sign. -/
namespace Go.Proofs.YtogiballdmgcpaaGreatDoor
open Go.RowKit
set_option linter.unusedVariables false
set_option linter.unusedSimpArgs false

theorem el_le_of {K : Nat} {l : List Nat} (h : ∀ x ∈ l, x < 2 ^ K) (i : Nat) : el l i ≤ 2 ^ K - 1 := by
  by_cases hi : i < l.length
  · rw [el_at hi]; have := h _ (List.getElem_mem hi); omega
  · unfold el; rw [List.getElem?_eq_none (by omega)]; exact Nat.zero_le _
end Go.Proofs.YtogiballdmgcpaaGreatDoor
