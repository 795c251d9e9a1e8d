/- Trees of leaves that sign once: the document's Verify, where it refuses at first. -/
import Derived.Test.YtogiballdmgcpaaGreatDoorLhA
import Derived.Test.YtogiballdmgcpaaGreatDoorPlan3
import Derived.Test.YtogiballdmgcpaaGreatDoorBase
import Derived.RangeFuncBox
import Derived.RangeFuncNested
import Derived.RangeFuncBound
import Derived.RangeFuncCalls
import Derived.RangeFuncLeaves
import Derived.Shelf.Abstract
import Derived.OwnWalkIn
import Derived.Test.YtogiballdmgcpaaGreatDoorProg
namespace Go.Proofs.YtogiballdmgcpaaGreatDoor
open Go.RowKit
set_option linter.unusedVariables false
set_option linter.unusedSimpArgs false

/-- a key that can be one -/
def vKey (pub : List Nat) : Prop := pub.length = 56 ∧ hgtL (numL (pub.take 4)) ≠ 0 ∧ dgtL (numL ((pub.drop 4).take 4)) ≠ 0
theorem zeroTr : ∀ w, (zeroValue 45).run Tryz.prog w = .ok (.agg #[.int .i64 0, .int .i64 0]) w := fun w => by kernel_rfl
end Go.Proofs.YtogiballdmgcpaaGreatDoor

/- Steps of a plan behind a guard, apart from keccak's. -/
namespace Go.Proofs.YtogiballdmgcpaaGreatDoor
open Go.RowKit
set_option linter.unusedVariables false
set_option linter.unusedSimpArgs false
section
variable {ops : Array Oper} {Q : Exit → Act → World → Prop} {S : World → Prop} {K : Act → World → Prop}
theorem y_toG {o : Oper} {a : Act} {x y : Operand} {aa : Option Addr} {n c F : Nat} (hw : Region.wanted o (yielded ops a.tmps) = true) (ho : o.op = .slice 23 x none (some y) none) (hx : a.eval x = .slice aa n c) (hy : a.eval y = .int .i64 (F : Int)) (hF : F ≤ c) : YieldsIf Tryz.prog ops S o (.slice aa F c) a := by
  refine y_ofG hw fun w _ => ?_
  have h := slice_to aa n c F hF w
  unfold execOp
  simp only [ho, hx, Option.map_none, Option.map_some, hy]
  simp [Instr.sliceAt, Sem.run_bind, h, run_underlying Tryz.underlying23, go_sem]
end
end Go.Proofs.YtogiballdmgcpaaGreatDoor

/- Trees of leaves that sign once: the document's Verify, where the heads are unlike, and where a leaf is none. -/
namespace Go.Proofs.YtogiballdmgcpaaGreatDoor
open Go.RowKit
set_option linter.unusedVariables false
set_option linter.unusedSimpArgs false

/-- the head that a signature asks of a key -/
def hdT (sig : List Nat) : List Nat := be4 (lmCode (ctH sig : Int)) ++ be4 (numL ((sig.drop 4).take 4))
end Go.Proofs.YtogiballdmgcpaaGreatDoor

/- Trees of leaves that sign once: the document's Verify where it comes to the sums. -/
namespace Go.Proofs.YtogiballdmgcpaaGreatDoor
open Go.RowKit
set_option linter.unusedVariables false
set_option linter.unusedSimpArgs false

/-- what a kind of leaf has -/
def nK (k : Nat) : Nat := if k = 1 then 256 else if k = 2 then 128 else if k = 4 then 64 else 32
def mK (k : Nat) : Nat := if k = 1 then 9 else if k = 2 then 5 else if k = 4 then 3 else 2
def sK (k : Nat) : Nat := if k = 1 then 7 else if k = 2 then 6 else if k = 4 then 4 else 0
def cK (k : Nat) : Nat := if k = 1 then 1 else if k = 2 then 2 else if k = 4 then 3 else 4
theorem Kd.is {k n m s c : Nat} (h : Kd k n m s c) : n = nK k ∧ m = mK k ∧ s = sK k ∧ c = cK k := by cases h <;> exact ⟨rfl, rfl, rfl, rfl⟩
/-- the key that a leaf's signature leads to -/
def cndT (k n m s : Nat) (id text sig : List Nat) (q : Nat) : List Nat := keyH shaL (preL id q) (endsC shaL (preL id q) (2 ^ k - 1) (digsL k n m s (digH shaL (preL id q) ((sig.drop 4).take 32) text)) sig)
theorem cndT_len (k n m s : Nat) (id text sig : List Nat) (q : Nat) : (cndT k n m s id text sig q).length = 32 := shaL_len _
/-- the neighbours that a signature ends with -/
def vChk (l : List Nat) : Nat → List (List Nat)
  | 0 => []
  | h + 1 => l.take 32 :: vChk (l.drop 32) h
theorem vChk_len : ∀ (h : Nat) (l : List Nat), (vChk l h).length = h
  | 0, _ => rfl
  | h + 1, l => by show (vChk (l.drop 32) h).length + 1 = _; rw [vChk_len h]
/-- the sum that a signature leads to -/
def vTopK (k n m s : Nat) (pub text sig : List Nat) : List Nat :=
  climb (ovL ((pub.drop 8).take 16)) (vChk (sig.drop (8 + szW (k : Int))) (ctH sig)) (2 ^ ctH sig + numL (sig.take 4)) (lfS ((pub.drop 8).take 16) (2 ^ ctH sig + numL (sig.take 4)) (cndT k n m s ((pub.drop 8).take 16) text ((sig.drop 4).take (szW (k : Int))) (numL (sig.take 4))))
theorem Kd.size {k n m s c : Nat} (h : Kd k n m s c) : szW (k : Int) = 36 + 32 * (n + m) := by cases h <;> rfl
end Go.Proofs.YtogiballdmgcpaaGreatDoor

/- Trees of trees: the document's Public. -/
namespace Go.Proofs.YtogiballdmgcpaaGreatDoor
open Go.RowKit
set_option linter.unusedVariables false
set_option linter.unusedSimpArgs false

/-- a tree's key, and its signature by a leaf -/
def pubG (t : Int × Int) (id seed : List Nat) : List Nat := (be4 (lmCode t.1) ++ be4 (cK t.2.toNat)) ++ (id ++ knT t.2.toNat (nK t.2.toNat) (mK t.2.toNat) t.1.toNat id seed 1)
def sigG (t : Int × Int) (id seed : List Nat) (q : Nat) (text : List Nat) : List Nat :=
  ([be4 q, sgT t.2.toNat (nK t.2.toNat) (mK t.2.toNat) (sK t.2.toNat) (cK t.2.toNat) id seed text q, be4 (lmCode t.1)] ++ pthA (knT t.2.toNat (nK t.2.toNat) (mK t.2.toNat) t.1.toNat id seed) t.1.toNat (2 ^ t.1.toNat + q)).flatten
theorem FitG.kd {t : Int × Int} (h : FitG t) : ∃ k : Nat, t.2 = (k : Int) ∧ Kd k (nK k) (mK k) (sK k) (cK k) := by
  rcases kd_or t.2 with hn | ⟨k, n, m, s, c, e, hk⟩
  · refine absurd ?_ h.1.2
    unfold szW NoK at *
    rw [if_neg hn.1, if_neg hn.2.1, if_neg hn.2.2.1, if_neg hn.2.2.2]
  · obtain ⟨e1, e2, e3, e4⟩ := hk.is
    exact ⟨k, e, by rw [← e1, ← e2, ← e3, ← e4]; exact hk⟩
theorem FitG.wrg {t : Int × Int} (h : FitG t) : wrgT t.1 t.2 16 32 = 0 := by
  unfold wrgT
  rw [if_pos h.1, if_pos ⟨rfl, rfl⟩, if_neg (by have := h.2; omega)]
theorem pubG_len (t : Int × Int) (id seed : List Nat) (hid : id.length = 16) : (pubG t id seed).length = 56 := by
  unfold pubG
  rw [List.length_append, List.length_append, be4_len, be4_len, List.length_append, hid, knT_len]
theorem tr_range {y : World} {b o : Nat} {u v : Value} (h1 : y.cell? ⟨b, o, none⟩ = some u) (h2 : y.cell? ⟨b, o + 1, none⟩ = some v) : y.rangeAt b o [u, v] := fun j x hx => by
  match j, hx with
  | 0, hx => simp at hx; subst hx; exact h1
  | 1, hx => simp at hx; subst hx; exact h2
end Go.Proofs.YtogiballdmgcpaaGreatDoor

/- Trees of trees: the document's Sign. -/
namespace Go.Proofs.YtogiballdmgcpaaGreatDoor
open Go.RowKit
set_option linter.unusedVariables false
set_option linter.unusedSimpArgs false

/-- the ids and seeds of the trees that a number goes through -/
def stH (vs : List Nat) (id seed : List Nat) : Nat → List Nat × List Nat
  | 0 => (id, seed)
  | i + 1 => (idB (stH vs id seed i).1 (stH vs id seed i).2 (el vs i), sdB (stH vs id seed i).1 (stH vs id seed i).2 (el vs i))
theorem stH_len {vs id seed : List Nat} (h1 : id.length = 16) (h2 : seed.length = 32) : ∀ i, (stH vs id seed i).1.length = 16 ∧ (stH vs id seed i).2.length = 32
  | 0 => ⟨h1, h2⟩
  | i + 1 => ⟨idB_len _ _ _, sdB_len _ _ _⟩
/-- what is put out ahead of the last tree's signature -/
def hsO (ts : List (Int × Int)) (vs id seed : List Nat) : Nat → List (List Nat)
  | 0 => [be4 (ts.length - 1)]
  | i + 1 => hsO ts vs id seed i ++ [sigG (trA ts i) (stH vs id seed i).1 (stH vs id seed i).2 (el vs i) (pubG (trA ts (i + 1)) (stH vs id seed (i + 1)).1 (stH vs id seed (i + 1)).2), pubG (trA ts (i + 1)) (stH vs id seed (i + 1)).1 (stH vs id seed (i + 1)).2]
theorem hsO_len (ts : List (Int × Int)) (vs id seed : List Nat) : ∀ i, (hsO ts vs id seed i).length = 1 + 2 * i
  | 0 => rfl
  | i + 1 => by show (hsO ts vs id seed i ++ _).length = _; rw [List.length_append, hsO_len ts vs id seed i]; simp; omega
def hsSig (ts : List (Int × Int)) (vs id seed text : List Nat) : List Nat := (hsO ts vs id seed (ts.length - 1) ++ [sigG (trA ts (ts.length - 1)) (stH vs id seed (ts.length - 1)).1 (stH vs id seed (ts.length - 1)).2 (el vs (ts.length - 1)) text]).flatten
theorem nm_le (k : Nat) : nK k + mK k ≤ 265 := by
  unfold nK mK
  repeat' split
  all_goals omega
theorem sigG_len (t : Int × Int) (id seed : List Nat) (q : Nat) (text : List Nat) : (sigG t id seed q text).length = 8 + (36 + 32 * (nK t.2.toNat + mK t.2.toNat)) + 32 * t.1.toNat := by
  unfold sigG
  rw [List.flatten_append, List.length_append, pthA_flat (fun i => knT_len _ _ _ _ _ _ i)]
  simp only [List.flatten_cons, List.flatten_nil, List.append_nil, List.length_append, be4_len, sgT_len]
  omega
theorem sigG_le {t : Int × Int} (h : FitG t) (id seed : List Nat) (q : Nat) (text : List Nat) : (sigG t id seed q text).length ≤ 9000 := by
  have h1 := sigG_len t id seed q text
  have h2 := nm_le t.2.toNat
  have h3 := h.pos
  omega
theorem hsO_flat {ts : List (Int × Int)} (hK : ∀ t ∈ ts, FitG t) (vs : List Nat) {id seed : List Nat} (h1 : id.length = 16) (h2 : seed.length = 32) : ∀ i, i < ts.length → (hsO ts vs id seed i).flatten.length ≤ 4 + 9056 * i
  | 0, _ => by show ([be4 (ts.length - 1)] : List (List Nat)).flatten.length ≤ _; simp [be4_len]
  | i + 1, hi => by
    show (hsO ts vs id seed i ++ _).flatten.length ≤ _
    have h3 := hsO_flat hK vs h1 h2 i (by omega)
    have h4 := sigG_le (hK _ (trA_mem (ts := ts) (i := i) (by omega))) (stH vs id seed i).1 (stH vs id seed i).2 (el vs i) (pubG (trA ts (i + 1)) (stH vs id seed (i + 1)).1 (stH vs id seed (i + 1)).2)
    have h5 := pubG_len (trA ts (i + 1)) (stH vs id seed (i + 1)).1 (stH vs id seed (i + 1)).2 (stH_len h1 h2 (i + 1)).1
    simp only [List.flatten_append, List.length_append, List.flatten_cons, List.flatten_nil, List.append_nil]
    omega
theorem vecF_el : ∀ {ts : List (Int × Int)} {i : Nat} (n : Nat), i < ts.length → el (vecF ts n) i < 2 ^ (trA ts i).1.toNat
  | [], i, n, h => absurd h (by simp)
  | t :: ts, 0, n, h => Nat.mod_lt _ (Nat.pow_pos (by decide))
  | t :: ts, i + 1, n, h => by
    show el (vecF ts n) i < 2 ^ (trA ts i).1.toNat
    exact vecF_el n (by simpa using h)
/-- texts more -/
theorem GrT.pushL {w w' : World} {B g cap : Nat} {vo : Value} {ls xs : List (List Nat)} {us vs : List Value} (ht : Texts w us ls) (ha : ∀ u ∈ us, Apart1 w vo u) (hv : Texts w vs xs) (hva : ∀ u ∈ vs, Apart1 w vo u)
    (hown : w'.ownsRow B 23 1 (.slice (some ⟨g, 0, none⟩) (ls.length + xs.length) cap) (ls.length + xs.length) (us ++ vs)) (hg : w.grownBy w' vo.ownBlock) (hl : vo.ownBlock = some g ∨ g = w.heap.size) : GrT w' B (.slice (some ⟨g, 0, none⟩) (ls.length + xs.length) cap) (ls ++ xs) := by
  have ap : ∀ v, Apart1 w vo v → Apart1 w' (.slice (some ⟨g, 0, none⟩) (ls.length + xs.length) cap) v := fun v hv q hq => by
    obtain ⟨k1, k2⟩ := hv q hq
    refine ⟨Nat.lt_of_lt_of_le k1 hg.size, fun e => ?_⟩
    have eg : g = q := by simpa [Value.ownBlock] using e
    rcases hl with h | h
    · exact k2 (by rw [h, eg])
    · omega
  have mv : ∀ {us : List Value} {ls : List (List Nat)}, Texts w us ls → (∀ u ∈ us, Apart1 w vo u) → Texts w' us ls := fun ht ha => ⟨ht.1, fun i hi => by
      obtain ⟨v, k1, k2, k3⟩ := ht.2 i hi
      exact ⟨v, k1, row_grownT k2 hg (fun q hq e => (ha v (List.mem_of_getElem? k1) q hq).2 e.symm), k3⟩⟩
  refine ⟨⟨us ++ vs, by rw [List.length_append]; exact hown, (mv ht ha).append (mv hv hva), fun v hv => ?_⟩⟩
  rcases List.mem_append.1 hv with h | h
  · exact ap v (ha v h)
  · exact ap v (hva v h)
theorem cells_two_new (w : World) (x y : Value) (t : TypeId) : ∀ j u, [x, y][j]? = some u → (w.alloc (.cells #[x, y] t)).cell? ((⟨w.heap.size, 0, none⟩ : Addr).add j) = some u := by
  intro j u hj
  match j, hj with
  | 0, hj => simp at hj; subst hj; simp [Addr.add]
  | 1, hj => simp at hj; subst hj; simp [Addr.add]
end Go.Proofs.YtogiballdmgcpaaGreatDoor

/- Trees of trees: each number has leaves of its own (P16.5), plain; where Public and Sign refuse. -/
namespace Go.Proofs.YtogiballdmgcpaaGreatDoor
open Go.RowKit
set_option linter.unusedVariables false
set_option linter.unusedSimpArgs false

theorem vecF_at : ∀ {ts : List (Int × Int)} {i : Nat} (n : Nat), i < ts.length → el (vecF ts n) i = n / lvN (ts.drop (i + 1)) % 2 ^ (trA ts i).1.toNat
  | [], i, n, h => absurd h (by simp)
  | t :: ts, 0, n, h => rfl
  | t :: ts, i + 1, n, h => by
    show el (vecF ts n) i = n / lvN (ts.drop (i + 1)) % 2 ^ (trA ts i).1.toNat
    exact vecF_at n (by simpa using h)
end Go.Proofs.YtogiballdmgcpaaGreatDoor

/- Steps of a plan: one, three, four texts written out as a list. -/
namespace Go.Proofs.YtogiballdmgcpaaGreatDoor
open Go.RowKit
set_option linter.unusedVariables false
set_option linter.unusedSimpArgs false

theorem p_b1 {ops : Array Oper} {Q : Exit → Act → World → Prop} {K : Act → World → Prop} {i : Nat} {o : Oper} {a : Act} {w : World} {t e : TypeId} {p : Operand} {adp : Option Addr} {np cp : Nat} {d : Option Nat} {z : TypeInfo} (hi : ops[i]? = some o) (hw : Region.wanted o (yielded ops a.tmps) = true) (ho : o.op = .buildSlice t 1 #[(0, p)]) (hp : a.eval p = .slice adp np cp) (hd : o.dst = d)
    (hu : Tryz.prog.underlying t = some (.slice e)) (hz : Tryz.prog.info? e = some z) (hsz : z.size = 1) (hz0 : z.zero = some (.slice none 0 0)) (h : K (a.put d (.slice (some ⟨w.heap.size, 0, none⟩) 1 1)) (w.alloc (.cells #[.slice adp np cp] e))) : wpOp Tryz.prog ops Q i K a w := by
  have hr : (execOp a.eval o).run Tryz.prog w = .ok (.value (.slice (some ⟨w.heap.size, 0, none⟩) 1 1)) (w.alloc (.cells #[.slice adp np cp] e)) := by
    unfold execOp
    simp only [ho, List.map_toArray, List.map_cons, List.map_nil, hp]
    simp [Sem.run_bind, run_underlying hu, sizeOf, typeInfo, zeroValue, hz, hsz, hz0, go_sem]
  unfold wpOp
  simp only [hi]
  rw [if_pos hw]
  left
  unfold Oper.wp
  rw [hr]
  show K (a.put o.dst _) _
  rw [hd]
  exact h
theorem p_b3 {ops : Array Oper} {Q : Exit → Act → World → Prop} {K : Act → World → Prop} {i : Nat} {o : Oper} {a : Act} {w : World} {t e : TypeId} {p q r : Operand} {adp adq adr : Option Addr} {np cp nq cq nr cr : Nat} {d : Option Nat} {z : TypeInfo} (hi : ops[i]? = some o) (hw : Region.wanted o (yielded ops a.tmps) = true) (ho : o.op = .buildSlice t 3 #[(0, p), (1, q), (2, r)]) (hp : a.eval p = .slice adp np cp) (hq : a.eval q = .slice adq nq cq) (hr : a.eval r = .slice adr nr cr) (hd : o.dst = d)
    (hu : Tryz.prog.underlying t = some (.slice e)) (hz : Tryz.prog.info? e = some z) (hsz : z.size = 1) (hz0 : z.zero = some (.slice none 0 0)) (h : K (a.put d (.slice (some ⟨w.heap.size, 0, none⟩) 3 3)) (w.alloc (.cells #[.slice adp np cp, .slice adq nq cq, .slice adr nr cr] e))) : wpOp Tryz.prog ops Q i K a w := by
  have hr : (execOp a.eval o).run Tryz.prog w = .ok (.value (.slice (some ⟨w.heap.size, 0, none⟩) 3 3)) (w.alloc (.cells #[.slice adp np cp, .slice adq nq cq, .slice adr nr cr] e)) := by
    unfold execOp
    simp only [ho, List.map_toArray, List.map_cons, List.map_nil, hp, hq, hr]
    simp [Sem.run_bind, run_underlying hu, sizeOf, typeInfo, zeroValue, hz, hsz, hz0, go_sem]
  unfold wpOp
  simp only [hi]
  rw [if_pos hw]
  left
  unfold Oper.wp
  rw [hr]
  show K (a.put o.dst _) _
  rw [hd]
  exact h
theorem p_b4 {ops : Array Oper} {Q : Exit → Act → World → Prop} {K : Act → World → Prop} {i : Nat} {o : Oper} {a : Act} {w : World} {t e : TypeId} {p q r s : Operand} {adp adq adr ads : Option Addr} {np cp nq cq nr cr ns cs : Nat} {d : Option Nat} {z : TypeInfo} (hi : ops[i]? = some o) (hw : Region.wanted o (yielded ops a.tmps) = true) (ho : o.op = .buildSlice t 4 #[(0, p), (1, q), (2, r), (3, s)]) (hp : a.eval p = .slice adp np cp) (hq : a.eval q = .slice adq nq cq) (hr : a.eval r = .slice adr nr cr) (hs : a.eval s = .slice ads ns cs) (hd : o.dst = d)
    (hu : Tryz.prog.underlying t = some (.slice e)) (hz : Tryz.prog.info? e = some z) (hsz : z.size = 1) (hz0 : z.zero = some (.slice none 0 0)) (h : K (a.put d (.slice (some ⟨w.heap.size, 0, none⟩) 4 4)) (w.alloc (.cells #[.slice adp np cp, .slice adq nq cq, .slice adr nr cr, .slice ads ns cs] e))) : wpOp Tryz.prog ops Q i K a w := by
  have hr : (execOp a.eval o).run Tryz.prog w = .ok (.value (.slice (some ⟨w.heap.size, 0, none⟩) 4 4)) (w.alloc (.cells #[.slice adp np cp, .slice adq nq cq, .slice adr nr cr, .slice ads ns cs] e)) := by
    unfold execOp
    simp only [ho, List.map_toArray, List.map_cons, List.map_nil, hp, hq, hr, hs]
    simp [Sem.run_bind, run_underlying hu, sizeOf, typeInfo, zeroValue, hz, hsz, hz0, go_sem]
  unfold wpOp
  simp only [hi]
  rw [if_pos hw]
  left
  unfold Oper.wp
  rw [hr]
  show K (a.put o.dst _) _
  rw [hd]
  exact h
end Go.Proofs.YtogiballdmgcpaaGreatDoor

/- Steps of a plan: five texts written out as a list; one byte written out as a text. -/
namespace Go.Proofs.YtogiballdmgcpaaGreatDoor
open Go.RowKit
set_option linter.unusedVariables false
set_option linter.unusedSimpArgs false

theorem p_b5 {ops : Array Oper} {Q : Exit → Act → World → Prop} {K : Act → World → Prop} {i : Nat} {o : Oper} {a : Act} {w : World} {t e : TypeId} {p q r s m : Operand} {adp adq adr ads adm : Option Addr} {np cp nq cq nr cr ns cs nm cm : Nat} {d : Option Nat} {z : TypeInfo} (hi : ops[i]? = some o) (hw : Region.wanted o (yielded ops a.tmps) = true) (ho : o.op = .buildSlice t 5 #[(0, p), (1, q), (2, r), (3, s), (4, m)]) (hp : a.eval p = .slice adp np cp) (hq : a.eval q = .slice adq nq cq) (hr : a.eval r = .slice adr nr cr) (hs : a.eval s = .slice ads ns cs) (hm : a.eval m = .slice adm nm cm) (hd : o.dst = d)
    (hu : Tryz.prog.underlying t = some (.slice e)) (hz : Tryz.prog.info? e = some z) (hsz : z.size = 1) (hz0 : z.zero = some (.slice none 0 0)) (h : K (a.put d (.slice (some ⟨w.heap.size, 0, none⟩) 5 5)) (w.alloc (.cells #[.slice adp np cp, .slice adq nq cq, .slice adr nr cr, .slice ads ns cs, .slice adm nm cm] e))) : wpOp Tryz.prog ops Q i K a w := by
  have hr : (execOp a.eval o).run Tryz.prog w = .ok (.value (.slice (some ⟨w.heap.size, 0, none⟩) 5 5)) (w.alloc (.cells #[.slice adp np cp, .slice adq nq cq, .slice adr nr cr, .slice ads ns cs, .slice adm nm cm] e)) := by
    unfold execOp
    simp only [ho, List.map_toArray, List.map_cons, List.map_nil, hp, hq, hr, hs, hm]
    simp [Sem.run_bind, run_underlying hu, sizeOf, typeInfo, zeroValue, hz, hsz, hz0, go_sem]
  unfold wpOp
  simp only [hi]
  rw [if_pos hw]
  left
  unfold Oper.wp
  rw [hr]
  show K (a.put o.dst _) _
  rw [hd]
  exact h
theorem p_byte1 {ops : Array Oper} {Q : Exit → Act → World → Prop} {K : Act → World → Prop} {i : Nat} {o : Oper} {a : Act} {w : World} {t e : TypeId} {p : Operand} {n : Int} {d : Option Nat} {z : TypeInfo} (hi : ops[i]? = some o) (hw : Region.wanted o (yielded ops a.tmps) = true) (ho : o.op = .buildSlice t 1 #[(0, p)]) (hp : a.eval p = .int .u8 n) (hd : o.dst = d)
    (hu : Tryz.prog.underlying t = some (.slice e)) (hz : Tryz.prog.info? e = some z) (hsz : z.size = 1) (hz0 : z.zero = some (.int .u8 0)) (h : K (a.put d (.slice (some ⟨w.heap.size, 0, none⟩) 1 1)) (w.alloc (.cells #[.int .u8 n] e))) : wpOp Tryz.prog ops Q i K a w := by
  have hr : (execOp a.eval o).run Tryz.prog w = .ok (.value (.slice (some ⟨w.heap.size, 0, none⟩) 1 1)) (w.alloc (.cells #[.int .u8 n] e)) := by
    unfold execOp
    simp only [ho, List.map_toArray, List.map_cons, List.map_nil, hp]
    simp [Sem.run_bind, run_underlying hu, sizeOf, typeInfo, zeroValue, hz, hsz, hz0, go_sem]
  unfold wpOp
  simp only [hi]
  rw [if_pos hw]
  left
  unfold Oper.wp
  rw [hr]
  show K (a.put o.dst _) _
  rw [hd]
  exact h
end Go.Proofs.YtogiballdmgcpaaGreatDoor

/- A loop over an iterator that is made of another: the contract and the law that serve here. -/
namespace Go.Proofs.YtogiballdmgcpaaGreatDoor
open Go.RowKit Go.Shelf
set_option linter.unusedVariables false
set_option linter.unusedSimpArgs false

/-- all blocks from lo on are as they were -/
structure Kept (lo : Nat) (W W' : World) : Prop where
  size : W.heap.size ≤ W'.heap.size
  block : ∀ k, lo ≤ k → k < W.heap.size → W'.heap[k]? = W.heap[k]?
theorem Kept.trans {lo : Nat} {A B C : World} (h : Kept lo A B) (k : Kept lo B C) : Kept lo A C := ⟨Nat.le_trans h.size k.size, fun i h1 h2 => (k.block i h1 (Nat.lt_of_lt_of_le h2 h.size)).trans (h.block i h1 h2)⟩
theorem Kept.mono {lo lo' : Nat} {A B : World} (h : Kept lo A B) (hl : lo ≤ lo') : Kept lo' A B := ⟨h.size, fun i h1 h2 => h.block i (by omega) h2⟩
theorem Kept.at {lo : Nat} {A B : World} (h : Kept lo A B) {k : Nat} {o : Obj} (hk : lo ≤ k) (h0 : A.heap[k]? = some o) : B.heap[k]? = some o := (h.block k hk (Array.getElem?_eq_some_iff.1 h0).1).trans h0
theorem kept_put {lo : Nat} {W : World} {l : Nat} (o : Obj) (h : l < lo) : Kept lo W (W.putObj l o) := ⟨by simp [World.putObj], fun k h1 h2 => World.putObj_heap_other (by omega)⟩
/-- what a round's body must leave -/
def goesOn (B : Nat) (W : World) (R : World → Prop) : Exit → Act → World → Prop
  | .normal, _, W' => Kept B W W' ∧ R W'
  | _, _, _ => False
end Go.Proofs.YtogiballdmgcpaaGreatDoor

/- A loop over an iterator of the program's own, whose rounds know what has been handed out. -/
namespace Go.Proofs.YtogiballdmgcpaaGreatDoor
open Go.RowKit Go.Shelf
set_option linter.unusedVariables false
set_option linter.unusedSimpArgs false

/-- an iterator that hands out xs, one behind the other, to rounds that go on and turn no block of the iterator's own -/
def OwnPre {α : Type} (m : Nat) (P : Program) (gf : Nat) (lb : Array Value) (encs : α → Array Value) (xs : List α) (V : World → Prop) (w0 : World) : Prop :=
  ∀ (l : Nat) (J : List α → World → Prop) (W : World), Below w0.heap.size w0 W → l < W.heap.size → OwnFrom W.heap.size J → (∀ pre W1, J pre W1 → V W1) →
    (∀ pre x W1, J pre W1 → (pre ++ [x]) <+: xs → W.heap.size ≤ W1.heap.size → YieldAt Fence.wide (m - 1) P l (encs x) W1 fun e W' => e = .returned (.bool true) ∧ J (pre ++ [x]) W' ∧ Kept W.heap.size W1 W') →
    J [] W → CallsIn Fence.wide m P gf (#[.func (.yield l) #[] #[]] ++ lb) W fun e W' => (∃ v, e = .returned v) ∧ J xs W'

theorem range_pre {α : Type} {n : Nat} {P : Program} {g : Operand} {ps : Array Tmp} {assign body : Code} {Q : Exit → Act → World → Prop} {a : Act} {w : World}
    {gf : Nat} {lb : Array Value} (hg : a.eval g = .func (.func gf) #[] lb) (eg : ∀ args w, (callFunc gf args).run P w = .ok (.enter gf args) w)
    {encs : α → Array Value} {xs : List α} {V : World → Prop} (hseq : OwnPre (n - 1) P gf lb encs xs V w) (hps : ∀ x, (encs x).size = ps.size)
    (I : List α → World → Prop) (hI : OwnFrom w.heap.size I) (hV : ∀ pre W, I pre W → V W) (h0 : I [] w)
    (Ax : List α → α → Act → World → Prop) (hAx : ∀ pre x a', OwnFrom w.heap.size (fun (_ : Unit) W => Ax pre x a' W))
    (hassign : ∀ (l : Nat) (pre : List α) (x : α) (W : World) (K : Act → World → Prop), I pre W → (pre ++ [x]) <+: xs → (∀ a' W', Kept w.heap.size W W' → Ax pre x a' W' → K a' W') →
      assign.wpIn (Fence.wide.inRound l) (n - 1 - 1) P (Exit.then K (fun _ _ _ => False)) { tmps := (ps.zip (encs x)).foldl (fun t (p, v) => t.setIfInBounds p v) a.tmps, defers := [] } W)
    (hbody : ∀ (l : Nat) (pre : List α) (x : α) (a' : Act) (W : World), Ax pre x a' W → (pre ++ [x]) <+: xs → body.wpIn (Fence.wide.inRound l) (n - 1 - 1) P (goesOn w.heap.size W (I (pre ++ [x]))) a' W)
    (hdone : ∀ (W : World), I xs W → W.heap[w.heap.size]? = some (.deferred (some [])) → Q .normal { a with defers := { target := .collected w.heap.size, args := #[] } :: a.defers } W) :
    (Code.rangeFunc g ps assign body).wpIn Fence.wide n P Q a w := by
  refine wpIn_rangeFunc fun fn hfn => ?_
  generalize hD : w.heap.size = D at *
  obtain ⟨R0, hR0⟩ : ∃ R0 : Loop, R0 = { state := .ready, pending := none, fn, tmps := a.tmps, params := ps, assign, body, defers := D } := ⟨_, rfl⟩
  obtain ⟨W1, hW1⟩ : ∃ W1, W1 = (w.alloc (.deferred (some []))).alloc (.loop R0) := ⟨_, rfl⟩
  have sz1 : W1.heap.size = D + 2 := by rw [hW1]; simp [hD]
  have kD : W1.heap[D]? = some (.deferred (some [])) := by
    rw [hW1, ← hD]; exact (Below.heap_alloc _ _ _ (by simp)).trans (World.alloc_heap_new w _)
  have kL : W1.heap[D + 1]? = some (.loop R0) := by
    have := World.alloc_heap_new (w.alloc (.deferred (some []))) (.loop R0)
    rw [World.size_alloc, hD] at this
    rw [hW1]; exact this
  have I1 : I [] W1 := by rw [hW1]; exact hI.alloc _ (hI.alloc _ h0)
  have b1 : Below w.heap.size w W1 := by rw [hW1]; exact ((Below.refl _ w).alloc (Nat.le_refl _) _).alloc (by simp) _
  refine ⟨D + 1, [{ target := .collected D, args := #[] }], W1, { target := .fn (.func gf) lb, args := #[.func (.yield (D + 1)) #[] #[]] }, W1, gf, #[.func (.yield (D + 1)) #[] #[]] ++ lb, W1, ?_, ?_, ?_, ?_, ?_, ?_⟩
  · have := run_enterLoop_outer (P := P) (w := w) fn a.tmps ps assign body
    rw [hW1, hR0, ← hD]
    exact this
  · simp only [resolve, hg]
    simp [go_sem]
  · intro f' hf'; trivial
  · simp [invoke, go_sem, eg]
  · intro h; cases h
  refine (hseq (D + 1) (fun pre W => I pre W ∧ W.heap[D + 1]? = some (.loop R0) ∧ W.heap[D]? = some (.deferred (some []))) W1 b1 (by omega) ?_ (fun pre W h => hV pre W h.1) ?_ ⟨I1, kL, kD⟩).mono ?_
  · intro s A B row hs hgr hr
    have hr2 : ∀ r, row = some r → D ≤ r ∧ ∃ o : Obj, A.heap[r]? = some o ∧ o.isCells = false := fun r e => ⟨by have := (hr r e).1; omega, (hr r e).2⟩
    have ne : ∀ k, k < D + 2 → some k ≠ row := fun k hk e => by have := (hr k e.symm).1; omega
    exact ⟨hI s A B row hs.1 hgr hr2, (hgr.block _ (Array.getElem?_eq_some_iff.1 hs.2.1).1 (ne _ (by omega))).trans hs.2.1, (hgr.block _ (Array.getElem?_eq_some_iff.1 hs.2.2).1 (ne _ (by omega))).trans hs.2.2⟩
  · rintro pre x W ⟨i1, kl, kd⟩ hpre hsz
    have hy := run_yield (P := P) (args := encs x) kl (by rw [hR0]; exact hps x)
    rw [hR0] at hy
    refine ⟨fn, _, assign, body, hy, roundIn_of_wpIn hfn (hassign (D + 1) pre x W _ i1 hpre ?_)⟩
    intro a' W2 kf2 ax2
    have kl2 := kf2.at (by omega) kl
    have kd2 := kf2.at (Nat.le_refl _) kd
    refine ⟨_, run_beginRound kl2 (by rw [hR0]), ?_⟩
    obtain ⟨RB, hRB⟩ : ∃ RB : Loop, RB = { R0 with state := .busy } := ⟨_, rfl⟩
    rw [← hRB]
    have lt2 := (Array.getElem?_eq_some_iff.1 kl2).1
    have kl3 : (W2.putObj (D + 1) (.loop RB)).heap[D + 1]? = some (.loop RB) := World.putObj_heap_same lt2
    have kd3 : (W2.putObj (D + 1) (.loop RB)).heap[D]? = some (.deferred (some [])) := (World.putObj_heap_other (by omega)).trans kd2
    have ax3 : Ax pre x a' (W2.putObj (D + 1) (.loop RB)) := (hAx pre x a').putObj (s := ()) _ ax2 (by omega) kl2 rfl
    refine wpIn_mono (hbody (D + 1) pre x a' _ ax3 hpre) ?_
    rintro e a4 W4 hp
    cases e with
    | normal =>
      obtain ⟨kf4, i4⟩ := hp
      have kl4 := kf4.at (by omega) kl3
      have kd4 := kf4.at (Nat.le_refl _) kd3
      have hend := run_endRound (P := P) none kl4
      refine ⟨_, _, hend, rfl, ⟨hI.putObj _ i4 (by omega) kl4 rfl, ?_, (World.putObj_heap_other (by omega)).trans kd4⟩, ?_⟩
      · rw [World.putObj_heap_same (Array.getElem?_eq_some_iff.1 kl4).1, hRB, hR0]
        rfl
      · exact (((kf2.mono (by omega)).trans (kept_put _ (by omega))).trans (kf4.mono (by omega))).trans (kept_put _ (by omega))
    | ret => exact hp.elim
    | exit id => exact hp.elim
    | goto t => exact hp.elim
    | panic ch => exact hp.elim
    | outgrown => exact hp.elim
  · rintro e W2 ⟨⟨v, rfl⟩, i2, kl, kd⟩
    exact ⟨none, _, by have := run_endLoop (P := P) kl (by rw [hR0]; simp); rw [hR0] at this; exact this, hdone _ (hI.putObj _ i2 (by omega) kl rfl) ((World.putObj_heap_other (by omega)).trans kd)⟩
end Go.Proofs.YtogiballdmgcpaaGreatDoor
