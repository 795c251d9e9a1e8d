/- The drawn region of the law KeccakGoes. -/
import Derived.Test.YtnbohjoakngkeaaDoorKLaw
namespace Go.Proofs.YtnbohjoakngkeaaDoor
open Go.RowKit
set_option linter.unusedVariables false
set_option linter.unusedSimpArgs false

def glt3 : List Lt := [(0, some 26, [3]), (0, some 27, [1]), (3, some 28, [26, 27]), (0, some 29, [3]), (0, some 30, [1]), (28, some 31, [29, 30]), (0, some 7, []), (0, some 8, []), (231, none, [7, 28]), (511, none, [8, 31])]
theorem greg3 : Reg (opsOf (cL (cR (cR (Tryd.f4.body.getD .skip))))) glt3 := ⟨by kernel_rfl, by kernel_rfl⟩
theorem gis3 : (cL (cR (cR (Tryd.f4.body.getD .skip)))) = .region 3 (opsOf (cL (cR (cR (Tryd.f4.body.getD .skip))))) true := by kernel_rfl
/-- where the law stands -/
structure Gx (w : World) (kind : Int) (ws : List Nat) (p : Int) (ot : Bool) (bv nv : Value) (a : Act) (x : World) : Prop where
  fz : Fz 68 a
  t1 : a.eval (.tmp 1) = bv
  t2 : a.eval (.tmp 2) = nv
  t3 : a.eval (.tmp 3) = .pointer (some ⟨w.heap.size, 0, none⟩)
  sg : Sg x w.heap.size kind ws p ot
  bel : Below w.heap.size w x
section
variable {w : World} {kind : Int} {ws : List Nat} {p : Int} {ot : Bool} {bv nv : Value} {Q : Exit → Act → World → Prop} {M : List Nat} {P : Int} {O : Bool}
theorem Gx.at {a : Act} {x x' : World} (h : Gx w kind ws p ot bv nv a x) (hb : Below x.heap.size x x') : Gx w kind ws p ot bv nv a x' := ⟨h.fz, h.t1, h.t2, h.t3, h.sg.below hb, keep_trans h.bel hb⟩
theorem Gx.but {a : Act} {x x' : World} {g : Nat} (h : Gx w kind ws p ot bv nv a x) (hb : But g x x') (hg : w.heap.size + 1 ≤ g) : Gx w kind ws p ot bv nv a x' := ⟨h.fz, h.t1, h.t2, h.t3, h.sg.but hb (by omega), h.bel.trans (hb.below (by omega) h.bel.size)⟩
theorem Gx.size {a : Act} {x : World} (h : Gx w kind ws p ot bv nv a x) : w.heap.size + 1 ≤ x.heap.size := h.sg.lt
theorem Gx.step {a : Act} {x : World} (h : Gx w kind ws p ot bv nv a x) {k fuel m : Nat} {v : Value} {d : Option Nat} {ops : Array Oper} {S : World → Prop} (hd : d = some k) (h3 : 4 ≤ k) (hk : k < 68)
    (hc : ∀ a' : Act, Gx w kind ws p ot bv nv a' x → a'.eval (.tmp k) = v → (∀ j, k ≠ j → a'.eval (.tmp j) = a.eval (.tmp j)) → At Tryd.prog ops Q S fuel m a' x) : At Tryd.prog ops Q S fuel m (a.put d v) x := by
  subst hd
  exact hc _ ⟨h.fz.put _ _, (put_else (by omega)).trans h.t1, (put_else (by omega)).trans h.t2, (put_else (by omega)).trans h.t3, h.sg, h.bel⟩ (put_same (by rw [h.fz.1]; exact hk)) (fun j hj => put_else hj)
theorem p_allocS {ops : Array Oper} {K : Act → World → Prop} {Q : Exit → Act → World → Prop} {i : Nat} {o : Oper} {a : Act} {x : World} (hi : ops[i]? = some o) (hg : o.guard = none) (ho : o.op = .alloc 26)
    (h : K (a.put o.dst (.pointer (some ⟨x.heap.size, 0, none⟩))) (x.alloc (.cells (sl 0 (zs 25) 0 false).toArray 26))) : wpOp Tryd.prog ops Q i K a x := by
  have hz := zero28
  refine p_op hi hg ?_ h
  unfold execOp
  simp only [ho]
  simp [go_sem, hz]
theorem g_211 (hM : M.length = 25) (hQ : ∀ (a : Act) (x : World) (g h : Nat), Gx w kind ws p ot bv nv a x → a.eval (.tmp 7) = .pointer (some ⟨g, 0, none⟩) → a.eval (.tmp 8) = .pointer (some ⟨h, 0, none⟩) → w.heap.size + 1 ≤ g → w.heap.size + 1 ≤ h → x.heap[g]? = some (.cells (sl kind M P O).toArray 26 (0, 0)) → x.heap[h]? = some (.cells (sl kind M P O).toArray 26 (0, 0)) → Q .normal a x)
    {a : Act} {x : World} {g h : Nat} (E : Gx w kind ws p ot bv nv a x) (t28 : a.eval (.tmp 28) = (.agg (sl kind M P O).toArray)) (t31 : a.eval (.tmp 31) = (.agg (sl kind M P O).toArray)) (t7 : a.eval (.tmp 7) = .pointer (some ⟨g, 0, none⟩)) (hg : w.heap.size + 1 ≤ g) (hz7 : x.heap[g]? = some (.cells (sl 0 (zs 25) 0 false).toArray 26 (0, 0))) (t8 : a.eval (.tmp 8) = .pointer (some ⟨h, 0, none⟩)) (hh : w.heap.size + 1 ≤ h) (hz8 : x.heap[h]? = some (.cells (sl 0 (zs 25) 0 false).toArray 26 (0, 0))) (hne : g ≠ h) :
    At Tryd.prog (opsOf (cL (cR (cR (Tryd.f4.body.getD .skip))))) Q (fun y => Sg y w.heap.size kind ws p ot) 2 255 a x := by
  have hsz : (sl kind M P O).toArray.size = 28 := by simp [sl_len hM]
  have hsz0 : (sl 0 (zs 25) 0 false).toArray.size = 28 := by simp [sl_len (zs_len 25)]
  have hB : But g x (x.setRow g (sl kind M P O).toArray) := But.setRow (But.refl _ _) _
  have E1 := E.but hB hg
  refine at_one (i := 8) greg3 (by decide) rfl ?_
  refine p_row rfl rfl rfl rfl t7 t28 hz7 (by rw [hsz]; kernel_rfl) (by rw [hsz, hsz0]) (all_oneCell_toArray (sl_one _ _ _ _)) ⟨E1.sg, ?_⟩
  have k7 := setRow_heap x g _ (sl kind M P O).toArray 26 _ hz7
  have k8 := (hB.block h (heap_lt hz8) (fun e => hne e.symm)).trans hz8
  generalize x.setRow g (sl kind M P O).toArray = y at *
  have hB2 : But h y (y.setRow h (sl kind M P O).toArray) := But.setRow (But.refl _ _) _
  have E2 := E1.but hB2 hh
  refine at_one (i := 9) greg3 (by decide) rfl ?_
  exact p_row rfl rfl rfl rfl t8 t31 k8 (by rw [hsz]; kernel_rfl) (by rw [hsz, hsz0]) (all_oneCell_toArray (sl_one _ _ _ _)) ⟨E2.sg, at_done greg3 (by decide) (hQ a _ g h E2 t7 t8 hg hh ((hB2.block g (heap_lt k7) hne).trans k7) (setRow_heap y h _ _ 26 _ k8))⟩
theorem g_210 (hM : M.length = 25) (hQ : ∀ (a : Act) (x : World) (g h : Nat), Gx w kind ws p ot bv nv a x → a.eval (.tmp 7) = .pointer (some ⟨g, 0, none⟩) → a.eval (.tmp 8) = .pointer (some ⟨h, 0, none⟩) → w.heap.size + 1 ≤ g → w.heap.size + 1 ≤ h → x.heap[g]? = some (.cells (sl kind M P O).toArray 26 (0, 0)) → x.heap[h]? = some (.cells (sl kind M P O).toArray 26 (0, 0)) → Q .normal a x) (hA : ∀ x, Below w.heap.size w x → Calls Tryd.prog 17 #[.agg (sl kind ws p ot).toArray, bv] x fun e x' => e = .returned (.agg (sl kind M P O).toArray) ∧ Below x.heap.size x x') (hB : ∀ x, Below w.heap.size w x → Calls Tryd.prog 18 #[.agg (sl kind ws p ot).toArray, bv] x fun e x' => e = .returned (.agg (sl kind M P O).toArray) ∧ Below x.heap.size x x')
    {a : Act} {x : World} {g : Nat} (E : Gx w kind ws p ot bv nv a x) (t28 : a.eval (.tmp 28) = (.agg (sl kind M P O).toArray)) (t31 : a.eval (.tmp 31) = (.agg (sl kind M P O).toArray)) (t7 : a.eval (.tmp 7) = .pointer (some ⟨g, 0, none⟩)) (hg : w.heap.size + 1 ≤ g) (hz7 : x.heap[g]? = some (.cells (sl 0 (zs 25) 0 false).toArray 26 (0, 0))) :
    At Tryd.prog (opsOf (cL (cR (cR (Tryd.f4.body.getD .skip))))) Q (fun y => Sg y w.heap.size kind ws p ot) 3 127 a x := by
  refine at_one (i := 7) greg3 (by decide) rfl ?_
  have hb := keep_alloc x (.cells (sl 0 (zs 25) 0 false).toArray 26)
  refine p_allocS rfl rfl rfl ⟨(E.at hb).sg, ?_⟩
  refine (E.at hb).step (k := 8) rfl (by decide) (by decide) ?_
  intro a' E' t8 el
  exact g_211 hM hQ E' ((el 28 (by decide)).trans t28) ((el 31 (by decide)).trans t31) ((el 7 (by decide)).trans t7) hg ((hb.block _ (heap_lt hz7)).trans hz7) t8 E.size (heap_alloc_last x _) (Nat.ne_of_lt (heap_lt hz7))
theorem g_201 (hM : M.length = 25) (hQ : ∀ (a : Act) (x : World) (g h : Nat), Gx w kind ws p ot bv nv a x → a.eval (.tmp 7) = .pointer (some ⟨g, 0, none⟩) → a.eval (.tmp 8) = .pointer (some ⟨h, 0, none⟩) → w.heap.size + 1 ≤ g → w.heap.size + 1 ≤ h → x.heap[g]? = some (.cells (sl kind M P O).toArray 26 (0, 0)) → x.heap[h]? = some (.cells (sl kind M P O).toArray 26 (0, 0)) → Q .normal a x) (hA : ∀ x, Below w.heap.size w x → Calls Tryd.prog 17 #[.agg (sl kind ws p ot).toArray, bv] x fun e x' => e = .returned (.agg (sl kind M P O).toArray) ∧ Below x.heap.size x x') (hB : ∀ x, Below w.heap.size w x → Calls Tryd.prog 18 #[.agg (sl kind ws p ot).toArray, bv] x fun e x' => e = .returned (.agg (sl kind M P O).toArray) ∧ Below x.heap.size x x')
    {a : Act} {x : World} {h : Nat} (E : Gx w kind ws p ot bv nv a x) (t28 : a.eval (.tmp 28) = (.agg (sl kind M P O).toArray)) (t31 : a.eval (.tmp 31) = (.agg (sl kind M P O).toArray)) (t8 : a.eval (.tmp 8) = .pointer (some ⟨h, 0, none⟩)) (hh : w.heap.size + 1 ≤ h) (hz8 : x.heap[h]? = some (.cells (sl 0 (zs 25) 0 false).toArray 26 (0, 0))) :
    At Tryd.prog (opsOf (cL (cR (cR (Tryd.f4.body.getD .skip))))) Q (fun y => Sg y w.heap.size kind ws p ot) 3 191 a x := by
  refine at_one (i := 6) greg3 (by decide) rfl ?_
  have hb := keep_alloc x (.cells (sl 0 (zs 25) 0 false).toArray 26)
  refine p_allocS rfl rfl rfl ⟨(E.at hb).sg, ?_⟩
  refine (E.at hb).step (k := 7) rfl (by decide) (by decide) ?_
  intro a' E' t7 el
  exact g_211 hM hQ E' ((el 28 (by decide)).trans t28) ((el 31 (by decide)).trans t31) t7 E.size (heap_alloc_last x _) ((el 8 (by decide)).trans t8) hh ((hb.block _ (heap_lt hz8)).trans hz8) (Nat.ne_of_gt (heap_lt hz8))
theorem g_111 (hM : M.length = 25) (hQ : ∀ (a : Act) (x : World) (g h : Nat), Gx w kind ws p ot bv nv a x → a.eval (.tmp 7) = .pointer (some ⟨g, 0, none⟩) → a.eval (.tmp 8) = .pointer (some ⟨h, 0, none⟩) → w.heap.size + 1 ≤ g → w.heap.size + 1 ≤ h → x.heap[g]? = some (.cells (sl kind M P O).toArray 26 (0, 0)) → x.heap[h]? = some (.cells (sl kind M P O).toArray 26 (0, 0)) → Q .normal a x) (hA : ∀ x, Below w.heap.size w x → Calls Tryd.prog 17 #[.agg (sl kind ws p ot).toArray, bv] x fun e x' => e = .returned (.agg (sl kind M P O).toArray) ∧ Below x.heap.size x x') (hB : ∀ x, Below w.heap.size w x → Calls Tryd.prog 18 #[.agg (sl kind ws p ot).toArray, bv] x fun e x' => e = .returned (.agg (sl kind M P O).toArray) ∧ Below x.heap.size x x')
    {a : Act} {x : World} {g : Nat} {h : Nat} (E : Gx w kind ws p ot bv nv a x) (t28 : a.eval (.tmp 28) = (.agg (sl kind M P O).toArray)) (t29 : a.eval (.tmp 29) = .agg (sl kind ws p ot).toArray) (t30 : a.eval (.tmp 30) = bv) (t7 : a.eval (.tmp 7) = .pointer (some ⟨g, 0, none⟩)) (hg : w.heap.size + 1 ≤ g) (hz7 : x.heap[g]? = some (.cells (sl 0 (zs 25) 0 false).toArray 26 (0, 0))) (t8 : a.eval (.tmp 8) = .pointer (some ⟨h, 0, none⟩)) (hh : w.heap.size + 1 ≤ h) (hz8 : x.heap[h]? = some (.cells (sl 0 (zs 25) 0 false).toArray 26 (0, 0))) (hne : g ≠ h) :
    At Tryd.prog (opsOf (cL (cR (cR (Tryd.f4.body.getD .skip))))) Q (fun y => Sg y w.heap.size kind ws p ot) 3 223 a x := by
  refine at_one (i := 5) greg3 (by decide) rfl ?_
  refine p_call (args := #[.agg (sl kind ws p ot).toArray, bv]) rfl rfl rfl (by simp only [List.map_toArray, List.map_cons, List.map_nil, t29, t30]) Tryd.call18 ((hB x E.bel).mono ?_)
  rintro e x' ⟨rfl, hb⟩
  refine ⟨_, rfl, (E.at hb).sg, ?_⟩
  refine (E.at hb).step (k := 31) rfl (by decide) (by decide) ?_
  intro a' E' t31 el
  exact g_211 hM hQ E' ((el 28 (by decide)).trans t28) t31 ((el 7 (by decide)).trans t7) hg ((hb.block _ (heap_lt hz7)).trans hz7) ((el 8 (by decide)).trans t8) hh ((hb.block _ (heap_lt hz8)).trans hz8) hne
theorem g_200 (hM : M.length = 25) (hQ : ∀ (a : Act) (x : World) (g h : Nat), Gx w kind ws p ot bv nv a x → a.eval (.tmp 7) = .pointer (some ⟨g, 0, none⟩) → a.eval (.tmp 8) = .pointer (some ⟨h, 0, none⟩) → w.heap.size + 1 ≤ g → w.heap.size + 1 ≤ h → x.heap[g]? = some (.cells (sl kind M P O).toArray 26 (0, 0)) → x.heap[h]? = some (.cells (sl kind M P O).toArray 26 (0, 0)) → Q .normal a x) (hA : ∀ x, Below w.heap.size w x → Calls Tryd.prog 17 #[.agg (sl kind ws p ot).toArray, bv] x fun e x' => e = .returned (.agg (sl kind M P O).toArray) ∧ Below x.heap.size x x') (hB : ∀ x, Below w.heap.size w x → Calls Tryd.prog 18 #[.agg (sl kind ws p ot).toArray, bv] x fun e x' => e = .returned (.agg (sl kind M P O).toArray) ∧ Below x.heap.size x x')
    {a : Act} {x : World} (E : Gx w kind ws p ot bv nv a x) (t28 : a.eval (.tmp 28) = (.agg (sl kind M P O).toArray)) (t31 : a.eval (.tmp 31) = (.agg (sl kind M P O).toArray)) :
    At Tryd.prog (opsOf (cL (cR (cR (Tryd.f4.body.getD .skip))))) Q (fun y => Sg y w.heap.size kind ws p ot) 4 63 a x := by
  refine at_two (i := 6) (j := 7) greg3 (by decide) rfl rfl ?_ ?_
  · have hb := keep_alloc x (.cells (sl 0 (zs 25) 0 false).toArray 26)
    refine p_allocS rfl rfl rfl ⟨(E.at hb).sg, ?_⟩
    refine (E.at hb).step (k := 7) rfl (by decide) (by decide) ?_
    intro a' E' t7 el
    exact g_210 hM hQ hA hB E' ((el 28 (by decide)).trans t28) ((el 31 (by decide)).trans t31) t7 E.size (heap_alloc_last x _)
  · have hb := keep_alloc x (.cells (sl 0 (zs 25) 0 false).toArray 26)
    refine p_allocS rfl rfl rfl ⟨(E.at hb).sg, ?_⟩
    refine (E.at hb).step (k := 8) rfl (by decide) (by decide) ?_
    intro a' E' t8 el
    exact g_201 hM hQ hA hB E' ((el 28 (by decide)).trans t28) ((el 31 (by decide)).trans t31) t8 E.size (heap_alloc_last x _)
theorem g_110 (hM : M.length = 25) (hQ : ∀ (a : Act) (x : World) (g h : Nat), Gx w kind ws p ot bv nv a x → a.eval (.tmp 7) = .pointer (some ⟨g, 0, none⟩) → a.eval (.tmp 8) = .pointer (some ⟨h, 0, none⟩) → w.heap.size + 1 ≤ g → w.heap.size + 1 ≤ h → x.heap[g]? = some (.cells (sl kind M P O).toArray 26 (0, 0)) → x.heap[h]? = some (.cells (sl kind M P O).toArray 26 (0, 0)) → Q .normal a x) (hA : ∀ x, Below w.heap.size w x → Calls Tryd.prog 17 #[.agg (sl kind ws p ot).toArray, bv] x fun e x' => e = .returned (.agg (sl kind M P O).toArray) ∧ Below x.heap.size x x') (hB : ∀ x, Below w.heap.size w x → Calls Tryd.prog 18 #[.agg (sl kind ws p ot).toArray, bv] x fun e x' => e = .returned (.agg (sl kind M P O).toArray) ∧ Below x.heap.size x x')
    {a : Act} {x : World} {g : Nat} (E : Gx w kind ws p ot bv nv a x) (t28 : a.eval (.tmp 28) = (.agg (sl kind M P O).toArray)) (t29 : a.eval (.tmp 29) = .agg (sl kind ws p ot).toArray) (t30 : a.eval (.tmp 30) = bv) (t7 : a.eval (.tmp 7) = .pointer (some ⟨g, 0, none⟩)) (hg : w.heap.size + 1 ≤ g) (hz7 : x.heap[g]? = some (.cells (sl 0 (zs 25) 0 false).toArray 26 (0, 0))) :
    At Tryd.prog (opsOf (cL (cR (cR (Tryd.f4.body.getD .skip))))) Q (fun y => Sg y w.heap.size kind ws p ot) 4 95 a x := by
  refine at_two (i := 5) (j := 7) greg3 (by decide) rfl rfl ?_ ?_
  · refine p_call (args := #[.agg (sl kind ws p ot).toArray, bv]) rfl rfl rfl (by simp only [List.map_toArray, List.map_cons, List.map_nil, t29, t30]) Tryd.call18 ((hB x E.bel).mono ?_)
    rintro e x' ⟨rfl, hb⟩
    refine ⟨_, rfl, (E.at hb).sg, ?_⟩
    refine (E.at hb).step (k := 31) rfl (by decide) (by decide) ?_
    intro a' E' t31 el
    exact g_210 hM hQ hA hB E' ((el 28 (by decide)).trans t28) t31 ((el 7 (by decide)).trans t7) hg ((hb.block _ (heap_lt hz7)).trans hz7)
  · have hb := keep_alloc x (.cells (sl 0 (zs 25) 0 false).toArray 26)
    refine p_allocS rfl rfl rfl ⟨(E.at hb).sg, ?_⟩
    refine (E.at hb).step (k := 8) rfl (by decide) (by decide) ?_
    intro a' E' t8 el
    exact g_111 hM hQ hA hB E' ((el 28 (by decide)).trans t28) ((el 29 (by decide)).trans t29) ((el 30 (by decide)).trans t30) ((el 7 (by decide)).trans t7) hg ((hb.block _ (heap_lt hz7)).trans hz7) t8 E.size (heap_alloc_last x _) (Nat.ne_of_lt (heap_lt hz7))
theorem g_101 (hM : M.length = 25) (hQ : ∀ (a : Act) (x : World) (g h : Nat), Gx w kind ws p ot bv nv a x → a.eval (.tmp 7) = .pointer (some ⟨g, 0, none⟩) → a.eval (.tmp 8) = .pointer (some ⟨h, 0, none⟩) → w.heap.size + 1 ≤ g → w.heap.size + 1 ≤ h → x.heap[g]? = some (.cells (sl kind M P O).toArray 26 (0, 0)) → x.heap[h]? = some (.cells (sl kind M P O).toArray 26 (0, 0)) → Q .normal a x) (hA : ∀ x, Below w.heap.size w x → Calls Tryd.prog 17 #[.agg (sl kind ws p ot).toArray, bv] x fun e x' => e = .returned (.agg (sl kind M P O).toArray) ∧ Below x.heap.size x x') (hB : ∀ x, Below w.heap.size w x → Calls Tryd.prog 18 #[.agg (sl kind ws p ot).toArray, bv] x fun e x' => e = .returned (.agg (sl kind M P O).toArray) ∧ Below x.heap.size x x')
    {a : Act} {x : World} {h : Nat} (E : Gx w kind ws p ot bv nv a x) (t28 : a.eval (.tmp 28) = (.agg (sl kind M P O).toArray)) (t29 : a.eval (.tmp 29) = .agg (sl kind ws p ot).toArray) (t30 : a.eval (.tmp 30) = bv) (t8 : a.eval (.tmp 8) = .pointer (some ⟨h, 0, none⟩)) (hh : w.heap.size + 1 ≤ h) (hz8 : x.heap[h]? = some (.cells (sl 0 (zs 25) 0 false).toArray 26 (0, 0))) :
    At Tryd.prog (opsOf (cL (cR (cR (Tryd.f4.body.getD .skip))))) Q (fun y => Sg y w.heap.size kind ws p ot) 4 159 a x := by
  refine at_two (i := 5) (j := 6) greg3 (by decide) rfl rfl ?_ ?_
  · refine p_call (args := #[.agg (sl kind ws p ot).toArray, bv]) rfl rfl rfl (by simp only [List.map_toArray, List.map_cons, List.map_nil, t29, t30]) Tryd.call18 ((hB x E.bel).mono ?_)
    rintro e x' ⟨rfl, hb⟩
    refine ⟨_, rfl, (E.at hb).sg, ?_⟩
    refine (E.at hb).step (k := 31) rfl (by decide) (by decide) ?_
    intro a' E' t31 el
    exact g_201 hM hQ hA hB E' ((el 28 (by decide)).trans t28) t31 ((el 8 (by decide)).trans t8) hh ((hb.block _ (heap_lt hz8)).trans hz8)
  · have hb := keep_alloc x (.cells (sl 0 (zs 25) 0 false).toArray 26)
    refine p_allocS rfl rfl rfl ⟨(E.at hb).sg, ?_⟩
    refine (E.at hb).step (k := 7) rfl (by decide) (by decide) ?_
    intro a' E' t7 el
    exact g_111 hM hQ hA hB E' ((el 28 (by decide)).trans t28) ((el 29 (by decide)).trans t29) ((el 30 (by decide)).trans t30) t7 E.size (heap_alloc_last x _) ((el 8 (by decide)).trans t8) hh ((hb.block _ (heap_lt hz8)).trans hz8) (Nat.ne_of_gt (heap_lt hz8))
theorem g_011 (hM : M.length = 25) (hQ : ∀ (a : Act) (x : World) (g h : Nat), Gx w kind ws p ot bv nv a x → a.eval (.tmp 7) = .pointer (some ⟨g, 0, none⟩) → a.eval (.tmp 8) = .pointer (some ⟨h, 0, none⟩) → w.heap.size + 1 ≤ g → w.heap.size + 1 ≤ h → x.heap[g]? = some (.cells (sl kind M P O).toArray 26 (0, 0)) → x.heap[h]? = some (.cells (sl kind M P O).toArray 26 (0, 0)) → Q .normal a x) (hA : ∀ x, Below w.heap.size w x → Calls Tryd.prog 17 #[.agg (sl kind ws p ot).toArray, bv] x fun e x' => e = .returned (.agg (sl kind M P O).toArray) ∧ Below x.heap.size x x') (hB : ∀ x, Below w.heap.size w x → Calls Tryd.prog 18 #[.agg (sl kind ws p ot).toArray, bv] x fun e x' => e = .returned (.agg (sl kind M P O).toArray) ∧ Below x.heap.size x x')
    {a : Act} {x : World} {g : Nat} {h : Nat} (E : Gx w kind ws p ot bv nv a x) (t26 : a.eval (.tmp 26) = .agg (sl kind ws p ot).toArray) (t27 : a.eval (.tmp 27) = bv) (t29 : a.eval (.tmp 29) = .agg (sl kind ws p ot).toArray) (t30 : a.eval (.tmp 30) = bv) (t7 : a.eval (.tmp 7) = .pointer (some ⟨g, 0, none⟩)) (hg : w.heap.size + 1 ≤ g) (hz7 : x.heap[g]? = some (.cells (sl 0 (zs 25) 0 false).toArray 26 (0, 0))) (t8 : a.eval (.tmp 8) = .pointer (some ⟨h, 0, none⟩)) (hh : w.heap.size + 1 ≤ h) (hz8 : x.heap[h]? = some (.cells (sl 0 (zs 25) 0 false).toArray 26 (0, 0))) (hne : g ≠ h) :
    At Tryd.prog (opsOf (cL (cR (cR (Tryd.f4.body.getD .skip))))) Q (fun y => Sg y w.heap.size kind ws p ot) 4 219 a x := by
  refine at_one (i := 2) greg3 (by decide) rfl ?_
  refine p_call (args := #[.agg (sl kind ws p ot).toArray, bv]) rfl rfl rfl (by simp only [List.map_toArray, List.map_cons, List.map_nil, t26, t27]) Tryd.call17 ((hA x E.bel).mono ?_)
  rintro e x' ⟨rfl, hb⟩
  refine ⟨_, rfl, (E.at hb).sg, ?_⟩
  refine (E.at hb).step (k := 28) rfl (by decide) (by decide) ?_
  intro a' E' t28 el
  exact g_111 hM hQ hA hB E' t28 ((el 29 (by decide)).trans t29) ((el 30 (by decide)).trans t30) ((el 7 (by decide)).trans t7) hg ((hb.block _ (heap_lt hz7)).trans hz7) ((el 8 (by decide)).trans t8) hh ((hb.block _ (heap_lt hz8)).trans hz8) hne
theorem g_100 (hM : M.length = 25) (hQ : ∀ (a : Act) (x : World) (g h : Nat), Gx w kind ws p ot bv nv a x → a.eval (.tmp 7) = .pointer (some ⟨g, 0, none⟩) → a.eval (.tmp 8) = .pointer (some ⟨h, 0, none⟩) → w.heap.size + 1 ≤ g → w.heap.size + 1 ≤ h → x.heap[g]? = some (.cells (sl kind M P O).toArray 26 (0, 0)) → x.heap[h]? = some (.cells (sl kind M P O).toArray 26 (0, 0)) → Q .normal a x) (hA : ∀ x, Below w.heap.size w x → Calls Tryd.prog 17 #[.agg (sl kind ws p ot).toArray, bv] x fun e x' => e = .returned (.agg (sl kind M P O).toArray) ∧ Below x.heap.size x x') (hB : ∀ x, Below w.heap.size w x → Calls Tryd.prog 18 #[.agg (sl kind ws p ot).toArray, bv] x fun e x' => e = .returned (.agg (sl kind M P O).toArray) ∧ Below x.heap.size x x')
    {a : Act} {x : World} (E : Gx w kind ws p ot bv nv a x) (t28 : a.eval (.tmp 28) = (.agg (sl kind M P O).toArray)) (t29 : a.eval (.tmp 29) = .agg (sl kind ws p ot).toArray) (t30 : a.eval (.tmp 30) = bv) :
    At Tryd.prog (opsOf (cL (cR (cR (Tryd.f4.body.getD .skip))))) Q (fun y => Sg y w.heap.size kind ws p ot) 5 31 a x := by
  refine at_three (i := 5) (j := 6) (k := 7) greg3 (by decide) rfl rfl rfl ?_ ?_ ?_
  · refine p_call (args := #[.agg (sl kind ws p ot).toArray, bv]) rfl rfl rfl (by simp only [List.map_toArray, List.map_cons, List.map_nil, t29, t30]) Tryd.call18 ((hB x E.bel).mono ?_)
    rintro e x' ⟨rfl, hb⟩
    refine ⟨_, rfl, (E.at hb).sg, ?_⟩
    refine (E.at hb).step (k := 31) rfl (by decide) (by decide) ?_
    intro a' E' t31 el
    exact g_200 hM hQ hA hB E' ((el 28 (by decide)).trans t28) t31
  · have hb := keep_alloc x (.cells (sl 0 (zs 25) 0 false).toArray 26)
    refine p_allocS rfl rfl rfl ⟨(E.at hb).sg, ?_⟩
    refine (E.at hb).step (k := 7) rfl (by decide) (by decide) ?_
    intro a' E' t7 el
    exact g_110 hM hQ hA hB E' ((el 28 (by decide)).trans t28) ((el 29 (by decide)).trans t29) ((el 30 (by decide)).trans t30) t7 E.size (heap_alloc_last x _)
  · have hb := keep_alloc x (.cells (sl 0 (zs 25) 0 false).toArray 26)
    refine p_allocS rfl rfl rfl ⟨(E.at hb).sg, ?_⟩
    refine (E.at hb).step (k := 8) rfl (by decide) (by decide) ?_
    intro a' E' t8 el
    exact g_101 hM hQ hA hB E' ((el 28 (by decide)).trans t28) ((el 29 (by decide)).trans t29) ((el 30 (by decide)).trans t30) t8 E.size (heap_alloc_last x _)
theorem g_010 (hM : M.length = 25) (hQ : ∀ (a : Act) (x : World) (g h : Nat), Gx w kind ws p ot bv nv a x → a.eval (.tmp 7) = .pointer (some ⟨g, 0, none⟩) → a.eval (.tmp 8) = .pointer (some ⟨h, 0, none⟩) → w.heap.size + 1 ≤ g → w.heap.size + 1 ≤ h → x.heap[g]? = some (.cells (sl kind M P O).toArray 26 (0, 0)) → x.heap[h]? = some (.cells (sl kind M P O).toArray 26 (0, 0)) → Q .normal a x) (hA : ∀ x, Below w.heap.size w x → Calls Tryd.prog 17 #[.agg (sl kind ws p ot).toArray, bv] x fun e x' => e = .returned (.agg (sl kind M P O).toArray) ∧ Below x.heap.size x x') (hB : ∀ x, Below w.heap.size w x → Calls Tryd.prog 18 #[.agg (sl kind ws p ot).toArray, bv] x fun e x' => e = .returned (.agg (sl kind M P O).toArray) ∧ Below x.heap.size x x')
    {a : Act} {x : World} {g : Nat} (E : Gx w kind ws p ot bv nv a x) (t26 : a.eval (.tmp 26) = .agg (sl kind ws p ot).toArray) (t27 : a.eval (.tmp 27) = bv) (t29 : a.eval (.tmp 29) = .agg (sl kind ws p ot).toArray) (t30 : a.eval (.tmp 30) = bv) (t7 : a.eval (.tmp 7) = .pointer (some ⟨g, 0, none⟩)) (hg : w.heap.size + 1 ≤ g) (hz7 : x.heap[g]? = some (.cells (sl 0 (zs 25) 0 false).toArray 26 (0, 0))) :
    At Tryd.prog (opsOf (cL (cR (cR (Tryd.f4.body.getD .skip))))) Q (fun y => Sg y w.heap.size kind ws p ot) 5 91 a x := by
  refine at_two (i := 2) (j := 7) greg3 (by decide) rfl rfl ?_ ?_
  · refine p_call (args := #[.agg (sl kind ws p ot).toArray, bv]) rfl rfl rfl (by simp only [List.map_toArray, List.map_cons, List.map_nil, t26, t27]) Tryd.call17 ((hA x E.bel).mono ?_)
    rintro e x' ⟨rfl, hb⟩
    refine ⟨_, rfl, (E.at hb).sg, ?_⟩
    refine (E.at hb).step (k := 28) rfl (by decide) (by decide) ?_
    intro a' E' t28 el
    exact g_110 hM hQ hA hB E' t28 ((el 29 (by decide)).trans t29) ((el 30 (by decide)).trans t30) ((el 7 (by decide)).trans t7) hg ((hb.block _ (heap_lt hz7)).trans hz7)
  · have hb := keep_alloc x (.cells (sl 0 (zs 25) 0 false).toArray 26)
    refine p_allocS rfl rfl rfl ⟨(E.at hb).sg, ?_⟩
    refine (E.at hb).step (k := 8) rfl (by decide) (by decide) ?_
    intro a' E' t8 el
    exact g_011 hM hQ hA hB E' ((el 26 (by decide)).trans t26) ((el 27 (by decide)).trans t27) ((el 29 (by decide)).trans t29) ((el 30 (by decide)).trans t30) ((el 7 (by decide)).trans t7) hg ((hb.block _ (heap_lt hz7)).trans hz7) t8 E.size (heap_alloc_last x _) (Nat.ne_of_lt (heap_lt hz7))
theorem g_001 (hM : M.length = 25) (hQ : ∀ (a : Act) (x : World) (g h : Nat), Gx w kind ws p ot bv nv a x → a.eval (.tmp 7) = .pointer (some ⟨g, 0, none⟩) → a.eval (.tmp 8) = .pointer (some ⟨h, 0, none⟩) → w.heap.size + 1 ≤ g → w.heap.size + 1 ≤ h → x.heap[g]? = some (.cells (sl kind M P O).toArray 26 (0, 0)) → x.heap[h]? = some (.cells (sl kind M P O).toArray 26 (0, 0)) → Q .normal a x) (hA : ∀ x, Below w.heap.size w x → Calls Tryd.prog 17 #[.agg (sl kind ws p ot).toArray, bv] x fun e x' => e = .returned (.agg (sl kind M P O).toArray) ∧ Below x.heap.size x x') (hB : ∀ x, Below w.heap.size w x → Calls Tryd.prog 18 #[.agg (sl kind ws p ot).toArray, bv] x fun e x' => e = .returned (.agg (sl kind M P O).toArray) ∧ Below x.heap.size x x')
    {a : Act} {x : World} {h : Nat} (E : Gx w kind ws p ot bv nv a x) (t26 : a.eval (.tmp 26) = .agg (sl kind ws p ot).toArray) (t27 : a.eval (.tmp 27) = bv) (t29 : a.eval (.tmp 29) = .agg (sl kind ws p ot).toArray) (t30 : a.eval (.tmp 30) = bv) (t8 : a.eval (.tmp 8) = .pointer (some ⟨h, 0, none⟩)) (hh : w.heap.size + 1 ≤ h) (hz8 : x.heap[h]? = some (.cells (sl 0 (zs 25) 0 false).toArray 26 (0, 0))) :
    At Tryd.prog (opsOf (cL (cR (cR (Tryd.f4.body.getD .skip))))) Q (fun y => Sg y w.heap.size kind ws p ot) 5 155 a x := by
  refine at_two (i := 2) (j := 6) greg3 (by decide) rfl rfl ?_ ?_
  · refine p_call (args := #[.agg (sl kind ws p ot).toArray, bv]) rfl rfl rfl (by simp only [List.map_toArray, List.map_cons, List.map_nil, t26, t27]) Tryd.call17 ((hA x E.bel).mono ?_)
    rintro e x' ⟨rfl, hb⟩
    refine ⟨_, rfl, (E.at hb).sg, ?_⟩
    refine (E.at hb).step (k := 28) rfl (by decide) (by decide) ?_
    intro a' E' t28 el
    exact g_101 hM hQ hA hB E' t28 ((el 29 (by decide)).trans t29) ((el 30 (by decide)).trans t30) ((el 8 (by decide)).trans t8) hh ((hb.block _ (heap_lt hz8)).trans hz8)
  · have hb := keep_alloc x (.cells (sl 0 (zs 25) 0 false).toArray 26)
    refine p_allocS rfl rfl rfl ⟨(E.at hb).sg, ?_⟩
    refine (E.at hb).step (k := 7) rfl (by decide) (by decide) ?_
    intro a' E' t7 el
    exact g_011 hM hQ hA hB E' ((el 26 (by decide)).trans t26) ((el 27 (by decide)).trans t27) ((el 29 (by decide)).trans t29) ((el 30 (by decide)).trans t30) t7 E.size (heap_alloc_last x _) ((el 8 (by decide)).trans t8) hh ((hb.block _ (heap_lt hz8)).trans hz8) (Nat.ne_of_gt (heap_lt hz8))
theorem g_000 (hM : M.length = 25) (hQ : ∀ (a : Act) (x : World) (g h : Nat), Gx w kind ws p ot bv nv a x → a.eval (.tmp 7) = .pointer (some ⟨g, 0, none⟩) → a.eval (.tmp 8) = .pointer (some ⟨h, 0, none⟩) → w.heap.size + 1 ≤ g → w.heap.size + 1 ≤ h → x.heap[g]? = some (.cells (sl kind M P O).toArray 26 (0, 0)) → x.heap[h]? = some (.cells (sl kind M P O).toArray 26 (0, 0)) → Q .normal a x) (hA : ∀ x, Below w.heap.size w x → Calls Tryd.prog 17 #[.agg (sl kind ws p ot).toArray, bv] x fun e x' => e = .returned (.agg (sl kind M P O).toArray) ∧ Below x.heap.size x x') (hB : ∀ x, Below w.heap.size w x → Calls Tryd.prog 18 #[.agg (sl kind ws p ot).toArray, bv] x fun e x' => e = .returned (.agg (sl kind M P O).toArray) ∧ Below x.heap.size x x')
    {a : Act} {x : World} (E : Gx w kind ws p ot bv nv a x) (t26 : a.eval (.tmp 26) = .agg (sl kind ws p ot).toArray) (t27 : a.eval (.tmp 27) = bv) (t29 : a.eval (.tmp 29) = .agg (sl kind ws p ot).toArray) (t30 : a.eval (.tmp 30) = bv) :
    At Tryd.prog (opsOf (cL (cR (cR (Tryd.f4.body.getD .skip))))) Q (fun y => Sg y w.heap.size kind ws p ot) 6 27 a x := by
  refine at_three (i := 2) (j := 6) (k := 7) greg3 (by decide) rfl rfl rfl ?_ ?_ ?_
  · refine p_call (args := #[.agg (sl kind ws p ot).toArray, bv]) rfl rfl rfl (by simp only [List.map_toArray, List.map_cons, List.map_nil, t26, t27]) Tryd.call17 ((hA x E.bel).mono ?_)
    rintro e x' ⟨rfl, hb⟩
    refine ⟨_, rfl, (E.at hb).sg, ?_⟩
    refine (E.at hb).step (k := 28) rfl (by decide) (by decide) ?_
    intro a' E' t28 el
    exact g_100 hM hQ hA hB E' t28 ((el 29 (by decide)).trans t29) ((el 30 (by decide)).trans t30)
  · have hb := keep_alloc x (.cells (sl 0 (zs 25) 0 false).toArray 26)
    refine p_allocS rfl rfl rfl ⟨(E.at hb).sg, ?_⟩
    refine (E.at hb).step (k := 7) rfl (by decide) (by decide) ?_
    intro a' E' t7 el
    exact g_010 hM hQ hA hB E' ((el 26 (by decide)).trans t26) ((el 27 (by decide)).trans t27) ((el 29 (by decide)).trans t29) ((el 30 (by decide)).trans t30) t7 E.size (heap_alloc_last x _)
  · have hb := keep_alloc x (.cells (sl 0 (zs 25) 0 false).toArray 26)
    refine p_allocS rfl rfl rfl ⟨(E.at hb).sg, ?_⟩
    refine (E.at hb).step (k := 8) rfl (by decide) (by decide) ?_
    intro a' E' t8 el
    exact g_001 hM hQ hA hB E' ((el 26 (by decide)).trans t26) ((el 27 (by decide)).trans t27) ((el 29 (by decide)).trans t29) ((el 30 (by decide)).trans t30) t8 E.size (heap_alloc_last x _)
/-- the region -/
theorem goe_3 (hl : ws.length = 25) (hM : M.length = 25) (hQ : ∀ (a : Act) (x : World) (g h : Nat), Gx w kind ws p ot bv nv a x → a.eval (.tmp 7) = .pointer (some ⟨g, 0, none⟩) → a.eval (.tmp 8) = .pointer (some ⟨h, 0, none⟩) → w.heap.size + 1 ≤ g → w.heap.size + 1 ≤ h → x.heap[g]? = some (.cells (sl kind M P O).toArray 26 (0, 0)) → x.heap[h]? = some (.cells (sl kind M P O).toArray 26 (0, 0)) → Q .normal a x) (hA : ∀ x, Below w.heap.size w x → Calls Tryd.prog 17 #[.agg (sl kind ws p ot).toArray, bv] x fun e x' => e = .returned (.agg (sl kind M P O).toArray) ∧ Below x.heap.size x x') (hB : ∀ x, Below w.heap.size w x → Calls Tryd.prog 18 #[.agg (sl kind ws p ot).toArray, bv] x fun e x' => e = .returned (.agg (sl kind M P O).toArray) ∧ Below x.heap.size x x')
    {a : Act} {x : World} (E0 : Gx w kind ws p ot bv nv a x) : Code.wp Tryd.prog (cL (cR (cR (Tryd.f4.body.getD .skip)))) Q a x := by
  rw [gis3]
  have E := E0.at (Below.refl _ _).drew
  have hsl := sl_len (kind := kind) (p := p) (o := ot) hl
  refine at_begin (n := 10) (fun y => Sg y w.heap.size kind ws p ot) (by kernel_rfl) (by kernel_rfl) ?_
  refine at_take (i := 0) greg3 rfl (by decide) rfl (y_load_row (cs := sl kind ws p ot) rfl rfl E.t3 Tryd.underlying26 rfl (by rw [hsl]; kernel_rfl) (fun _ h => h.all)) E.sg ?_
  refine E.step (k := 26) rfl (by decide) (by decide) ?_
  intro a1 E1 s26 _
  refine at_take (i := 1) greg3 rfl (by decide) rfl (y_move rfl rfl E1.t1) E1.sg ?_
  refine E1.step (k := 27) rfl (by decide) (by decide) ?_
  intro a2 E2 s27 e2
  replace s26 := (e2 26 (by decide)).trans s26
  refine at_take (i := 3) greg3 rfl (by decide) rfl (y_load_row (cs := sl kind ws p ot) rfl rfl E2.t3 Tryd.underlying26 rfl (by rw [hsl]; kernel_rfl) (fun _ h => h.all)) E2.sg ?_
  refine E2.step (k := 29) rfl (by decide) (by decide) ?_
  intro a3 E3 s29 e3
  replace s26 := (e3 26 (by decide)).trans s26
  replace s27 := (e3 27 (by decide)).trans s27
  refine at_take (i := 4) greg3 rfl (by decide) rfl (y_move rfl rfl E3.t1) E3.sg ?_
  refine E3.step (k := 30) rfl (by decide) (by decide) ?_
  intro a4 E4 s30 e4
  exact g_000 hM hQ hA hB E4 ((e4 26 (by decide)).trans s26) ((e4 27 (by decide)).trans s27) ((e4 29 (by decide)).trans s29) s30
theorem list68 : ∀ l : List Value, l.length = 68 → ∃ u0 u1 u2 u3 u4 u5 u6 u7 u8 u9 u10 u11 u12 u13 u14 u15 u16 u17 u18 u19 u20 u21 u22 u23 u24 u25 u26 u27 u28 u29 u30 u31 u32 u33 u34 u35 u36 u37 u38 u39 u40 u41 u42 u43 u44 u45 u46 u47 u48 u49 u50 u51 u52 u53 u54 u55 u56 u57 u58 u59 u60 u61 u62 u63 u64 u65 u66 u67, l = u0 :: u1 :: u2 :: u3 :: u4 :: u5 :: u6 :: u7 :: u8 :: u9 :: u10 :: u11 :: u12 :: u13 :: u14 :: u15 :: u16 :: u17 :: u18 :: u19 :: u20 :: u21 :: u22 :: u23 :: u24 :: u25 :: u26 :: u27 :: u28 :: u29 :: u30 :: u31 :: u32 :: u33 :: u34 :: u35 :: u36 :: u37 :: u38 :: u39 :: u40 :: u41 :: u42 :: u43 :: u44 :: u45 :: u46 :: u47 :: u48 :: u49 :: u50 :: u51 :: u52 :: u53 :: u54 :: u55 :: u56 :: u57 :: u58 :: u59 :: u60 :: u61 :: u62 :: u63 :: u64 :: u65 :: u66 :: u67 :: []
  | u0 :: u1 :: u2 :: u3 :: u4 :: u5 :: u6 :: u7 :: u8 :: u9 :: u10 :: u11 :: u12 :: u13 :: u14 :: u15 :: u16 :: u17 :: u18 :: u19 :: u20 :: u21 :: u22 :: u23 :: u24 :: u25 :: u26 :: u27 :: u28 :: u29 :: u30 :: u31 :: u32 :: u33 :: u34 :: u35 :: u36 :: u37 :: u38 :: u39 :: u40 :: u41 :: u42 :: u43 :: u44 :: u45 :: u46 :: u47 :: u48 :: u49 :: u50 :: u51 :: u52 :: u53 :: u54 :: u55 :: u56 :: u57 :: u58 :: u59 :: u60 :: u61 :: u62 :: u63 :: u64 :: u65 :: u66 :: u67 :: [], _ => ⟨u0, u1, u2, u3, u4, u5, u6, u7, u8, u9, u10, u11, u12, u13, u14, u15, u16, u17, u18, u19, u20, u21, u22, u23, u24, u25, u26, u27, u28, u29, u30, u31, u32, u33, u34, u35, u36, u37, u38, u39, u40, u41, u42, u43, u44, u45, u46, u47, u48, u49, u50, u51, u52, u53, u54, u55, u56, u57, u58, u59, u60, u61, u62, u63, u64, u65, u66, u67, rfl⟩
end
end Go.Proofs.YtnbohjoakngkeaaDoor
