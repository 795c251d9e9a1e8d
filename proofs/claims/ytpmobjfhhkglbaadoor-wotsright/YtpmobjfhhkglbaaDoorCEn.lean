/- Contract of keccak.ended. -/
import Derived.Test.YtpmobjfhhkglbaaDoorCEn0
namespace Go.Proofs.YtpmobjfhhkglbaaDoor
open Go.RowKit
set_option linter.unusedVariables false
set_option linter.unusedSimpArgs false

def elt1 : List Lt := [(0, some 4, [1]), (1, some 5, [4]), (0, some 6, [1]), (4, some 7, [6]), (0, some 8, [1]), (16, some 9, [8]), (32, some 10, [9]), (64, some 11, [10]), (202, some 12, [5, 7, 11]), (0, some 3, []), (1023, none, [3, 12])]
def elt2 : List Lt := [(0, some 13, [3]), (0, some 14, [1]), (2, some 15, [14]), (4, some 16, [15]), (8, some 17, [16]), (0, some 18, []), (57, some 19, [13, 17, 18]), (127, none, [3, 19])]
def elt3 : List Lt := [(0, some 20, [1]), (1, some 21, [20]), (0, some 22, [3]), (4, some 23, [22]), (10, some 24, [21, 23]), (31, none, [2, 24])]
theorem ereg1 : Reg (opsOf (cL (cR (Tryd.f54.body.getD .skip)))) elt1 := ⟨by kernel_rfl, by kernel_rfl⟩
theorem ereg2 : Reg (opsOf (cL (cR (cR (Tryd.f54.body.getD .skip))))) elt2 := ⟨by kernel_rfl, by kernel_rfl⟩
theorem ereg3 : Reg (opsOf (cL (cR (cR (cR (Tryd.f54.body.getD .skip)))))) elt3 := ⟨by kernel_rfl, by kernel_rfl⟩
theorem eis1 : cL (cR (Tryd.f54.body.getD .skip)) = .region 1 (opsOf (cL (cR (Tryd.f54.body.getD .skip)))) true := by kernel_rfl
theorem eis2 : cL (cR (cR (Tryd.f54.body.getD .skip))) = .region 2 (opsOf (cL (cR (cR (Tryd.f54.body.getD .skip))))) true := by kernel_rfl
theorem eis3 : cL (cR (cR (cR (Tryd.f54.body.getD .skip)))) = .region 3 (opsOf (cL (cR (cR (cR (Tryd.f54.body.getD .skip)))))) true := by kernel_rfl

/-- where ended stands -/
structure En (w : World) (kind : Int) (ws : List Nat) (p : Nat) (a : Act) (x : World) : Prop where
  fz : Fz 25 a
  t1 : a.eval (.tmp 1) = .pointer (some ⟨w.heap.size, 0, none⟩)
  t2 : a.eval (.tmp 2) = .pointer (some ⟨w.heap.size + 1, 0, none⟩)
  sg : Sg x w.heap.size kind ws p false
  rb : x.heap[w.heap.size + 1]? = some (.cells (sl 0 (zs 25) 0 false).toArray 70 (0, 0))
  bel : Below w.heap.size w x
theorem En.put {w : World} {kind : Int} {ws : List Nat} {p : Nat} {a : Act} {x : World} (h : En w kind ws p a x) {k : Nat} (hk : 3 ≤ k) (v : Value) : En w kind ws p (a.put (some k) v) x :=
  ⟨h.fz.put _ _, (put_else (by omega)).trans h.t1, (put_else (by omega)).trans h.t2, h.sg, h.rb, h.bel⟩
theorem En.at {w : World} {kind : Int} {ws : List Nat} {p : Nat} {a : Act} {x x' : World} (h : En w kind ws p a x) (hb : Below x.heap.size x x') : En w kind ws p a x' :=
  ⟨h.fz, h.t1, h.t2, h.sg.below hb, (hb.block _ (heap_lt h.rb)).trans h.rb, keep_trans h.bel hb⟩
theorem En.but {w : World} {kind : Int} {ws : List Nat} {p : Nat} {a : Act} {x x' : World} (h : En w kind ws p a x) {g : Nat} (hb : But g x x') (hg : w.heap.size + 2 ≤ g) : En w kind ws p a x' :=
  ⟨h.fz, h.t1, h.t2, h.sg.but hb (by omega), (hb.block _ (heap_lt h.rb) (by omega)).trans h.rb, h.bel.trans (hb.below (by omega) h.bel.size)⟩
theorem En.size {w : World} {kind : Int} {ws : List Nat} {p : Nat} {a : Act} {x : World} (h : En w kind ws p a x) : w.heap.size + 2 ≤ x.heap.size := heap_lt h.rb
/-- what a step leaves: the frame behind a put -/
theorem En.step {w : World} {kind : Int} {ws : List Nat} {p : Nat} {a : Act} {x : World} (h : En w kind ws p a x) {k fuel m : Nat} {v : Value} {d : Option Nat} {ops : Array Oper} {Q : Exit → Act → World → Prop} {S : World → Prop} (hd : d = some k) (h3 : 3 ≤ k) (hk : k < 25)
    (hc : ∀ a' : Act, En w kind ws p a' x → a'.eval (.tmp k) = v → (∀ j, k ≠ j → a'.eval (.tmp j) = a.eval (.tmp j)) → At Tryd.prog ops Q S fuel m a' x) : At Tryd.prog ops Q S fuel m (a.put d v) x := by
  subst hd
  exact hc _ (h.put h3 v) (put_same (by rw [h.fz.1]; exact hk)) (fun j hj => put_else hj)
theorem one_row (w : World) (c : Nat) (hc : c < 256) : Row .u8 256 (w.alloc (.cells #[.int .u8 (c : Nat)] 5)) (.slice (some ⟨w.heap.size, 0, none⟩) 1 1) [c] :=
  lit_row .u8 256 w [c] 5 (Under.one hc) (show 1 ≤ maxLen by decide)
section
variable {w : World} {kind : Int} {ws : List Nat} {p : Nat} {Q : Exit → Act → World → Prop}
/-- the store -/
theorem e_10 {X : List Nat} (hX : X.length = 25) (hQ : ∀ (a : Act) (x : World) (g : Nat), En w kind ws p a x → a.eval (.tmp 3) = .pointer (some ⟨g, 0, none⟩) → w.heap.size + 2 ≤ g → Lies .u64 68 x g X → Q .normal a x)
    {a : Act} {x : World} {g : Nat} (E : En w kind ws p a x) (t3 : a.eval (.tmp 3) = .pointer (some ⟨g, 0, none⟩)) (hg : w.heap.size + 2 ≤ g) (t12 : a.eval (.tmp 12) = .agg (arr .u64 X)) (hL : Lies .u64 68 x g (zs 25)) :
    At Tryd.prog (opsOf (cL (cR (Tryd.f54.body.getD .skip)))) Q (fun y => Sg y w.heap.size kind ws p false) 1 1023 a x := by
  refine at_one (i := 10) ereg1 (by decide) rfl ?_
  have hB : But g x (x.setRow g (arr .u64 X)) := But.setRow (But.refl _ _) _
  exact p_row rfl rfl rfl rfl t3 t12 hL (by rw [arr_size, hX]; kernel_rfl) (by rw [arr_size, arr_size, hX, zs_len]) (arr_one _ _) ⟨(E.but hB hg).sg, at_done ereg1 (by decide) (hQ a _ g (E.but hB hg) t3 hg hL.row)⟩
/-- xored, where the new array is there -/
theorem e_8b {m : Nat} (hw : W25 ws) (hm : m < 256) (hp : p < 199) (hQ : ∀ (a : Act) (x : World) (g : Nat), En w kind ws p a x → a.eval (.tmp 3) = .pointer (some ⟨g, 0, none⟩) → w.heap.size + 2 ≤ g → Lies .u64 68 x g (xorL ws p [m]) → Q .normal a x)
    {a : Act} {x : World} {g : Nat} {sv : Value} (E : En w kind ws p a x) (t5 : a.eval (.tmp 5) = .agg (arr .u64 ws)) (t7 : a.eval (.tmp 7) = .int .i64 (p : Nat)) (t11 : a.eval (.tmp 11) = sv) (hR : Row .u8 256 x sv [m]) (t3 : a.eval (.tmp 3) = .pointer (some ⟨g, 0, none⟩)) (hg : w.heap.size + 2 ≤ g) (hL : Lies .u64 68 x g (zs 25)) :
    At Tryd.prog (opsOf (cL (cR (Tryd.f54.body.getD .skip)))) Q (fun y => Sg y w.heap.size kind ws p false) 2 767 a x := by
  refine at_one (i := 8) ereg1 (by decide) rfl ?_
  refine p_call (args := #[.agg (arr .u64 ws), .int .i64 (p : Nat), sv]) rfl rfl rfl (by simp only [List.map_toArray, List.map_cons, List.map_nil, t5, t7, t11]) Tryd.call52 ((xored_any ws p sv [m] x hw hR (by show p + 1 ≤ 200; omega)).mono ?_)
  rintro e x' ⟨rfl, hb⟩
  refine ⟨_, rfl, (E.at hb).sg, ?_⟩
  refine (E.at hb).step (k := 12) rfl (by decide) (by decide) ?_
  intro a' E' t12 el
  exact e_10 (xorL_w _ _ hw).1 hQ E' ((el 3 (by decide)).trans t3) hg t12 (hL.below hb)
/-- the new array, where xored has come -/
theorem e_9b {X : List Nat} (hX : X.length = 25) (hQ : ∀ (a : Act) (x : World) (g : Nat), En w kind ws p a x → a.eval (.tmp 3) = .pointer (some ⟨g, 0, none⟩) → w.heap.size + 2 ≤ g → Lies .u64 68 x g X → Q .normal a x)
    {a : Act} {x : World} (E : En w kind ws p a x) (t12 : a.eval (.tmp 12) = .agg (arr .u64 X)) :
    At Tryd.prog (opsOf (cL (cR (Tryd.f54.body.getD .skip)))) Q (fun y => Sg y w.heap.size kind ws p false) 2 511 a x := by
  refine at_one (i := 9) ereg1 (by decide) rfl ?_
  have hb := keep_alloc x (.cells (arr .u64 (zs 25)) 68)
  refine p_allocK rfl rfl rfl ⟨(E.at hb).sg, ?_⟩
  refine (E.at hb).step (k := 3) rfl (by decide) (by decide) ?_
  intro a' E' t3 el
  exact e_10 hX hQ E' t3 E.size ((el 12 (by decide)).trans t12) (Lies.new _ _ x _)
theorem e_89 {m : Nat} (hw : W25 ws) (hm : m < 256) (hp : p < 199) (hQ : ∀ (a : Act) (x : World) (g : Nat), En w kind ws p a x → a.eval (.tmp 3) = .pointer (some ⟨g, 0, none⟩) → w.heap.size + 2 ≤ g → Lies .u64 68 x g (xorL ws p [m]) → Q .normal a x)
    {a : Act} {x : World} {sv : Value} (E : En w kind ws p a x) (t5 : a.eval (.tmp 5) = .agg (arr .u64 ws)) (t7 : a.eval (.tmp 7) = .int .i64 (p : Nat)) (t11 : a.eval (.tmp 11) = sv) (hR : Row .u8 256 x sv [m]) :
    At Tryd.prog (opsOf (cL (cR (Tryd.f54.body.getD .skip)))) Q (fun y => Sg y w.heap.size kind ws p false) 3 255 a x := by
  refine at_two (i := 8) (j := 9) ereg1 (by decide) rfl rfl ?_ ?_
  · refine p_call (args := #[.agg (arr .u64 ws), .int .i64 (p : Nat), sv]) rfl rfl rfl (by simp only [List.map_toArray, List.map_cons, List.map_nil, t5, t7, t11]) Tryd.call52 ((xored_any ws p sv [m] x hw hR (by show p + 1 ≤ 200; omega)).mono ?_)
    rintro e x' ⟨rfl, hb⟩
    refine ⟨_, rfl, (E.at hb).sg, ?_⟩
    refine (E.at hb).step (k := 12) rfl (by decide) (by decide) ?_
    intro a' E' t12 el
    exact e_9b (xorL_w _ _ hw).1 hQ E' t12
  · have hb := keep_alloc x (.cells (arr .u64 (zs 25)) 68)
    refine p_allocK rfl rfl rfl ⟨(E.at hb).sg, ?_⟩
    refine (E.at hb).step (k := 3) rfl (by decide) (by decide) ?_
    intro a' E' t3 el
    exact e_8b hw hm hp hQ E' ((el 5 (by decide)).trans t5) ((el 7 (by decide)).trans t7) ((el 11 (by decide)).trans t11) (hR.below hb) t3 E.size (Lies.new _ _ x _)
theorem e_7b {m : Nat} (hw : W25 ws) (hm : m < 256) (hp : p < 199) (hQ : ∀ (a : Act) (x : World) (g : Nat), En w kind ws p a x → a.eval (.tmp 3) = .pointer (some ⟨g, 0, none⟩) → w.heap.size + 2 ≤ g → Lies .u64 68 x g (xorL ws p [m]) → Q .normal a x)
    {a : Act} {x : World} {g : Nat} (E : En w kind ws p a x) (t5 : a.eval (.tmp 5) = .agg (arr .u64 ws)) (t7 : a.eval (.tmp 7) = .int .i64 (p : Nat)) (t10 : a.eval (.tmp 10) = .int .u8 (m : Nat)) (t3 : a.eval (.tmp 3) = .pointer (some ⟨g, 0, none⟩)) (hg : w.heap.size + 2 ≤ g) (hL : Lies .u64 68 x g (zs 25)) :
    At Tryd.prog (opsOf (cL (cR (Tryd.f54.body.getD .skip)))) Q (fun y => Sg y w.heap.size kind ws p false) 3 639 a x := by
  refine at_one (i := 7) ereg1 (by decide) rfl ?_
  have hb := keep_alloc x (.cells #[.int .u8 (m : Nat)] 5)
  refine p_one rfl rfl rfl t10 ⟨(E.at hb).sg, ?_⟩
  refine (E.at hb).step (k := 11) rfl (by decide) (by decide) ?_
  intro a' E' t11 el
  exact e_8b hw hm hp hQ E' ((el 5 (by decide)).trans t5) ((el 7 (by decide)).trans t7) t11 (one_row x m hm) ((el 3 (by decide)).trans t3) hg (hL.below hb)
theorem e_79 {m : Nat} (hw : W25 ws) (hm : m < 256) (hp : p < 199) (hQ : ∀ (a : Act) (x : World) (g : Nat), En w kind ws p a x → a.eval (.tmp 3) = .pointer (some ⟨g, 0, none⟩) → w.heap.size + 2 ≤ g → Lies .u64 68 x g (xorL ws p [m]) → Q .normal a x)
    {a : Act} {x : World} (E : En w kind ws p a x) (t5 : a.eval (.tmp 5) = .agg (arr .u64 ws)) (t7 : a.eval (.tmp 7) = .int .i64 (p : Nat)) (t10 : a.eval (.tmp 10) = .int .u8 (m : Nat)) :
    At Tryd.prog (opsOf (cL (cR (Tryd.f54.body.getD .skip)))) Q (fun y => Sg y w.heap.size kind ws p false) 4 127 a x := by
  refine at_two (i := 7) (j := 9) ereg1 (by decide) rfl rfl ?_ ?_
  · have hb := keep_alloc x (.cells #[.int .u8 (m : Nat)] 5)
    refine p_one rfl rfl rfl t10 ⟨(E.at hb).sg, ?_⟩
    refine (E.at hb).step (k := 11) rfl (by decide) (by decide) ?_
    intro a' E' t11 el
    exact e_89 hw hm hp hQ E' ((el 5 (by decide)).trans t5) ((el 7 (by decide)).trans t7) t11 (one_row x m hm)
  · have hb := keep_alloc x (.cells (arr .u64 (zs 25)) 68)
    refine p_allocK rfl rfl rfl ⟨(E.at hb).sg, ?_⟩
    refine (E.at hb).step (k := 3) rfl (by decide) (by decide) ?_
    intro a' E' t3 el
    exact e_7b hw hm hp hQ E' ((el 5 (by decide)).trans t5) ((el 7 (by decide)).trans t7) ((el 10 (by decide)).trans t10) t3 E.size (Lies.new _ _ x _)
theorem markK_lt (kind : Int) : markK kind < 256 := by unfold markK; split <;> decide
theorem e_69 (hw : W25 ws) (hp : p < 199) (hQ : ∀ (a : Act) (x : World) (g : Nat), En w kind ws p a x → a.eval (.tmp 3) = .pointer (some ⟨g, 0, none⟩) → w.heap.size + 2 ≤ g → Lies .u64 68 x g (xorL ws p [markK kind]) → Q .normal a x)
    {a : Act} {x : World} (E : En w kind ws p a x) (t5 : a.eval (.tmp 5) = .agg (arr .u64 ws)) (t7 : a.eval (.tmp 7) = .int .i64 (p : Nat)) (t9 : a.eval (.tmp 9) = .int .i64 kind) :
    At Tryd.prog (opsOf (cL (cR (Tryd.f54.body.getD .skip)))) Q (fun y => Sg y w.heap.size kind ws p false) 5 63 a x := by
  refine at_two (i := 6) (j := 9) ereg1 (by decide) rfl rfl ?_ ?_
  · refine p_call (args := #[.int .i64 kind]) rfl rfl rfl (by simp only [List.map_toArray, List.map_cons, List.map_nil, t9]) Tryd.call65 ((endof_any kind x).mono ?_)
    rintro e x' ⟨rfl, rfl⟩
    refine ⟨_, rfl, E.sg, ?_⟩
    refine E.step (k := 10) rfl (by decide) (by decide) ?_
    intro a' E' t10 el
    exact e_79 hw (markK_lt kind) hp hQ E' ((el 5 (by decide)).trans t5) ((el 7 (by decide)).trans t7) t10
  · have hb := keep_alloc x (.cells (arr .u64 (zs 25)) 68)
    refine p_allocK rfl rfl rfl ⟨(E.at hb).sg, ?_⟩
    refine (E.at hb).step (k := 3) rfl (by decide) (by decide) ?_
    intro a' E' t3 el
    refine at_one (i := 6) ereg1 (by decide) rfl ?_
    refine p_call (args := #[.int .i64 kind]) rfl rfl rfl (by simp only [List.map_toArray, List.map_cons, List.map_nil, el 9 (by decide), t9]) Tryd.call65 ((endof_any kind _).mono ?_)
    rintro e x' ⟨rfl, rfl⟩
    refine ⟨_, rfl, E'.sg, ?_⟩
    refine E'.step (k := 10) rfl (by decide) (by decide) ?_
    intro a2 E2 t10 el2
    exact e_7b hw (markK_lt kind) hp hQ E2 ((el2 5 (by decide)).trans ((el 5 (by decide)).trans t5)) ((el2 7 (by decide)).trans ((el 7 (by decide)).trans t7)) t10 ((el2 3 (by decide)).trans t3) E.size (Lies.new _ _ x _)
/-- the first region -/
theorem en_1 (hw : W25 ws) (hp : p < 199) (hQ : ∀ (a : Act) (x : World) (g : Nat), En w kind ws p a x → a.eval (.tmp 3) = .pointer (some ⟨g, 0, none⟩) → w.heap.size + 2 ≤ g → Lies .u64 68 x g (xorL ws p [markK kind]) → Q .normal a x)
    {a : Act} {x : World} (E0 : En w kind ws p a x) : Code.wp Tryd.prog (cL (cR (Tryd.f54.body.getD .skip))) Q a x := by
  rw [eis1]
  have E : En w kind ws p a x.drew := E0.at (Below.refl _ _).drew
  have hl := hw.1
  have hvl : (vals .u64 ws).length = 25 := by rw [vals_length, hl]
  refine at_begin (n := 11) (fun y => Sg y w.heap.size kind ws p false) (by kernel_rfl) (by kernel_rfl) ?_
  refine at_take (i := 0) ereg1 rfl (by decide) rfl (y_field rfl rfl E.t1 (field1 _)) E.sg ?_
  refine E.step (k := 4) rfl (by decide) (by decide) ?_
  intro a1 E1 s4 _
  refine at_take (i := 1) ereg1 rfl (by decide) rfl (y_load_row (cs := vals .u64 ws) rfl rfl s4 Tryd.underlying68 rfl (by rw [hvl]; kernel_rfl) (fun _ h => h.words)) E1.sg ?_
  refine E1.step (k := 5) rfl (by decide) (by decide) ?_
  intro a2 E2 s5 _
  refine at_take (i := 2) ereg1 rfl (by decide) rfl (y_field rfl rfl E2.t1 (field2 _)) E2.sg ?_
  refine E2.step (k := 6) rfl (by decide) (by decide) ?_
  intro a3 E3 s6 el3
  replace s5 := (el3 5 (by decide)).trans s5
  refine at_take (i := 3) ereg1 rfl (by decide) rfl (y_load rfl rfl s6 Tryd.underlying3 (fun _ h => h.at)) E3.sg ?_
  refine E3.step (k := 7) rfl (by decide) (by decide) ?_
  intro a4 E4 s7 el4
  replace s5 := (el4 5 (by decide)).trans s5
  refine at_take (i := 4) ereg1 rfl (by decide) rfl (y_field rfl rfl E4.t1 (field0 _)) E4.sg ?_
  refine E4.step (k := 8) rfl (by decide) (by decide) ?_
  intro a5 E5 s8 el5
  replace s5 := (el5 5 (by decide)).trans s5
  replace s7 := (el5 7 (by decide)).trans s7
  refine at_take (i := 5) ereg1 rfl (by decide) rfl (y_load rfl rfl s8 Tryd.underlying3 (fun _ h => h.kind)) E5.sg ?_
  refine E5.step (k := 9) rfl (by decide) (by decide) ?_
  intro a6 E6 s9 el6
  exact e_69 hw hp hQ E6 ((el6 5 (by decide)).trans s5) ((el6 7 (by decide)).trans s7) s9
end
end Go.Proofs.YtpmobjfhhkglbaaDoor
