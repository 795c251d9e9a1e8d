import Derived.Test.YtpmobjfhhkglbaaGreatDoorCEn0
namespace Go.Proofs.YtpmobjfhhkglbaaGreatDoor
open Go.RowKit
set_option linter.unusedVariables false
set_option linter.unusedSimpArgs false
def elt1 : List Lt := [(0, some 4, [1]), (1, some 5, [4]), (0, some 6, [1]), (4, some 7, [6]), (0, some 8, [1]), (16, some 9, [8]), (32, some 10, [9]), (64, some 11, [10]), (202, some 12, [5, 7, 11]), (0, some 3, []), (1023, none, [3, 12])]
def elt2 : List Lt := [(0, some 13, [3]), (0, some 14, [1]), (2, some 15, [14]), (4, some 16, [15]), (8, some 17, [16]), (0, some 18, []), (57, some 19, [13, 17, 18]), (127, none, [3, 19])]
def elt3 : List Lt := [(0, some 20, [1]), (1, some 21, [20]), (0, some 22, [3]), (4, some 23, [22]), (10, some 24, [21, 23]), (31, none, [2, 24])]
theorem ereg1 : Reg (opsOf (cL (cR (Tryz.f99.body.getD .skip)))) elt1 := ⟨by kernel_rfl, by kernel_rfl⟩
theorem ereg2 : Reg (opsOf (cL (cR (cR (Tryz.f99.body.getD .skip))))) elt2 := ⟨by kernel_rfl, by kernel_rfl⟩
theorem ereg3 : Reg (opsOf (cL (cR (cR (cR (Tryz.f99.body.getD .skip)))))) elt3 := ⟨by kernel_rfl, by kernel_rfl⟩
theorem eis1 : cL (cR (Tryz.f99.body.getD .skip)) = .region 1 (opsOf (cL (cR (Tryz.f99.body.getD .skip)))) true := by kernel_rfl
theorem eis2 : cL (cR (cR (Tryz.f99.body.getD .skip))) = .region 2 (opsOf (cL (cR (cR (Tryz.f99.body.getD .skip))))) true := by kernel_rfl
theorem eis3 : cL (cR (cR (cR (Tryz.f99.body.getD .skip)))) = .region 3 (opsOf (cL (cR (cR (cR (Tryz.f99.body.getD .skip)))))) true := by kernel_rfl
structure En (w : World) (kind : Int) (ws : List Nat) (p : Nat) (a : Act) (x : World) : Prop where
  fz : Fz 25 a
  t1 : a.eval (.tmp 1) = .pointer (some ⟨w.heap.size, 0, none⟩)
  t2 : a.eval (.tmp 2) = .pointer (some ⟨w.heap.size + 1, 0, none⟩)
  sg : Sg x w.heap.size kind ws p false
  rb : x.heap[w.heap.size + 1]? = some (.cells (sl 0 (zs 25) 0 false).toArray 81 (0, 0))
  bel : Below w.heap.size w x
theorem En.put {w : World} {kind : Int} {ws : List Nat} {p : Nat} {a : Act} {x : World} (h : En w kind ws p a x) {k : Nat} (hk : 3 ≤ k) (v : Value) : En w kind ws p (a.put (some k) v) x :=
  ⟨h.fz.put _ _, (put_else (by omega)).trans h.t1, (put_else (by omega)).trans h.t2, h.sg, h.rb, h.bel⟩
theorem En.at {w : World} {kind : Int} {ws : List Nat} {p : Nat} {a : Act} {x x' : World} (h : En w kind ws p a x) (hb : Below x.heap.size x x') : En w kind ws p a x' :=
  ⟨h.fz, h.t1, h.t2, h.sg.below hb, (hb.block _ (heap_lt h.rb)).trans h.rb, keep_trans h.bel hb⟩
theorem En.but {w : World} {kind : Int} {ws : List Nat} {p : Nat} {a : Act} {x x' : World} (h : En w kind ws p a x) {g : Nat} (hb : But g x x') (hg : w.heap.size + 2 ≤ g) : En w kind ws p a x' :=
  ⟨h.fz, h.t1, h.t2, h.sg.but hb (by omega), (hb.block _ (heap_lt h.rb) (by omega)).trans h.rb, h.bel.trans (hb.below (by omega) h.bel.size)⟩
theorem En.size {w : World} {kind : Int} {ws : List Nat} {p : Nat} {a : Act} {x : World} (h : En w kind ws p a x) : w.heap.size + 2 ≤ x.heap.size := heap_lt h.rb
theorem En.step {w : World} {kind : Int} {ws : List Nat} {p : Nat} {a : Act} {x : World} (h : En w kind ws p a x) {k fuel m : Nat} {v : Value} {d : Option Nat} {ops : Array Oper} {Q : Exit → Act → World → Prop} {S : World → Prop} (hd : d = some k) (h3 : 3 ≤ k) (hk : k < 25)
    (hc : ∀ a' : Act, En w kind ws p a' x → a'.eval (.tmp k) = v → (∀ j, k ≠ j → a'.eval (.tmp j) = a.eval (.tmp j)) → At Tryz.prog ops Q S fuel m a' x) : At Tryz.prog ops Q S fuel m (a.put d v) x := by
  subst hd
  exact hc _ (h.put h3 v) (put_same (by rw [h.fz.1]; exact hk)) (fun j hj => put_else hj)
theorem one_row (w : World) (c : Nat) (hc : c < 256) : Row .u8 256 (w.alloc (.cells #[.int .u8 (c : Nat)] 5)) (.slice (some ⟨w.heap.size, 0, none⟩) 1 1) [c] :=
  lit_row .u8 256 w [c] 5 (Under.one hc) (show 1 ≤ maxLen by decide)
section
variable {w : World} {kind : Int} {ws : List Nat} {p : Nat} {Q : Exit → Act → World → Prop}
theorem e_10 {X : List Nat} (hX : X.length = 25) (hQ : ∀ (a : Act) (x : World) (g : Nat), En w kind ws p a x → a.eval (.tmp 3) = .pointer (some ⟨g, 0, none⟩) → w.heap.size + 2 ≤ g → Lies .u64 79 x g X → Q .normal a x)
    {a : Act} {x : World} {g : Nat} (E : En w kind ws p a x) (t3 : a.eval (.tmp 3) = .pointer (some ⟨g, 0, none⟩)) (hg : w.heap.size + 2 ≤ g) (t12 : a.eval (.tmp 12) = .agg (arr .u64 X)) (hL : Lies .u64 79 x g (zs 25)) :
    At Tryz.prog (opsOf (cL (cR (Tryz.f99.body.getD .skip)))) Q (fun y => Sg y w.heap.size kind ws p false) 1 1023 a x := by
  refine at_one (i := 10) ereg1 (by decide) rfl ?_
  have hB : But g x (x.setRow g (arr .u64 X)) := But.setRow (But.refl _ _) _
  exact p_row rfl rfl rfl rfl t3 t12 hL (by rw [arr_size, hX]; kernel_rfl) (by rw [arr_size, arr_size, hX, zs_len]) (arr_one _ _) ⟨(E.but hB hg).sg, at_done ereg1 (by decide) (hQ a _ g (E.but hB hg) t3 hg hL.row)⟩
theorem e_8b {m : Nat} (hw : W25 ws) (hm : m < 256) (hp : p < 199) (hQ : ∀ (a : Act) (x : World) (g : Nat), En w kind ws p a x → a.eval (.tmp 3) = .pointer (some ⟨g, 0, none⟩) → w.heap.size + 2 ≤ g → Lies .u64 79 x g (xorL ws p [m]) → Q .normal a x)
    {a : Act} {x : World} {g : Nat} {sv : Value} (E : En w kind ws p a x) (t5 : a.eval (.tmp 5) = .agg (arr .u64 ws)) (t7 : a.eval (.tmp 7) = .int .i64 (p : Nat)) (t11 : a.eval (.tmp 11) = sv) (hR : Row .u8 256 x sv [m]) (t3 : a.eval (.tmp 3) = .pointer (some ⟨g, 0, none⟩)) (hg : w.heap.size + 2 ≤ g) (hL : Lies .u64 79 x g (zs 25)) :
    At Tryz.prog (opsOf (cL (cR (Tryz.f99.body.getD .skip)))) Q (fun y => Sg y w.heap.size kind ws p false) 2 767 a x := by
  refine at_one (i := 8) ereg1 (by decide) rfl ?_
  refine p_call (args := #[.agg (arr .u64 ws), .int .i64 (p : Nat), sv]) rfl rfl rfl (by simp only [List.map_toArray, List.map_cons, List.map_nil, t5, t7, t11]) Tryz.call97 ((xored_any ws p sv [m] x hw hR (by show p + 1 ≤ 200; omega)).mono ?_)
  rintro e x' ⟨rfl, hb⟩
  refine ⟨_, rfl, (E.at hb).sg, ?_⟩
  refine (E.at hb).step (k := 12) rfl (by decide) (by decide) ?_
  intro a' E' t12 el
  exact e_10 (xorL_w _ _ hw).1 hQ E' ((el 3 (by decide)).trans t3) hg t12 (hL.below hb)
theorem e_9b {X : List Nat} (hX : X.length = 25) (hQ : ∀ (a : Act) (x : World) (g : Nat), En w kind ws p a x → a.eval (.tmp 3) = .pointer (some ⟨g, 0, none⟩) → w.heap.size + 2 ≤ g → Lies .u64 79 x g X → Q .normal a x)
    {a : Act} {x : World} (E : En w kind ws p a x) (t12 : a.eval (.tmp 12) = .agg (arr .u64 X)) :
    At Tryz.prog (opsOf (cL (cR (Tryz.f99.body.getD .skip)))) Q (fun y => Sg y w.heap.size kind ws p false) 2 511 a x := by
  refine at_one (i := 9) ereg1 (by decide) rfl ?_
  have hb := keep_alloc x (.cells (arr .u64 (zs 25)) 79)
  refine p_allocK rfl rfl rfl ⟨(E.at hb).sg, ?_⟩
  refine (E.at hb).step (k := 3) rfl (by decide) (by decide) ?_
  intro a' E' t3 el
  exact e_10 hX hQ E' t3 E.size ((el 12 (by decide)).trans t12) (Lies.new _ _ x _)
theorem e_89 {m : Nat} (hw : W25 ws) (hm : m < 256) (hp : p < 199) (hQ : ∀ (a : Act) (x : World) (g : Nat), En w kind ws p a x → a.eval (.tmp 3) = .pointer (some ⟨g, 0, none⟩) → w.heap.size + 2 ≤ g → Lies .u64 79 x g (xorL ws p [m]) → Q .normal a x)
    {a : Act} {x : World} {sv : Value} (E : En w kind ws p a x) (t5 : a.eval (.tmp 5) = .agg (arr .u64 ws)) (t7 : a.eval (.tmp 7) = .int .i64 (p : Nat)) (t11 : a.eval (.tmp 11) = sv) (hR : Row .u8 256 x sv [m]) :
    At Tryz.prog (opsOf (cL (cR (Tryz.f99.body.getD .skip)))) Q (fun y => Sg y w.heap.size kind ws p false) 3 255 a x := by
  refine at_two (i := 8) (j := 9) ereg1 (by decide) rfl rfl ?_ ?_
  · refine p_call (args := #[.agg (arr .u64 ws), .int .i64 (p : Nat), sv]) rfl rfl rfl (by simp only [List.map_toArray, List.map_cons, List.map_nil, t5, t7, t11]) Tryz.call97 ((xored_any ws p sv [m] x hw hR (by show p + 1 ≤ 200; omega)).mono ?_)
    rintro e x' ⟨rfl, hb⟩
    refine ⟨_, rfl, (E.at hb).sg, ?_⟩
    refine (E.at hb).step (k := 12) rfl (by decide) (by decide) ?_
    intro a' E' t12 el
    exact e_9b (xorL_w _ _ hw).1 hQ E' t12
  · have hb := keep_alloc x (.cells (arr .u64 (zs 25)) 79)
    refine p_allocK rfl rfl rfl ⟨(E.at hb).sg, ?_⟩
    refine (E.at hb).step (k := 3) rfl (by decide) (by decide) ?_
    intro a' E' t3 el
    exact e_8b hw hm hp hQ E' ((el 5 (by decide)).trans t5) ((el 7 (by decide)).trans t7) ((el 11 (by decide)).trans t11) (hR.below hb) t3 E.size (Lies.new _ _ x _)
theorem e_7b {m : Nat} (hw : W25 ws) (hm : m < 256) (hp : p < 199) (hQ : ∀ (a : Act) (x : World) (g : Nat), En w kind ws p a x → a.eval (.tmp 3) = .pointer (some ⟨g, 0, none⟩) → w.heap.size + 2 ≤ g → Lies .u64 79 x g (xorL ws p [m]) → Q .normal a x)
    {a : Act} {x : World} {g : Nat} (E : En w kind ws p a x) (t5 : a.eval (.tmp 5) = .agg (arr .u64 ws)) (t7 : a.eval (.tmp 7) = .int .i64 (p : Nat)) (t10 : a.eval (.tmp 10) = .int .u8 (m : Nat)) (t3 : a.eval (.tmp 3) = .pointer (some ⟨g, 0, none⟩)) (hg : w.heap.size + 2 ≤ g) (hL : Lies .u64 79 x g (zs 25)) :
    At Tryz.prog (opsOf (cL (cR (Tryz.f99.body.getD .skip)))) Q (fun y => Sg y w.heap.size kind ws p false) 3 639 a x := by
  refine at_one (i := 7) ereg1 (by decide) rfl ?_
  have hb := keep_alloc x (.cells #[.int .u8 (m : Nat)] 5)
  refine p_one rfl rfl rfl t10 ⟨(E.at hb).sg, ?_⟩
  refine (E.at hb).step (k := 11) rfl (by decide) (by decide) ?_
  intro a' E' t11 el
  exact e_8b hw hm hp hQ E' ((el 5 (by decide)).trans t5) ((el 7 (by decide)).trans t7) t11 (one_row x m hm) ((el 3 (by decide)).trans t3) hg (hL.below hb)
theorem e_79 {m : Nat} (hw : W25 ws) (hm : m < 256) (hp : p < 199) (hQ : ∀ (a : Act) (x : World) (g : Nat), En w kind ws p a x → a.eval (.tmp 3) = .pointer (some ⟨g, 0, none⟩) → w.heap.size + 2 ≤ g → Lies .u64 79 x g (xorL ws p [m]) → Q .normal a x)
    {a : Act} {x : World} (E : En w kind ws p a x) (t5 : a.eval (.tmp 5) = .agg (arr .u64 ws)) (t7 : a.eval (.tmp 7) = .int .i64 (p : Nat)) (t10 : a.eval (.tmp 10) = .int .u8 (m : Nat)) :
    At Tryz.prog (opsOf (cL (cR (Tryz.f99.body.getD .skip)))) Q (fun y => Sg y w.heap.size kind ws p false) 4 127 a x := by
  refine at_two (i := 7) (j := 9) ereg1 (by decide) rfl rfl ?_ ?_
  · have hb := keep_alloc x (.cells #[.int .u8 (m : Nat)] 5)
    refine p_one rfl rfl rfl t10 ⟨(E.at hb).sg, ?_⟩
    refine (E.at hb).step (k := 11) rfl (by decide) (by decide) ?_
    intro a' E' t11 el
    exact e_89 hw hm hp hQ E' ((el 5 (by decide)).trans t5) ((el 7 (by decide)).trans t7) t11 (one_row x m hm)
  · have hb := keep_alloc x (.cells (arr .u64 (zs 25)) 79)
    refine p_allocK rfl rfl rfl ⟨(E.at hb).sg, ?_⟩
    refine (E.at hb).step (k := 3) rfl (by decide) (by decide) ?_
    intro a' E' t3 el
    exact e_7b hw hm hp hQ E' ((el 5 (by decide)).trans t5) ((el 7 (by decide)).trans t7) ((el 10 (by decide)).trans t10) t3 E.size (Lies.new _ _ x _)
theorem markK_lt (kind : Int) : markK kind < 256 := by unfold markK; split <;> decide
theorem e_69 (hw : W25 ws) (hp : p < 199) (hQ : ∀ (a : Act) (x : World) (g : Nat), En w kind ws p a x → a.eval (.tmp 3) = .pointer (some ⟨g, 0, none⟩) → w.heap.size + 2 ≤ g → Lies .u64 79 x g (xorL ws p [markK kind]) → Q .normal a x)
    {a : Act} {x : World} (E : En w kind ws p a x) (t5 : a.eval (.tmp 5) = .agg (arr .u64 ws)) (t7 : a.eval (.tmp 7) = .int .i64 (p : Nat)) (t9 : a.eval (.tmp 9) = .int .i64 kind) :
    At Tryz.prog (opsOf (cL (cR (Tryz.f99.body.getD .skip)))) Q (fun y => Sg y w.heap.size kind ws p false) 5 63 a x := by
  refine at_two (i := 6) (j := 9) ereg1 (by decide) rfl rfl ?_ ?_
  · refine p_call (args := #[.int .i64 kind]) rfl rfl rfl (by simp only [List.map_toArray, List.map_cons, List.map_nil, t9]) Tryz.call112 ((endof_any kind x).mono ?_)
    rintro e x' ⟨rfl, rfl⟩
    refine ⟨_, rfl, E.sg, ?_⟩
    refine E.step (k := 10) rfl (by decide) (by decide) ?_
    intro a' E' t10 el
    exact e_79 hw (markK_lt kind) hp hQ E' ((el 5 (by decide)).trans t5) ((el 7 (by decide)).trans t7) t10
  · have hb := keep_alloc x (.cells (arr .u64 (zs 25)) 79)
    refine p_allocK rfl rfl rfl ⟨(E.at hb).sg, ?_⟩
    refine (E.at hb).step (k := 3) rfl (by decide) (by decide) ?_
    intro a' E' t3 el
    refine at_one (i := 6) ereg1 (by decide) rfl ?_
    refine p_call (args := #[.int .i64 kind]) rfl rfl rfl (by simp only [List.map_toArray, List.map_cons, List.map_nil, el 9 (by decide), t9]) Tryz.call112 ((endof_any kind _).mono ?_)
    rintro e x' ⟨rfl, rfl⟩
    refine ⟨_, rfl, E'.sg, ?_⟩
    refine E'.step (k := 10) rfl (by decide) (by decide) ?_
    intro a2 E2 t10 el2
    exact e_7b hw (markK_lt kind) hp hQ E2 ((el2 5 (by decide)).trans ((el 5 (by decide)).trans t5)) ((el2 7 (by decide)).trans ((el 7 (by decide)).trans t7)) t10 ((el2 3 (by decide)).trans t3) E.size (Lies.new _ _ x _)
theorem en_1 (hw : W25 ws) (hp : p < 199) (hQ : ∀ (a : Act) (x : World) (g : Nat), En w kind ws p a x → a.eval (.tmp 3) = .pointer (some ⟨g, 0, none⟩) → w.heap.size + 2 ≤ g → Lies .u64 79 x g (xorL ws p [markK kind]) → Q .normal a x)
    {a : Act} {x : World} (E0 : En w kind ws p a x) : Code.wp Tryz.prog (cL (cR (Tryz.f99.body.getD .skip))) Q a x := by
  rw [eis1]
  have E : En w kind ws p a x.drew := E0.at (Below.refl _ _).drew
  have hl := hw.1
  have hvl : (vals .u64 ws).length = 25 := by rw [vals_length, hl]
  refine at_begin (n := 11) (fun y => Sg y w.heap.size kind ws p false) (by kernel_rfl) (by kernel_rfl) ?_
  refine at_take (i := 0) ereg1 rfl (by decide) rfl (y_field rfl rfl E.t1 (field1 _)) E.sg ?_
  refine E.step (k := 4) rfl (by decide) (by decide) ?_
  intro a1 E1 s4 _
  refine at_take (i := 1) ereg1 rfl (by decide) rfl (y_load_row (cs := vals .u64 ws) rfl rfl s4 Tryz.underlying79 rfl (by rw [hvl]; kernel_rfl) (fun _ h => h.words)) E1.sg ?_
  refine E1.step (k := 5) rfl (by decide) (by decide) ?_
  intro a2 E2 s5 _
  refine at_take (i := 2) ereg1 rfl (by decide) rfl (y_field rfl rfl E2.t1 (field2 _)) E2.sg ?_
  refine E2.step (k := 6) rfl (by decide) (by decide) ?_
  intro a3 E3 s6 el3
  replace s5 := (el3 5 (by decide)).trans s5
  refine at_take (i := 3) ereg1 rfl (by decide) rfl (y_load rfl rfl s6 Tryz.underlying3 (fun _ h => h.at)) E3.sg ?_
  refine E3.step (k := 7) rfl (by decide) (by decide) ?_
  intro a4 E4 s7 el4
  replace s5 := (el4 5 (by decide)).trans s5
  refine at_take (i := 4) ereg1 rfl (by decide) rfl (y_field rfl rfl E4.t1 (field0 _)) E4.sg ?_
  refine E4.step (k := 8) rfl (by decide) (by decide) ?_
  intro a5 E5 s8 el5
  replace s5 := (el5 5 (by decide)).trans s5
  replace s7 := (el5 7 (by decide)).trans s7
  refine at_take (i := 5) ereg1 rfl (by decide) rfl (y_load rfl rfl s8 Tryz.underlying3 (fun _ h => h.kind)) E5.sg ?_
  refine E5.step (k := 9) rfl (by decide) (by decide) ?_
  intro a6 E6 s9 el6
  exact e_69 hw hp hQ E6 ((el6 5 (by decide)).trans s5) ((el6 7 (by decide)).trans s7) s9
end
structure En2 (w : World) (kind : Int) (ws : List Nat) (p g : Nat) (X : List Nat) (a : Act) (x : World) : Prop where
  en : En w kind ws p a x
  t3 : a.eval (.tmp 3) = .pointer (some ⟨g, 0, none⟩)
  hg : w.heap.size + 2 ≤ g
  lies : Lies .u64 79 x g X
section
variable {w : World} {kind : Int} {ws : List Nat} {p g : Nat} {X : List Nat} {Q : Exit → Act → World → Prop}
theorem En2.at {a : Act} {x x' : World} (h : En2 w kind ws p g X a x) (hb : Below x.heap.size x x') : En2 w kind ws p g X a x' := ⟨h.en.at hb, h.t3, h.hg, h.lies.below hb⟩
theorem En2.step {a : Act} {x : World} (h : En2 w kind ws p g X a x) {k fuel m : Nat} {v : Value} {d : Option Nat} {ops : Array Oper} {S : World → Prop} (hd : d = some k) (h3 : 4 ≤ k) (hk : k < 25)
    (hc : ∀ a' : Act, En2 w kind ws p g X a' x → a'.eval (.tmp k) = v → (∀ j, k ≠ j → a'.eval (.tmp j) = a.eval (.tmp j)) → At Tryz.prog ops Q S fuel m a' x) : At Tryz.prog ops Q S fuel m (a.put d v) x := by
  subst hd
  exact hc _ ⟨h.en.put (by omega) v, (put_else (by omega)).trans h.t3, h.hg, h.lies⟩ (put_same (by rw [h.en.fz.1]; exact hk)) (fun j hj => put_else hj)
abbrev SE (w : World) (kind : Int) (ws : List Nat) (p : Nat) (y : World) : Prop := Sg y w.heap.size kind ws p false
theorem at_three {ops : Array Oper} {lt : List Lt} {S : World → Prop} (R : Reg ops lt) {m m1 m2 m3 i j k fuel : Nat} {a : Act} {x : World} (hc : someL lt [i, j, k] m = true) (e1 : m ||| 2 ^ i = m1) (e2 : m ||| 2 ^ j = m2) (e3 : m ||| 2 ^ k = m3)
    (h1 : wpOp Tryz.prog ops (NoPanic Q) i (fun a' w' => S w' ∧ At Tryz.prog ops Q S fuel m1 a' w') a x) (h2 : wpOp Tryz.prog ops (NoPanic Q) j (fun a' w' => S w' ∧ At Tryz.prog ops Q S fuel m2 a' w') a x) (h3 : wpOp Tryz.prog ops (NoPanic Q) k (fun a' w' => S w' ∧ At Tryz.prog ops Q S fuel m3 a' w') a x) : At Tryz.prog ops Q S (fuel + 1) m a x :=
  at_some R [i, j, k] hc fun l hl => by
    simp only [List.mem_cons, List.not_mem_nil, or_false] at hl
    rcases hl with rfl | rfl | rfl
    · rw [e1]; exact h1
    · rw [e2]; exact h2
    · rw [e3]; exact h3
theorem r_0 {ops : Array Oper} {K : Act → World → Prop} {a : Act} {x : World} {i : Nat} {o : Oper} {y : Operand} (hi : ops[i]? = some o) (hg : o.guard = none) (ho : o.op = .load 79 y) (hy : a.eval y = .pointer (some ⟨g, 0, none⟩)) (hX : X.length = 25) (hL : Lies .u64 79 x g X) (h : K (a.put o.dst (.agg (arr .u64 X))) x) : wpOp Tryz.prog ops Q i K a x := by
  refine p_op hi hg ?_ h
  unfold execOp
  simp only [ho, hy]
  simp [hL.load (P := Tryz.prog) 79 (.array 25 26) (by kernel_rfl) rfl (by rw [hX]; kernel_rfl), Sem.run_bind]
theorem p_lit {ops : Array Oper} {K : Act → World → Prop} {a : Act} {x : World} {i : Nat} {o : Oper} {c : Nat} (hi : ops[i]? = some o) (hg : o.guard = none) (ho : o.op = .buildSlice 27 1 #[(0, .const (.int .u8 (c : Nat)))])
    (h : K (a.put o.dst (.slice (some ⟨x.heap.size, 0, none⟩) 1 1)) (x.alloc (.cells #[.int .u8 (c : Nat)] 5))) : wpOp Tryz.prog ops Q i K a x := p_one hi hg ho rfl h
theorem y_less {ops : Array Oper} {S : World → Prop} {o : Oper} {a : Act} {y : Operand} {r : Nat} (hg : o.guard = none) (ho : o.op = .binOp .sub 3 y (.const (.int .i64 1)) 3) (hy : a.eval y = .int .i64 (r : Nat)) (h0 : 0 < r) (hr : r < 1000) : YieldsIf Tryz.prog ops S o (.int .i64 ((r - 1 : Nat) : Int)) a := by
  refine y_of hg fun w _ => ?_
  have e : (r : Int) - 1 = ((r - 1 : Nat) : Int) := by omega
  have r1 : IntKind.i64.wrap ((r - 1 : Nat) : Int) = ((r - 1 : Nat) : Int) := by rw [IntKind.wrap_i64]; omega
  unfold execOp
  simp only [ho, hy, ev_const]
  generalize r - 1 = z at *
  simp [e, r1, go_sem]
theorem f_111 (hX : W25 X) (hr : 0 < rateK kind) (hQ : ∀ (a : Act) (x : World), En2 w kind ws p g (xorL X (rateK kind - 1) [128]) a x → Q .normal a x)
    {a : Act} {x : World} {sv : Value} (E : En2 w kind ws p g X a x) (t13 : a.eval (.tmp 13) = .agg (arr .u64 X)) (t17 : a.eval (.tmp 17) = .int .i64 ((rateK kind - 1 : Nat) : Int)) (t18 : a.eval (.tmp 18) = sv) (hR : Row .u8 256 x sv [128]) :
    At Tryz.prog (opsOf (cL (cR (cR (Tryz.f99.body.getD .skip))))) Q (SE w kind ws p) 2 63 a x := by
  have hrl := rateK_le kind
  refine at_one (i := 6) ereg2 (by decide) rfl ?_
  refine p_call (args := #[.agg (arr .u64 X), .int .i64 ((rateK kind - 1 : Nat) : Int), sv]) rfl rfl rfl (by simp only [List.map_toArray, List.map_cons, List.map_nil, t13, t17, t18]) Tryz.call97 ((xored_any X (rateK kind - 1) sv [128] x hX hR (by show rateK kind - 1 + 1 ≤ 200; omega)).mono ?_)
  rintro e x' ⟨rfl, hb⟩
  have E1 := E.at hb
  refine ⟨_, rfl, E1.en.sg, ?_⟩
  refine E1.step (k := 19) rfl (by decide) (by decide) ?_
  intro a' E' t19 el
  have hY := (xorL_w [128] (rateK kind - 1) hX).1
  generalize xorL X (rateK kind - 1) [128] = Y at *
  refine at_one (i := 7) ereg2 (by decide) rfl ?_
  have hB : But g x' (x'.setRow g (arr .u64 Y)) := But.setRow (But.refl _ _) _
  refine p_row rfl rfl rfl rfl E'.t3 t19 E'.lies (by rw [arr_size, hY]; kernel_rfl) (by rw [arr_size, arr_size, hY, hX.1]) (arr_one _ _) ⟨(E'.en.but hB E'.hg).sg, at_done ereg2 (by decide) (hQ a' _ ⟨E'.en.but hB E'.hg, E'.t3, E'.hg, E'.lies.row⟩)⟩
theorem f_011 (hX : W25 X) (hr : 0 < rateK kind) (hQ : ∀ (a : Act) (x : World), En2 w kind ws p g (xorL X (rateK kind - 1) [128]) a x → Q .normal a x)
    {a : Act} {x : World} {sv : Value} (E : En2 w kind ws p g X a x) (t17 : a.eval (.tmp 17) = .int .i64 ((rateK kind - 1 : Nat) : Int)) (t18 : a.eval (.tmp 18) = sv) (hR : Row .u8 256 x sv [128]) :
    At Tryz.prog (opsOf (cL (cR (cR (Tryz.f99.body.getD .skip))))) Q (SE w kind ws p) 3 62 a x := by
  refine at_one (i := 0) ereg2 (by decide) rfl ?_
  refine r_0 (g := g) (X := X) rfl rfl rfl E.t3 hX.1 E.lies ⟨E.en.sg, ?_⟩
  refine E.step (k := 13) rfl (by decide) (by decide) ?_
  intro a' E' t13 el
  exact f_111 hX hr hQ E' t13 ((el 17 (by decide)).trans t17) ((el 18 (by decide)).trans t18) hR
theorem f_101 (hX : W25 X) (hr : 0 < rateK kind) (hQ : ∀ (a : Act) (x : World), En2 w kind ws p g (xorL X (rateK kind - 1) [128]) a x → Q .normal a x)
    {a : Act} {x : World} {sv : Value} (E : En2 w kind ws p g X a x) (t13 : a.eval (.tmp 13) = .agg (arr .u64 X)) (t15 : a.eval (.tmp 15) = .int .i64 kind) (t18 : a.eval (.tmp 18) = sv) (hR : Row .u8 256 x sv [128]) :
    At Tryz.prog (opsOf (cL (cR (cR (Tryz.f99.body.getD .skip))))) Q (SE w kind ws p) 4 39 a x := by
  refine at_one (i := 3) ereg2 (by decide) rfl ?_
  refine p_call (args := #[.int .i64 kind]) rfl rfl rfl (by simp only [List.map_toArray, List.map_cons, List.map_nil, t15]) Tryz.call95 ((block_any kind x).mono ?_)
  rintro e x' ⟨rfl, rfl⟩
  refine ⟨_, rfl, E.en.sg, ?_⟩
  refine E.step (k := 16) rfl (by decide) (by decide) ?_
  intro a1 E1 t16 e1
  refine at_take (i := 4) ereg2 rfl (by decide) rfl (y_less rfl rfl t16 hr (by have := rateK_le kind; omega)) E1.en.sg ?_
  refine E1.step (k := 17) rfl (by decide) (by decide) ?_
  intro a' E' t17 el
  exact f_111 hX hr hQ E' ((el 13 (by decide)).trans ((e1 13 (by decide)).trans t13)) t17 ((el 18 (by decide)).trans ((e1 18 (by decide)).trans t18)) hR
theorem f_110 (hX : W25 X) (hr : 0 < rateK kind) (hQ : ∀ (a : Act) (x : World), En2 w kind ws p g (xorL X (rateK kind - 1) [128]) a x → Q .normal a x)
    {a : Act} {x : World} (E : En2 w kind ws p g X a x) (t13 : a.eval (.tmp 13) = .agg (arr .u64 X)) (t17 : a.eval (.tmp 17) = .int .i64 ((rateK kind - 1 : Nat) : Int)) :
    At Tryz.prog (opsOf (cL (cR (cR (Tryz.f99.body.getD .skip))))) Q (SE w kind ws p) 3 31 a x := by
  refine at_one (i := 5) ereg2 (by decide) rfl ?_
  have hb := keep_alloc x (.cells #[.int .u8 ((128 : Nat) : Int)] 5)
  refine p_lit (c := 128) rfl rfl rfl ⟨(E.at hb).en.sg, ?_⟩
  refine (E.at hb).step (k := 18) rfl (by decide) (by decide) ?_
  intro a' E' t18 el
  exact f_111 hX hr hQ E' ((el 13 (by decide)).trans t13) ((el 17 (by decide)).trans t17) t18 (one_row x 128 (by decide))
theorem f_001 (hX : W25 X) (hr : 0 < rateK kind) (hQ : ∀ (a : Act) (x : World), En2 w kind ws p g (xorL X (rateK kind - 1) [128]) a x → Q .normal a x)
    {a : Act} {x : World} {sv : Value} (E : En2 w kind ws p g X a x) (t15 : a.eval (.tmp 15) = .int .i64 kind) (t18 : a.eval (.tmp 18) = sv) (hR : Row .u8 256 x sv [128]) :
    At Tryz.prog (opsOf (cL (cR (cR (Tryz.f99.body.getD .skip))))) Q (SE w kind ws p) 5 38 a x := by
  refine at_two (i := 0) (j := 3) ereg2 (by decide) rfl rfl ?_ ?_
  · refine r_0 (g := g) (X := X) rfl rfl rfl E.t3 hX.1 E.lies ⟨E.en.sg, ?_⟩
    refine E.step (k := 13) rfl (by decide) (by decide) ?_
    intro a' E' t13 el
    exact f_101 hX hr hQ E' t13 ((el 15 (by decide)).trans t15) ((el 18 (by decide)).trans t18) hR
  · refine p_call (args := #[.int .i64 kind]) rfl rfl rfl (by simp only [List.map_toArray, List.map_cons, List.map_nil, t15]) Tryz.call95 ((block_any kind x).mono ?_)
    rintro e x' ⟨rfl, rfl⟩
    refine ⟨_, rfl, E.en.sg, ?_⟩
    refine E.step (k := 16) rfl (by decide) (by decide) ?_
    intro a1 E1 t16 e1
    refine at_take (i := 4) ereg2 rfl (by decide) rfl (y_less rfl rfl t16 hr (by have := rateK_le kind; omega)) E1.en.sg ?_
    refine E1.step (k := 17) rfl (by decide) (by decide) ?_
    intro a' E' t17 el
    exact f_011 hX hr hQ E' t17 ((el 18 (by decide)).trans ((e1 18 (by decide)).trans t18)) hR
theorem f_010 (hX : W25 X) (hr : 0 < rateK kind) (hQ : ∀ (a : Act) (x : World), En2 w kind ws p g (xorL X (rateK kind - 1) [128]) a x → Q .normal a x)
    {a : Act} {x : World} (E : En2 w kind ws p g X a x) (t17 : a.eval (.tmp 17) = .int .i64 ((rateK kind - 1 : Nat) : Int)) :
    At Tryz.prog (opsOf (cL (cR (cR (Tryz.f99.body.getD .skip))))) Q (SE w kind ws p) 4 30 a x := by
  refine at_two (i := 0) (j := 5) ereg2 (by decide) rfl rfl ?_ ?_
  · refine r_0 (g := g) (X := X) rfl rfl rfl E.t3 hX.1 E.lies ⟨E.en.sg, ?_⟩
    refine E.step (k := 13) rfl (by decide) (by decide) ?_
    intro a' E' t13 el
    exact f_110 hX hr hQ E' t13 ((el 17 (by decide)).trans t17)
  · have hb := keep_alloc x (.cells #[.int .u8 ((128 : Nat) : Int)] 5)
    refine p_lit (c := 128) rfl rfl rfl ⟨(E.at hb).en.sg, ?_⟩
    refine (E.at hb).step (k := 18) rfl (by decide) (by decide) ?_
    intro a' E' t18 el
    exact f_011 hX hr hQ E' ((el 17 (by decide)).trans t17) t18 (one_row x 128 (by decide))
theorem f_100 (hX : W25 X) (hr : 0 < rateK kind) (hQ : ∀ (a : Act) (x : World), En2 w kind ws p g (xorL X (rateK kind - 1) [128]) a x → Q .normal a x)
    {a : Act} {x : World} (E : En2 w kind ws p g X a x) (t13 : a.eval (.tmp 13) = .agg (arr .u64 X)) (t15 : a.eval (.tmp 15) = .int .i64 kind) :
    At Tryz.prog (opsOf (cL (cR (cR (Tryz.f99.body.getD .skip))))) Q (SE w kind ws p) 5 7 a x := by
  refine at_two (i := 3) (j := 5) ereg2 (by decide) rfl rfl ?_ ?_
  · refine p_call (args := #[.int .i64 kind]) rfl rfl rfl (by simp only [List.map_toArray, List.map_cons, List.map_nil, t15]) Tryz.call95 ((block_any kind x).mono ?_)
    rintro e x' ⟨rfl, rfl⟩
    refine ⟨_, rfl, E.en.sg, ?_⟩
    refine E.step (k := 16) rfl (by decide) (by decide) ?_
    intro a1 E1 t16 e1
    refine at_take (i := 4) ereg2 rfl (by decide) rfl (y_less rfl rfl t16 hr (by have := rateK_le kind; omega)) E1.en.sg ?_
    refine E1.step (k := 17) rfl (by decide) (by decide) ?_
    intro a' E' t17 el
    exact f_110 hX hr hQ E' ((el 13 (by decide)).trans ((e1 13 (by decide)).trans t13)) t17
  · have hb := keep_alloc x (.cells #[.int .u8 ((128 : Nat) : Int)] 5)
    refine p_lit (c := 128) rfl rfl rfl ⟨(E.at hb).en.sg, ?_⟩
    refine (E.at hb).step (k := 18) rfl (by decide) (by decide) ?_
    intro a' E' t18 el
    exact f_101 hX hr hQ E' ((el 13 (by decide)).trans t13) ((el 15 (by decide)).trans t15) t18 (one_row x 128 (by decide))
theorem f_000 (hX : W25 X) (hr : 0 < rateK kind) (hQ : ∀ (a : Act) (x : World), En2 w kind ws p g (xorL X (rateK kind - 1) [128]) a x → Q .normal a x)
    {a : Act} {x : World} (E : En2 w kind ws p g X a x) (t15 : a.eval (.tmp 15) = .int .i64 kind) :
    At Tryz.prog (opsOf (cL (cR (cR (Tryz.f99.body.getD .skip))))) Q (SE w kind ws p) 6 6 a x := by
  refine at_three (i := 0) (j := 3) (k := 5) ereg2 (by decide) rfl rfl rfl ?_ ?_ ?_
  · refine r_0 (g := g) (X := X) rfl rfl rfl E.t3 hX.1 E.lies ⟨E.en.sg, ?_⟩
    refine E.step (k := 13) rfl (by decide) (by decide) ?_
    intro a' E' t13 el
    exact f_100 hX hr hQ E' t13 ((el 15 (by decide)).trans t15)
  · refine p_call (args := #[.int .i64 kind]) rfl rfl rfl (by simp only [List.map_toArray, List.map_cons, List.map_nil, t15]) Tryz.call95 ((block_any kind x).mono ?_)
    rintro e x' ⟨rfl, rfl⟩
    refine ⟨_, rfl, E.en.sg, ?_⟩
    refine E.step (k := 16) rfl (by decide) (by decide) ?_
    intro a1 E1 t16 e1
    refine at_take (i := 4) ereg2 rfl (by decide) rfl (y_less rfl rfl t16 hr (by have := rateK_le kind; omega)) E1.en.sg ?_
    refine E1.step (k := 17) rfl (by decide) (by decide) ?_
    intro a' E' t17 el
    exact f_010 hX hr hQ E' t17
  · have hb := keep_alloc x (.cells #[.int .u8 ((128 : Nat) : Int)] 5)
    refine p_lit (c := 128) rfl rfl rfl ⟨(E.at hb).en.sg, ?_⟩
    refine (E.at hb).step (k := 18) rfl (by decide) (by decide) ?_
    intro a' E' t18 el
    exact f_001 hX hr hQ E' ((el 15 (by decide)).trans t15) t18 (one_row x 128 (by decide))
theorem en_2 (hX : W25 X) (hr : 0 < rateK kind) (hQ : ∀ (a : Act) (x : World), En2 w kind ws p g (xorL X (rateK kind - 1) [128]) a x → Q .normal a x)
    {a : Act} {x : World} (E0 : En2 w kind ws p g X a x) : Code.wp Tryz.prog (cL (cR (cR (Tryz.f99.body.getD .skip)))) Q a x := by
  rw [eis2]
  have E := E0.at (Below.refl _ _).drew
  refine at_begin (n := 8) (SE w kind ws p) (by kernel_rfl) (by kernel_rfl) ?_
  refine at_take (i := 1) ereg2 rfl (by decide) rfl (y_field rfl rfl E.en.t1 (field0 _)) E.en.sg ?_
  refine E.step (k := 14) rfl (by decide) (by decide) ?_
  intro a1 E1 s14 _
  refine at_take (i := 2) ereg2 rfl (by decide) rfl (y_load rfl rfl s14 Tryz.underlying3 (fun _ h => h.kind)) E1.en.sg ?_
  refine E1.step (k := 15) rfl (by decide) (by decide) ?_
  intro a2 E2 s15 _
  exact f_000 hX hr hQ E2 s15
theorem en_3 (hT : Csts w) (hX : W25 X) (hQ : ∀ (a : Act) (x : World), Fz 25 a → a.eval (.tmp 2) = .pointer (some ⟨w.heap.size + 1, 0, none⟩) → x.heap[w.heap.size + 1]? = some (.cells (sl kind (perm X) 0 true).toArray 81 (0, 0)) → Below w.heap.size w x → Q .normal a x)
    {a : Act} {x : World} (E0 : En2 w kind ws p g X a x) : Code.wp Tryz.prog (cL (cR (cR (cR (Tryz.f99.body.getD .skip))))) Q a x := by
  rw [eis3]
  have E := E0.at (Below.refl _ _).drew
  have hvl : (vals .u64 X).length = 25 := by rw [vals_length, hX.1]
  have hpl := (perm_w hX).1
  refine at_begin (n := 6) (fun y => Sg y w.heap.size kind ws p false ∧ Lies .u64 79 y g X) (by kernel_rfl) (by kernel_rfl) ?_
  refine at_take (i := 0) ereg3 rfl (by decide) rfl (y_field rfl rfl E.en.t1 (field0 _)) ⟨E.en.sg, E.lies⟩ ?_
  refine E.step (k := 20) rfl (by decide) (by decide) ?_
  intro a1 E1 s20 _
  refine at_take (i := 1) ereg3 rfl (by decide) rfl (y_load rfl rfl s20 Tryz.underlying3 (fun _ h => h.1.kind)) ⟨E1.en.sg, E1.lies⟩ ?_
  refine E1.step (k := 21) rfl (by decide) (by decide) ?_
  intro a2 E2 s21 _
  refine at_take (i := 2) ereg3 rfl (by decide) rfl (y_load_row (cs := vals .u64 X) rfl rfl E2.t3 Tryz.underlying79 rfl (by rw [hvl]; kernel_rfl) (fun y h => fun j v hv => by
    have hj : j < X.length := by have := (List.getElem?_eq_some_iff.1 hv).1; rwa [vals_length] at this
    rw [Nat.zero_add, h.2.cell hj, ← vals_get .u64 X j hj]; exact hv)) ⟨E2.en.sg, E2.lies⟩ ?_
  refine E2.step (k := 22) rfl (by decide) (by decide) ?_
  intro a3 E3 s22 e3
  replace s21 := (e3 21 (by decide)).trans s21
  refine at_one (i := 3) ereg3 (by decide) rfl ?_
  refine p_call (args := #[.agg (arr .u64 X)]) rfl rfl rfl (by simp only [List.map_toArray, List.map_cons, List.map_nil, s22]; rfl) Tryz.call98 ((perm_any X _ (hT.below E3.en.bel) hX).mono ?_)
  rintro e x' ⟨rfl, hb⟩
  have E4 := E3.at hb
  refine ⟨_, rfl, ⟨E4.en.sg, E4.lies⟩, ?_⟩
  generalize perm X = M at *
  refine E4.step (k := 23) rfl (by decide) (by decide) ?_
  intro a5 E5 s23 e5
  replace s21 := (e5 21 (by decide)).trans s21
  refine at_take (i := 4) ereg3 rfl (by decide) rfl (y_sponge rfl rfl s21 s23 hpl) ⟨E5.en.sg, E5.lies⟩ ?_
  refine E5.step (k := 24) rfl (by decide) (by decide) ?_
  intro a6 E6 s24 e6
  have hsz : (sl kind M 0 true).toArray.size = 28 := by simp [sl_len hpl]
  have hsz0 : (sl 0 (zs 25) 0 false).toArray.size = 28 := by simp [sl_len (zs_len 25)]
  have hB : But (w.heap.size + 1) x' (x'.setRow (w.heap.size + 1) (sl kind M 0 true).toArray) := But.setRow (But.refl _ _) _
  refine at_one (i := 5) ereg3 (by decide) rfl ?_
  refine p_row rfl rfl rfl rfl E6.en.t2 s24 E6.en.rb (by rw [hsz]; kernel_rfl) (by rw [hsz, hsz0]) (all_oneCell_toArray (sl_one _ _ _ _)) ⟨⟨E6.en.sg.but hB (by omega), E6.lies.but hB (by have := E6.hg; omega)⟩, at_done ereg3 (by decide) (hQ a6 _ E6.en.fz E6.en.t2 (setRow_heap x' (w.heap.size + 1) _ _ 81 _ E6.en.rb) (E6.en.bel.trans (hB.below (by omega) E6.en.bel.size)))⟩
end
set_option maxHeartbeats 4000000 in
set_option maxRecDepth 100000 in
theorem ended_any (kind : Int) (ws : List Nat) (p : Nat) (w : World) (hT : Csts w) (hw : W25 ws) (hr : 0 < rateK kind) (hp : p < rateK kind) :
    Calls Tryz.prog 99 #[.agg (sl kind ws p false).toArray] w fun e w' => e = .returned (.agg (sl kind (endK (rateK kind) (markK kind) (ws, p)) 0 true).toArray) ∧ Below w.heap.size w w' := by
  have hz := zero28
  have hrl := rateK_le kind
  have hS : Sg ((w.alloc (.cells (sl kind ws p false).toArray 81)).alloc (.cells (sl 0 (zs 25) 0 false).toArray 81)) w.heap.size kind ws p false := (Sg.new w 81 kind ws p false hw.1).below (keep_alloc _ _)
  have hR : ((w.alloc (.cells (sl kind ws p false).toArray 81)).alloc (.cells (sl 0 (zs 25) 0 false).toArray 81)).heap[w.heap.size + 1]? = some (.cells (sl 0 (zs 25) 0 false).toArray 81 (0, 0)) := by
    have := heap_alloc_last (w.alloc (.cells (sl kind ws p false).toArray 81)) (.cells (sl 0 (zs 25) 0 false).toArray 81)
    rw [World.size_alloc] at this
    exact this
  have hb := keep_trans (keep_alloc w (.cells (sl kind ws p false).toArray 81)) (keep_alloc _ (.cells (sl 0 (zs 25) 0 false).toArray 81))
  have hend : endK (rateK kind) (markK kind) (ws, p) = perm (xorL (xorL ws p [markK kind]) (rateK kind - 1) [128]) := rfl
  have HEND := hide hend
  clear hend
  have hw1 := xorL_w [markK kind] p hw
  have hw2 := xorL_w [128] (rateK kind - 1) hw1
  have hml := (perm_w hw2).1
  go_enter Tryz.func99, Tryz.ntmps99
  go_wp2
  generalize (w.alloc (.cells (sl kind ws p false).toArray 81)).alloc (.cells (sl 0 (zs 25) 0 false).toArray 81) = x1 at *
  refine en_1 (w := w) (kind := kind) (ws := ws) (p := p) hw (by omega) ?_ ⟨⟨rfl, rfl⟩, rfl, rfl, hS, hR, hb⟩
  rename_i Q' K hK
  intro a1 x2 g E1 t3 hg hL
  refine hK a1 x2 (wp_seq (en_2 hw1 hr ?_ ⟨E1, t3, hg, hL⟩))
  intro a2 x3 E2
  refine wp_seq (en_3 hT hw2 ?_ E2)
  intro a3 x4 F3 t2 hR4 hb4
  refine wp_ret ?_
  refine bodyPost_ret (v := .agg (sl kind (perm (xorL (xorL ws p [markK kind]) (rateK kind - 1) [128])) 0 true).toArray) ?_ F3.2 ⟨by rw [HEND.out], hb4⟩
  exact results_cell_row Tryz.results99 _ _ (w.heap.size + 1) _ _ _ _ t2 hR4 Tryz.underlying81 rfl (by rw [List.size_toArray, sl_len hml]; kernel_rfl)
end Go.Proofs.YtpmobjfhhkglbaaGreatDoor
