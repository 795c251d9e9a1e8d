/- mac's second function that digests: by keccak. -/
import Derived.Test.YtejlmgbmfeacdaaDoorYDg
import Derived.Test.YtejlmgbmfeacdaaDoorKSg
namespace Go.Proofs.YtejlmgbmfeacdaaDoor
open Go.RowKit
set_option linter.unusedVariables false
set_option linter.unusedSimpArgs false

def c2lt : List Lt := [(0, some 8, [1]), (0, some 9, [0]), (3, some 10, [8, 9]), (0, some 11, [2]), (12, some 12, [11]), (20, some 13, [10, 12]), (32, some 7, [13]), (64, some 14, [7]), (64, some 15, [7]), (0, some 5, []), (767, none, [5, 14]), (2047, some 6, [15])]
theorem c2reg : Reg (opsOf (cL (cR (Tryd.f31.body.getD .skip)))) c2lt := ⟨by kernel_rfl, by kernel_rfl⟩
theorem c2is : (cL (cR (Tryd.f31.body.getD .skip))) = .region 1 (opsOf (cL (cR (Tryd.f31.body.getD .skip)))) true := by kernel_rfl
/-- what is squeezed out of a sponge behind the bytes P -/
theorem spK_sqz (kind : Int) (P : List Nat) (x : World) (hT : Csts x) (hr : 0 < rateK kind) (hk4 : 3 < kind) :
    Calls Tryd.prog 32 #[.agg (spK kind P), .int .i64 ((sizeD kind : Nat) : Int)] x fun e x' => ∃ v ks kp, e = .returned (.tuple #[.agg (sl kind ks kp true).toArray, v]) ∧ ks.length = 25 ∧ Own 5 .u8 256 x' x.heap.size v (digD kind P) ∧ Below x.heap.size x x' := by
  have e : digD kind P = sqzB (rateK kind) (begK kind (stK kind P).1 (stK kind P).2 false) (sizeD kind) := by unfold digD; rw [if_neg (by omega)]; rfl
  have hw := stK_w kind P
  have ha := stK_at hr P
  have hz := sizeD_le kind
  have h := csqz_any kind (stK kind P).1 (stK kind P).2 false (sizeD kind) x hT hw hr (by omega) (fun _ => ha) (by omega)
  rw [← e] at h
  have hl := (sqzS_w (rate := rateK kind) (begK_w (kind := kind) (p := (stK kind P).2) (o := false) hw) (sizeD kind)).1
  exact h.mono fun e x' ⟨v, h1, h2, h3⟩ => ⟨v, _, _, h1, hl, h2, h3⟩
theorem own_butY {e : TypeId} {k : IntKind} {m : Nat} {w w' : World} {B : Nat} {v : Value} {l : List Nat} {g : Nat} (h : Own e k m w B v l) (hb : But g w w') (hn : ∀ b, v.ownBlock = some b → b ≠ g) : Own e k m w' B v l := by
  obtain ⟨⟨h1, h2⟩, hu⟩ := h
  refine ⟨⟨h1, ?_⟩, hu⟩
  rcases h2 with h2 | ⟨g', cap, cur, rfl, h3, h4, h5⟩
  · exact .inl h2
  · refine .inr ⟨g', cap, cur, rfl, h3, ?_, h5⟩
    rw [hb.block g' (by
      rcases Nat.lt_or_ge g' w.heap.size with hlt | hge
      · exact hlt
      · rw [Array.getElem?_eq_none hge] at h4; cases h4) (hn g' rfl)]
    exact h4
theorem row_rangeY {w : World} {g : Nat} {cs : List Value} {t : TypeId} {fr : Nat × Nat} (h : w.heap[g]? = some (.cells cs.toArray t fr)) : w.rangeAt g 0 cs := fun j v hv => by
  rw [Nat.zero_add, cell_of_row _ _ j _ _ _ h]; simpa using hv
theorem heap_ltY {w : World} {g : Nat} {o : Obj} (h : w.heap[g]? = some o) : g < w.heap.size := by
  rcases Nat.lt_or_ge g w.heap.size with hlt | hge
  · exact hlt
  · rw [Array.getElem?_eq_none hge] at h; cases h
theorem p_allocY {ops : Array Oper} {K : Act → World → Prop} {Q : Exit → Act → World → Prop} {i : Nat} {o : Oper} {a : Act} {x : World} (hi : ops[i]? = some o) (hg : o.guard = none) (ho : o.op = .alloc 55)
    (h : K (a.put o.dst (.pointer (some ⟨x.heap.size, 0, none⟩))) (x.alloc (.cells (sl 0 (zs 25) 0 false).toArray 55))) : wpOp Tryd.prog ops Q i K a x := by
  have hz := zero28
  refine p_op hi hg ?_ h
  unfold execOp
  simp only [ho]
  simp [go_sem, hz]
/-- the frame -/
structure C2F (lv : Value) (q r : Nat) (a : Act) : Prop where
  fz : Fz 17 a
  t0 : a.eval (.tmp 0) = lv
  t1 : a.eval (.tmp 1) = .pointer (some ⟨q, 0, none⟩)
  t2 : a.eval (.tmp 2) = .pointer (some ⟨r, 0, none⟩)
/-- what stays -/
structure C2S (w : World) (q r : Nat) (kind : Int) (P : List Nat) (y : World) : Prop where
  k : KAt y q kind P
  c : y.cell? ⟨r, 0, none⟩ = some (.int .i64 kind)
  bel : Below w.heap.size w y
section
variable {w : World} {q r : Nat} {kind : Int} {P : List Nat} {lv : Value} {ls : List (List Nat)} {Q : Exit → Act → World → Prop}
theorem C2S.keep {y y' : World} (h : C2S w q r kind P y) (hb : Below y.heap.size y y') : C2S w q r kind P y' := ⟨h.k.below hb, keep_cell h.c hb, keep_trans h.bel hb⟩
theorem C2S.but {y y' : World} {g : Nat} (h : C2S w q r kind P y) (hb : But g y y') (hq : q < g) (hr : r < g) (hg : w.heap.size ≤ g) : C2S w q r kind P y' :=
  ⟨(hb.block q h.k.lt (by omega)).trans h.k, But.cell h.c hb (by show r ≠ g; omega), h.bel.trans (hb.below hg h.bel.size)⟩
theorem C2F.step {a : Act} {x : World} (h : C2F lv q r a) {k fuel m : Nat} {v : Value} {d : Option Nat} {ops : Array Oper} {S : World → Prop} (hd : d = some k) (h3 : 3 ≤ k) (hk : k < 17)
    (hc : ∀ a' : Act, C2F lv q r a' → a'.eval (.tmp k) = v → (∀ j, k ≠ j → a'.eval (.tmp j) = a.eval (.tmp j)) → At Tryd.prog ops Q S fuel m a' x) : At Tryd.prog ops Q S fuel m (a.put d v) x := by
  subst hd
  exact hc _ ⟨h.fz.put _ _, (put_else (by omega)).trans h.t0, (put_else (by omega)).trans h.t1, (put_else (by omega)).trans h.t2⟩ (put_same (by rw [h.fz.1]; exact hk)) (fun j hj => put_else hj)
/-- what is told behind it -/
def C2Q (w : World) (O : List Nat) (Q : Exit → Act → World → Prop) : Prop := ∀ (a : Act) (x : World) (v : Value), Fz 17 a → a.eval (.tmp 6) = v → Own 5 .u8 256 x w.heap.size v O → Below w.heap.size w x → Q .normal a x
theorem c2_t1 (hT : Csts w) (hr : 0 < rateK kind) (hL : Rows2 w lv ls) (hls : ls.flatten.length ≤ 100000) (hq : q < w.heap.size) (hrr : r < w.heap.size) (hQ : C2Q w (digD kind (P ++ ls.flatten)) Q) (hk4 : 3 < kind) {a : Act} {x : World} {v : Value} {ks : List Nat} {kp : Int} {ko : Bool} (F : C2F lv q r a) (hS : C2S w q r kind P x) {g : Nat} (t5 : a.eval (.tmp 5) = .pointer (some ⟨g, 0, none⟩)) (hg : w.heap.size ≤ g) (hz : x.heap[g]? = some (.cells (sl 0 (zs 25) 0 false).toArray 55 (0, 0))) (t14 : a.eval (.tmp 14) = .agg (sl kind ks kp ko).toArray) (hks : ks.length = 25) (t15 : a.eval (.tmp 15) = v) (hO : Own 5 .u8 256 x w.heap.size v (digD kind (P ++ ls.flatten))) (hn : ∀ b, v.ownBlock = some b → b ≠ g) :
    At Tryd.prog (opsOf (cL (cR (Tryd.f31.body.getD .skip)))) Q (C2S w q r kind P) 2 1023 a x := by
  have hsz : (sl kind ks kp ko).toArray.size = 28 := by simp [sl_len hks]
  have hsz0 : (sl 0 (zs 25) 0 false).toArray.size = 28 := by simp [sl_len (zs_len 25)]
  have hB : But g x (x.setRow g (sl kind ks kp ko).toArray) := But.setRow (But.refl _ _) _
  have hS1 := hS.but hB (by omega) (by omega) hg
  refine at_one (i := 10) (m' := 2047) c2reg (by decide) rfl ?_
  refine p_row rfl rfl rfl rfl t5 t14 hz (by rw [hsz]; kernel_rfl) (by rw [hsz, hsz0]) (all_oneCell_toArray (sl_one _ _ _ _)) ⟨hS1, ?_⟩
  refine at_take (i := 11) (m' := 4095) c2reg rfl (by decide) rfl (y_assign (wanted_free rfl) rfl t15) hS1 ?_
  refine F.step (k := 6) rfl (by decide) (by decide) ?_
  intro a1 F1 s6 e
  exact at_done c2reg (by decide) (hQ _ _ _ F1.fz s6 (own_butY hO hB hn) hS1.bel)
theorem c2_t0 (hT : Csts w) (hr : 0 < rateK kind) (hL : Rows2 w lv ls) (hls : ls.flatten.length ≤ 100000) (hq : q < w.heap.size) (hrr : r < w.heap.size) (hQ : C2Q w (digD kind (P ++ ls.flatten)) Q) (hk4 : 3 < kind) {a : Act} {x : World} {v : Value} {ks : List Nat} {kp : Int} {ko : Bool} (F : C2F lv q r a) (hS : C2S w q r kind P x) (t14 : a.eval (.tmp 14) = .agg (sl kind ks kp ko).toArray) (hks : ks.length = 25) (t15 : a.eval (.tmp 15) = v) (hO : Own 5 .u8 256 x w.heap.size v (digD kind (P ++ ls.flatten))) :
    At Tryd.prog (opsOf (cL (cR (Tryd.f31.body.getD .skip)))) Q (C2S w q r kind P) 3 511 a x := by
  have hb := keep_alloc x (.cells (sl 0 (zs 25) 0 false).toArray 55)
  refine at_one (i := 9) (m' := 1023) c2reg (by decide) rfl ?_
  refine p_allocY rfl rfl rfl ⟨hS.keep hb, ?_⟩
  refine F.step (k := 5) rfl (by decide) (by decide) ?_
  intro a1 F1 s5 e
  exact c2_t1 hT hr hL hls hq hrr hQ hk4 F1 (hS.keep hb) s5 hS.bel.size (heap_alloc_last x _) ((e 14 (by decide)).trans t14) hks ((e 15 (by decide)).trans t15) ⟨own_below hO.1 hb, hO.2⟩ (fun b hb' => by have := (hO.1.lt b hb').2; omega)
theorem c2_31 (hT : Csts w) (hr : 0 < rateK kind) (hL : Rows2 w lv ls) (hls : ls.flatten.length ≤ 100000) (hq : q < w.heap.size) (hrr : r < w.heap.size) (hQ : C2Q w (digD kind (P ++ ls.flatten)) Q) (hk4 : 3 < kind) {a : Act} {x : World} (F : C2F lv q r a) (hS : C2S w q r kind P x) {g : Nat} (t5 : a.eval (.tmp 5) = .pointer (some ⟨g, 0, none⟩)) (hg : w.heap.size ≤ g) (hz : x.heap[g]? = some (.cells (sl 0 (zs 25) 0 false).toArray 55 (0, 0))) (t10 : a.eval (.tmp 10) = .agg (spK kind (P ++ ls.flatten))) (t12 : a.eval (.tmp 12) = .int .i64 ((sizeD kind : Nat) : Int)) :
    At Tryd.prog (opsOf (cL (cR (Tryd.f31.body.getD .skip)))) Q (C2S w q r kind P) 6 543 a x := by
  refine at_one (i := 5) (m' := 575) c2reg (by decide) rfl ?_
  refine p_call (args := #[.agg (spK kind (P ++ ls.flatten)), .int .i64 ((sizeD kind : Nat) : Int)]) rfl rfl rfl (by simp only [List.map_toArray, List.map_cons, List.map_nil, t10, t12]) Tryd.call32 ((spK_sqz kind (P ++ ls.flatten) x (hT.below hS.bel) hr hk4).mono ?_)
  rintro e x1 ⟨v, ks, kp, rfl, hks, hO, hb⟩
  have hS1 := hS.keep hb
  refine ⟨_, rfl, hS1, ?_⟩
  have hz1 := (hb.block _ (heap_ltY hz)).trans hz
  have hgx := heap_ltY hz
  refine F.step (k := 13) rfl (by decide) (by decide) ?_
  intro a1 F1 s13 e1
  replace t5 := (e1 5 (by decide)).trans t5
  refine at_take (i := 6) (m' := 639) c2reg rfl (by decide) rfl (y_move rfl rfl s13) hS1 ?_
  refine F1.step (k := 7) rfl (by decide) (by decide) ?_
  intro a2 F2 s7 e2
  replace t5 := (e2 5 (by decide)).trans t5
  refine at_take (i := 7) (m' := 767) c2reg rfl (by decide) rfl (y_extract rfl rfl s7 rfl) hS1 ?_
  refine F2.step (k := 14) rfl (by decide) (by decide) ?_
  intro a3 F3 s14 e3
  have s7 := (e3 7 (by decide)).trans s7
  replace t5 := (e3 5 (by decide)).trans t5
  refine at_take (i := 8) (m' := 1023) c2reg rfl (by decide) rfl (y_extract rfl rfl s7 rfl) hS1 ?_
  refine F3.step (k := 15) rfl (by decide) (by decide) ?_
  intro a4 F4 s15 e4
  have s14 := (e4 14 (by decide)).trans s14
  replace t5 := (e4 5 (by decide)).trans t5
  exact c2_t1 hT hr hL hls hq hrr hQ hk4 F4 hS1 t5 hg hz1 s14 hks s15 (hO.mono hS.bel.size) (fun b hb' => by have := (hO.1.lt b hb').1; omega)
theorem c2_30 (hT : Csts w) (hr : 0 < rateK kind) (hL : Rows2 w lv ls) (hls : ls.flatten.length ≤ 100000) (hq : q < w.heap.size) (hrr : r < w.heap.size) (hQ : C2Q w (digD kind (P ++ ls.flatten)) Q) (hk4 : 3 < kind) {a : Act} {x : World} (F : C2F lv q r a) (hS : C2S w q r kind P x) (t10 : a.eval (.tmp 10) = .agg (spK kind (P ++ ls.flatten))) (t12 : a.eval (.tmp 12) = .int .i64 ((sizeD kind : Nat) : Int)) :
    At Tryd.prog (opsOf (cL (cR (Tryd.f31.body.getD .skip)))) Q (C2S w q r kind P) 7 31 a x := by
  refine at_two (i := 5) (j := 9) (m1 := 63) (m2 := 543) c2reg (by decide) rfl rfl ?_ ?_
  · refine p_call (args := #[.agg (spK kind (P ++ ls.flatten)), .int .i64 ((sizeD kind : Nat) : Int)]) rfl rfl rfl (by simp only [List.map_toArray, List.map_cons, List.map_nil, t10, t12]) Tryd.call32 ((spK_sqz kind (P ++ ls.flatten) x (hT.below hS.bel) hr hk4).mono ?_)
    rintro e x1 ⟨v, ks, kp, rfl, hks, hO, hb⟩
    have hS1 := hS.keep hb
    refine ⟨_, rfl, hS1, ?_⟩
    refine F.step (k := 13) rfl (by decide) (by decide) ?_
    intro a1 F1 s13 e1
    refine at_take (i := 6) (m' := 127) c2reg rfl (by decide) rfl (y_move rfl rfl s13) hS1 ?_
    refine F1.step (k := 7) rfl (by decide) (by decide) ?_
    intro a2 F2 s7 e2
    refine at_take (i := 7) (m' := 255) c2reg rfl (by decide) rfl (y_extract rfl rfl s7 rfl) hS1 ?_
    refine F2.step (k := 14) rfl (by decide) (by decide) ?_
    intro a3 F3 s14 e3
    have s7 := (e3 7 (by decide)).trans s7
    refine at_take (i := 8) (m' := 511) c2reg rfl (by decide) rfl (y_extract rfl rfl s7 rfl) hS1 ?_
    refine F3.step (k := 15) rfl (by decide) (by decide) ?_
    intro a4 F4 s15 e4
    have s14 := (e4 14 (by decide)).trans s14
    exact c2_t0 hT hr hL hls hq hrr hQ hk4 F4 hS1 s14 hks s15 (hO.mono hS.bel.size)
  · have hb := keep_alloc x (.cells (sl 0 (zs 25) 0 false).toArray 55)
    refine p_allocY rfl rfl rfl ⟨hS.keep hb, ?_⟩
    refine F.step (k := 5) rfl (by decide) (by decide) ?_
    intro a1 F1 s5 e
    exact c2_31 hT hr hL hls hq hrr hQ hk4 F1 (hS.keep hb) s5 hS.bel.size (heap_alloc_last x _) ((e 10 (by decide)).trans t10) ((e 12 (by decide)).trans t12)
theorem c2_21 (hT : Csts w) (hr : 0 < rateK kind) (hL : Rows2 w lv ls) (hls : ls.flatten.length ≤ 100000) (hq : q < w.heap.size) (hrr : r < w.heap.size) (hQ : C2Q w (digD kind (P ++ ls.flatten)) Q) (hk4 : 3 < kind) {a : Act} {x : World} (F : C2F lv q r a) (hS : C2S w q r kind P x) {g : Nat} (t5 : a.eval (.tmp 5) = .pointer (some ⟨g, 0, none⟩)) (hg : w.heap.size ≤ g) (hz : x.heap[g]? = some (.cells (sl 0 (zs 25) 0 false).toArray 55 (0, 0))) (t10 : a.eval (.tmp 10) = .agg (spK kind (P ++ ls.flatten))) (t11 : a.eval (.tmp 11) = .int .i64 kind) :
    At Tryd.prog (opsOf (cL (cR (Tryd.f31.body.getD .skip)))) Q (C2S w q r kind P) 7 527 a x := by
  refine at_one (i := 4) (m' := 543) c2reg (by decide) rfl ?_
  refine p_call (args := #[.int .i64 kind]) rfl rfl rfl (by simp only [List.map_toArray, List.map_cons, List.map_nil, t11]) Tryd.call11 ((csize_any kind x).mono ?_)
  rintro e x1 ⟨rfl, hx⟩
  obtain rfl := hx.symm
  refine ⟨_, rfl, hS, ?_⟩
  refine F.step (k := 12) rfl (by decide) (by decide) ?_
  intro a1 F1 s12 e
  exact c2_31 hT hr hL hls hq hrr hQ hk4 F1 hS ((e 5 (by decide)).trans t5) hg hz ((e 10 (by decide)).trans t10) s12
theorem c2_20 (hT : Csts w) (hr : 0 < rateK kind) (hL : Rows2 w lv ls) (hls : ls.flatten.length ≤ 100000) (hq : q < w.heap.size) (hrr : r < w.heap.size) (hQ : C2Q w (digD kind (P ++ ls.flatten)) Q) (hk4 : 3 < kind) {a : Act} {x : World} (F : C2F lv q r a) (hS : C2S w q r kind P x) (t10 : a.eval (.tmp 10) = .agg (spK kind (P ++ ls.flatten))) (t11 : a.eval (.tmp 11) = .int .i64 kind) :
    At Tryd.prog (opsOf (cL (cR (Tryd.f31.body.getD .skip)))) Q (C2S w q r kind P) 8 15 a x := by
  refine at_two (i := 4) (j := 9) (m1 := 31) (m2 := 527) c2reg (by decide) rfl rfl ?_ ?_
  · refine p_call (args := #[.int .i64 kind]) rfl rfl rfl (by simp only [List.map_toArray, List.map_cons, List.map_nil, t11]) Tryd.call11 ((csize_any kind x).mono ?_)
    rintro e x1 ⟨rfl, hx⟩
    obtain rfl := hx.symm
    refine ⟨_, rfl, hS, ?_⟩
    refine F.step (k := 12) rfl (by decide) (by decide) ?_
    intro a1 F1 s12 e
    exact c2_30 hT hr hL hls hq hrr hQ hk4 F1 hS ((e 10 (by decide)).trans t10) s12
  · have hb := keep_alloc x (.cells (sl 0 (zs 25) 0 false).toArray 55)
    refine p_allocY rfl rfl rfl ⟨hS.keep hb, ?_⟩
    refine F.step (k := 5) rfl (by decide) (by decide) ?_
    intro a1 F1 s5 e
    exact c2_21 hT hr hL hls hq hrr hQ hk4 F1 (hS.keep hb) s5 hS.bel.size (heap_alloc_last x _) ((e 10 (by decide)).trans t10) ((e 11 (by decide)).trans t11)
theorem c2_11 (hT : Csts w) (hr : 0 < rateK kind) (hL : Rows2 w lv ls) (hls : ls.flatten.length ≤ 100000) (hq : q < w.heap.size) (hrr : r < w.heap.size) (hQ : C2Q w (digD kind (P ++ ls.flatten)) Q) (hk4 : 3 < kind) {a : Act} {x : World} (F : C2F lv q r a) (hS : C2S w q r kind P x) {g : Nat} (t5 : a.eval (.tmp 5) = .pointer (some ⟨g, 0, none⟩)) (hg : w.heap.size ≤ g) (hz : x.heap[g]? = some (.cells (sl 0 (zs 25) 0 false).toArray 55 (0, 0))) (t8 : a.eval (.tmp 8) = .agg (spK kind P)) (t9 : a.eval (.tmp 9) = lv) (t11 : a.eval (.tmp 11) = .int .i64 kind) :
    At Tryd.prog (opsOf (cL (cR (Tryd.f31.body.getD .skip)))) Q (C2S w q r kind P) 8 523 a x := by
  refine at_one (i := 2) (m' := 527) c2reg (by decide) rfl ?_
  refine p_call (args := #[.agg (spK kind P), lv]) rfl rfl rfl (by simp only [List.map_toArray, List.map_cons, List.map_nil, t8, t9]) Tryd.call30 ((absorbed_any kind hr P lv ls x (hT.below hS.bel) (hL.below hS.bel) hls).mono ?_)
  rintro e x1 ⟨rfl, hb⟩
  refine ⟨_, rfl, hS.keep hb, ?_⟩
  refine F.step (k := 10) rfl (by decide) (by decide) ?_
  intro a1 F1 s10 e
  exact c2_21 hT hr hL hls hq hrr hQ hk4 F1 (hS.keep hb) ((e 5 (by decide)).trans t5) hg ((hb.block _ (heap_ltY hz)).trans hz) s10 ((e 11 (by decide)).trans t11)
theorem c2_10 (hT : Csts w) (hr : 0 < rateK kind) (hL : Rows2 w lv ls) (hls : ls.flatten.length ≤ 100000) (hq : q < w.heap.size) (hrr : r < w.heap.size) (hQ : C2Q w (digD kind (P ++ ls.flatten)) Q) (hk4 : 3 < kind) {a : Act} {x : World} (F : C2F lv q r a) (hS : C2S w q r kind P x) (t8 : a.eval (.tmp 8) = .agg (spK kind P)) (t9 : a.eval (.tmp 9) = lv) (t11 : a.eval (.tmp 11) = .int .i64 kind) :
    At Tryd.prog (opsOf (cL (cR (Tryd.f31.body.getD .skip)))) Q (C2S w q r kind P) 9 11 a x := by
  refine at_two (i := 2) (j := 9) (m1 := 15) (m2 := 523) c2reg (by decide) rfl rfl ?_ ?_
  · refine p_call (args := #[.agg (spK kind P), lv]) rfl rfl rfl (by simp only [List.map_toArray, List.map_cons, List.map_nil, t8, t9]) Tryd.call30 ((absorbed_any kind hr P lv ls x (hT.below hS.bel) (hL.below hS.bel) hls).mono ?_)
    rintro e x1 ⟨rfl, hb⟩
    refine ⟨_, rfl, hS.keep hb, ?_⟩
    refine F.step (k := 10) rfl (by decide) (by decide) ?_
    intro a1 F1 s10 e
    exact c2_20 hT hr hL hls hq hrr hQ hk4 F1 (hS.keep hb) s10 ((e 11 (by decide)).trans t11)
  · have hb := keep_alloc x (.cells (sl 0 (zs 25) 0 false).toArray 55)
    refine p_allocY rfl rfl rfl ⟨hS.keep hb, ?_⟩
    refine F.step (k := 5) rfl (by decide) (by decide) ?_
    intro a1 F1 s5 e
    exact c2_11 hT hr hL hls hq hrr hQ hk4 F1 (hS.keep hb) s5 hS.bel.size (heap_alloc_last x _) ((e 8 (by decide)).trans t8) ((e 9 (by decide)).trans t9) ((e 11 (by decide)).trans t11)
set_option maxRecDepth 100000 in
theorem c2_1 (hT : Csts w) (hr : 0 < rateK kind) (hL : Rows2 w lv ls) (hls : ls.flatten.length ≤ 100000) (hq : q < w.heap.size) (hrr : r < w.heap.size) (hQ : C2Q w (digD kind (P ++ ls.flatten)) Q) (hk4 : 3 < kind) {a : Act} {x : World} (F : C2F lv q r a) (hS0 : C2S w q r kind P x) : Code.wp Tryd.prog (cL (cR (Tryd.f31.body.getD .skip))) Q a x := by
  rw [c2is]
  have hS := hS0.keep (Below.refl _ _).drew
  have hsl : (sl kind (stK kind P).1 ((stK kind P).2 : Nat) false).length = 28 := sl_len (stK_w kind P).1
  refine at_begin (n := 12) (C2S w q r kind P) (by kernel_rfl) (by kernel_rfl) ?_
  refine at_take (i := 0) (m' := 1) c2reg rfl (by decide) rfl (y_load_row (cs := sl kind (stK kind P).1 ((stK kind P).2 : Nat) false) rfl rfl F.t1 Tryd.underlying55 rfl (by rw [hsl]; kernel_rfl) (fun _ h => row_rangeY h.k)) hS ?_
  refine F.step (k := 8) rfl (by decide) (by decide) ?_
  intro a1 F1 s8 e1
  refine at_take (i := 1) (m' := 3) c2reg rfl (by decide) rfl (y_move rfl rfl F1.t0) hS ?_
  refine F1.step (k := 9) rfl (by decide) (by decide) ?_
  intro a2 F2 s9 e2
  refine at_take (i := 3) (m' := 11) c2reg rfl (by decide) rfl (y_load rfl rfl F2.t2 Tryd.underlying3 (fun _ h => h.c)) hS ?_
  refine F2.step (k := 11) rfl (by decide) (by decide) ?_
  intro a3 F3 s11 e3
  exact c2_10 hT hr hL hls hq hrr hQ hk4 F3 hS ((e3 8 (by decide)).trans ((e2 8 (by decide)).trans s8)) ((e3 9 (by decide)).trans s9) s11
end
end Go.Proofs.YtejlmgbmfeacdaaDoor

/- mac's first: the first bytes of parts, over whatever tells them. -/
namespace Go.Proofs.YtejlmgbmfeacdaaDoor
open Go.RowKit
set_option linter.unusedVariables false
set_option linter.unusedSimpArgs false

/-- a function that tells part after part; I i: it stands ahead of part i, apart from block g; block t is its own -/
structure Pt (fn : FuncId) (cap : Array Value) (f : Nat → List Nat) (g t : Nat) (I : Nat → World → Prop) : Prop where
  enters : ∀ (args : Array Value) (x : World), (callFunc fn args).run Tryd.prog x = .ok (.enter fn args) x
  keeps : ∀ (i : Nat) (x x' : World), I i x → But g x x' → g < x.heap.size → I i x'
  calls : ∀ (i : Nat) (x : World), I i x → i < 100000 → g < x.heap.size → Calls Tryd.prog fn (#[.int .u64 ((i : Nat) : Int)] ++ cap) x fun e x' => ∃ v, e = .returned v ∧ Row .u8 256 x' v (f i) ∧ I (i + 1) x' ∧ But t x x'
/-- where the loop stands -/
def FsL (w : World) (f : Nat → List Nat) (n t : Nat) (I : Nat → World → Prop) (u i : Value) (wr : World) : Prop := ∃ k : Nat, k ≤ n ∧ i = .int .u64 ((k : Nat) : Int) ∧ u = .slice (some ⟨w.heap.size, 0, none⟩) ((outN f k).take n).length n ∧
  wr.ownsRow w.heap.size 5 1 (.slice (some ⟨w.heap.size, 0, none⟩) ((outN f k).take n).length n) ((outN f k).take n).length (vals .u8 ((outN f k).take n)) ∧ I k wr ∧ But t w wr
theorem out_more (f : Nat → List Nat) (Z n k : Nat) (hf : ∀ i, (f i).length = Z) (h : ((outN f k).take n).length < n) :
    (outN f (k + 1)).take n = (outN f k).take n ++ (f k).take (min Z (n - ((outN f k).take n).length)) ∧ k * Z < n := by
  have hl : (outN f k).length = k * Z := outN_length f Z hf k
  rw [List.length_take, hl] at h
  have hk : k * Z < n := by omega
  refine ⟨?_, hk⟩
  have e : (outN f k).take n = outN f k := List.take_of_length_le (by rw [hl]; omega)
  rw [e, hl]
  show (outN f k ++ f k).take n = _
  rw [List.take_append, hl, e]
  congr 1
  by_cases hz : Z ≤ n - k * Z
  · rw [Nat.min_eq_left hz, List.take_of_length_le (by rw [hf]; exact hz), List.take_of_length_le (by rw [hf]; exact Nat.le_refl _)]
  · rw [Nat.min_eq_right (by omega)]
theorem vals_take (k : IntKind) (l : List Nat) (m : Nat) : vals k (l.take m) = (vals k l).take m := by simp [vals, List.map_take]

set_option maxHeartbeats 4000000 in
set_option maxRecDepth 100000 in
theorem first_of (n Z t : Nat) (fn : FuncId) (cap : Array Value) (f : Nat → List Nat) (I : Nat → World → Prop) (w : World) (hn : n ≤ 90000) (hf : ∀ i, (f i).length = Z) (hZ : 0 < Z) (hZ2 : Z ≤ 1000) (hu : ∀ i, Under 256 (f i))
    (hP : Pt fn cap f w.heap.size t I) (ht : t < w.heap.size) (h0 : ∀ x, Below w.heap.size w x → w.heap.size < x.heap.size → I 0 x) :
    Calls Tryd.prog 14 #[.int .i64 (n : Nat), .func (.func fn) #[] cap] w fun e w' => ∃ v, e = .returned v ∧ Row .u8 256 w' v ((outN f n).take n) ∧ But t w w' := by
  by_cases hn0 : n = 0
  · subst hn0
    go_enter Tryd.func14, Tryd.ntmps14
    go_wp2
    go_ret
    exact ⟨_, rfl, by rw [List.take_zero]; exact Row.nil _ _ _, But.refl _ _⟩
  have hne : ((n : Int) == 0) = false := by rw [beq_eq_false_iff_ne]; omega
  obtain ⟨i0, hi, hz0, hz1, hz2⟩ := info_parts Tryd.info5
  have hen := hP.enters
  go_enter Tryd.func14, Tryd.ntmps14
  go_wp2_with (first
    | (at_make; refine wpList_make_own _ rfl _ _ 22 rfl w.heap.size 5 i0 (.int .u8 0) 1 Tryd.underlying22 hi hz0 hz1 _ _ _ n rfl rfl rfl (by rw [hz2]; omega) (by unfold maxLen; omega) (Nat.le_refl _) ?_; intro w1 hown hgrow)
    | fail)
  have hb1 := (Below.refl w.heap.size w).grown hgrow (Nat.le_refl _) (fun k h => by cases h)
  have HA0 : Hid (FsL w f n t I (.slice (some ⟨w.heap.size, 0, none⟩) 0 n) (.int .u64 0) w1) := hide ⟨0, Nat.zero_le _, rfl, by simp [outN], by simpa [outN, vals] using hown, h0 _ hb1 (hown.lt _ rfl).2, But.of_below hb1⟩
  clear hown hgrow hb1 h0
  go_loopw [5, 6] (fun u i wr => FsL w f n t I u i wr) (fun _ i _ => n - (intOf i).toNat)
  case atStart => exact HA0.out
  case round =>
    obtain ⟨k, hk, rfl, rfl, how, hI, hbr⟩ := hrel
    clear HA0
    have hgs := (how.lt _ rfl).2
    by_cases hlt : ((outN f k).take n).length < n
    · obtain ⟨hmo, hkz⟩ := out_more f Z n k hf hlt
      have hkn : k < n := Nat.lt_of_le_of_lt (le_times (n := k) hZ) hkz
      have hcl := hP.calls k wr hI (by omega) hgs
      have hfk := hf k
      obtain ⟨L, hL⟩ : ∃ L : Nat, L = ((outN f k).take n).length := ⟨_, rfl⟩
      obtain ⟨m, hm⟩ : ∃ m : Nat, m = min Z (n - L) := ⟨_, rfl⟩
      rw [← hL] at hlt how hmo
      rw [← hm] at hmo
      rw [← hL]
      have li : (L : Int) < (n : Int) := by omega
      obtain ⟨d, hd⟩ : ∃ d : Nat, d = n - L := ⟨_, rfl⟩
      have e_d : (n : Int) - (L : Int) = (d : Int) := by omega
      have s_d : IntKind.i64.wrap (d : Int) = (d : Int) := by rw [IntKind.wrap_i64]; omega
      have mn : min (Z : Int) (d : Int) = (m : Int) := by omega
      have mZ : m ≤ Z := by omega
      have mi : (m : Int) ≤ (Z : Int) := by omega
      have m0 : (0 : Int) ≤ (m : Int) := by omega
      have mL : L + m ≤ n := by omega
      obtain ⟨k1, hk1⟩ : ∃ z : Nat, z = k + 1 := ⟨_, rfl⟩
      have e_k : (k : Int) + 1 = (k1 : Int) := by omega
      have u_k : IntKind.u64.wrap (k1 : Int) = (k1 : Int) := by rw [IntKind.wrap_u64]; omega
      have HK1 := hide hk1
      have HMo := hide hmo
      have HfK := hide hfk
      have HL := hide hL
      clear hmo hm hd hL hfk hk1
      generalize (outN f k).take n = LK at *
      go_wp2_with fail
      refine hcl.mono ?_
      rintro e x1 ⟨v1, rfl, r1, hI1, hB1⟩
      obtain ⟨a1, c1, rfl, g1, g2, g3, _⟩ := r1
      rw [HfK.out] at g1
      obtain ⟨b, off, rfl, hc⟩ := g3 (by rw [HfK.out]; exact hZ)
      have how1 := own_but how hB1 ht
      have hnews : ∀ j u, (vals .u8 ((f k).take m))[j]? = some u → x1.cell? ((⟨b, off, none⟩ : Addr).add j) = some u := fun j u hj => by
        have hjl : j < ((f k).take m).length := by have := (List.getElem?_eq_some_iff.1 hj).1; rwa [vals_length] at this
        have hjm : j < m := by rw [List.length_take] at hjl; omega
        have hjk : j < (f k).length := by rw [List.length_take] at hjl; omega
        rw [vals_get .u8 _ j hjl, el_take hjm] at hj
        rw [Addr.add_lit, hc j hjk]
        exact hj
      rw [HfK.out]
      have hHc := hide hc
      have mc : (m : Int) ≤ (c1 : Int) := by omega
      have hlen : (vals .u8 ((f k).take m)).length = m * 1 := by rw [vals_length, List.length_take, HfK.out]; omega
      clear hc g3
      go_wp2_with (first
        | (at_builtin; refine wpList_append_fits _ rfl _ _ 22 rfl w.heap.size 5 i0 1 Tryd.underlying22 hi hz1 w.heap.size L n (vals .u8 LK) rfl how1 ⟨b, off, none⟩ m c1 (vals .u8 ((f k).take m)) rfl hlen hnews (vals_one _ _) mL ?_; intro w3 how3 hg3)
        | fail)
      have hBg : But w.heap.size x1 w3 := ⟨hg3.os, hg3.tape, hg3.output, hg3.size, fun q hq hne => hg3.block q hq (fun e => hne (Option.some.inj e))⟩
      have hgx := (how1.lt _ rfl).2
      have hI3 := hP.keeps _ _ _ hI1 hBg hgx
      have hB2 := hbr.trans hB1
      have hB3 : But t w w3 := ⟨hBg.os.trans hB2.os, hBg.tape.trans hB2.tape, hBg.output.trans hB2.output, Nat.le_trans hB2.size hBg.size, fun q hq hne => (hBg.block q (Nat.lt_of_lt_of_le hq hB2.size) (by omega)).trans (hB2.block q hq hne)⟩
      have HH : Hid (FsL w f n t I (.slice (some ⟨w.heap.size, 0, none⟩) (L + m) n) (.int .u64 (k1 : Int)) w3) := by
        have e1 : ((outN f (k + 1)).take n).length = L + m := by rw [HMo.out, List.length_append, HL.out, ← vals_length .u8 ((f k).take m), hlen, Nat.mul_one]
        exact hide ⟨k1, by rw [HK1.out]; omega, rfl, by rw [HK1.out, e1], by rw [HK1.out, e1, HMo.out, vals_append]; exact how3, by rw [HK1.out]; exact hI3, hB3⟩
      clear how how1 how3 hg3 hBg hI3 hB3 hB2 hnews hI hI1 hbr hB1
      go_roundw
      case rel => exact HH.out
      case measure => have := HK1.out; simp [intOf]; omega
    · have hLn : ((outN f k).take n).length = n := by rw [List.length_take] at hlt ⊢; omega
      have hall : (outN f k).take n = (outN f n).take n := outN_take f Z hf (by rw [List.length_take, outN_length f Z hf] at hLn; omega) (le_times hZ)
      have ho : Own 5 .u8 256 wr w.heap.size (.slice (some ⟨w.heap.size, 0, none⟩) ((outN f k).take n).length n) ((outN f k).take n) := ⟨how, (outN_under f hu k).take _⟩
      rw [hall] at ho hLn
      rw [hall]
      have HR := hide ho.row
      generalize hLN : (outN f n).take n = LN at *
      have HLN := hide hLN
      clear how ho hall hLN
      rw [hLn] at HR ⊢
      clear hLn hlt
      go_wp2
      go_ret
      exact ⟨_, rfl, by rw [HLN.out]; exact HR.out, hbr⟩
end Go.Proofs.YtejlmgbmfeacdaaDoor
