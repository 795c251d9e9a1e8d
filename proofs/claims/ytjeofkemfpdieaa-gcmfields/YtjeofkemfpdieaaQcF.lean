/- A text's blocks, the last one filled up, handed to what takes them. -/
import Derived.Test.YtjeofkemfpdieaaQcR
import Derived.Test.YtjeofkemfpdieaaJIt
namespace Go.Proofs.Ytjeofkemfpdieaa
open Go.RowKit Go.Shelf
set_option linter.unusedVariables false
set_option linter.unusedSimpArgs false
attribute [local go_sem] Oper.semAt_some

section
variable {P : Program} {ops : Array Oper} {Q : Exit → Act → World → Prop} {K : Act → World → Prop}
/-- a method that is handed about is called -/
theorem p_callV {i : Nat} {o : Oper} {a : Act} {w : World} {f : FuncId} {x y : Operand} {ts : Array TypeId} {u v : Value} {d : Option Nat} (hi : ops[i]? = some o) (hg : o.guard = none) (ho : o.op = .call { callee := .value x, args := #[y], argTypes := ts }) (hx : a.eval x = .func (.func f) #[u] #[]) (hy : a.eval y = v) (hd : o.dst = d)
    (hf : ∀ (args : Array Value) (w : World), (callFunc f args).run P w = .ok (.enter f args) w) (h : Calls P f #[u, v] w fun e w' => ∃ r, e = .returned r ∧ K (a.put d r) w') : wpOp P ops Q i K a w := by
  have hr : (execOp a.eval o).run P w = .ok (.enter f #[u, v]) w := by
    unfold execOp
    simp only [ho, List.map_toArray, List.map_cons, List.map_nil, hy, resolve, hx]
    simp [invoke, go_sem, hf]
  unfold wpOp
  simp only [hi]
  rw [if_pos (wanted_free hg)]
  left
  unfold Oper.wp
  rw [hr]
  refine h.mono ?_
  rintro e w' ⟨r, rfl, hk⟩
  rw [← hd] at hk
  exact hk
end
theorem wpListIn_makeQ {F : Fence} {n : Nat} {P : Program} (w : World) {ops : Array Oper} {rest : List Oper} {o : Oper} {a : Act} {Q : Exit → Act → World → Prop}
    (hg : o.guard = none) (l c : Operand) (t : TypeId) (hop : o.op = Op.makeSlice t l c)
    (base : Nat) (e : TypeId) (i : TypeInfo) (z : Value) (size : Nat) (h1 : P.underlying t = some (.slice e)) (h2 : P.info? e = some i) (h3 : i.zero = some z) (h4 : i.size = size)
    (kl kc : IntKind) (L C : Int) (m : Nat) (hl : a.eval l = .int kl L) (hc : a.eval c = .int kc C) (hL : L = (m : Int)) (hC : C = (m : Int)) (b2 : i.bytes * m ≤ 281474976710656) (b3 : m ≤ maxLen) (b4 : base ≤ w.heap.size)
    (hK : ∀ w', w'.ownsRow base e size (.slice (some ⟨w.heap.size, 0, none⟩) m m) m (madeCells z.cells (m * size)).toList → w.grownBy w' none → wpListIn F n P ops Q rest (a.put o.dst (.slice (some ⟨w.heap.size, 0, none⟩) m m)) w') :
    wpListIn F n P ops Q (o :: rest) a w := by
  refine wpListIn_plain hg fun K hK' => ?_
  obtain ⟨w', hrun, r1, r2⟩ := run_make_full (P := P) w base t e i z size h1 h2 h3 h4 kl kc m b2 b3 b4
  subst hL
  subst hC
  unfold Oper.wpIn
  refine ⟨?_, ?_⟩
  · simp [Oper.about, hop]
  · rw [Oper.semAt_plain F _ _ (by rw [hop]; intro c hc'; cases hc')]
    simp [execOp, hop, hl, hc, hrun, Result.andThen]
    exact hK' _ _ (hK w' r1 r2)
/-- a text's part -/
def ptQ (b : List Nat) (i : Nat) : List Nat := (b.drop (16 * i)).take 16
theorem ptQ_len (b : List Nat) (i : Nat) : (ptQ b i).length = min 16 (b.length - 16 * i) := by unfold ptQ; rw [List.length_take, List.length_drop]
theorem fil_part {b : List Nat} {i : Nat} (hi : i < (b.length + 15) / 16) : blkOf (fil0 b) i = ptQ b i ++ List.replicate (16 - (ptQ b i).length) 0 := by
  have hl := ptQ_len b i
  unfold blkOf fil0
  rw [List.drop_append_of_le_length (by omega)]
  by_cases h : 16 ≤ b.length - 16 * i
  · rw [List.take_append_of_le_length (by rw [List.length_drop]; omega), hl, Nat.min_eq_left h, Nat.sub_self, List.replicate_zero, List.append_nil]
    rfl
  · rw [hl, Nat.min_eq_right (by omega)]
    unfold ptQ
    rw [List.take_of_length_le (l := b.drop (16 * i)) (by rw [List.length_drop]; omega), List.take_of_length_le (by rw [List.length_append, List.length_drop, List.length_replicate]; omega)]
    congr 2
    omega
theorem row_part {W : World} {xb xo Z xc : Nat} {b : List Nat} (h : Row .u8 256 W (.slice (some ⟨xb, xo, none⟩) Z xc) b) {i : Nat} (hi : 16 * i < Z) : Row .u8 256 W (chkV xb xo Z i) (ptQ b i) := by
  have hlen := h.opens (N := b.length) rfl
  obtain ⟨a', c', he, h1, h2, h3⟩ := hlen
  simp only [Value.slice.injEq] at he
  obtain ⟨_, hZ, rfl⟩ := he
  have h4 := row_dropQ h (M := 16 * i) (by omega)
  have h5 := h4.cut (M := min 16 (Z - 16 * i)) (by rw [List.length_drop]; omega)
  obtain ⟨a2, c2, he2, q1, q2, q3, q4⟩ := h5
  simp only [Value.slice.injEq] at he2
  obtain ⟨ea, el2, ec⟩ := he2
  have e : (b.drop (16 * i)).take (min 16 (Z - 16 * i)) = ptQ b i := by
    unfold ptQ
    rcases Nat.le_total 16 (Z - 16 * i) with hh | hh
    · rw [Nat.min_eq_left hh]
    · rw [Nat.min_eq_right hh, List.take_of_length_le (by rw [List.length_drop]; omega), List.take_of_length_le (by rw [List.length_drop]; omega)]
  rw [e] at q1 q3 q4 el2
  refine ⟨_, _, by unfold chkV; rw [← el2], Nat.le_refl _, by omega, ?_, q4⟩
  rw [← ea] at q3
  exact q3
/-- the sum of some blocks -/
def ghF (st : Nat → List Nat → Nat) (t : Nat) (L : List Nat) {N : Nat} (pre : List (Fin N)) : Nat := pre.foldl (fun s i => st s (blkOf L i.1)) t
theorem ghF_snoc (st : Nat → List Nat → Nat) (t : Nat) (L : List Nat) {N : Nat} (pre : List (Fin N)) (i : Fin N) : ghF st t L (pre ++ [i]) = st (ghF st t L pre) (blkOf L i.1) := by unfold ghF; rw [List.foldl_append]; rfl
theorem ghN_succQ (H x L : List Nat) (k : Nat) : ghN H x L (k + 1) = mulP (xr2 (ghN H x L k) (blkOf L k)) H := rfl
theorem pol_step {H x L : List Nat} (hx : B16 x) (hu : Under 256 L) {k : Nat} (h : 16 * k + 16 ≤ L.length) : polB (ghN H x L (k + 1)) = mulG (polB (ghN H x L k) ^^^ polB (blkOf L k)) (polB H) := by
  rw [ghN_succQ, mulP_pol, pol_xor (ghN_b hx k) (blkOf_b hu h)]
theorem ghF_of {N : Nat} (st : Nat → List Nat → Nat) (t : Nat) (L : List Nat) (g : Nat → Nat) (h0 : g 0 = t) (hs : ∀ k, k < N → g (k + 1) = st (g k) (blkOf L k)) : ∀ k, k ≤ N → ghF st t L (finL N k) = g k := by
  intro k
  induction k with
  | zero => intro _; rw [h0]; rfl
  | succ k ih =>
    intro hk
    rw [finL_next (by omega), ghF_snoc, ih (by omega), hs k (by omega)]
def stQ (H : List Nat) (s : Nat) (blk : List Nat) : Nat := mulG (s ^^^ polB blk) (polB H)
theorem ghF_all {H x L : List Nat} (hx : B16 x) (hu : Under 256 L) {N : Nat} (hL : L.length = 16 * N) (k : Nat) (hk : k ≤ N) : ghF (stQ H) (polB x) L (finL N k) = polB (ghN H x L k) :=
  ghF_of (stQ H) (polB x) L (fun k => polB (ghN H x L k)) rfl (fun k hk => pol_step hx hu (by omega)) k hk
theorem smB_off {W : World} {B h t : Nat} {v : Value} {l : List Nat} (s : SmB W B h t) (r : Row .u8 256 W v l) : Away B v l := by
  intro hl q hq e
  subst e
  obtain ⟨a, c, rfl, _, _, h3, _⟩ := r
  obtain ⟨b, o, rfl, hc⟩ := h3 hl
  obtain ⟨f, l', g, m, _, _, _, _, h5, _⟩ := s
  have hb : b = q := by simpa [Value.ownBlock] using hq
  subst hb
  have := hc 0 hl
  unfold World.cell? at this
  simp only [h5, Nat.add_zero] at this
  match o, this with
  | 0, h => simp at h
  | 1, h => simp at h
  | 2, h => simp at h
  | 3, h => simp at h
  | o + 4, h => simp at h
theorem but_putQ {B D : Nat} {w W : World} (h : But B w W) (o : Obj) (hD : w.heap.size ≤ D) : But B w (W.putObj D o) :=
  ⟨h.os, h.tape, h.output, by simp [World.putObj]; exact h.size, fun k hk hn => (World.putObj_heap_other (by omega)).trans (h.block k hk hn)⟩
theorem but_grown {B D : Nat} {w A C : World} {row : Option Nat} (h : But B w A) (hg : A.grownBy C row) (hr : ∀ r, row = some r → D ≤ r ∧ ∃ o : Obj, A.heap[r]? = some o ∧ o.isCells = false) (hD : w.heap.size ≤ D) : But B w C :=
  ⟨hg.os.trans h.os, hg.tape.trans h.tape, hg.output.trans h.output, Nat.le_trans h.size hg.size, fun k hk hn => (hg.block k (Nat.lt_of_lt_of_le hk h.size) (fun e => by have := (hr k e.symm).1; omega)).trans (h.block k hk hn)⟩
def fult : List Lt := [(0, some 18, [3]), (0, some 19, [4]), (2, some 20, [19]), (5, some 21, [18, 20])]
theorem fureg : Reg (opsA (cRA (cBA (cFA (cBA (cRA (cRA (Try.f24.body.getD .skip)))))))) fult := ⟨by kernel_rfl, by kernel_rfl⟩
/-- where the loop stands -/
structure FuL (w : World) (B h s : Nat) (bv : Value) (b : List Nat) (W : World) : Prop where
  sum : SmB W B h s
  fn : W.heap[w.heap.size]? = some (.cells #[(.func (.func 25) #[.pointer (some ⟨B, 0, none⟩)] #[])] 49 (0, 0))
  sl : W.heap[w.heap.size + 1]? = some (.cells #[bv] 22 (0, 0))
  ni : W.heap[w.heap.size + 1 + 1]? = some (.cells #[.int .i64 16] 3 (0, 0))
  row : Row .u8 256 W bv b
  but : But B w W
theorem FuL.own {w : World} {B h s D : Nat} {bv : Value} {b : List Nat} {A C : World} {row : Option Nat} (f : FuL w B h s bv b A) (hD : w.heap.size ≤ D) (hg : A.grownBy C row) (hr : ∀ r, row = some r → D ≤ r ∧ ∃ o : Obj, A.heap[r]? = some o ∧ o.isCells = false) : FuL w B h s bv b C := by
  have hr2 := fun r e => (hr r e).2
  refine ⟨?_, cells_kept8 hg hr2 f.fn, cells_kept8 hg hr2 f.sl, cells_kept8 hg hr2 f.ni, ?_, but_grown f.but hg hr hD⟩
  · obtain ⟨p, q, r, m, h1, h2, h3, h4, h5, h6⟩ := f.sum
    exact ⟨p, q, r, m, h1, h2, h3, h4, cells_kept8 hg hr2 h5, h6⟩
  · obtain ⟨a, cap, he, h1, h2, h3, h4⟩ := f.row
    refine ⟨a, cap, he, h1, h2, fun hl => ?_, h4⟩
    obtain ⟨b, off, ha, hc⟩ := h3 hl
    refine ⟨b, off, ha, fun i hi => hg.cell (hc i hi) fun e => ?_⟩
    obtain ⟨o, ho, ho2⟩ := hr2 b e.symm
    have := hc i hi
    unfold World.cell? at this
    simp only [ho] at this
    cases o <;> simp_all [Obj.isCells]
set_option maxHeartbeats 4000000 in
set_option maxRecDepth 100000 in
theorem fu_reg (l n : Nat) (Q : Exit → Act → World → Prop) (x0 x1 x2 x5 x6 x7 x8 x9 x10 x11 x12 x13 x14 x15 x16 x17 x18 x19 x20 x21 : Value) (w W : World) (B h s : Nat) (bv : Value) (b : List Nat) (pv : Value) (blk : List Nat) (fu : FuL w B h s bv b W) (rp : Row .u8 256 W pv blk) (hb : B16 blk) (hBw : B < w.heap.size) (s' : Nat) (hs' : s' = mulG (s ^^^ polB blk) h)
    (hQ : ∀ (y18 y19 y20 y21 : Value) (z : World), FuL w B h s' bv b z → But B W z → Q .normal { tmps := #[x0, x1, x2, .pointer (some ⟨w.heap.size, 0, none⟩), pv, x5, x6, x7, x8, x9, x10, x11, x12, x13, x14, x15, x16, x17, y18, y19, y20, y21], defers := [] } z) :
    (Code.region 5 (opsA (cRA (cBA (cFA (cBA (cRA (cRA (Try.f24.body.getD .skip)))))))) true).wpIn (Fence.wide.inRound l) n Try.prog Q { tmps := #[x0, x1, x2, .pointer (some ⟨w.heap.size, 0, none⟩), pv, x5, x6, x7, x8, x9, x10, x11, x12, x13, x14, x15, x16, x17, x18, x19, x20, x21], defers := [] } W := by
  subst hs'
  have hrd := fun y (hy : Below W.heap.size W y) => readQ_any blk pv y (rp.below hy) hb
  have hbd : Below W.heap.size W W.drew := (Below.refl _ _).drew
  have lf := (Array.getElem?_eq_some_iff.1 fu.fn).1
  have hSb : ∀ y, But B W y → y.cell? ⟨w.heap.size, 0, none⟩ = some (.func (.func 25) #[.pointer (some ⟨B, 0, none⟩)] #[]) := fun y hy => cell_ofQ ((hy.block _ lf (by omega)).trans fu.fn) rfl
  have hS0 := hSb _ (But.of_below hbd)
  refine at_begin_in (ops := (opsA (cRA (cBA (cFA (cBA (cRA (cRA (Try.f24.body.getD .skip))))))))) (k := 4) (fun y => y.cell? ⟨w.heap.size, 0, none⟩ = some (.func (.func 25) #[.pointer (some ⟨B, 0, none⟩)] #[])) (by kernel_rfl) (by kernel_rfl) (by kernel_rfl) ?_
  refine at_takeD (i := 0) (m' := 1) (d := some 18) (v := (.func (.func 25) #[.pointer (some ⟨B, 0, none⟩)] #[])) fureg rfl (by decide) rfl rfl (y_load_plain rfl rfl rfl Try.underlying49 rfl (fun _ h => h)) hS0 ?_
  simp only [Act.put, List.setIfInBounds_toArray, List.set_cons_zero, List.set_cons_succ]
  refine at_takeD (i := 1) (m' := 3) (d := some 19) (v := pv) fureg rfl (by decide) rfl rfl (y_move rfl rfl rfl) hS0 ?_
  simp only [Act.put, List.setIfInBounds_toArray, List.set_cons_zero, List.set_cons_succ]
  refine at_one (i := 2) (m' := 7) fureg (by decide) rfl ?_
  refine p_call1 (u := pv) (d := some 20) rfl rfl rfl rfl rfl Try.call20 ((hrd _ hbd).mono ?_)
  rintro e z1 ⟨u1, rfl, k1, hb1⟩
  have hz1 := keep_trans hbd hb1
  refine ⟨_, rfl, hSb _ (But.of_below hz1), ?_⟩
  simp only [Act.put, List.setIfInBounds_toArray, List.set_cons_zero, List.set_cons_succ]
  have hs1 := smB_below fu.sum hz1
  refine at_one (i := 3) (m' := 15) fureg (by decide) rfl ?_
  refine p_callV (f := 25) (u := .pointer (some ⟨B, 0, none⟩)) (v := u1) (d := some 21) rfl rfl rfl rfl rfl rfl Try.call25 ((add_any B h s (polB blk) u1 z1 hs1 k1).mono ?_)
  rintro e z2 ⟨⟨u2, rfl⟩, s2, hbt⟩
  have hB2 := (But.of_below (g := B) hz1).trans hbt
  refine ⟨_, rfl, hSb _ hB2, ?_⟩
  simp only [Act.put, List.setIfInBounds_toArray, List.set_cons_zero, List.set_cons_succ]
  refine at_done fureg (by decide) ?_
  dsimp only [onlyN]
  refine hQ _ _ _ _ _ ⟨s2, (hB2.block _ lf (by omega)).trans fu.fn, (hB2.block _ (Array.getElem?_eq_some_iff.1 fu.sl).1 (by omega)).trans fu.sl, (hB2.block _ (Array.getElem?_eq_some_iff.1 fu.ni).1 (by omega)).trans fu.ni, fu.row.but (smB_off fu.sum fu.row) hB2, fu.but.trans hB2⟩ hB2
set_option maxHeartbeats 4000000 in
set_option maxRecDepth 100000 in
theorem filled_core (b : List Nat) (bv : Value) (B h t N X : Nat) (st : Nat → List Nat → Nat) (hst : ∀ s blk, st s blk = mulG (s ^^^ polB blk) h) (L : List Nat) (hN : N = (b.length + 15) / 16) (hblk : ∀ i : Fin N, blkOf L i.1 = ptQ b i.1 ++ List.replicate (16 - (ptQ b i.1).length) 0) (hbB : ∀ i : Fin N, B16 (blkOf L i.1)) (hX : ghF st t L (finL N N) = X)
    (w : World) (rb : Row .u8 256 w bv b) (hl : b.length ≤ 100000) (hs : SmB w B h t) :
    Calls Try.prog 24 #[bv, (.func (.func 25) #[.pointer (some ⟨B, 0, none⟩)] #[])] w fun e w' => (∃ u, e = .returned u) ∧ SmB w' B h X ∧ But B w w' := by
  have hBl := hs.lt
  obtain ⟨Z, hZ⟩ : ∃ Z, b.length = Z := ⟨_, rfl⟩
  obtain ⟨ad, xc, rfl, lc1, lc2, hcs⟩ := rb.opens hZ
  have hxo : ∃ xb xo, 0 < Z → ad = some ⟨xb, xo, none⟩ := by
    by_cases hz : 0 < Z
    · obtain ⟨xb, xo, e, _⟩ := hcs hz; exact ⟨xb, xo, fun _ => e⟩
    · exact ⟨0, 0, fun h => absurd h hz⟩
  obtain ⟨xb, xo, had⟩ := hxo
  clear hcs
  have hmk := fun y => chunkQ_make ad Z xc y
  obtain ⟨i8, hi8, hz0, hz1, hz2⟩ := info_byte
  refine (callsIn_wide (n := 8)).1 ?_
  refine callsIn_of_wp_marks Try.func24 rfl trivial ?_ rfl
  simp only [Try.ntmps24, List.size_toArray, List.length_cons, List.length_nil, Nat.reduceAdd, Nat.reduceSub, Array.replicate_succ, Array.replicate_zero, List.push_toArray, List.append_toArray, List.nil_append, List.cons_append]
  gi_wp2_with (refine ⟨trivial, ?_⟩; gi_at_call 39; refine (callsIn_wide.2 (hmk _)).mono ?_; rintro e w' ⟨rfl, rfl⟩)
  have fu0 : FuL w B h t (.slice ad Z xc) b (((w.alloc (.cells #[(.func (.func 25) #[.pointer (some ⟨B, 0, none⟩)] #[])] 49)).alloc (.cells #[.slice ad Z xc] 22)).alloc (.cells #[.int .i64 16] 3)) := by
    have hb := keep_trans (keep_trans (keep_alloc w (.cells #[(.func (.func 25) #[.pointer (some ⟨B, 0, none⟩)] #[])] 49)) (keep_alloc _ (.cells #[.slice ad Z xc] 22))) (keep_alloc _ (.cells #[.int .i64 16] 3))
    refine ⟨smB_below hs hb, ?_, ?_, ?_, rb.below hb, But.of_below hb⟩
    · rw [heap_oldQ _ _ _ (by simp; omega), heap_oldQ _ _ _ (by simp), heap_alloc_new]
    · rw [heap_oldQ _ _ _ (by simp), heap_alloc2_new]
    · rw [heap_alloc3_newQ]
  have szL : (((w.alloc (.cells #[(.func (.func 25) #[.pointer (some ⟨B, 0, none⟩)] #[])] 49)).alloc (.cells #[.slice ad Z xc] 22)).alloc (.cells #[.int .i64 16] 3)).heap.size = w.heap.size + 3 := by simp
  generalize ((w.alloc (.cells #[(.func (.func 25) #[.pointer (some ⟨B, 0, none⟩)] #[])] 49)).alloc (.cells #[.slice ad Z xc] 22)).alloc (.cells #[.int .i64 16] 3) = WL at *
  rw [hZ] at hN hl
  have hsq := chunkQ_own 7 (by omega) (w.heap.size + 1) (w.heap.size + 1 + 1) ad xb xo xc N Z hN had lc1 lc2 (by omega) WL (fun W => W.cell? ⟨w.heap.size + 1, 0, none⟩ = some (.slice ad Z xc) ∧ W.cell? ⟨w.heap.size + 1 + 1, 0, none⟩ = some (.int .i64 16)) (fun W h => h)
  have HN := hide (And.intro hN (And.intro hl (And.intro lc1 (And.intro lc2 (And.intro hZ had)))))
  clear hmk hs rb hN hl lc1 lc2 had hZ
  refine range_ours (n := 8) rfl (enters_of Try.func52 (by kernel_rfl) rfl) hsq (fun _ => rfl)
    (fun pre W => FuL w B h (ghF st t L pre) (.slice ad Z xc) b W ∧ WL.heap.size ≤ W.heap.size)
    (fun pre A C row hs hg hr => ⟨hs.1.own (D := WL.heap.size) (by omega) hg hr, Nat.le_trans hs.2 hg.size⟩) (fun pre W h => ⟨cell_ofQ h.1.sl rfl, cell_ofQ h.1.ni rfl⟩) ⟨fu0, Nat.le_refl _⟩
    (fun pre x a' W => a' = { tmps := #[.slice ad Z xc, (.func (.func 25) #[.pointer (some ⟨B, 0, none⟩)] #[]), undef, .pointer (some ⟨w.heap.size, 0, none⟩), chkV xb xo Z x.1, .slice ad Z xc, .func (.func 52) #[] #[.pointer (some ⟨w.heap.size + 1, 0, none⟩), .pointer (some ⟨w.heap.size + 1 + 1, 0, none⟩)], chkV xb xo Z x.1, undef, undef, undef, undef, undef, undef, undef, undef, undef, undef, undef, undef, undef, undef], defers := [] } ∧ FuL w B h (ghF st t L pre) (.slice ad Z xc) b W ∧ WL.heap.size ≤ W.heap.size)
    (fun pre x a' u A C row hs hg hr => ⟨hs.1, hs.2.1.own (D := WL.heap.size) (by omega) hg hr, Nat.le_trans hs.2.2 hg.size⟩) ?assign ?body ?done
  case assign =>
    rintro l pre x W K ⟨lp, hsz⟩ hlt hK
    gi_wp2
    exact hK _ _ ⟨Nat.le_refl _, fun _ _ _ => rfl⟩ ⟨rfl, lp, hsz⟩
  case body =>
    rintro l pre x a' W ⟨rfl, fu, hsz⟩ hlt
    have hx2 := x.2
    have hbx := hbB x
    have hkx := hblk x
    rw [ghF_snoc]
    generalize ghF st t L pre = s at *
    generalize blkOf L x.1 = blk at *
    obtain ⟨i, hi⟩ := x
    dsimp only at hx2 hkx ⊢
    obtain ⟨hN, hl, lc1, lc2, hZ, had⟩ := HN.out
    have hiZ : 16 * i < Z := by omega
    obtain rfl := had (by omega)
    have rP := row_part fu.row hiZ
    have hpl := ptQ_len b i
    rw [hZ] at hpl
    have hcv : chkV xb xo Z i = .slice (some ⟨xb, xo + 16 * i, none⟩) (ptQ b i).length (ptQ b i).length := by unfold chkV; rw [hpl]
    rw [hcv] at rP ⊢
    have tP : Tidy (.slice (some ⟨xb, xo + 16 * i, none⟩) (ptQ b i).length (ptQ b i).length) := fun n c e => by cases e
    generalize ptQ b i = pt at *
    have hP16 : pt.length ≤ 16 := by omega
    obtain ⟨M, hM⟩ : ∃ M, pt.length = M := ⟨_, rfl⟩
    rw [hM] at rP tP hkx hcv ⊢
    generalize hof : xo + 16 * i = off at *
    clear hof hcv hpl hN hl hiZ had
    by_cases h16 : M < 16
    · have hM1 : (M : Int) < 16 := by omega
      obtain ⟨R, hR⟩ : ∃ R : Nat, R = 16 - M := ⟨_, rfl⟩
      have e_R : (16 : Int) - (M : Int) = (R : Int) := by omega
      have s_R : IntKind.i64.wrap (R : Int) = (R : Int) := by rw [IntKind.wrap_i64]; omega
      rw [← hR] at hkx
      have hR16 : R ≤ 16 := by omega
      have HH := hide (And.intro hkx (And.intro hM (And.intro hbx (And.intro hP16 hR))))
      have HF := hide (And.intro fu (And.intro rP (And.intro tP hsz)))
      clear hkx hM hbx hP16 hR fu rP tP hsz h16 fu0 hlt lc1 lc2 hZ hx2 hi
      gi_wp2_with (first
        | (gi_at_make; refine wpListIn_makeQ _ rfl _ _ 22 rfl W.heap.size 5 i8 (.int .u8 0) 1 Try.underlying22 hi8 hz0 hz1 _ _ _ _ R rfl rfl rfl rfl (by rw [hz2]; omega) (by unfold maxLen; omega) (Nat.le_refl _) ?_; intro w1 hown hgrow; rw [made_u8] at hown; have hb1 := (Below.refl W.heap.size W).grown hgrow (Nat.le_refl _) (fun k h => by cases h); have oz : Own 5 .u8 256 w1 W.heap.size (.slice (some ⟨W.heap.size, 0, none⟩) R R) (List.replicate R 0) := ⟨by rw [List.length_replicate]; exact hown, Under.replicate 256 R (by decide)⟩; have hr2 := rows_lit2G (HF.out.2.1.below hb1) HF.out.2.2.1 oz.row (own_tidyG oz); clear hown hgrow)
        | (refine ⟨trivial, ?_⟩; gi_at_call 28; refine (CallsIn.inRound l (callsIn_wide.2 (join_any _ _ _ hr2 (by simp; have := HH.out; omega)))).mono ?_; rintro e w2 ⟨v2, rfl, o2, hb2⟩)
        | fail)
      have hfe : [pt, List.replicate R 0].flatten = blk := by rw [HH.out.1]; simp
      rw [hfe] at o2
      have hbA := keep_trans (keep_trans hb1 (keep_alloc w1 (.cells #[.slice (some ⟨xb, off, none⟩) M M, .slice (some ⟨W.heap.size, 0, none⟩) R R] 22))) hb2
      have fu2 := HF.out.1.own (D := WL.heap.size) (by omega) (grown_belowQ hbA) (fun r e => by cases e)
      refine fu_reg l _ _ _ _ _ _ _ _ _ _ _ _ _ _ _ _ _ _ _ _ _ _ w w2 B h s _ b v2 blk fu2 o2.row HH.out.2.2.1 hBl _ (hst s blk) ?_
      intro y18 y19 y20 y21 z fz hbz
      exact ⟨⟨Nat.le_trans hbA.size hbz.size, fun k h1 h2 => (hbz.block k (Nat.lt_of_lt_of_le h2 hbA.size) (by omega)).trans (hbA.block k h2)⟩, fz, Nat.le_trans HF.out.2.2.2 (Nat.le_trans hbA.size hbz.size)⟩
    · obtain rfl : M = 16 := by omega
      have hM1 : ¬ ((16 : Nat) : Int) < 16 := by decide
      rw [Nat.sub_self, List.replicate_zero, List.append_nil] at hkx
      subst hkx
      have HF := hide (And.intro fu (And.intro rP (And.intro tP (And.intro hsz hbx))))
      clear hM hbx hP16 fu rP tP hsz h16 fu0 hlt lc1 lc2 hZ hx2 hi
      gi_wp2
      refine fu_reg l _ _ _ _ _ _ _ _ _ _ _ _ _ _ _ _ _ _ _ _ _ _ w W B h s _ b _ blk HF.out.1 HF.out.2.1 HF.out.2.2.2.2 hBl _ (hst s _) ?_
      intro y18 y19 y20 y21 z fz hbz
      exact ⟨⟨hbz.size, fun k h1 h2 => hbz.block k h2 (by omega)⟩, fz, Nat.le_trans HF.out.2.2.2.1 hbz.size⟩
  case done =>
    rintro W ⟨fu, hsz⟩ hK
    rw [hX] at fu
    gi_wp2
    refine ⟨by simp, .inl ⟨_, _, rfl, run_takeDeferred hK, ?_⟩⟩
    exact ⟨_, results_none rfl _ _ _, ⟨_, rfl⟩, smB_keep fu.sum (World.putObj_heap_other (by omega)), but_putQ fu.but _ (by omega)⟩
theorem filled_any (b : List Nat) (bv : Value) (B : Nat) (H x : List Nat) (hx : B16 x) (w : World) (rb : Row .u8 256 w bv b) (hl : b.length ≤ 100000) (hs : SmB w B (polB H) (polB x)) :
    Calls Try.prog 24 #[bv, (.func (.func 25) #[.pointer (some ⟨B, 0, none⟩)] #[])] w fun e w' => (∃ u, e = .returned u) ∧ SmB w' B (polB H) (polB (ghN H x (fil0 b) ((b.length + 15) / 16))) ∧ But B w w' :=
  filled_core b bv B (polB H) (polB x) ((b.length + 15) / 16) _ (stQ H) (fun _ _ => rfl) (fil0 b) rfl (fun i => fil_part i.2) (fun i => blkOf_b (fil0_under rb.under) (by have := i.2; rw [fil0_len]; omega)) (ghF_all hx (fil0_under rb.under) (fil0_len b) _ (Nat.le_refl _)) w rb hl hs
end Go.Proofs.Ytjeofkemfpdieaa

/- A loop over an iterator that does not end: the contract and the law that serve here. -/
namespace Go.Proofs.Ytjeofkemfpdieaa
open Go.RowKit Go.Shelf
set_option linter.unusedVariables false
set_option linter.unusedSimpArgs false

/-- an iterator that hands out values which Y tells, one behind the other, to rounds of which one of the first N stops -/
def OwnStop (m : Nat) (P : Program) (gf : Nat) (lb : Array Value) (Y : Nat → Value → World → Prop) (N : Nat) (V : World → Prop) (w0 : World) : Prop :=
  ∀ (l : Nat) (J : Nat → World → Prop) (Jx : World → Prop) (W : World), Below w0.heap.size w0 W → l < W.heap.size → OwnFrom W.heap.size J → (∀ k W1, J k W1 → V W1 ∧ k < N) →
    (∀ k v W1, J k W1 → Y k v W1 → W.heap.size ≤ W1.heap.size → YieldAt Fence.wide (m - 1) P l #[v] W1 fun e W' => (e = .returned (.bool true) ∧ J (k + 1) W' ∧ W1.heap.size ≤ W'.heap.size) ∨ (e = .returned (.bool false) ∧ Jx W')) →
    J 0 W → CallsIn Fence.wide m P gf (#[.func (.yield l) #[] #[]] ++ lb) W fun e W' => (∃ v, e = .returned v) ∧ Jx W'
/-- what a round's body must leave: it goes on, or it leaves the block id -/
def goesStops (B : Nat) (id : Nat) (W : World) (R Rx : World → Prop) : Exit → Act → World → Prop
  | .normal, _, W' => KeepsFrom B W W' ∧ R W'
  | .exit i, _, W' => i = id ∧ KeepsFrom B W W' ∧ Rx W'
  | _, _, _ => False
theorem range_stops {n : Nat} {P : Program} {g : Operand} {p : Tmp} {assign body : Code} {Q : Exit → Act → World → Prop} {a : Act} {w : World}
    {gf : Nat} {lb : Array Value} (hg : a.eval g = .func (.func gf) #[] lb) (eg : ∀ args w, (callFunc gf args).run P w = .ok (.enter gf args) w)
    {Y : Nat → Value → World → Prop} {N : Nat} {V : World → Prop} (hseq : OwnStop (n - 1) P gf lb Y N V w) (hY : ∀ k v, OwnFrom w.heap.size (fun (_ : Unit) W => Y k v W))
    (I : Nat → World → Prop) (hI : OwnFrom w.heap.size I) (hV : ∀ k W, I k W → V W ∧ k < N) (h0 : I 0 w) (Ix : World → Prop) (hIx : OwnFrom w.heap.size (fun (_ : Unit) W => Ix W)) (id : Nat) (a₁ : Value → Act)
    (hassign : ∀ (l : Nat) (v : Value) (W : World) (K : Act → World → Prop), K (a₁ v) W →
      assign.wpIn (Fence.wide.inRound l) (n - 1 - 1) P (Exit.then K (fun _ _ _ => False)) { tmps := (#[p].zip #[v]).foldl (fun t (p, v) => t.setIfInBounds p v) a.tmps, defers := [] } W)
    (hbody : ∀ (l k : Nat) (v : Value) (W : World), I k W → Y k v W → body.wpIn (Fence.wide.inRound l) (n - 1 - 1) P (goesStops w.heap.size id W (I (k + 1)) Ix) (a₁ v) W)
    (hstop : ∀ (W : World), Ix W → W.heap[w.heap.size]? = some (.deferred (some [])) → (Code.exit id).wpIn Fence.wide n P Q { a with defers := { target := .collected w.heap.size, args := #[] } :: a.defers } W) :
    (Code.rangeFunc g #[p] assign body).wpIn Fence.wide n P Q a w := by
  refine wpIn_rangeFunc fun fn hfn => ?_
  generalize hD : w.heap.size = D at *
  obtain ⟨R0, hR0⟩ : ∃ R0 : Loop, R0 = { state := .ready, pending := none, fn, tmps := a.tmps, params := #[p], assign, body, defers := D } := ⟨_, rfl⟩
  obtain ⟨RD, hRD⟩ : ∃ RD : Loop, RD = { R0 with state := .done, pending := some (.exit id) } := ⟨_, rfl⟩
  obtain ⟨W1, hW1⟩ : ∃ W1, W1 = (w.alloc (.deferred (some []))).alloc (.loop R0) := ⟨_, rfl⟩
  have sz1 : W1.heap.size = D + 2 := by rw [hW1]; simp [hD]
  have kD : W1.heap[D]? = some (.deferred (some [])) := by
    rw [hW1, ← hD]; exact (Below.heap_alloc _ _ _ (by simp)).trans (World.alloc_heap_new w _)
  have kL : W1.heap[D + 1]? = some (.loop R0) := by
    have := World.alloc_heap_new (w.alloc (.deferred (some []))) (.loop R0)
    rw [World.size_alloc, hD] at this
    rw [hW1]; exact this
  have I1 : I 0 W1 := by rw [hW1]; exact hI.alloc _ (hI.alloc _ h0)
  have b1 : Below w.heap.size w W1 := by rw [hW1]; exact ((Below.refl _ w).alloc (Nat.le_refl _) _).alloc (by simp) _
  refine ⟨D + 1, [{ target := .collected D, args := #[] }], W1, { target := .fn (.func gf) lb, args := #[.func (.yield (D + 1)) #[] #[]] }, W1, gf, #[.func (.yield (D + 1)) #[] #[]] ++ lb, W1, ?_, ?_, ?_, ?_, ?_, ?_⟩
  · have := run_enterLoop_outer (P := P) (w := w) fn a.tmps #[p] assign body
    rw [hW1, hR0, ← hD]
    exact this
  · simp only [resolve, hg]
    simp [go_sem]
  · intro f' hf'; trivial
  · simp [invoke, go_sem, eg]
  · intro h; cases h
  refine (hseq (D + 1) (fun k W => I k W ∧ W.heap[D + 1]? = some (.loop R0) ∧ W.heap[D]? = some (.deferred (some []))) (fun W => Ix W ∧ W.heap[D + 1]? = some (.loop RD) ∧ W.heap[D]? = some (.deferred (some []))) W1 b1 (by omega) ?_ (fun k W h => hV k W h.1) ?_ ⟨I1, kL, kD⟩).mono ?_
  · intro s A B row hs hgr hr
    have hr2 : ∀ r, row = some r → D ≤ r ∧ ∃ o : Obj, A.heap[r]? = some o ∧ o.isCells = false := fun r e => ⟨by have := (hr r e).1; omega, (hr r e).2⟩
    have ne : ∀ k, k < D + 2 → some k ≠ row := fun k hk e => by have := (hr k e.symm).1; omega
    exact ⟨hI s A B row hs.1 hgr hr2, (hgr.block _ (Array.getElem?_eq_some_iff.1 hs.2.1).1 (ne _ (by omega))).trans hs.2.1, (hgr.block _ (Array.getElem?_eq_some_iff.1 hs.2.2).1 (ne _ (by omega))).trans hs.2.2⟩
  · rintro k v W ⟨i1, kl, kd⟩ y1 hsz
    have hy := run_yield (P := P) (args := #[v]) kl (by rw [hR0]; rfl)
    rw [hR0] at hy
    refine ⟨fn, _, assign, body, hy, roundIn_of_wpIn hfn (hassign (D + 1) v W _ ?_)⟩
    refine ⟨_, run_beginRound kl (by rw [hR0]), ?_⟩
    obtain ⟨RB, hRB⟩ : ∃ RB : Loop, RB = { R0 with state := .busy } := ⟨_, rfl⟩
    rw [← hRB]
    have lt2 := (Array.getElem?_eq_some_iff.1 kl).1
    have kl3 : (W.putObj (D + 1) (.loop RB)).heap[D + 1]? = some (.loop RB) := World.putObj_heap_same lt2
    have kd3 : (W.putObj (D + 1) (.loop RB)).heap[D]? = some (.deferred (some [])) := (World.putObj_heap_other (by omega)).trans kd
    have i3 : I k (W.putObj (D + 1) (.loop RB)) := hI.putObj _ i1 (by omega) kl rfl
    have y3 : Y k v (W.putObj (D + 1) (.loop RB)) := (hY k v).putObj (s := ()) _ y1 (by omega) kl rfl
    refine wpIn_mono (hbody (D + 1) k v _ i3 y3) ?_
    rintro e a4 W4 hp
    cases e with
    | normal =>
      obtain ⟨kf4, i4⟩ := hp
      have kl4 := kf4.same _ _ (by omega) kl3 rfl
      have kd4 := kf4.same _ _ (Nat.le_refl _) kd3 rfl
      have hend := run_endRound (P := P) none kl4
      refine ⟨_, _, hend, .inl ⟨rfl, ⟨hI.putObj _ i4 (by omega) kl4 rfl, ?_, (World.putObj_heap_other (by omega)).trans kd4⟩, ?_⟩⟩
      · rw [World.putObj_heap_same (Array.getElem?_eq_some_iff.1 kl4).1, hRB, hR0]
        rfl
      · have h4 := kf4.size
        simp [World.putObj] at h4 ⊢
        exact h4
    | exit i =>
      obtain ⟨rfl, kf4, i4⟩ := hp
      have kl4 := kf4.same _ _ (by omega) kl3 rfl
      have kd4 := kf4.same _ _ (Nat.le_refl _) kd3 rfl
      have hend := run_endRound (P := P) (some (.exit i)) kl4
      refine ⟨_, _, hend, .inr ⟨rfl, hIx.putObj (s := ()) _ i4 (by omega) kl4 rfl, ?_, (World.putObj_heap_other (by omega)).trans kd4⟩⟩
      rw [World.putObj_heap_same (Array.getElem?_eq_some_iff.1 kl4).1, hRD, hRB, hR0]
      rfl
    | ret => exact hp.elim
    | goto t => exact hp.elim
    | panic ch => exact hp.elim
    | outgrown => exact hp.elim
  · rintro e W2 ⟨⟨v, rfl⟩, i2, kl, kd⟩
    exact ⟨some (.exit id), _, by have := run_endLoop (P := P) kl (by rw [hRD]; simp); rw [hRD] at this; exact this, hstop _ (hIx.putObj (s := ()) _ i2 (by omega) kl rfl) ((World.putObj_heap_other (by omega)).trans kd)⟩
end Go.Proofs.Ytjeofkemfpdieaa
