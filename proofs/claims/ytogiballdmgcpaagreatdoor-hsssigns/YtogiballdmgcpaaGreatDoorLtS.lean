/- Trees of leaves that sign once: the document's Sign. -/
import Derived.Test.YtogiballdmgcpaaGreatDoorLtR2
import Derived.Test.YtogiballdmgcpaaGreatDoorPlan
import Derived.Test.YtogiballdmgcpaaGreatDoorHSl
import Derived.Test.YtogiballdmgcpaaGreatDoorLtP2
import Derived.Test.YtogiballdmgcpaaGreatDoorLmS
import Derived.Test.YtogiballdmgcpaaGreatDoorBase
namespace Go.Proofs.YtogiballdmgcpaaGreatDoor
open Go.RowKit
set_option linter.unusedVariables false
set_option linter.unusedSimpArgs false

/-- a leaf's signature -/
def sgT (k n m s c : Nat) (id seed text : List Nat) (q : Nat) : List Nat := sgnH shaL (preL id q) c (digsL k n m s (digH shaL (preL id q) (lmCn shaL (preL id q) seed) text)) seed
theorem sgT_len (k n m s c : Nat) (id seed text : List Nat) (q : Nat) : (sgT k n m s c id seed text q).length = 36 + 32 * (n + m) := by unfold sgT; rw [sgnH_len, digs_len]; exact fun _ => shaL_len _
theorem rsgnK {k n m s c : Nat} (hk : Kd k n m s c) (h8 : k ≠ 8) (id seed text : List Nat) (q : Nat) (idv sv tv : Value) (w : World) (hi : Row .u8 256 w idv id) (ti : Tidy idv) (hs : Row .u8 256 w sv seed) (ts : Tidy sv) (ht : Row .u8 256 w tv text) (tt : Tidy tv) (hq : q < 4294967296) (hl : id.length = 16) (hsl : seed.length = 32) (htl : text.length ≤ 10000) :
    Calls Tryz.prog 55 #[.int .i64 (k : Int), idv, .int .u32 (q : Int), sv, tv] w fun e w' => ∃ v, e = .returned (.tuple #[v, .int .i64 0]) ∧ Row .u8 256 w' v (sgT k n m s c id seed text q) ∧ New w.heap.size v ∧ Below w.heap.size w w' := by
  cases hk
  · exact rsgn_1 id seed text q idv sv tv w hi ti hs ts ht tt hq hl hsl htl
  · exact rsgn_2 id seed text q idv sv tv w hi ti hs ts ht tt hq hl hsl htl
  · exact rsgn_4 id seed text q idv sv tv w hi ti hs ts ht tt hq hl hsl htl
  · exact absurd rfl h8
theorem GrT.lit3 {w : World} {u v x : Value} {a b c : List Nat} (hu : Row .u8 256 w u a) (tu : Tidy u) (hv : Row .u8 256 w v b) (tv : Tidy v) (hx : Row .u8 256 w x c) (tx' : Tidy x) (la : 0 < a.length) (lb : 0 < b.length) (lc : 0 < c.length) : GrT (w.alloc (.cells #[u, v, x] 23)) w.heap.size (.slice (some ⟨w.heap.size, 0, none⟩) 3 3) [a, b, c] := by
  have hb := keep_alloc w (.cells #[u, v, x] 23)
  have ap : ∀ {y : Value} {l : List Nat}, Row .u8 256 w y l → 0 < l.length → Apart1 (w.alloc (.cells #[u, v, x] 23)) (.slice (some ⟨w.heap.size, 0, none⟩) 3 3) y := fun hx hl q hq => by
    have h1 := hx.old hl hq
    refine ⟨by rw [World.size_alloc]; omega, fun e => ?_⟩
    have : w.heap.size = q := by simpa [Value.ownBlock] using e
    omega
  refine ⟨⟨[u, v, x], World.ownsRow_lit (base := w.heap.size) (e := 23) (size := 1) w #[u, v, x] 3 (Nat.le_refl _) (by decide) rfl, texts_cons (hu.below hb) tu (texts_cons (hv.below hb) tv (texts_cons (hx.below hb) tx' (Texts.nil _))), fun y hy => ?_⟩⟩
  rcases List.mem_cons.1 hy with h | h
  · rw [h]; exact ap hu la
  · rcases List.mem_cons.1 h with h | h
    · rw [h]; exact ap hv lb
    · have : y = x := by simpa using h
      rw [this]; exact ap hx lc
theorem lev_div {h n : Nat} (hn : Lev h n) : ∀ i, i ≤ h → Lev (h - i) (n / 2 ^ i)
  | 0, _ => by rw [Nat.pow_zero, Nat.div_one]; exact hn
  | i + 1, hi => by
    have := lev_div hn i (by omega)
    rw [show h - i = (h - (i + 1)) + 1 by omega] at this
    rw [Nat.pow_succ, ← Nat.div_div_eq_div_mul]
    exact this.up
section
variable {ops : Array Oper} {S : World → Prop}
theorem y_convT {o : Oper} {a : Act} {x : Operand} {q : Nat} (hg : o.guard = none) (ho : o.op = .convert 52 26 x) (hx : a.eval x = .int .u32 (q : Int)) (hq : q < 4294967296) : YieldsIf Tryz.prog ops S o (.int .u64 (q : Int)) a := by
  have h1 : IntKind.u64.wrap (q : Int) = (q : Int) := by rw [IntKind.wrap_u64]; omega
  refine y_of hg fun w _ => ?_
  unfold execOp
  simp only [ho, hx]
  simp [h1, go_sem]
theorem y_fieldT {o : Oper} {a : Act} {x : Operand} {t : TypeId} {q q' f off : Nat} (hg : o.guard = none) (ho : o.op = .fieldAddr t x f) (hx : a.eval x = .pointer (some ⟨q, q', none⟩))
    (hf : ∀ w : World, (Instr.fieldAt t (.pointer (some ⟨q, q', none⟩)) f).run Tryz.prog w = .ok (.pointer (some ⟨q, off, none⟩)) w) : YieldsIf Tryz.prog ops S o (.pointer (some ⟨q, off, none⟩)) a := by
  refine y_of hg fun w _ => ?_
  unfold execOp
  simp only [ho, hx]
  simp [hf w, Sem.run_bind]
theorem fT0 (q : Nat) (w : World) : (Instr.fieldAt 45 (.pointer (some ⟨q, 0, none⟩)) 0).run Tryz.prog w = .ok (.pointer (some ⟨q, 0, none⟩)) w := by simp [go_sem]
end
/-- where the loop stands -/
def SgL (w wD : World) (gO h n : Nat) (pf : List (List Nat)) (f : Nat → List Nat) (vo vi : Value) (wr : World) : Prop := ∃ i : Nat, i ≤ h ∧ vi = .int .i64 ((n / 2 ^ i : Nat) : Int) ∧ GrT wr w.heap.size vo (pf ++ pthA f i n) ∧ But gO wD wr ∧ (∀ g, vo.ownBlock = some g → g = gO ∨ wD.heap.size ≤ g) ∧ Below w.heap.size w wr
def sglt : List Lt := [(0, some 41, [3]), (1, some 42, [41]), (2, some 43, [42]), (0, some 44, [13]), (0, some 45, [5]), (16, some 46, [45]), (36, some 47, [46]), (64, some 48, [47]), (140, some 49, [43, 44, 48]), (511, some 15, [49])]
theorem sgreg : Reg (opsA (cLA (cRA (cRA (cRA (cRA (cRA (Tryz.f30.body.getD .skip)))))))) sglt := ⟨by kernel_rfl, by kernel_rfl⟩
end Go.Proofs.YtogiballdmgcpaaGreatDoor

/- Trees of leaves that sign once: the document's Sign where it answers. -/
namespace Go.Proofs.YtogiballdmgcpaaGreatDoor
open Go.RowKit
set_option linter.unusedVariables false
set_option linter.unusedSimpArgs false

theorem xor1_i64 (n : Nat) (hn : n < 1048576) : bits .xor .i64 (n : Int) 1 = ((n ^^^ 1 : Nat) : Int) := by
  show IntKind.i64.wrap ((BitVec.ofInt 64 (n : Int) ^^^ BitVec.ofInt 64 ((1 : Nat) : Int)).toNat : Int) = _
  rw [BitVec.toNat_xor, ofInt_u64 _ (by omega), ofInt_u64 _ (by omega), IntKind.wrap_i64]
  have : n ^^^ 1 < 2 ^ 20 := Nat.xor_lt_two_pow (by omega) (by decide)
  omega
theorem row_tidyT {k : IntKind} {m : Nat} {w : World} {v : Value} {l : List Nat} (h : Row k m w v l) (hl : 0 < l.length) : Tidy v := by
  obtain ⟨a, c, rfl, _, _, h3, _⟩ := h
  obtain ⟨b, off, rfl, _⟩ := h3 hl
  exact fun n c he => by simp at he
theorem GrT.monoT {w : World} {B B' : Nat} {vo : Value} {ls : List (List Nat)} (h : GrT w B vo ls) (hB : B' ≤ B) : GrT w B' vo ls := by
  obtain ⟨us, h1, h2, h3⟩ := h
  refine ⟨us, ⟨h1.1, ?_⟩, h2, h3⟩
  rcases h1.2 with h4 | ⟨g, cap, cur, e1, e2, e3⟩
  · exact .inl h4
  · exact .inr ⟨g, cap, cur, e1, Nat.le_trans hB e2, e3⟩
theorem pthA_len {f : Nat → List Nat} : ∀ k n, (pthA f k n).length = k
  | 0, n => rfl
  | k + 1, n => by rw [pthA_snoc, List.length_append, pthA_len k n]; rfl
theorem pthA_flat {f : Nat → List Nat} (hf : ∀ i, (f i).length = 32) : ∀ k n, (pthA f k n).flatten.length = 32 * k
  | 0, n => rfl
  | k + 1, n => by rw [pthA_snoc, List.flatten_append, List.length_append, pthA_flat hf k n]; simp [hf]; omega
/-- a text more, from among the knots -/
theorem sgl_next {w wD wr w6 : World} {gO h n i g cap : Nat} {pf : List (List Nat)} {f : Nat → List Nat} {vo u : Value} {us : List Value} (hi : i < h)
    (hown : wr.ownsRow w.heap.size 23 1 vo (pf ++ pthA f i n).length us) (ht : Texts wr us (pf ++ pthA f i n)) (hap : ∀ u ∈ us, Apart1 wr vo u) (hB : But gO wD wr) (hvo : ∀ g, vo.ownBlock = some g → g = gO ∨ wD.heap.size ≤ g) (hb : Below w.heap.size w wr)
    (ru : Row .u8 256 wD u (f ((n / 2 ^ i) ^^^ 1))) (hul : 0 < (f ((n / 2 ^ i) ^^^ 1)).length) (tu : Tidy u) (hu : ∀ q, u.ownBlock = some q → gO < q) (hgO : w.heap.size ≤ gO) (hDs : w.heap.size ≤ wD.heap.size)
    (hown6 : w6.ownsRow w.heap.size 23 1 (.slice (some ⟨g, 0, none⟩) ((pf ++ pthA f i n).length + 1) cap) ((pf ++ pthA f i n).length + 1) (us ++ [u])) (hg6 : (wr.alloc (.cells #[u] 23)).grownBy w6 vo.ownBlock) (hl6 : vo.ownBlock = some g ∨ g = (wr.alloc (.cells #[u] 23)).heap.size) :
    SgL w wD gO h n pf f (.slice (some ⟨g, 0, none⟩) ((pf ++ pthA f i n).length + 1) cap) (.int .i64 ((n / 2 ^ (i + 1) : Nat) : Int)) w6 := by
  have hba := keep_alloc wr (.cells #[u] 23)
  have ruw : Row .u8 256 wr u (f ((n / 2 ^ i) ^^^ 1)) := ru.but (fun _ q hq => by have := hu q hq; omega) hB
  have au : Apart1 wr vo u := fun q hq => by
    have h1 := ru.old hul hq
    have h2 := hu q hq
    refine ⟨Nat.lt_of_lt_of_le h1 hB.size, fun e => ?_⟩
    rcases hvo q e with h | h <;> omega
  have hgr := GrT.push (ht.below hba) (fun u hu => (hap u hu).below hba.size) (ruw.below hba) tu (au.below hba.size) hown6 hg6 hl6
  have hgs := hg6.size
  rw [World.size_alloc] at hgs
  refine ⟨i + 1, by omega, rfl, ?_, ?_, ?_, ?_⟩
  · rw [pthA_snoc, ← List.append_assoc]
    exact hgr
  · refine ⟨hg6.os.trans hB.os, hg6.tape.trans hB.tape, hg6.output.trans hB.output, by have := hB.size; omega, fun k hk hn => ?_⟩
    have hkr : k < wr.heap.size := Nat.lt_of_lt_of_le hk hB.size
    refine (hg6.block k (by rw [World.size_alloc]; omega) fun e => ?_).trans ((hba.block k hkr).trans (hB.block k hk hn))
    rcases hvo k e.symm with h | h
    · exact hn h
    · omega
  · intro g' hg'
    have : g = g' := by simpa [Value.ownBlock] using hg'
    subst this
    rcases hl6 with h | h
    · exact hvo g h
    · rw [World.size_alloc] at h; have := hB.size; omega
  · refine (hb.trans (hba.mono hb.size)).grown hg6 (Nat.le_trans hb.size hba.size) fun j ej => ?_
    rcases hvo j ej with h | h <;> omega
set_option maxHeartbeats 8000000 in
set_option maxRecDepth 100000 in
theorem rsignT_ok {k n m s c : Nat} (hk : Kd k n m s c) (h8 : k ≠ 8) (h : Nat) (hh : h ≤ 10) (id seed text : List Nat) (q : Nat) (idv sv tv : Value) (w : World) (hi : Row .u8 256 w idv id) (ti : Tidy idv) (hs : Row .u8 256 w sv seed) (ts : Tidy sv) (ht : Row .u8 256 w tv text) (tt : Tidy tv) (hne : wrgT (h : Int) (k : Int) id.length seed.length = 0) (hl : id.length = 16) (hsl : seed.length = 32) (htl : text.length ≤ 10000) (hq : q < 2 ^ h) :
    Calls Tryz.prog 30 #[.agg #[.int .i64 (h : Int), .int .i64 (k : Int)], idv, sv, .int .u32 (q : Int), tv] w fun e w' => ∃ v, e = .returned (.tuple #[v, .int .i64 0]) ∧ Own 5 .u8 256 w' w.heap.size v ([be4 q, sgT k n m s c id seed text q, be4 (lmCode h)] ++ pthA (knT k n m h id seed) h (2 ^ h + q)).flatten ∧ Below w.heap.size w w' := by
  have hw := rwrongT_any (h : Int) (k : Int) id seed idv sv (w.alloc (.cells #[.int .i64 (h : Int), .int .i64 (k : Int)] 45)) (hi.below (keep_alloc _ _)) (hs.below (keep_alloc _ _))
  rw [hne] at hw
  have hMb := pow_le_1024 hh
  have hsg := fun y (hb : Below w.heap.size w y) => rsgnK hk h8 id seed text q idv sv tv y (hi.below hb) ti (hs.below hb) ts (ht.below hb) tt (by omega) hl hsl htl
  have hkn := fun y (hb : Below w.heap.size w y) => rknotsK hk h8 h hh id seed idv sv y (hi.below hb) ti (hs.below hb) ts hl hsl
  have hfl := knT_len k n m h id seed
  have hgl := sgT_len k n m s c id seed text q
  have hgl2 : (sgT k n m s c id seed text q).length ≤ 10000 := by rw [hgl]; cases hk <;> decide
  have hgl3 : 0 < (sgT k n m s c id seed text q).length := by rw [hgl]; omega
  have hlev := lev_leaf hq
  obtain ⟨M, hM⟩ : ∃ M, M = 2 ^ h := ⟨_, rfl⟩
  rw [← hM] at hkn hq hMb hlev ⊢
  obtain ⟨Nn, hNn⟩ : ∃ x, x = M + q := ⟨_, rfl⟩
  rw [← hNn] at hlev ⊢
  generalize knT k n m h id seed = f at *
  generalize sgT k n m s c id seed text q = sg at *
  obtain ⟨ia, ic, rfl, _⟩ := hi.opens hl
  obtain ⟨sa, sc, rfl, _⟩ := hs.opens hsl
  obtain ⟨ta, tc, rfl, _⟩ := ht.opens (N := text.length) rfl
  have bN := Bx2T.new w (.int .i64 (h : Int)) (.int .i64 (k : Int))
  have e_M : (2 : Int) ^ h = (M : Int) := by rw [hM]; norm_cast
  have s_M : IntKind.u64.wrap (M : Int) = (M : Int) := by rw [IntKind.wrap_u64]; omega
  have s_M2 : IntKind.i64.wrap (M : Int) = (M : Int) := by rw [IntKind.wrap_i64]; omega
  have s_q : IntKind.u64.wrap (q : Int) = (q : Int) := by rw [IntKind.wrap_u64]; omega
  have s_q2 : IntKind.i64.wrap (q : Int) = (q : Int) := by rw [IntKind.wrap_i64]; omega
  have h_q : ¬ (M : Int) ≤ (q : Int) := by omega
  have g_q : ¬ (q : Int) ≥ (M : Int) := by omega
  have e_N : (M : Int) + (q : Int) = (Nn : Int) := by omega
  have s_N : IntKind.i64.wrap (Nn : Int) = (Nn : Int) := by rw [IntKind.wrap_i64]; omega
  have HM := hide (And.intro hM (And.intro hNn (And.intro hq (And.intro hMb (And.intro hlev (And.intro hfl (And.intro hgl2 hgl3)))))))
  clear hM hNn hne hi hs ht ti ts tt hl hsl htl hk hgl hgl2 hgl3 hq hMb hlev hfl h8
  go_enter Tryz.func30, Tryz.ntmps30
  go_wp2_with (first
    | (go_at_call 46; refine hw.mono ?_; rintro e w1 ⟨rfl, hb1⟩; have b1 := bN.below hb1; have c0 := b1.c0; have c1 := b1.c1; have k1 := keep_trans (keep_alloc w (.cells #[.int .i64 (h : Int), .int .i64 (k : Int)] 45)) hb1)
    | (go_at_call 55; refine (hsg _ k1).mono ?_; rintro e w2 ⟨v2, rfl, r2, n2, hb2⟩; have k2 := keep_trans k1 hb2; have b2 := b1.below hb2; obtain ⟨a2, c2, rfl, _⟩ := r2.opens (N := sg.length) rfl)
    | fail)
  obtain ⟨i0, hi0, hz0, hz1, hz2⟩ := info_text
  have hbd : Below w2.heap.size w2 w2.drew := (Below.refl _ _).drew
  have hSf : ∀ y, Below w2.heap.size w2 y → y.cell? ⟨w.heap.size, 0, none⟩ = some (.int .i64 (h : Int)) := fun y hy => (b2.below hy).c0
  have hS0 := hSf _ hbd
  have hq32 : q < 4294967296 := by have := HM.out; omega
  refine at_begin (ops := (opsA (cLA (cRA (cRA (cRA (cRA (cRA (Tryz.f30.body.getD .skip))))))))) (n := 10) (fun y => y.cell? ⟨w.heap.size, 0, none⟩ = some (.int .i64 (h : Int))) (by kernel_rfl) (by kernel_rfl) ?_
  refine at_takeD (i := 0) (m' := 1) (d := some 41) (v := .int .u32 (q : Int)) sgreg rfl (by decide) rfl rfl (y_move rfl rfl rfl) hS0 ?_
  simp only [Act.put, List.setIfInBounds_toArray, List.set_cons_zero, List.set_cons_succ]
  refine at_takeD (i := 1) (m' := 3) (d := some 42) (v := .int .u64 (q : Int)) sgreg rfl (by decide) rfl rfl (y_convT rfl rfl rfl hq32) hS0 ?_
  simp only [Act.put, List.setIfInBounds_toArray, List.set_cons_zero, List.set_cons_succ]
  refine at_takeD (i := 3) (m' := 11) (d := some 44) (v := .slice a2 sg.length c2) sgreg rfl (by decide) rfl rfl (y_move rfl rfl rfl) hS0 ?_
  simp only [Act.put, List.setIfInBounds_toArray, List.set_cons_zero, List.set_cons_succ]
  refine at_takeD (i := 4) (m' := 27) (d := some 45) (v := .pointer (some ⟨w.heap.size, 0, none⟩)) sgreg rfl (by decide) rfl rfl (y_fieldT rfl rfl rfl (fT0 _)) hS0 ?_
  simp only [Act.put, List.setIfInBounds_toArray, List.set_cons_zero, List.set_cons_succ]
  refine at_takeD (i := 5) (m' := 59) (d := some 46) (v := .int .i64 (h : Int)) sgreg rfl (by decide) rfl rfl (y_load_plain rfl rfl rfl Tryz.underlying3 rfl (fun _ h => h)) hS0 ?_
  simp only [Act.put, List.setIfInBounds_toArray, List.set_cons_zero, List.set_cons_succ]
  refine at_one (i := 2) (m' := 63) sgreg (by decide) rfl ?_
  refine p_call2 (u := .int .u64 (q : Int)) (v := .int .i64 4) (d := some 43) rfl rfl rfl rfl rfl rfl Tryz.call24 ((rbe4 q _ (by omega)).mono ?_)
  rintro e y1 ⟨v3, rfl, o3, e1⟩
  obtain ⟨a3, c3, rfl, _⟩ := o3.row.opens (be4_len q)
  have kd1 := keep_trans hbd e1
  refine ⟨_, rfl, hSf _ kd1, ?_⟩
  simp only [Act.put, List.setIfInBounds_toArray, List.set_cons_zero, List.set_cons_succ]
  refine at_one (i := 6) (m' := 127) sgreg (by decide) rfl ?_
  refine p_call1 (u := .int .i64 (h : Int)) (d := some 47) rfl rfl rfl rfl rfl Tryz.call56 ((rcode_any (h : Int) _).mono ?_)
  rintro e y1' ⟨rfl, hy⟩
  obtain rfl := hy.symm
  refine ⟨_, rfl, hSf _ kd1, ?_⟩
  simp only [Act.put, List.setIfInBounds_toArray, List.set_cons_zero, List.set_cons_succ]
  have hcd : lmCode (h : Int) < 18446744073709551616 := by have := lmCode_32 (h : Int); omega
  refine at_one (i := 7) (m' := 255) sgreg (by decide) rfl ?_
  refine p_call2 (u := .int .u64 ((lmCode (h : Int) : Nat) : Int)) (v := .int .i64 4) (d := some 48) rfl rfl rfl rfl rfl rfl Tryz.call24 ((rbe4 _ _ hcd).mono ?_)
  rintro e y2 ⟨v4, rfl, o4, e2⟩
  obtain ⟨a4, c4, rfl, _⟩ := o4.row.opens (be4_len _)
  have kd2 := keep_trans kd1 e2
  refine ⟨_, rfl, hSf _ kd2, ?_⟩
  simp only [Act.put, List.setIfInBounds_toArray, List.set_cons_zero, List.set_cons_succ]
  have e3 := keep_alloc y2 (.cells #[.slice a3 4 c3, .slice a2 sg.length c2, .slice a4 4 c4] 23)
  have kd3 := keep_trans kd2 e3
  refine at_one (i := 8) (m' := 511) sgreg (by decide) rfl ?_
  refine p_build3 (d := some 49) rfl rfl rfl rfl rfl rfl rfl Tryz.underlying48 hi0 hz1 hz0 ⟨hSf _ kd3, ?_⟩
  simp only [Act.put, List.setIfInBounds_toArray, List.set_cons_zero, List.set_cons_succ]
  refine at_takeD (i := 9) (m' := 1023) (d := some 15) (v := .slice (some ⟨y2.heap.size, 0, none⟩) 3 3) sgreg rfl (by decide) rfl rfl (y_assignA rfl rfl rfl) (hSf _ kd3) ?_
  simp only [Act.put, List.setIfInBounds_toArray, List.set_cons_zero, List.set_cons_succ]
  refine at_done sgreg (by decide) ?_
  have hG0 := GrT.lit3 (o3.row.below e2) (row_tidyT o3.row (by rw [be4_len]; decide)) (r2.below kd2) (row_tidyT r2 HM.out.2.2.2.2.2.2.2) o4.row (row_tidyT o4.row (by rw [be4_len]; decide)) (by rw [be4_len]; decide) HM.out.2.2.2.2.2.2.2 (by rw [be4_len]; decide)
  have b3 := b2.below kd3
  have k3 := keep_trans k2 kd3
  have hy2 : w.heap.size ≤ y2.heap.size := (keep_trans k2 kd2).size
  have hy3 : (y2.alloc (.cells #[.slice a3 4 c3, .slice a2 sg.length c2, .slice a4 4 c4] 23)).heap.size = y2.heap.size + 1 := by simp
  generalize y2.alloc (.cells #[.slice a3 4 c3, .slice a2 sg.length c2, .slice a4 4 c4] 23) = y3 at *
  generalize y2.heap.size = gO at *
  clear kd1 kd2 kd3 e1 e2 e3 o3 o4 r2 n2 hSf hS0 hcd hsg hb2 b2 hbd b1 c0 c1 hb1 k1
  have cH := b3.c0
  have hkn3 := hkn _ k3
  go_wp2_with (first
    | (refine wpList_load_row rfl 45 _ (by rfl) w.heap.size (by rfl) _ _ _ _ b3.here Tryz.underlying45 rfl (by kernel_rfl) ?_)
    | (go_at_call 48; refine hkn3.mono ?_; rintro e wD ⟨H, rfl, kD, hH, hbD⟩; have b4 := b3.below hbD; have cD := b4.c0)
    | fail)
  have h0 : SgL w wD gO h Nn [be4 q, sg, be4 (lmCode (h : Int))] f (.slice (some ⟨gO, 0, none⟩) 3 3) (.int .i64 (Nn : Int)) wD := by
    refine ⟨0, Nat.zero_le _, by rw [Nat.pow_zero, Nat.div_one], ?_, But.refl _ _, fun g hg => .inl ?_, keep_trans k3 hbD⟩
    · exact (hG0.below hbD).monoT hy2
    · have : gO = g := by simpa [Value.ownBlock] using hg
      exact this.symm
  have hHg : gO < H := by omega
  have hDs : w.heap.size ≤ wD.heap.size := (keep_trans k3 hbD).size
  have hMN : 2 * M ≤ 2048 := by have := HM.out; omega
  have HK := hide (And.intro kD (And.intro hHg (And.intro hDs (And.intro hy2 hMN))))
  have H0 := hide h0
  clear h0 hG0 kD hHg hDs hkn hkn3 b3 b4 cH cD hbD k3 hH hy3 hMN hy2
  go_loopw [15, 17] (fun vo vi wr => SgL w wD gO h Nn [be4 q, sg, be4 (lmCode (h : Int))] f vo vi wr) (fun _ vi _ => (intOf vi).toNat)
  case atStart => exact H0.out
  case round =>
    obtain ⟨i, hih, rfl, hG, hB, hvo, hbr⟩ := hrel
    clear H0
    have hL := lev_div HM.out.2.2.2.2.1 i hih
    by_cases hlt : i < h
    · obtain ⟨P, hP⟩ : ∃ P, P = Nn / 2 ^ i := ⟨_, rfl⟩
      obtain ⟨Q, hQ⟩ : ∃ Q, Q = Nn / 2 ^ (i + 1) := ⟨_, rfl⟩
      have hPQ : Q = P / 2 := by rw [hQ, hP, Nat.pow_succ, Nat.div_div_eq_div_mul]
      rw [← hP] at hL ⊢
      obtain ⟨d, hd⟩ : ∃ d, h - i = d + 1 := ⟨h - i - 1, by omega⟩
      rw [hd] at hL
      have hL2 := hL.next
      obtain ⟨j, hj⟩ : ∃ j, j = P ^^^ 1 := ⟨_, rfl⟩
      rw [← hj] at hL2
      have p1 : 2 ^ (d + 1) ≥ 2 := by rw [Nat.pow_succ]; have := Nat.two_pow_pos d; omega
      have p2 : 2 ^ (d + 1 + 1) ≤ 2 * M := by
        have := Nat.pow_le_pow_right (n := 2) (by decide) (show d + 1 + 1 ≤ h + 1 by omega)
        rw [HM.out.1]
        rw [Nat.pow_succ 2 h] at this
        omega
      have hP2 : 2 ≤ P := Nat.le_trans p1 hL.1
      have hPN : P < 2 * M := Nat.lt_of_lt_of_le hL.2 p2
      have hj1 : 1 ≤ j := by have := hL2.1; omega
      have hj2 : j < 2 * M := Nat.lt_of_lt_of_le hL2.2 p2
      obtain ⟨kD, hHg, hDs, hy2, hMN⟩ := HK.out
      obtain ⟨u, cu, ru, tu, hu⟩ := kD.cell2 hj1 hj2
      have cu2 := But.cell cu hB (by show H ≠ gO; omega)
      have hfl := HM.out.2.2.2.2.2.1 j
      obtain ⟨ua, uc, rfl, _⟩ := ru.opens hfl
      have hG' := hG
      obtain ⟨us, how, htx, hap⟩ := hG'
      obtain ⟨oa, oc, rfl⟩ := hG.slice
      have hxo := xor1_i64 P (by omega)
      rw [← hj] at hxo
      have gP : (P : Int) > 1 := by omega
      have gP2 : (1 : Int) < (P : Int) := by omega
      have z_j : (0 : Int) ≤ (j : Int) := Int.natCast_nonneg _
      have l_j : (j : Int) < ((2 * M : Nat) : Int) := by omega
      have e_Q : (P : Int).tdiv 2 = (Q : Int) := by rw [Int.tdiv_eq_ediv_of_nonneg (by omega)]; omega
      have e_Q2 : (P : Int) / 2 = (Q : Int) := by omega
      have s_Q : IntKind.i64.wrap (Q : Int) = (Q : Int) := by rw [IntKind.wrap_i64]; omega
      have hll : ([be4 q, sg, be4 (lmCode (h : Int))] ++ pthA f i Nn).length ≤ 1000 := by rw [List.length_append, pthA_len]; simp; omega
      obtain ⟨LL, hLL⟩ : ∃ LL, ([be4 q, sg, be4 (lmCode (h : Int))] ++ pthA f i Nn).length = LL := ⟨_, rfl⟩
      obtain ⟨NN, hNN⟩ : ∃ NN, 2 * M = NN := ⟨_, rfl⟩
      rw [hNN] at l_j ⊢
      rw [hj, hP] at ru hfl
      have HR := hide (And.intro hlt (And.intro how (And.intro htx (And.intro hap (And.intro hB (And.intro hvo (And.intro hbr (And.intro ru (And.intro hfl (And.intro tu hu))))))))))
      have HS := hide (And.intro hHg (And.intro hDs (And.intro hy2 (And.intro hLL (And.intro hll (And.intro hPQ (And.intro hQ (And.intro hP2 hP))))))))
      have how2 := how.alloc (.cells #[.slice ua 32 uc] 23)
      rw [hLL] at how2 ⊢
      clear hG how htx hap hB hvo hbr ru hfl tu hu hHg hDs hy2 hMN kD cu hL hL2 hd hj hP hQ hPQ p1 p2 hP2 hPN hj1 hj2 hlt hih hLL hll hNN
      go_wp2_with (first
        | (at_builtin; refine wpList_append_lies _ rfl _ _ 48 rfl w.heap.size 23 i0 (.slice none 0 0) 1 24 Tryz.underlying48 hi0 hz0 hz1 hz2 rfl (by decide) (.slice oa LL oc) LL us rfl how2 ⟨wr.heap.size, 0, none⟩ 1 1 [.slice ua 32 uc] rfl rfl (cell_one_new _ _ _) (by simp [Value.oneCell']) (by decide) (by have := HS.out; unfold maxLen; omega) (by have := HS.out; omega) (by have := HR.out.2.2.2.2.2.2.1.size; rw [World.size_alloc]; omega) _ rfl ?_; intro g6 cap6 w6 how6 hg6 hl6 hlt6)
        | fail)
      go_roundw
      case rel =>
        obtain ⟨hlt, how, htx, hap, hB, hvo, hbr, ru, hfl, tu, hu⟩ := HR.out
        obtain ⟨hHg, hDs, hy2, hLL, hll, hPQ, hQ, hP2, hP⟩ := HS.out
        subst hLL
        have := sgl_next (cap := cap6) hlt how htx hap hB hvo hbr ru (by rw [hfl]; decide) tu (fun q hq => by have := hu q hq; omega) hy2 hDs how6 hg6 hl6
        rw [← hQ] at this
        exact this
      case measure => have := HS.out; simp [intOf]; omega
    · obtain rfl : i = h := by omega
      obtain ⟨P, hP⟩ : ∃ P, P = Nn / 2 ^ i := ⟨_, rfl⟩
      rw [← hP] at hL ⊢
      rw [Nat.sub_self] at hL
      have hP1 : P = 1 := by have h1 := hL.1; have h2 := hL.2; simp at h1 h2; omega
      subst hP1
      have hrw := hG.rows
      have hfl := pthA_flat HM.out.2.2.2.2.2.1 i Nn
      have hj := rjoin_any _ _ _ hrw (by rw [List.flatten_append, List.length_append, hfl]; have := HM.out.2.2.2.2.2.2.1; simp [be4_len]; omega)
      obtain ⟨oa, oc, rfl⟩ := hG.slice
      obtain ⟨LS, hLS⟩ : ∃ LS, ([be4 q, sg, be4 (lmCode (i : Int))] ++ pthA f i Nn) = LS := ⟨_, rfl⟩
      rw [hLS] at hj ⊢
      have gP : ¬ ((1 : Nat) : Int) > 1 := by decide
      have gP2 : ¬ (1 : Int) < ((1 : Nat) : Int) := by decide
      have HB := hide (And.intro hbr hLS)
      clear hG hrw hB hvo hbr hL hfl hlt hih hP hLS
      go_wp2_with (first
        | (go_at_call 31; refine hj.mono ?_; rintro e y9 ⟨v9, rfl, o9, e9⟩)
        | fail)
      go_ret2
      exact ⟨_, rfl, by have hz := o9.mono HB.out.1.size; rw [← HB.out.2] at hz; exact hz, keep_trans HB.out.1 e9⟩
end Go.Proofs.YtogiballdmgcpaaGreatDoor

/- Steps of a plan behind a guard, apart from keccak's. -/
namespace Go.Proofs.YtogiballdmgcpaaGreatDoor
open Go.RowKit
set_option linter.unusedVariables false
set_option linter.unusedSimpArgs false
section
variable {ops : Array Oper} {Q : Exit → Act → World → Prop} {S : World → Prop} {K : Act → World → Prop}
theorem y_toG {o : Oper} {a : Act} {x y : Operand} {aa : Option Addr} {n c F : Nat} (hw : Region.wanted o (yielded ops a.tmps) = true) (ho : o.op = .slice 23 x none (some y) none) (hx : a.eval x = .slice aa n c) (hy : a.eval y = .int .i64 (F : Int)) (hF : F ≤ c) : YieldsIf Tryz.prog ops S o (.slice aa F c) a := by
  refine y_ofG hw fun w _ => ?_
  have h := slice_to aa n c F hF w
  unfold execOp
  simp only [ho, hx, Option.map_none, Option.map_some, hy]
  simp [Instr.sliceAt, Sem.run_bind, h, run_underlying Tryz.underlying23, go_sem]
end
end Go.Proofs.YtogiballdmgcpaaGreatDoor

/- Trees of leaves that sign once: the document's Verify where it comes to the sums. -/
namespace Go.Proofs.YtogiballdmgcpaaGreatDoor
open Go.RowKit
set_option linter.unusedVariables false
set_option linter.unusedSimpArgs false

/-- what a kind of leaf has -/
def nK (k : Nat) : Nat := if k = 1 then 256 else if k = 2 then 128 else if k = 4 then 64 else 32
def mK (k : Nat) : Nat := if k = 1 then 9 else if k = 2 then 5 else if k = 4 then 3 else 2
def sK (k : Nat) : Nat := if k = 1 then 7 else if k = 2 then 6 else if k = 4 then 4 else 0
def cK (k : Nat) : Nat := if k = 1 then 1 else if k = 2 then 2 else if k = 4 then 3 else 4
theorem Kd.is {k n m s c : Nat} (h : Kd k n m s c) : n = nK k ∧ m = mK k ∧ s = sK k ∧ c = cK k := by cases h <;> exact ⟨rfl, rfl, rfl, rfl⟩
theorem Kd.size {k n m s c : Nat} (h : Kd k n m s c) : szW (k : Int) = 36 + 32 * (n + m) := by cases h <;> rfl
end Go.Proofs.YtogiballdmgcpaaGreatDoor
