/- Trees of trees, the program's own: the levels of a signature, by an iterator that keeps the level it stands at in a box. -/
import Derived.Test.YtogiballdmgcpaaGreatDoorLhA
import Derived.Test.YtogiballdmgcpaaGreatDoorLtV
import Derived.Test.YtogiballdmgcpaaGreatDoorLhS
import Derived.Test.YtogiballdmgcpaaGreatDoorLhO
import Derived.Test.YtogiballdmgcpaaGreatDoorLcS
import Derived.LoopIn
import Derived.Deep.MidRow
import Derived.Stop.RegionWithIn
namespace Go.Proofs.YtogiballdmgcpaaGreatDoor
open Go.RowKit Go.Shelf
set_option linter.unusedVariables false
set_option linter.unusedSimpArgs false
attribute [local go_sem] Oper.semAt_some

theorem grown_belowH {W y : World} (hb : Below W.heap.size W y) : W.grownBy y none := ⟨hb.os, hb.tape, hb.output, hb.size, fun k hk _ => hb.block k hk⟩
theorem wpListIn_rowH {F : Fence} {n : Nat} {ops : Array Oper} {Q : Exit → Act → World → Prop} {rest : List Oper} {o : Oper} {a : Act} {w : World} (hF : ∀ f, F.fn f) (hg : o.guard = none) (t : TypeId) (x : Operand) (ho : o.op = .load t x) (b c : Nat) (hx : a.eval x = .pointer (some ⟨b, c, none⟩)) (cs : List Value) (d : TypeDesc) (hc : w.rangeAt b c cs)
    (hu : Tryz.prog.underlying t = some d) (hd : d.isRow = true) (hi : (Tryz.prog.info? t).map (·.size) = some cs.length) (h : wpListIn F n Tryz.prog ops Q rest (a.put o.dst (.agg cs.toArray)) w) : wpListIn F n Tryz.prog ops Q (o :: rest) a w := by
  have hr : (execOp a.eval o).run Tryz.prog w = .ok (.value (.agg cs.toArray)) w := by
    unfold execOp
    simp only [ho, hx, Instr.loadAt, Instr.sureAddr, Sem.run_bind, Sem.run_pure, Result.andThen_ok, run_loadVar_mid w b c t cs d hc hu hd hi]
  refine wpListIn_plain hg fun K hK => ?_
  unfold Oper.wpIn
  refine ⟨fun f _ => hF f, ?_⟩
  rw [Oper.semAt_eq _ _ _ (fun c hc => by rw [ho] at hc; cases hc), hr]
  exact hK _ _ h
theorem set_hereH {W : World} {B i : Nat} {cs : Array Value} {t : TypeId} {fz : Nat × Nat} (u : Value) (h : W.heap[B]? = some (.cells cs t fz)) : (W.setCell ⟨B, i, none⟩ u).heap[B]? = some (.cells (cs.setIfInBounds i u) t fz) := by
  obtain ⟨hlt, hk⟩ := Array.getElem?_eq_some_iff.1 h
  show (W.heap.modify B _)[B]? = _
  rw [Array.getElem?_eq_getElem (by rw [Array.size_modify]; exact hlt), Array.getElem_modify_self, hk]
  rfl
theorem BxH.set2 {W : World} {B : Nat} {a b c d e : Value} (h : BxH W B a b c d e) (u : Value) : BxH (W.setCell ⟨B, 2, none⟩ u) B a b u d e := ⟨set_hereH u h.here⟩
theorem BxH.set3 {W : World} {B : Nat} {a b c d e : Value} (h : BxH W B a b c d e) (u : Value) : BxH (W.setCell ⟨B, 3, none⟩ u) B a b c u e := ⟨set_hereH u h.here⟩
theorem BxH.set4 {W : World} {B : Nat} {a b c d e : Value} (h : BxH W B a b c d e) (u : Value) : BxH (W.setCell ⟨B, 4, none⟩ u) B a b c d u := ⟨set_hereH u h.here⟩
theorem BxH.tree {W : World} {B : Nat} {a b c d e : Value} (h : BxH W B a b c d e) (u v : Value) : BxH (W.setCells B 0 [u, v]) B u v c d e := ⟨set_hereH v (set_hereH u h.here)⟩
theorem BxH.there2 {W : World} {B : Nat} {a b c d e : Value} (h : BxH W B a b c d e) : W.there B 0 2 := fun j hj => by
  match j, hj with
  | 0, _ => exact ⟨by simp [World.cell?, h.here], by simp [World.frozen?, h.here]⟩
  | 1, _ => exact ⟨by simp [World.cell?, h.here], by simp [World.frozen?, h.here]⟩
theorem BxH.frozen {W : World} {B : Nat} {a b c d e : Value} (h : BxH W B a b c d e) (i : Nat) : W.frozen? ⟨B, i, none⟩ = false := by simp [World.frozen?, h.here]
theorem But.cells2 {g : Nat} {a w : World} (h : But g a w) (u v : Value) : But g a (w.setCells g 0 [u, v]) := (h.setCell 0 u).setCell 1 v
theorem y_shrH {ops : Array Oper} {S : World → Prop} {o : Oper} {a : Act} {x y : Operand} {t t' : TypeId} {i q : Int} {s : Nat} (hw : Region.wanted o (yielded ops a.tmps) = true) (ho : o.op = .binOp .shr t x y t') (hx : a.eval x = .int .u64 i) (hy : a.eval y = .int .i64 (s : Int)) (hu : Tryz.prog.underlying t = some (.int .u64)) (hu' : Tryz.prog.underlying t' = some (.int .i64)) (hs : s < 64) (hb : i / 2 ^ s = q) : YieldsIf Tryz.prog ops S o (.int .u64 q) a := by
  refine y_ofG hw fun w _ => ?_
  have hm : min s 64 = s := Nat.min_eq_left (Nat.le_of_lt hs)
  unfold execOp
  simp only [ho, hx, hy]
  simp [go_sem, hu, hu', hm, hb]
/-- a struct loaded, as a step of its own -/
theorem p_loadRowH {ops : Array Oper} {Q : Exit → Act → World → Prop} {K : Act → World → Prop} {i : Nat} {o : Oper} {a : Act} {w : World} {d : Option Nat} {t : TypeId} {x : Operand} {b c : Nat} {cs : List Value} {dd : TypeDesc} (hi : ops[i]? = some o) (hw : Region.wanted o (yielded ops a.tmps) = true) (ho : o.op = .load t x) (hd : o.dst = d) (hx : a.eval x = .pointer (some ⟨b, c, none⟩)) (hc : w.rangeAt b c cs)
    (hu : Tryz.prog.underlying t = some dd) (hr : dd.isRow = true) (hz : (Tryz.prog.info? t).map (·.size) = some cs.length) (h : K (a.put d (.agg cs.toArray)) w) : wpOp Tryz.prog ops Q i K a w :=
  p_wpG hi hw (wp_load_mid t x ho b c hx cs dd hc hu hr hz (by rw [hd]; exact h))
/-- the id and the seed of a level's tree -/
structure LvT (vc id seed : List Nat) (i : Nat) (W : World) (iv sv : Value) : Prop where
  ri : Row .u8 256 W iv (stH vc id seed i).1
  ti : Tidy iv
  rs : Row .u8 256 W sv (stH vc id seed i).2
  ts : Tidy sv
theorem LvT.below {vc id seed : List Nat} {i : Nat} {W W' : World} {iv sv : Value} (h : LvT vc id seed i W iv sv) (hb : Below W.heap.size W W') : LvT vc id seed i W' iv sv := ⟨h.ri.below hb, h.ti, h.rs.below hb, h.ts⟩
/-- what a round meets: the level's place, and the level -/
def LvR (ts : List (Int × Int)) (vc id seed : List Nat) (iv0 sv0 : Value) (i D : Nat) (vs : Array Value) (W : World) : Prop :=
  ∃ iv sv, vs = #[.int .i64 (i : Int), .agg #[.int .i64 (trA ts i).1, .int .i64 (trA ts i).2, iv, sv, .int .u32 (el vc i : Nat)]] ∧ LvT vc id seed i W iv sv ∧ ((i = 0 ∧ iv = iv0 ∧ sv = sv0) ∨ (0 < i ∧ New D iv ∧ New D sv))
/-- a text that is old, or new since lo, in a world that keeps what is new since lo -/
theorem row_keptH {lo : Nat} {A B : World} {u : Value} {l : List Nat} (h : Row .u8 256 A u l) (hn : New lo u) (hk : Kept lo A B) : Row .u8 256 B u l := by
  obtain ⟨a, cap, rfl, h1, h2, h3, h4⟩ := h
  refine ⟨a, cap, rfl, h1, h2, fun hl => ?_, h4⟩
  obtain ⟨b, off, rfl, hc⟩ := h3 hl
  refine ⟨b, off, rfl, fun i hi => ?_⟩
  have hb : lo ≤ b := hn b (by simp [Value.ownBlock])
  have hlt := World.block_lt_of_cell? A _ (hc i hi)
  have := hk.block b hb hlt
  have hci := hc i hi
  unfold World.cell? at hci ⊢
  simp only at hci ⊢
  rw [this]
  exact hci
theorem row_butH {g : Nat} {A B : World} {u : Value} {l : List Nat} (h : Row .u8 256 A u l) (hn : ∀ q, 0 < l.length → u.ownBlock = some q → q ≠ g) (hk : But g A B) : Row .u8 256 B u l := by
  obtain ⟨a, cap, rfl, h1, h2, h3, h4⟩ := h
  refine ⟨a, cap, rfl, h1, h2, fun hl => ?_, h4⟩
  obtain ⟨b, off, rfl, hc⟩ := h3 hl
  refine ⟨b, off, rfl, fun i hi => ?_⟩
  exact But.cell (hc i hi) hk (hn b hl (by simp [Value.ownBlock]))
theorem LvT.but {vc id seed : List Nat} {i g : Nat} {W W' : World} {iv sv : Value} (h : LvT vc id seed i W iv sv) (hb : But g W W') (h1 : ∀ q, iv.ownBlock = some q → q ≠ g) (h2 : ∀ q, sv.ownBlock = some q → q ≠ g) : LvT vc id seed i W' iv sv := ⟨row_butH h.ri (fun q _ hq => h1 q hq) hb, h.ti, row_butH h.rs (fun q _ hq => h2 q hq) hb, h.ts⟩
set_option maxHeartbeats 2000000 in
set_option maxRecDepth 100000 in
theorem levels_any (tv : Value) (ia sa : Option Addr) (il ic sl sc n : Nat) (w : World) (ht : ∃ a k c, tv = .slice a k c) :
    Calls Tryz.prog 26 #[.agg #[tv, .slice ia il ic, .slice sa sl sc], .int .u64 (n : Int)] w fun e w' => e = .returned (.func (.func 49) #[] #[.pointer (some ⟨w.heap.size, 0, none⟩), .pointer (some ⟨w.heap.size + 1, 0, none⟩)]) ∧ w' = (w.alloc (.cells #[tv, .slice ia il ic, .slice sa sl sc] 25)).alloc (.cells #[.int .u64 (n : Int)] 26) := by
  obtain ⟨a, k, c, rfl⟩ := ht
  go_enter Tryz.func26, Tryz.ntmps26
  go_wp2
  go_ret
  exact ⟨rfl, rfl⟩
/-- what the worlds of a level's last region share: a box whose last cell alone is turned -/
def LvB (y : World) (B : Nat) (a b c d : Value) (w : World) : Prop := But B y w ∧ ∃ e, BxH w B a b c d e
theorem LvB.step {y w z : World} {B : Nat} {a b c d : Value} (h : LvB y B a b c d w) (hb : Below w.heap.size w z) : LvB y B a b c d z := by
  obtain ⟨h1, e, h2⟩ := h
  exact ⟨h1.trans (But.of_below hb), e, h2.below hb⟩
theorem sumH_cons (t : Int × Int) (ts : List (Int × Int)) : sumH (t :: ts) = t.1 + sumH ts := rfl
/-- where the iterator stands -/
def LvS (W v0 : World) (J : Nat → World → Prop) (ts : List (Int × Int)) (vc id seed : List Nat) (iv0 sv0 : Value) (vl vi : Value) (wr : World) : Prop :=
  ∃ i : Nat, i ≤ ts.length ∧ vi = .int .i64 (i : Int) ∧ vl = .int .i64 (sumH (ts.drop i)) ∧ (∃ W0, J i W0 ∧ But W.heap.size W0 wr ∧ W.heap.size ≤ W0.heap.size ∧ (0 < i → W0 = wr)) ∧ W.heap.size < wr.heap.size ∧
    ∃ (a b : Int) (ia sa : Option Addr) (ic sc : Nat) (q : Nat), BxH wr W.heap.size (.int .i64 a) (.int .i64 b) (.slice ia 16 ic) (.slice sa 32 sc) (.int .u32 (q : Int)) ∧ q < 4294967296 ∧
      (i = 0 → (.slice ia 16 ic) = iv0 ∧ (.slice sa 32 sc) = sv0) ∧ (∀ p, i = p + 1 → LvT vc id seed p wr (.slice ia 16 ic) (.slice sa 32 sc) ∧ q = el vc p)
def lv9lt : List Lt := [(0, some 39, [4]), (0, some 40, [2]), (0, some 41, [5]), (6, some 42, [40, 41]), (9, some 43, [39, 42]), (31, some 44, [4]), (63, none, [44, 43])]
theorem lv9reg : Reg (opsA (cLA (cRA (cRA (cRA (cRA (cBA (cLA (cRA (cRA (cLpA (cBA (cRA (cRA (cRA (Tryz.f49.body.getD .skip)))))))))))))))) lv9lt := ⟨by kernel_rfl, by kernel_rfl⟩
set_option maxHeartbeats 8000000 in
set_option maxRecDepth 100000 in
theorem lv1_own (m : Nat) (hm : 2 ≤ m) (B1 B2 n : Nat) (ts : List (Int × Int)) (tv iv0 sv0 : Value) (id seed : List Nat) (v0 w0 : World) (V : World → Prop) (ht : TrS v0 tv ts) (hK : FitK ts id.length seed.length) (ri : Row .u8 256 v0 iv0 id) (ti : Tidy iv0) (rs : Row .u8 256 v0 sv0 seed) (tis : Tidy sv0) (hT : Roots v0) (hn : n < 18446744073709551616)
    (hV : ∀ W, V W → Below v0.heap.size v0 W ∧ Boxed W B2 26 (.int .u64 (n : Int))) (b1 : BxK w0 B1 tv iv0 sv0) (hB2 : B2 < w0.heap.size) :
    OwnRel m Tryz.prog 49 #[.pointer (some ⟨B1, 0, none⟩), .pointer (some ⟨B2, 0, none⟩)] ts.length (LvR ts (vecF ts n) id seed iv0 sv0) V w0 := by
  intro l J W hW hlW hJV hY h0
  have h1m : 1 ≤ m := by omega
  show CallsIn Fence.wide m Tryz.prog 49 #[.func (.yield l) #[] #[], .pointer (some ⟨B1, 0, none⟩), .pointer (some ⟨B2, 0, none⟩)] W _
  have hid := hK.2.2.2.2.1
  have hsd := hK.2.2.2.2.2
  have hv0 := (hV W (hJV 0 W h0)).1
  have hv0s := hv0.size
  have hB2W : B2 < W.heap.size := Nat.lt_of_lt_of_le hB2 hW.size
  have bW := b1.below hW
  obtain ⟨ia0, ic0, rfl, _⟩ := ri.opens hid
  obtain ⟨sa0, sc0, rfl, _⟩ := rs.opens hsd
  have hhg := fun y (k : Below v0.heap.size v0 y) => chgt_any ts tv ia0 sa0 16 ic0 32 sc0 y (ht.below k) hK.2.1 hK.2.2.1
  have ht' := ht
  obtain ⟨ta, tc, rfl, t1, t2, tcell⟩ := ht'
  obtain ⟨N, hN⟩ : ∃ N, ts.length = N := ⟨_, rfl⟩
  have hN8 : N ≤ 8 := by have := hK.2.1; omega
  rw [hN] at bW hhg hY ⊢
  have kb := keep_alloc W (.cells #[.int .i64 0, .int .i64 0, .slice ia0 16 ic0, .slice sa0 32 sc0, .int .u32 0] 54)
  have bB := BxH.new W (.int .i64 0) (.int .i64 0) (.slice ia0 16 ic0) (.slice sa0 32 sc0) (.int .u32 0)
  have c1 := bW.c1
  have c2 := bW.c2
  have bW1 := bW.below kb
  have HK := hide (And.intro hK (And.intro tcell (And.intro hN (And.intro hW (And.intro hB2W (And.intro hid (And.intro hsd (And.intro hn (And.intro ri (And.intro ti (And.intro rs (And.intro tis (And.intro hT (And.intro hv0s (And.intro h0 hN8)))))))))))))))
  have hhg1 := hhg _ (keep_trans hv0 kb)
  clear hK tcell ri ti rs tis hT hN hW hid hsd hn h0 hv0 hv0s ht hN8 hhg b1 t1 t2
  refine callsIn_of_wp Tryz.func49 rfl trivial (wpIn_wide.2 ?_) rfl
  simp only [Tryz.ntmps49, List.size_toArray, List.length_cons, List.length_nil, Nat.reduceAdd, Nat.reduceSub, Array.replicate_succ, Array.replicate_zero, List.push_toArray, List.append_toArray, List.nil_append, List.cons_append]
  go_wp2_with (first
    | (refine wpList_load_row rfl 25 _ (by rfl) B1 (by rfl) _ _ _ _ bW1.here Tryz.underlying25 rfl (by kernel_rfl) ?_)
    | (go_at_call 39; refine hhg1.mono ?_; rintro e w1 ⟨rfl, g1⟩; have bW2 := bW1.below g1; have d0 := bW2.c0)
    | fail)
  have kb1 := keep_trans kb g1
  have H0 : Hid (LvS W v0 J ts (vecF ts n) id seed (.slice ia0 16 ic0) (.slice sa0 32 sc0) (.int .i64 (sumH ts)) (.int .i64 0) w1) := hide ⟨0, Nat.zero_le _, rfl, rfl, ⟨W, HK.out.2.2.2.2.2.2.2.2.2.2.2.2.2.2.1, But.of_below kb1, Nat.le_refl _, fun h => by omega⟩, Nat.lt_of_lt_of_le bB.lt g1.size, 0, 0, ia0, sa0, ic0, sc0, 0, bB.below g1, by decide, fun _ => ⟨rfl, rfl⟩, fun p hp => by omega⟩
  clear bB kb kb1 bW bW1 c1 c2 bW2 d0 g1 hhg1
  go_loopw [5, 18] (fun vl vi wr => LvS W v0 J ts (vecF ts n) id seed (.slice ia0 16 ic0) (.slice sa0 32 sc0) vl vi wr) (fun _ vi _ => N - (intOf vi).toNat)
  case atStart => exact H0.out
  case round =>
    obtain ⟨i, hi, rfl, rfl, ⟨W0, hJ0, hbt, hWs, hWe⟩, hlt0, a, b, ia, sa, ic, sc, q0, bx, hq0, hst0, hstp⟩ := hrel
    clear H0
    obtain ⟨hK, tcell, hN, hW, hB2W, hid, hsd, hn, ri, ti, rs, tis, hT, hv0s, h0, hN8⟩ := HK.out
    by_cases hlt : i < N
    · have hlt' : (i : Int) < (N : Int) := by omega
      have hge' : ¬ ((N : Int) ≤ (i : Int)) := by omega
      obtain ⟨tb, to, rfl, tcc⟩ := tcell (by omega)
      obtain ⟨x1, x2⟩ := tcc i (by omega)
      obtain ⟨kv0, bq0⟩ := hV W0 (hJV i W0 hJ0)
      have kvr : Below v0.heap.size v0 wr := kv0.trans (hbt.below hv0s kv0.size)
      have bqr := boxed_butL bq0 hbt (by omega)
      have y1 : wr.cell? ⟨tb, to + i * 2, none⟩ = some (.int .i64 (trA ts i).1) := keep_cell x1 kvr
      have y2 : wr.cell? ⟨tb, to + i * 2 + 1, none⟩ = some (.int .i64 (trA ts i).2) := keep_cell x2 kvr
      have hg := hK.2.2.1 _ (trA_mem (ts := ts) (i := i) (by omega))
      have hp := hg.pos
      have hdr : sumH (ts.drop i) = (trA ts i).1 + sumH (ts.drop (i + 1)) := by rw [tr_drop (by omega), sumH_cons]
      have hs0 := sumH_drop hK.2.2.1 (i + 1)
      have hsm : sumH (ts.drop i) ≤ 60 := by
        have h1 : sumH ts = sumH (ts.take i) + sumH (ts.drop i) := by
          have : ∀ (xs ys : List (Int × Int)), sumH (xs ++ ys) = sumH xs + sumH ys := by
            intro xs ys
            induction xs with
            | nil => show sumH ys = 0 + sumH ys; omega
            | cons x xs ih => show x.1 + sumH (xs ++ ys) = x.1 + sumH xs + sumH ys; rw [ih]; omega
          rw [← this, List.take_append_drop]
        have h2 := (sumH_le (ts.take i) (fun t h => hK.2.2.1 t (List.mem_of_mem_take h))).1
        have := hK.2.2.2.1
        omega
      obtain ⟨SR, hSR⟩ : ∃ s : Nat, sumH (ts.drop (i + 1)) = (s : Int) := ⟨(sumH (ts.drop (i + 1))).toNat, by omega⟩
      have hel : el (vecF ts n) i = n / 2 ^ SR % 2 ^ (trA ts i).1.toNat := by
        rw [vecF_at n (by omega)]
        unfold lvN
        rw [hSR, Int.toNat_natCast]
      have hli := fun (x : Int) (ia2 sa2 : Option Addr) (ic2 sc2 : Nat) (q2 : Int) y => chleaf (trA ts i).1.toNat (n / 2 ^ SR) x ia2 sa2 16 ic2 32 sc2 q2 y (by omega) (Nat.lt_of_le_of_lt (Nat.div_le_self _ _) hn)
      rw [← hel] at hli
      have hqi : el (vecF ts n) i < 4294967296 := by
        have h1 := vecF_el (ts := ts) (i := i) n (by omega)
        exact Nat.lt_of_lt_of_le h1 (Nat.le_trans (Nat.pow_le_pow_right (by decide) (show (trA ts i).1.toNat ≤ 10 by omega)) (by decide))
      have hYY := hY i
      have hRR : ∀ (u v : Value) y, LvT (vecF ts n) id seed i y u v → (i = 0 ∧ u = (.slice ia0 16 ic0) ∧ v = (.slice sa0 32 sc0) ∨ 0 < i ∧ New W0.heap.size u ∧ New W0.heap.size v) → LvR ts (vecF ts n) id seed (.slice ia0 16 ic0) (.slice sa0 32 sc0) i W0.heap.size #[.int .i64 (i : Int), .agg #[.int .i64 (trA ts i).1, .int .i64 (trA ts i).2, u, v, .int .u32 (el (vecF ts n) i : Nat)]] y := fun u v y h1 h2 => ⟨u, v, rfl, h1, h2⟩
      obtain ⟨G, hG⟩ : ∃ G : Nat, G = n / 2 ^ SR := ⟨_, rfl⟩
      have e_G : (n : Int) / 2 ^ SR = (G : Int) := by rw [hG]; norm_cast
      rw [← hG] at hli
      obtain ⟨q, hq⟩ : ∃ q, q = el (vecF ts n) i := ⟨_, rfl⟩
      rw [← hq] at hli hRR hqi
      obtain ⟨th, hth⟩ : ∃ t : Nat, (trA ts i).1 = (t : Int) := ⟨(trA ts i).1.toNat, by omega⟩
      obtain ⟨tw, htw⟩ : ∃ t, (trA ts i).2 = t := ⟨_, rfl⟩
      rw [hth, Int.toNat_natCast] at hli
      rw [hth, htw] at hRR
      rw [hth] at y1 hp hdr
      rw [htw] at y2
      have hSR6 : SR < 64 := by omega
      have hsw : sumH (ts.drop i) = (th : Int) + (SR : Int) := by rw [hdr, hSR]
      have e_S : (th : Int) + (SR : Int) - (th : Int) = (SR : Int) := by omega
      have s_S : IntKind.i64.wrap (SR : Int) = (SR : Int) := by rw [IntKind.wrap_i64]; omega
      rw [hsw]
      obtain ⟨Q, hQ⟩ : ∃ Q : Nat, i + 1 = Q := ⟨_, rfl⟩
      have e_Q : (i : Int) + 1 = (Q : Int) := by omega
      have s_Q : IntKind.i64.wrap (Q : Int) = (Q : Int) := by rw [IntKind.wrap_i64]; omega
      have hSq : sumH (ts.drop Q) = (SR : Int) := by rw [← hQ]; exact hSR
      have hst := stH_len (vs := vecF ts n) hid hsd
      have d7 := Bx2T.new wr (.int .i64 (th : Int)) (.int .i64 tw)
      have k7 := keep_alloc wr (.cells #[.int .i64 (th : Int), .int .i64 tw] 45)
      generalize hz0 : wr.alloc (.cells #[.int .i64 (th : Int), .int .i64 tw] 45) = z0 at *
      have hB2n : B2 ≠ W.heap.size := by omega
      have htn : wr.heap.size ≠ W.heap.size := by omega
      have HQ := hide (And.intro hlt (And.intro hQ (And.intro hq (And.intro hth (And.intro htw hSq)))))
      have kvz := keep_trans kvr k7
      clear hdr hsw hs0 hsm hSR hel hG hth htw hp hg hQ hq hSq
      by_cases hi0 : i = 0
      · obtain ⟨hiv, hsv⟩ := hst0 hi0
        have hgn : ¬ ((i : Int) > 0) := by omega
        have hgn' : ¬ ((0 : Int) < (i : Int)) := by omega
        have hgn2 : (i : Int) ≤ 0 := by omega
        have hLTz : LvT (vecF ts n) id seed i z0 (.slice ia 16 ic) (.slice sa 32 sc) := by
          rw [hi0, hiv, hsv]
          exact ⟨ri.below kvz, ti, rs.below kvz, tis⟩
        have hnu : ∀ q, (Value.slice ia 16 ic).ownBlock = some q → q ≠ W.heap.size := fun q hq => by
          rw [hiv] at hq
          have := ri.old (by omega) hq
          omega
        have hnv : ∀ q, (Value.slice sa 32 sc).ownBlock = some q → q ≠ W.heap.size := fun q hq => by
          rw [hsv] at hq
          have := rs.old (by omega) hq
          omega
        have hwho : i = 0 ∧ (Value.slice ia 16 ic) = (.slice ia0 16 ic0) ∧ (Value.slice sa 32 sc) = (.slice sa0 32 sc0) ∨ 0 < i ∧ New W0.heap.size (.slice ia 16 ic) ∧ New W0.heap.size (.slice sa 32 sc) := .inl ⟨hi0, hiv, hsv⟩
        have hfin : ∀ A B : World, LvT (vecF ts n) id seed i A (.slice ia 16 ic) (.slice sa 32 sc) → Kept W0.heap.size A B → Below v0.heap.size v0 B → LvT (vecF ts n) id seed i B (.slice ia 16 ic) (.slice sa 32 sc) := fun A B _ _ kb => by
          rw [hi0, hiv, hsv]
          exact ⟨ri.below kb, ti, rs.below kb, tis⟩
        have bz := bx.below k7
        have btz := hbt.trans (But.of_below k7)
        clear tcell hN hK hid hsd hn ri ti rs tis hT h0 hN8 tcc x1 x2 kv0 kvr bqr hst0 hstp hiv hsv k7 bx hi0 hst hi hlt0 hWe hW
        go_wp2_with (first
          | (refine wpList_load_row rfl 45 _ (by rfl) wr.heap.size (by rfl) _ _ _ _ d7.here Tryz.underlying45 rfl (by kernel_rfl) ?_)
          | (refine wpList_store_mid rfl 45 _ _ (by rfl) W.heap.size 0 #[.int .i64 (th : Int), .int .i64 tw] (by rfl) (by rfl) bz.there2 (by kernel_rfl) (by simp [Value.oneCell']) ?_; have b2 := bz.tree (.int .i64 (th : Int)) (.int .i64 tw); have c0 := b2.c0; clear bz)
          | fail)
        rename_i K9 hK9
        generalize hy0 : World.setCells z0 W.heap.size 0 [.int .i64 (th : Int), .int .i64 tw] = y0 at *
        have bt0 : But W.heap.size z0 y0 := by rw [← hy0]; exact (But.refl _ _).cells2 _ _
        have bty := btz.trans bt0
        have hLTy := hLTz.but bt0 hnu hnv
        have bq2 := boxed_butL bq0 bty hB2n
        have hdr : Below y0.heap.size y0 y0.drew := (Below.refl _ _).drew
        replace b2 := b2.below hdr
        have hbd : LvB y0 W.heap.size (.int .i64 (th : Int)) (.int .i64 tw) (.slice ia 16 ic) (.slice sa 32 sc) y0.drew := ⟨(But.refl _ _).drew, _, b2⟩
        clear hy0 c0
        refine at_begin (ops := opsA (cLA (cRA (cRA (cRA (cRA (cBA (cLA (cRA (cRA (cLpA (cBA (cRA (cRA (cRA (Tryz.f49.body.getD .skip)))))))))))))))) (n := 7) (fun y => LvB y0 W.heap.size (.int .i64 (th : Int)) (.int .i64 tw) (.slice ia 16 ic) (.slice sa 32 sc) y) (by kernel_rfl) (by kernel_rfl) ?_
        refine at_takeD (i := 1) (m' := 2) (d := some 40) (v := .int .u64 (n : Int)) lv9reg rfl (by decide) rfl rfl (y_plainG (wanted_free rfl) rfl rfl Tryz.underlying26 rfl (fun _ h => (boxed_butL bq2 h.1 hB2n).cell)) hbd ?_
        simp only [Act.put, List.setIfInBounds_toArray, List.set_cons_zero, List.set_cons_succ]
        refine at_takeD (i := 2) (m' := 6) (d := some 41) (v := .int .i64 (SR : Int)) lv9reg rfl (by decide) rfl rfl (y_moveG (wanted_free rfl) rfl rfl) hbd ?_
        simp only [Act.put, List.setIfInBounds_toArray, List.set_cons_zero, List.set_cons_succ]
        refine at_takeD (i := 3) (m' := 14) (d := some 42) (v := .int .u64 (G : Int)) lv9reg rfl (by decide) rfl rfl (y_shrH (wanted_free rfl) rfl rfl rfl Tryz.underlying26 Tryz.underlying3 hSR6 e_G) hbd ?_
        simp only [Act.put, List.setIfInBounds_toArray, List.set_cons_zero, List.set_cons_succ]
        refine at_one (i := 0) (m' := 15) lv9reg (by decide) rfl ?_
        refine p_loadRowH (t := 54) (cs := [.int .i64 (th : Int), .int .i64 tw, .slice ia 16 ic, .slice sa 32 sc, .int .u32 (q0 : Int)]) (b := W.heap.size) (c := 0) (d := some 39) rfl (wanted_free rfl) rfl rfl rfl b2.range Tryz.underlying54 rfl (by kernel_rfl) ?_
        have hb4 := hbd
        refine ⟨hb4, ?_⟩
        simp only [Act.put, List.setIfInBounds_toArray, List.set_cons_zero, List.set_cons_succ]
        refine at_one (i := 4) (m' := 31) lv9reg (by decide) rfl ?_
        refine p_callG (args := #[.agg #[.int .i64 (th : Int), .int .i64 tw, .slice ia 16 ic, .slice sa 32 sc, .int .u32 (q0 : Int)], .int .u64 (G : Int)]) (d := some 43) rfl (wanted_free rfl) rfl (by simp only [List.map_toArray, List.map_cons, List.map_nil]; rfl) rfl Tryz.call51 ((hli tw ia sa ic sc (q0 : Int) y0.drew).mono ?_)
        rintro e y5 ⟨rfl, g5⟩
        replace b2 := b2.below g5
        have hb5 := LvB.step hb4 g5
        refine ⟨_, rfl, hb5, ?_⟩
        simp only [Act.put, List.setIfInBounds_toArray, List.set_cons_zero, List.set_cons_succ]
        refine at_takeD (i := 5) (m' := 63) (d := some 44) (v := .pointer (some ⟨W.heap.size, 4, none⟩)) lv9reg rfl (by decide) rfl rfl (y_fieldG (wanted_free rfl) rfl rfl (fun w => by simp [go_sem])) hb5 ?_
        simp only [Act.put, List.setIfInBounds_toArray, List.set_cons_zero, List.set_cons_succ]
        refine at_one (i := 6) (m' := 127) lv9reg (by decide) rfl ?_
        refine p_store (P := Tryz.prog) rfl rfl rfl rfl rfl rfl Tryz.underlying52 (by kernel_rfl) (by rw [b2.c4]; rfl) (b2.frozen 4) ?_
        have hb7 : LvB y0 W.heap.size (.int .i64 (th : Int)) (.int .i64 tw) (.slice ia 16 ic) (.slice sa 32 sc) _ := ⟨(hb5).1.setCell 4 (.int .u32 (q : Int)), _, b2.set4 (.int .u32 (q : Int))⟩
        refine ⟨hb7, ?_⟩
        refine at_done lv9reg (by decide) ?_
        refine hK9 _ _ ?_
        have b4 := b2.set4 (.int .u32 (q : Int))
        have bt4 := (hb7).1
        generalize (World.setCell y5 ⟨W.heap.size, 4, none⟩ (.int .u32 (q : Int))) = z4 at *
        have btz4 := bty.trans bt4
        have hLT4 := hLTy.but bt4 hnu hnv
        have hs4 : W.heap.size < z4.heap.size := b4.lt
        obtain ⟨fn, tmps, assign, body, hy, hR⟩ := hYY _ W0 z4 hJ0 btz4 (by have := HQ.out.1; omega) (hRR (.slice ia 16 ic) (.slice sa 32 sc) z4 hLT4 hwho) hWs hs4
        refine (wpIn_wide (n := m)).1 ?_
        gi_wp2_with (first
          | (refine wpListIn_rowH (fun _ => trivial) rfl 54 _ rfl W.heap.size 0 rfl [.int .i64 (th : Int), .int .i64 tw, (.slice ia 16 ic), (.slice sa 32 sc), .int .u32 (q : Int)] _ b4.range Tryz.underlying54 rfl (by kernel_rfl) ?_)
          | (refine hR.mono ?_; rintro e W3 ⟨rfl, hJ3, hk3, hb3⟩)
          | fail)
        clear hR hy hbd b2 bq2 hLTy hLTz btz
        go_wp2
        obtain ⟨hQlt, hQ, hqe, hthe, htwe, hSq⟩ := HQ.out
        have kv3 := (hV W3 (hJV _ W3 hJ3)).1
        refine ⟨⟨Q, by have := HK.out.2.2.1; omega, rfl, by rw [hSq], ⟨W3, by rw [← hQ]; exact hJ3, But.refl _ _, Nat.le_trans hWs (Nat.le_trans btz4.size hk3.size), fun _ => rfl⟩, Nat.lt_of_lt_of_le hs4 hk3.size, (th : Int), tw, _, _, _, _, q, ⟨hb3.trans b4.here⟩, hqi, fun h => by omega, fun p2 hp2 => ?_⟩, by simp [intOf]; omega⟩
        obtain rfl : p2 = i := by omega
        exact ⟨hfin _ _ hLT4 hk3 kv3, hqe⟩
      · obtain ⟨p, hp1⟩ : ∃ p, i = p + 1 := ⟨i - 1, by omega⟩
        obtain ⟨hLTp, hqp⟩ := hstp p hp1
        have hgn : (i : Int) > 0 := by omega
        have hgn' : (0 : Int) < (i : Int) := by omega
        have hgn2 : ¬ ((i : Int) ≤ 0) := by omega
        have hW0r := hWe (by omega)
        have hbl := chbelow a b q0 _ _ _ _ z0 (hT.below kvz) (hLTp.ri.below k7) hLTp.ti (hLTp.rs.below k7) hLTp.ts hq0 (by have := hst p; omega)
        have hni : (idB (stH (vecF ts n) id seed p).1 (stH (vecF ts n) id seed p).2 q0) = (stH (vecF ts n) id seed i).1 := by rw [hp1, hqp]; rfl
        have hns : (sdB (stH (vecF ts n) id seed p).1 (stH (vecF ts n) id seed p).2 q0) = (stH (vecF ts n) id seed i).2 := by rw [hp1, hqp]; rfl
        rw [hni, hns] at hbl
        have hstl := hst i
        have bx0 := bx.below k7
        have hzs := k7.size
        have hzl : W.heap.size < z0.heap.size := bx0.lt
        have btz0 := hbt.trans (But.of_below k7)
        have hW0z : W0.heap.size ≤ z0.heap.size := btz0.size
        clear tcell hN hK hid hsd hn ri ti rs tis hT h0 hN8 tcc x1 x2 kv0 kvr bqr hst0 hstp k7 bx hi0 hst hi hlt0 hWe hW hLTp hqp hni hns kvz hp1
        have f2 := bx0.frozen
        go_wp2_with (first
          | (refine wpList_load_row rfl 54 _ (by rfl) W.heap.size (by rfl) _ _ _ _ bx0.here Tryz.underlying54 rfl (by kernel_rfl) ?_)
          | (go_at_call 50; refine hbl.mono ?_; rintro e w5 ⟨uv, sv5, rfl, ru, rv, tu, tv5, nu, nv, g5⟩; obtain ⟨ua, uc, rfl, _⟩ := ru.opens hstl.1; obtain ⟨va, vc5, rfl, _⟩ := rv.opens hstl.2; have bx5 := bx0.below g5; have cc2 := bx5.c2; have cc3 := bx5.c3; have ff2 := bx5.frozen 2; have ff3 := bx5.frozen 3; have bz := (bx5.set2 (.slice ua 16 uc)).set3 (.slice va 32 vc5); have d7z := (d7.below g5).but (((But.refl W.heap.size w5).setCell 2 (.slice ua 16 uc)).setCell 3 (.slice va 32 vc5)) htn; clear bx0)
          | (refine wpList_load_row rfl 45 _ (by rfl) wr.heap.size (by rfl) _ _ _ _ d7z.here Tryz.underlying45 rfl (by kernel_rfl) ?_; clear d7z)
          | (refine wpList_store_mid rfl 45 _ _ (by rfl) W.heap.size 0 #[.int .i64 (th : Int), .int .i64 tw] (by rfl) (by rfl) bz.there2 (by kernel_rfl) (by simp [Value.oneCell']) ?_; have b2 := bz.tree (.int .i64 (th : Int)) (.int .i64 tw); have c0 := b2.c0; clear bz)
          | fail)
        have hnu : ∀ q, (Value.slice ua 16 uc).ownBlock = some q → q ≠ W.heap.size := fun q hq => by have := nu q hq; omega
        have hnv : ∀ q, (Value.slice va 32 vc5).ownBlock = some q → q ≠ W.heap.size := fun q hq => by have := nv q hq; omega
        have bts := ((But.refl W.heap.size w5).setCell 2 (.slice ua 16 uc)).setCell 3 (.slice va 32 vc5)
        have hLTz : LvT (vecF ts n) id seed i ((w5.setCell ⟨W.heap.size, 2, none⟩ (.slice ua 16 uc)).setCell ⟨W.heap.size, 3, none⟩ (.slice va 32 vc5)) (.slice ua 16 uc) (.slice va 32 vc5) := (LvT.mk ru tu rv tv5).but bts hnu hnv
        have btz := (btz0.trans (But.of_below g5)).trans bts
        have hwho : i = 0 ∧ (Value.slice ua 16 uc) = (.slice ia0 16 ic0) ∧ (Value.slice va 32 vc5) = (.slice sa0 32 sc0) ∨ 0 < i ∧ New W0.heap.size (.slice ua 16 uc) ∧ New W0.heap.size (.slice va 32 vc5) := .inr ⟨by omega, nu.mono hW0z, nv.mono hW0z⟩
        have hfin : ∀ A B : World, LvT (vecF ts n) id seed i A (.slice ua 16 uc) (.slice va 32 vc5) → Kept W0.heap.size A B → Below v0.heap.size v0 B → LvT (vecF ts n) id seed i B (.slice ua 16 uc) (.slice va 32 vc5) := fun A B h k _ => ⟨row_keptH h.ri (nu.mono hW0z) k, h.ti, row_keptH h.rs (nv.mono hW0z) k, h.ts⟩
        clear bx5 cc2 cc3 ff2 ff3 f2 ru rv g5 d7 bts btz0
        rename_i K9 hK9
        generalize hy0 : World.setCells ((w5.setCell ⟨W.heap.size, 2, none⟩ (.slice ua 16 uc)).setCell ⟨W.heap.size, 3, none⟩ (.slice va 32 vc5)) W.heap.size 0 [.int .i64 (th : Int), .int .i64 tw] = y0 at *
        have bt0 : But W.heap.size ((w5.setCell ⟨W.heap.size, 2, none⟩ (.slice ua 16 uc)).setCell ⟨W.heap.size, 3, none⟩ (.slice va 32 vc5)) y0 := by rw [← hy0]; exact (But.refl _ _).cells2 _ _
        have bty := btz.trans bt0
        have hLTy := hLTz.but bt0 hnu hnv
        have bq2 := boxed_butL bq0 bty hB2n
        have hdr : Below y0.heap.size y0 y0.drew := (Below.refl _ _).drew
        replace b2 := b2.below hdr
        have hbd : LvB y0 W.heap.size (.int .i64 (th : Int)) (.int .i64 tw) (.slice ua 16 uc) (.slice va 32 vc5) y0.drew := ⟨(But.refl _ _).drew, _, b2⟩
        clear hy0 c0
        refine at_begin (ops := opsA (cLA (cRA (cRA (cRA (cRA (cBA (cLA (cRA (cRA (cLpA (cBA (cRA (cRA (cRA (Tryz.f49.body.getD .skip)))))))))))))))) (n := 7) (fun y => LvB y0 W.heap.size (.int .i64 (th : Int)) (.int .i64 tw) (.slice ua 16 uc) (.slice va 32 vc5) y) (by kernel_rfl) (by kernel_rfl) ?_
        refine at_takeD (i := 1) (m' := 2) (d := some 40) (v := .int .u64 (n : Int)) lv9reg rfl (by decide) rfl rfl (y_plainG (wanted_free rfl) rfl rfl Tryz.underlying26 rfl (fun _ h => (boxed_butL bq2 h.1 hB2n).cell)) hbd ?_
        simp only [Act.put, List.setIfInBounds_toArray, List.set_cons_zero, List.set_cons_succ]
        refine at_takeD (i := 2) (m' := 6) (d := some 41) (v := .int .i64 (SR : Int)) lv9reg rfl (by decide) rfl rfl (y_moveG (wanted_free rfl) rfl rfl) hbd ?_
        simp only [Act.put, List.setIfInBounds_toArray, List.set_cons_zero, List.set_cons_succ]
        refine at_takeD (i := 3) (m' := 14) (d := some 42) (v := .int .u64 (G : Int)) lv9reg rfl (by decide) rfl rfl (y_shrH (wanted_free rfl) rfl rfl rfl Tryz.underlying26 Tryz.underlying3 hSR6 e_G) hbd ?_
        simp only [Act.put, List.setIfInBounds_toArray, List.set_cons_zero, List.set_cons_succ]
        refine at_one (i := 0) (m' := 15) lv9reg (by decide) rfl ?_
        refine p_loadRowH (t := 54) (cs := [.int .i64 (th : Int), .int .i64 tw, .slice ua 16 uc, .slice va 32 vc5, .int .u32 (q0 : Int)]) (b := W.heap.size) (c := 0) (d := some 39) rfl (wanted_free rfl) rfl rfl rfl b2.range Tryz.underlying54 rfl (by kernel_rfl) ?_
        have hb4 := hbd
        refine ⟨hb4, ?_⟩
        simp only [Act.put, List.setIfInBounds_toArray, List.set_cons_zero, List.set_cons_succ]
        refine at_one (i := 4) (m' := 31) lv9reg (by decide) rfl ?_
        refine p_callG (args := #[.agg #[.int .i64 (th : Int), .int .i64 tw, .slice ua 16 uc, .slice va 32 vc5, .int .u32 (q0 : Int)], .int .u64 (G : Int)]) (d := some 43) rfl (wanted_free rfl) rfl (by simp only [List.map_toArray, List.map_cons, List.map_nil]; rfl) rfl Tryz.call51 ((hli tw ua va uc vc5 (q0 : Int) y0.drew).mono ?_)
        rintro e y5 ⟨rfl, g5⟩
        replace b2 := b2.below g5
        have hb5 := LvB.step hb4 g5
        refine ⟨_, rfl, hb5, ?_⟩
        simp only [Act.put, List.setIfInBounds_toArray, List.set_cons_zero, List.set_cons_succ]
        refine at_takeD (i := 5) (m' := 63) (d := some 44) (v := .pointer (some ⟨W.heap.size, 4, none⟩)) lv9reg rfl (by decide) rfl rfl (y_fieldG (wanted_free rfl) rfl rfl (fun w => by simp [go_sem])) hb5 ?_
        simp only [Act.put, List.setIfInBounds_toArray, List.set_cons_zero, List.set_cons_succ]
        refine at_one (i := 6) (m' := 127) lv9reg (by decide) rfl ?_
        refine p_store (P := Tryz.prog) rfl rfl rfl rfl rfl rfl Tryz.underlying52 (by kernel_rfl) (by rw [b2.c4]; rfl) (b2.frozen 4) ?_
        have hb7 : LvB y0 W.heap.size (.int .i64 (th : Int)) (.int .i64 tw) (.slice ua 16 uc) (.slice va 32 vc5) _ := ⟨(hb5).1.setCell 4 (.int .u32 (q : Int)), _, b2.set4 (.int .u32 (q : Int))⟩
        refine ⟨hb7, ?_⟩
        refine at_done lv9reg (by decide) ?_
        refine hK9 _ _ ?_
        have b4 := b2.set4 (.int .u32 (q : Int))
        have bt4 := (hb7).1
        generalize (World.setCell y5 ⟨W.heap.size, 4, none⟩ (.int .u32 (q : Int))) = z4 at *
        have btz4 := bty.trans bt4
        have hLT4 := hLTy.but bt4 hnu hnv
        have hs4 : W.heap.size < z4.heap.size := b4.lt
        obtain ⟨fn, tmps, assign, body, hy, hR⟩ := hYY _ W0 z4 hJ0 btz4 (by have := HQ.out.1; omega) (hRR (.slice ua 16 uc) (.slice va 32 vc5) z4 hLT4 hwho) hWs hs4
        refine (wpIn_wide (n := m)).1 ?_
        gi_wp2_with (first
          | (refine wpListIn_rowH (fun _ => trivial) rfl 54 _ rfl W.heap.size 0 rfl [.int .i64 (th : Int), .int .i64 tw, (.slice ua 16 uc), (.slice va 32 vc5), .int .u32 (q : Int)] _ b4.range Tryz.underlying54 rfl (by kernel_rfl) ?_)
          | (refine hR.mono ?_; rintro e W3 ⟨rfl, hJ3, hk3, hb3⟩)
          | fail)
        clear hR hy hbd b2 bq2 hLTy hLTz btz
        go_wp2
        obtain ⟨hQlt, hQ, hqe, hthe, htwe, hSq⟩ := HQ.out
        have kv3 := (hV W3 (hJV _ W3 hJ3)).1
        refine ⟨⟨Q, by have := HK.out.2.2.1; omega, rfl, by rw [hSq], ⟨W3, by rw [← hQ]; exact hJ3, But.refl _ _, Nat.le_trans hWs (Nat.le_trans btz4.size hk3.size), fun _ => rfl⟩, Nat.lt_of_lt_of_le hs4 hk3.size, (th : Int), tw, _, _, _, _, q, ⟨hb3.trans b4.here⟩, hqi, fun h => by omega, fun p2 hp2 => ?_⟩, by simp [intOf]; omega⟩
        obtain rfl : p2 = i := by omega
        exact ⟨hfin _ _ hLT4 hk3 kv3, hqe⟩
    · obtain rfl : i = N := by omega
      have hge : ¬ ((i : Int) < (i : Int)) := by omega
      have hWw : W0 = wr := hWe (by have := hK.1; omega)
      subst hWw
      have HX := hide hJ0
      clear hK tcell hN hW hB2W hid hsd hn ri ti rs tis hT hv0s h0 hN8 hJ0 hbt hWs hWe hlt0 bx hq0 hst0 hstp hJV hY hV
      go_wp2
      go_end0
      exact ⟨⟨_, rfl⟩, HX.out⟩
end Go.Proofs.YtogiballdmgcpaaGreatDoor
