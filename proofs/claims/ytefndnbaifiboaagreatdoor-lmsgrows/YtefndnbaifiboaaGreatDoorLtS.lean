/- Trees of leaves that sign once: the document's Sign. -/
import Derived.Test.YtefndnbaifiboaaGreatDoorLtC
import Derived.Test.YtefndnbaifiboaaGreatDoorLtP2
import Derived.Test.YtefndnbaifiboaaGreatDoorLmS
import Derived.Test.YtefndnbaifiboaaGreatDoorLsN
import Derived.Test.YtefndnbaifiboaaGreatDoorLcM
namespace Go.Proofs.YtefndnbaifiboaaGreatDoor
open Go.RowKit
set_option linter.unusedVariables false
set_option linter.unusedSimpArgs false

/-- a leaf's signature -/
def sgT (k n m s c : Nat) (id seed text : List Nat) (q : Nat) : List Nat := sgnH shaL (preL id q) c (digsL k n m s (digH shaL (preL id q) (lmCn shaL (preL id q) seed) text)) seed
theorem sgT_len (k n m s c : Nat) (id seed text : List Nat) (q : Nat) : (sgT k n m s c id seed text q).length = 36 + 32 * (n + m) := by unfold sgT; rw [sgnH_len, digs_len]; exact fun _ => shaL_len _
theorem rsgnK {k n m s c : Nat} (hk : Kd k n m s c) (h8 : k ≠ 8) (id seed text : List Nat) (q : Nat) (idv sv tv : Value) (w : World) (hi : Row .u8 256 w idv id) (ti : Tidy idv) (hs : Row .u8 256 w sv seed) (ts : Tidy sv) (ht : Row .u8 256 w tv text) (tt : Tidy tv) (hq : q < 4294967296) (hl : id.length = 16) (hsl : seed.length = 32) (htl : text.length ≤ 10000) :
    Calls Tryz.prog 34 #[.int .i64 (k : Int), idv, .int .u32 (q : Int), sv, tv] w fun e w' => ∃ v, e = .returned (.tuple #[v, .int .i64 0]) ∧ Row .u8 256 w' v (sgT k n m s c id seed text q) ∧ New w.heap.size v ∧ Below w.heap.size w w' := by
  cases hk
  · exact rsgn_1 id seed text q idv sv tv w hi ti hs ts ht tt hq hl hsl htl
  · exact rsgn_2 id seed text q idv sv tv w hi ti hs ts ht tt hq hl hsl htl
  · exact rsgn_4 id seed text q idv sv tv w hi ti hs ts ht tt hq hl hsl htl
  · exact absurd rfl h8
theorem GrT.lit3 {w : World} {u v x : Value} {a b c : List Nat} (hu : Row .u8 256 w u a) (tu : Tidy u) (hv : Row .u8 256 w v b) (tv : Tidy v) (hx : Row .u8 256 w x c) (tx' : Tidy x) (la : 0 < a.length) (lb : 0 < b.length) (lc : 0 < c.length) : GrT (w.alloc (.cells #[u, v, x] 24)) w.heap.size (.slice (some ⟨w.heap.size, 0, none⟩) 3 3) [a, b, c] := by
  have hb := keep_alloc w (.cells #[u, v, x] 24)
  have ap : ∀ {y : Value} {l : List Nat}, Row .u8 256 w y l → 0 < l.length → Apart1 (w.alloc (.cells #[u, v, x] 24)) (.slice (some ⟨w.heap.size, 0, none⟩) 3 3) y := fun hx hl q hq => by
    have h1 := hx.old hl hq
    refine ⟨by rw [World.size_alloc]; omega, fun e => ?_⟩
    have : w.heap.size = q := by simpa [Value.ownBlock] using e
    omega
  refine ⟨⟨[u, v, x], World.ownsRow_lit (base := w.heap.size) (e := 24) (size := 1) w #[u, v, x] 3 (Nat.le_refl _) (by decide) rfl, texts_cons (hu.below hb) tu (texts_cons (hv.below hb) tv (texts_cons (hx.below hb) tx' (Texts.nil _))), fun y hy => ?_⟩⟩
  rcases List.mem_cons.1 hy with h | h
  · rw [h]; exact ap hu la
  · rcases List.mem_cons.1 h with h | h
    · rw [h]; exact ap hv lb
    · have : y = x := by simpa using h
      rw [this]; exact ap hx lc
theorem lev_div {h n : Nat} (hn : Lev h n) : ∀ i, i ≤ h → Lev (h - i) (n / 2 ^ i)
  | 0, _ => by rw [Nat.pow_zero, Nat.div_one]; exact hn
  | i + 1, hi => by
    have := lev_div hn i (by omega)
    rw [show h - i = (h - (i + 1)) + 1 by omega] at this
    rw [Nat.pow_succ, ← Nat.div_div_eq_div_mul]
    exact this.up
section
variable {ops : Array Oper} {S : World → Prop}
theorem y_convT {o : Oper} {a : Act} {x : Operand} {q : Nat} (hg : o.guard = none) (ho : o.op = .convert 25 61 x) (hx : a.eval x = .int .u32 (q : Int)) (hq : q < 4294967296) : YieldsIf Tryz.prog ops S o (.int .u64 (q : Int)) a := by
  have h1 : IntKind.u64.wrap (q : Int) = (q : Int) := by rw [IntKind.wrap_u64]; omega
  refine y_of hg fun w _ => ?_
  unfold execOp
  simp only [ho, hx]
  simp [h1, go_sem]
theorem y_fieldT {o : Oper} {a : Act} {x : Operand} {t : TypeId} {q q' f off : Nat} (hg : o.guard = none) (ho : o.op = .fieldAddr t x f) (hx : a.eval x = .pointer (some ⟨q, q', none⟩))
    (hf : ∀ w : World, (Instr.fieldAt t (.pointer (some ⟨q, q', none⟩)) f).run Tryz.prog w = .ok (.pointer (some ⟨q, off, none⟩)) w) : YieldsIf Tryz.prog ops S o (.pointer (some ⟨q, off, none⟩)) a := by
  refine y_of hg fun w _ => ?_
  unfold execOp
  simp only [ho, hx]
  simp [hf w, Sem.run_bind]
theorem fT0 (q : Nat) (w : World) : (Instr.fieldAt 23 (.pointer (some ⟨q, 0, none⟩)) 0).run Tryz.prog w = .ok (.pointer (some ⟨q, 0, none⟩)) w := by simp [go_sem]
end
set_option maxHeartbeats 4000000 in
set_option maxRecDepth 100000 in
theorem rsignT_no (h x : Int) (id seed : List Nat) (q : Nat) (idv sv : Value) (ta : Option Addr) (tn tc : Nat) (w : World) (hi : Row .u8 256 w idv id) (hs : Row .u8 256 w sv seed) (hne : wrgT h x id.length seed.length ≠ 0) :
    Calls Tryz.prog 11 #[.agg #[.int .i64 h, .int .i64 x], idv, sv, .int .u32 (q : Int), .slice ta tn tc] w fun e w' => e = .returned (.tuple #[.slice none 0 0, .int .i64 (wrgT h x id.length seed.length)]) ∧ Below w.heap.size w w' := by
  have hw := rwrongT_any h x id seed idv sv (w.alloc (.cells #[.int .i64 h, .int .i64 x] 23)) (hi.below (keep_alloc _ _)) (hs.below (keep_alloc _ _))
  obtain ⟨ia, ic, rfl, _⟩ := hi.opens rfl
  obtain ⟨sa, sc, rfl, _⟩ := hs.opens rfl
  have bN := Bx2T.new w (.int .i64 h) (.int .i64 x)
  generalize wrgT h x id.length seed.length = C at *
  have hcb : (C != 0) = true := by simp [hne]
  go_enter Tryz.func11, Tryz.ntmps11
  go_wp2_with (first | (go_at_call 25; refine hw.mono ?_; rintro e w1 ⟨rfl, hb1⟩) | fail)
  go_ret2
  exact ⟨rfl, keep_trans (keep_alloc _ _) hb1⟩
/-- where the loop stands -/
def SgL (w wD : World) (gO h n : Nat) (pf : List (List Nat)) (f : Nat → List Nat) (vo vi : Value) (wr : World) : Prop := ∃ i : Nat, i ≤ h ∧ vi = .int .i64 ((n / 2 ^ i : Nat) : Int) ∧ GrT wr w.heap.size vo (pf ++ pthA f i n) ∧ But gO wD wr ∧ (∀ g, vo.ownBlock = some g → g = gO ∨ wD.heap.size ≤ g) ∧ Below w.heap.size w wr
def sglt : List Lt := [(0, some 41, [3]), (1, some 42, [41]), (2, some 43, [42]), (0, some 44, [13]), (0, some 45, [5]), (16, some 46, [45]), (36, some 47, [46]), (64, some 48, [47]), (140, some 49, [43, 44, 48]), (511, some 15, [49])]
theorem sgreg : Reg (opsA (cLA (cRA (cRA (cRA (cRA (cRA (Tryz.f11.body.getD .skip)))))))) sglt := ⟨by kernel_rfl, by kernel_rfl⟩
set_option maxHeartbeats 4000000 in
set_option maxRecDepth 100000 in
theorem rsignT_spent (h M : Nat) (x : Int) (id seed : List Nat) (q : Nat) (idv sv : Value) (ta : Option Addr) (tn tc : Nat) (w : World) (hi : Row .u8 256 w idv id) (hs : Row .u8 256 w sv seed) (hne : wrgT (h : Int) x id.length seed.length = 0) (hM : M = 2 ^ h) (hh : h ≤ 10) (hq : M ≤ q) (hq2 : q < 4294967296) :
    Calls Tryz.prog 11 #[.agg #[.int .i64 (h : Int), .int .i64 x], idv, sv, .int .u32 (q : Int), .slice ta tn tc] w fun e w' => e = .returned (.tuple #[.slice none 0 0, .int .i64 13]) ∧ Below w.heap.size w w' := by
  have hw := rwrongT_any (h : Int) x id seed idv sv (w.alloc (.cells #[.int .i64 (h : Int), .int .i64 x] 23)) (hi.below (keep_alloc _ _)) (hs.below (keep_alloc _ _))
  rw [hne] at hw
  obtain ⟨ia, ic, rfl, _⟩ := hi.opens rfl
  obtain ⟨sa, sc, rfl, _⟩ := hs.opens rfl
  have bN := Bx2T.new w (.int .i64 (h : Int)) (.int .i64 x)
  have hMb := pow_le_1024 hh
  rw [← hM] at hMb
  have e_M : (2 : Int) ^ h = (M : Int) := by rw [hM]; norm_cast
  have s_M : IntKind.u64.wrap (M : Int) = (M : Int) := by rw [IntKind.wrap_u64]; omega
  have s_q : IntKind.u64.wrap (q : Int) = (q : Int) := by rw [IntKind.wrap_u64]; omega
  have h_q : (M : Int) ≤ (q : Int) := by omega
  have g_q : (q : Int) ≥ (M : Int) := by omega
  clear hM hne hi hs
  go_enter Tryz.func11, Tryz.ntmps11
  go_wp2_with (first | (go_at_call 25; refine hw.mono ?_; rintro e w1 ⟨rfl, hb1⟩; have b1 := bN.below hb1; have c0 := b1.c0) | fail)
  go_ret2
  exact ⟨rfl, keep_trans (keep_alloc _ _) hb1⟩
end Go.Proofs.YtefndnbaifiboaaGreatDoor

/- Trees of leaves that sign once, the program's own: the sums beside the way up. -/
namespace Go.Proofs.YtefndnbaifiboaaGreatDoor
open Go.RowKit Go.Shelf
set_option linter.unusedVariables false
set_option linter.unusedSimpArgs false
attribute [local go_sem] Oper.semAt_some

theorem pthA_map (f : Nat → List Nat) (n : Nat) : ∀ k, pthA f k n = (List.range k).map fun i => f ((n / 2 ^ i) ^^^ 1)
  | 0 => rfl
  | k + 1 => by rw [pthA_snoc, pthA_map f n k, List.range_succ, List.map_append]; rfl
theorem UpS.own {A B : World} {H N i : Nat} {f : Nat → List Nat} {row : Option Nat} (h : UpS A H N i f) (hg : A.grownBy B row) (hr : ∀ r, row = some r → ∃ o : Obj, A.heap[r]? = some o ∧ o.isCells = false) : UpS B H N i f := by
  obtain ⟨us, h0, h1, h2⟩ := h
  exact ⟨us, h0, cells_keptL hg hr h1, fun j k1 k2 => by obtain ⟨u, e1, e2, e3, e4⟩ := h2 j k1 k2; exact ⟨u, e1, row_ownL e2 hg hr, e3, e4⟩⟩
/-- where the loop stands -/
structure BeI (w : World) (X Y L h : Nat) (a b c d e : Value) (g : Nat → List Nat) (i : Nat) (W : World) : Prop where
  bx : BxW W X a b c d e
  bl : Boxed W Y 46 (.slice (some ⟨L, 0, none⟩) h h)
  up : UpS W L h i g
  bel : Below w.heap.size w W
theorem BeI.own {w W W' : World} {X Y L h i D : Nat} {a b c d e : Value} {g : Nat → List Nat} (q : BeI w X Y L h a b c d e g i W) (hD : w.heap.size ≤ D) {row : Option Nat} (hg : W.grownBy W' row) (hr : ∀ r, row = some r → D ≤ r ∧ ∃ o : Obj, W.heap[r]? = some o ∧ o.isCells = false) : BeI w X Y L h a b c d e g i W' := by
  have hr2 := fun r e => (hr r e).2
  exact ⟨⟨cells_keptL hg hr2 q.bx.here⟩, cells_keptL hg hr2 q.bl, q.up.own hg hr2, q.bel.grown hg q.bel.size fun r e => by have := (hr r e).1; omega⟩
theorem BeI.below {w W W' : World} {X Y L h i : Nat} {a b c d e : Value} {g : Nat → List Nat} (q : BeI w X Y L h a b c d e g i W) (hb : Below W.heap.size W W') : BeI w X Y L h a b c d e g i W' :=
  q.own (D := w.heap.size) (Nat.le_refl _) (grown_belowL hb) (fun r e => by cases e)
def be5lt : List Lt := [(0, some 19, [5]), (0, some 20, [6]), (0, some 21, [2]), (4, some 22, [21]), (0, some 23, [7]), (24, some 24, [22, 23]), (32, some 25, [24]), (127, some 26, [19, 20]), (255, none, [26, 25])]
theorem be5reg : Reg (opsA (cBA (cFA (cBA (cRA (cLA (cRA (cRA (Tryz.f33.body.getD .skip))))))))) be5lt := ⟨by kernel_rfl, by kernel_rfl⟩
set_option maxHeartbeats 8000000 in
set_option maxRecDepth 100000 in
theorem cbeside (h q H N : Nat) (x : Int) (f : Nat → List Nat) (ia sa : Option Addr) (ic sn sc : Nat) (w : World) (hh : h ≤ 10) (hq : q < 2 ^ h) (hN : N = 2 * 2 ^ h) (hK : KnP w H N (fun j => 1 ≤ j) f) (hfl : ∀ i, (f i).length = 32) :
    Calls Tryz.prog 33 #[.agg #[.int .i64 (h : Int), .int .i64 x, .slice ia 16 ic, .slice sa sn sc, .slice (some ⟨H, 0, none⟩) N N], .int .u32 (q : Int)] w fun e w' => ∃ v, e = .returned v ∧ Rows2 w' v (pthA f h (2 ^ h + q)) ∧ Below w.heap.size w w' := by
  obtain ⟨n0, hn0⟩ : ∃ n0, n0 = 2 ^ h + q := ⟨_, rfl⟩
  rw [← hn0, pthA_map]
  have hLev : Lev h n0 := by rw [hn0]; exact lev_leaf hq
  have hM10 := pow_le_1024 hh
  have hNb : ∀ i, i < h → 1 ≤ (n0 / 2 ^ i) ^^^ 1 ∧ (n0 / 2 ^ i) ^^^ 1 < N := fun i hi => by
    have hL := lev_div hLev i (by omega)
    obtain ⟨d, hd⟩ : ∃ d, h - i = d + 1 := ⟨h - i - 1, by omega⟩
    rw [hd] at hL
    have hn := hL.next
    have p1 := Nat.two_pow_pos (d + 1)
    have p2 : 2 ^ (d + 1 + 1) ≤ 2 ^ (h + 1) := Nat.pow_le_pow_right (by decide) (by omega)
    have p3 : 2 ^ (h + 1) = 2 * 2 ^ h := by rw [Nat.pow_succ]; omega
    exact ⟨by have := hn.1; omega, by have := hn.2; omega⟩
  obtain ⟨g, hg⟩ : ∃ g : Nat → List Nat, g = fun i => f ((n0 / 2 ^ i) ^^^ 1) := ⟨_, rfl⟩
  rw [← hg]
  have hnb := fun y => neighbours_any h (.int .i64 x) (.slice ia 16 ic) q y ⟨_, rfl⟩ ⟨_, _, _, rfl⟩
  obtain ⟨i0, hi0, hz0, hz1, hz2⟩ := info_text
  have bN := BxW.new w (.int .i64 (h : Int)) (.int .i64 x) (.slice ia 16 ic) (.slice sa sn sc) (.slice (some ⟨H, 0, none⟩) N N)
  have k0 := keep_alloc w (.cells #[.int .i64 (h : Int), .int .i64 x, .slice ia 16 ic, .slice sa sn sc, .slice (some ⟨H, 0, none⟩) N N] 50)
  have HX := hide (And.intro hn0 (And.intro hNb (And.intro hg (And.intro hK (And.intro hfl (And.intro hh (And.intro hq hN)))))))
  clear hn0 hLev hM10 hNb hg hK hfl hh hq hN
  refine (callsIn_wide (n := 8)).1 (callsIn_of_wp_marks Tryz.func33 rfl trivial (wpIn_wide.2 ?_) rfl)
  simp only [Tryz.ntmps33, List.size_toArray, List.length_cons, List.length_nil, Nat.reduceAdd, Nat.reduceSub, Array.replicate_succ, Array.replicate_zero, List.push_toArray, List.append_toArray, List.nil_append, List.cons_append]
  go_wp2_with (first
    | (at_make; refine wpList_make_full _ rfl _ _ 46 rfl (w.heap.size + 1) 24 i0 (.slice none 0 0) 1 Tryz.underlying46 hi0 hz0 hz1 _ _ _ _ h rfl rfl rfl rfl (by rw [hz2]; have := HX.out.2.2.2.2.2.1; omega) (by have := HX.out.2.2.2.2.2.1; unfold maxLen; omega) (by rw [World.size_alloc]; exact Nat.le_refl _) ?_; intro w2 hown hgrow; have hbg := (Below.refl (w.alloc (.cells #[.int .i64 (h : Int), .int .i64 x, .slice ia 16 ic, .slice sa sn sc, .slice (some ⟨H, 0, none⟩) N N] 50)).heap.size (w.alloc (.cells #[.int .i64 (h : Int), .int .i64 x, .slice ia 16 ic, .slice sa sn sc, .slice (some ⟨H, 0, none⟩) N N] 50))).grown hgrow (Nat.le_refl _) (fun k h => by cases h); have bx2 := bN.below hbg; have hU2 := UpS.made g hown)
    | (refine wpList_load_mid rfl 48 _ (by rfl) w.heap.size 0 (by rfl) [.int .i64 (h : Int), .int .i64 x, .slice ia 16 ic] _ (bx2.below (keep_alloc w2 (.cells #[.slice (some ⟨w.heap.size + 1, 0, none⟩) h h] 46))).range3 Tryz.underlying48 rfl (by kernel_rfl) ?_)
    | (go_at_call 68; refine (hnb _).mono ?_; rintro e w3 ⟨rfl, rfl⟩)
    | fail)
  have bx3 := bx2.below (keep_alloc w2 (.cells #[.slice (some ⟨w.heap.size + 1, 0, none⟩) h h] 46))
  have bl3 := Boxed.new w2 46 (.slice (some ⟨w.heap.size + 1, 0, none⟩) h h)
  have hU3 := hU2.below (keep_alloc w2 (.cells #[.slice (some ⟨w.heap.size + 1, 0, none⟩) h h] 46))
  have k3 := keep_trans (keep_trans k0 hbg) (keep_alloc w2 (.cells #[.slice (some ⟨w.heap.size + 1, 0, none⟩) h h] 46))
  have hUl := hU2.lt
  rw [World.size_alloc] at hU3 hUl
  generalize hW3 : w2.alloc (.cells #[.slice (some ⟨w.heap.size + 1, 0, none⟩) h h] 46) = W3 at *
  obtain ⟨Y, hY⟩ : ∃ Y, w2.heap.size = Y := ⟨_, rfl⟩
  have hsW : W3.heap.size = Y + 1 := by rw [← hW3, World.size_alloc, hY]
  rw [hY] at bl3 hUl ⊢
  have hI3 : BeI w w.heap.size Y (w.heap.size + 1) h (.int .i64 (h : Int)) (.int .i64 x) (.slice ia 16 ic) (.slice sa sn sc) (.slice (some ⟨H, 0, none⟩) N N) g 0 W3 := ⟨bx3, bl3, hU3, k3⟩
  obtain ⟨L, hL⟩ : ∃ L, w.heap.size + 1 = L := ⟨_, rfl⟩
  rw [hL] at hI3 hUl ⊢
  generalize hw4 : (W3.alloc (.cells #[.int .i64 (h : Int), .int .i64 x, .slice ia 16 ic] 48)).alloc (.cells #[.int .u32 (q : Int)] 25) = w4
  have hb4 : Below W3.heap.size W3 w4 := by rw [← hw4]; exact keep_trans (keep_alloc _ _) (keep_alloc _ _)
  have hB1 : BxD w4 W3.heap.size (.int .i64 (h : Int)) (.int .i64 x) (.slice ia 16 ic) := by rw [← hw4]; exact (BxD.new W3 _ _ _).below (keep_alloc _ _)
  have hB2 : Boxed w4 (W3.heap.size + 1) 25 (.int .u32 (q : Int)) := by
    have := Boxed.new (W3.alloc (.cells #[.int .i64 (h : Int), .int .i64 x, .slice ia 16 ic] 48)) 25 (.int .u32 (q : Int))
    rw [World.size_alloc] at this
    rw [← hw4]; exact this
  have hI4 := hI3.below hb4
  obtain ⟨hn0, hNb, hg, hK, hfl, hh, hq, hN⟩ := HX.out
  have hwz : w.heap.size ≤ w4.heap.size := hI4.bel.size
  have hL4 : L < w4.heap.size := by have := hb4.size; have := hI3.up.lt; omega
  have hXL : w.heap.size ≠ L := by omega
  have hYL : Y ≠ L := by omega
  have hwL : w.heap.size ≤ L := by omega
  have hown4 := nb1_own 7 (by decide) W3.heap.size (W3.heap.size + 1) h q (.int .i64 x) (.slice ia 16 ic) ⟨_, rfl⟩ ⟨_, _, _, rfl⟩ (by omega) hq w4 (fun _ => True) hB1 hB2
  rw [← hn0, hsW] at hown4
  clear hsW hI3 hB1 hB2 hw4 hnb hn0 hNb hg hK hfl hh hq hN bx2 bx3 bl3 hU2 hU3 k3 hUl hW3 hY hL bN k0 hbg hown hgrow
  refine wpIn_wide.1 (range_pre (n := 8) rfl (enters_of Tryz.func88 (by kernel_rfl) rfl) hown4 (fun _ => rfl)
    (fun pre W => BeI w w.heap.size Y L h (.int .i64 (h : Int)) (.int .i64 x) (.slice ia 16 ic) (.slice sa sn sc) (.slice (some ⟨H, 0, none⟩) N N) g pre.length W ∧ w4.heap.size ≤ W.heap.size)
    (fun pre A B row hs hg hr => ⟨hs.1.own (D := w4.heap.size) hwz hg hr, Nat.le_trans hs.2 hg.size⟩) (fun pre W h => trivial) ⟨hI4, Nat.le_refl _⟩
    (fun pre (i : Nat) a' W => a' = { tmps := #[.agg #[.int .i64 (h : Int), .int .i64 x, .slice ia 16 ic, .slice sa sn sc, .slice (some ⟨H, 0, none⟩) N N], .int .u32 (q : Int), .pointer (some ⟨w.heap.size, 0, none⟩), undef, .slice none 0 0, .pointer (some ⟨Y, 0, none⟩), .int .i64 (i : Int), .int .i64 (((n0 / 2 ^ i) ^^^ 1 : Nat) : Int), .pointer (some ⟨w.heap.size, 0, none⟩), .pointer (some ⟨w.heap.size, 0, none⟩), .pointer (some ⟨w.heap.size, 0, none⟩), .int .i64 (h : Int), .slice (some ⟨L, 0, none⟩) h h, .pointer (some ⟨w.heap.size, 0, none⟩), .agg #[.int .i64 (h : Int), .int .i64 x, .slice ia 16 ic], .int .u32 (q : Int), .func (.func 88) #[] #[.pointer (some ⟨Y + 1, 0, none⟩), .pointer (some ⟨Y + 1 + 1, 0, none⟩)], .int .i64 (i : Int), .int .i64 (((n0 / 2 ^ i) ^^^ 1 : Nat) : Int), undef, undef, undef, undef, undef, undef, undef, undef, undef], defers := [] } ∧ BeI w w.heap.size Y L h (.int .i64 (h : Int)) (.int .i64 x) (.slice ia 16 ic) (.slice sa sn sc) (.slice (some ⟨H, 0, none⟩) N N) g pre.length W ∧ w4.heap.size ≤ W.heap.size)
    (fun pre (i : Nat) a' u A B row hs hg hr => ⟨hs.1, hs.2.1.own (D := w4.heap.size) hwz hg hr, Nat.le_trans hs.2.2 hg.size⟩) ?assign ?body ?done)
  case assign =>
    rintro l pre i W K ⟨lp, hsz⟩ hlt hK
    unfold nbV
    gi_wp2
    exact hK _ _ (kept_belowL (Below.refl _ _)) ⟨rfl, lp, hsz⟩
  case body =>
    rintro l pre i a' W ⟨rfl, lp, hsz⟩ hlt
    obtain ⟨hpre, hi⟩ := pre_range hlt
    obtain ⟨hn0, hNb, hg, hK, hfl, hh, hq, hN⟩ := HX.out
    have hpl : pre.length = i := by rw [hpre, List.length_range]
    have hpl2 : (pre ++ [i]).length = i + 1 := by rw [List.length_append, hpl]; rfl
    rw [hpl] at lp
    rw [hpl2]
    obtain ⟨nb1, nb2⟩ := hNb i hi
    have hgi : g i = f ((n0 / 2 ^ i) ^^^ 1) := by rw [hg]
    obtain ⟨B, hB⟩ : ∃ B, B = (n0 / 2 ^ i) ^^^ 1 := ⟨_, rfl⟩
    rw [← hB] at nb1 nb2 hgi ⊢
    obtain ⟨u, cu, ru, tu, _⟩ := hK.cell nb1 nb2
    have uo : ∀ z, u.ownBlock = some z → z ≠ L := fun z e => by have := ru.old (by rw [hfl]; decide) e; omega
    have hul : (f B).length = 32 := hfl B
    have cuW := keep_cell cu lp.bel
    have ruW := ru.below lp.bel
    rw [← hgi] at ruW
    have hgl : (g i).length = 32 := by rw [hgi]; exact hul
    obtain ⟨ua, uc, rfl, _⟩ := ru.opens hul
    have hBH : H ≠ L := by have := hK.lt; omega
    have hbx := lp.bx
    have hbl := lp.bl
    have hup := lp.up
    have hbel := lp.bel
    have HQ := hide (And.intro hsz (And.intro lp (And.intro ruW (And.intro tu uo))))
    clear hpre hpl hpl2 hn0 hNb hg hK hfl hh hq hN hgi hB cu ru nb1 lp hsz hul hgl ruW tu uo
    gi_wp2
    have hbd : But L W W.drew := (But.refl _ _).drew
    have kb : Below W.heap.size W W.drew := (Below.refl _ _).drew
    refine at_begin_in (ops := opsA (cBA (cFA (cBA (cRA (cLA (cRA (cRA (Tryz.f33.body.getD .skip))))))))) (k := 9) (fun y => But L W y) (by kernel_rfl) (by kernel_rfl) (by kernel_rfl) ?_
    refine at_takeD (i := 0) (m' := 1) (d := some 19) (v := .slice (some ⟨L, 0, none⟩) h h) be5reg rfl (by decide) rfl rfl (y_plainG (wanted_free rfl) rfl rfl Tryz.underlying46 rfl (fun _ h => (boxed_butL hbl h hYL).cell)) hbd ?_
    simp only [Act.put, List.setIfInBounds_toArray, List.set_cons_zero, List.set_cons_succ]
    refine at_takeD (i := 1) (m' := 3) (d := some 20) (v := .int .i64 (i : Int)) be5reg rfl (by decide) rfl rfl (y_moveG (wanted_free rfl) rfl rfl) hbd ?_
    simp only [Act.put, List.setIfInBounds_toArray, List.set_cons_zero, List.set_cons_succ]
    refine at_takeD (i := 2) (m' := 7) (d := some 21) (v := .pointer (some ⟨w.heap.size, 4, none⟩)) be5reg rfl (by decide) rfl rfl (y_fieldG (wanted_free rfl) rfl rfl (fun w => by simp [go_sem])) hbd ?_
    simp only [Act.put, List.setIfInBounds_toArray, List.set_cons_zero, List.set_cons_succ]
    refine at_takeD (i := 3) (m' := 15) (d := some 22) (v := .slice (some ⟨H, 0, none⟩) N N) be5reg rfl (by decide) rfl rfl (y_plainG (wanted_free rfl) rfl rfl Tryz.underlying46 rfl (fun _ h => (hbx.but h hXL).c4)) hbd ?_
    simp only [Act.put, List.setIfInBounds_toArray, List.set_cons_zero, List.set_cons_succ]
    refine at_takeD (i := 4) (m' := 31) (d := some 23) (v := .int .i64 (B : Int)) be5reg rfl (by decide) rfl rfl (y_moveG (wanted_free rfl) rfl rfl) hbd ?_
    simp only [Act.put, List.setIfInBounds_toArray, List.set_cons_zero, List.set_cons_succ]
    refine at_takeD (i := 5) (m' := 63) (d := some 24) (v := .pointer (some ⟨H, B, none⟩)) be5reg rfl (by decide) rfl rfl (y_ix0 (wanted_free rfl) rfl rfl rfl Tryz.underlying46 (by kernel_rfl) nb2) hbd ?_
    simp only [Act.put, List.setIfInBounds_toArray, List.set_cons_zero, List.set_cons_succ]
    refine at_takeD (i := 6) (m' := 127) (d := some 25) (v := .slice ua 32 uc) be5reg rfl (by decide) rfl rfl (y_plainG (wanted_free rfl) rfl rfl Tryz.underlying24 rfl (fun _ h => But.cell cuW h hBH)) hbd ?_
    simp only [Act.put, List.setIfInBounds_toArray, List.set_cons_zero, List.set_cons_succ]
    refine at_takeD (i := 7) (m' := 255) (d := some 26) (v := .pointer (some ⟨L, i, none⟩)) be5reg rfl (by decide) rfl rfl (y_ix0 (wanted_free rfl) rfl rfl rfl Tryz.underlying46 (by kernel_rfl) hi) hbd ?_
    simp only [Act.put, List.setIfInBounds_toArray, List.set_cons_zero, List.set_cons_succ]
    refine at_one (i := 8) (m' := 511) be5reg (by decide) rfl ?_
    refine p_store_plain (P := Tryz.prog) rfl rfl rfl rfl rfl rfl Tryz.underlying24 rfl (by kernel_rfl) ((hup.below kb).any hi) ((hup.below kb).frozen i) ?_
    have hb9 := hbd.setCell i (.slice ua 32 uc)
    refine ⟨hb9, ?_⟩
    refine at_done be5reg (by decide) ?_
    obtain ⟨hsz, lp, ruW, tu, uo⟩ := HQ.out
    have hU5 := (hup.below kb).store hi (ruW.below kb) tu uo
    have hB5 : But L W _ := hb9
    refine ⟨(kept_belowL kb).trans (kept_setL _ hL4), ⟨hbx.but hB5 hXL, boxed_butL hbl hB5 hYL, hU5, hbel.trans (hB5.below hwL hbel.size)⟩, Nat.le_trans hsz hB5.size⟩
  case done =>
    rintro W ⟨lp, hsz⟩ hK
    rw [List.length_range] at lp
    have lpF := lp.own (D := w4.heap.size) hwz (grownBy_putObj' W w4.heap.size (.deferred none)) (fun r e => by cases e; exact ⟨Nat.le_refl _, _, hK, rfl⟩)
    have cG := lp.bl.cell
    have hrr := lpF.up.rows (by have := HX.out.2.2.2.2.2.1; omega)
    have hbb := lpF.bel
    clear lp lpF
    go_wp2
    refine ⟨by simp, .inl ⟨_, _, rfl, run_takeDeferred hK, ?_⟩⟩
    exact ⟨_, results_tmp rfl _ _ _, .slice (some ⟨L, 0, none⟩) h h, rfl, hrr, hbb⟩
end Go.Proofs.YtefndnbaifiboaaGreatDoor
