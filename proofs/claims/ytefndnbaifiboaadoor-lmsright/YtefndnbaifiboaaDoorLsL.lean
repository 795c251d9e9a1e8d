/- Trees of leaves that sign once, the program's own: what grows a tree; a row of knots, by a method that is handed about. -/
import Derived.Test.YtefndnbaifiboaaDoorLsE
import Derived.Test.YtefndnbaifiboaaDoorLcP
import Derived.Test.YtefndnbaifiboaaDoorLtN
namespace Go.Proofs.YtefndnbaifiboaaDoor
open Go.RowKit Go.Shelf
set_option linter.unusedVariables false
set_option linter.unusedSimpArgs false

section
variable {ops : Array Oper} {Q : Exit → Act → World → Prop} {S : World → Prop} {K : Act → World → Prop}
/-- a method value called -/
theorem p_callVL {i : Nat} {o : Oper} {a : Act} {w : World} {f : FuncId} {x y : Operand} {ts : Array TypeId} {u v : Value} {d : Option Nat} (hi : ops[i]? = some o) (hg : o.guard = none) (ho : o.op = .call { callee := .value x, args := #[y], argTypes := ts }) (hx : a.eval x = .func (.func f) #[u] #[]) (hy : a.eval y = v) (hd : o.dst = d)
    (hf : ∀ (args : Array Value) (w : World), (callFunc f args).run Tryd.prog w = .ok (.enter f args) w) (h : Calls Tryd.prog f #[u, v] w fun e w' => ∃ r, e = .returned r ∧ K (a.put d r) w') : wpOp Tryd.prog ops Q i K a w := by
  have hr : (execOp a.eval o).run Tryd.prog w = .ok (.enter f #[u, v]) w := by
    unfold execOp
    simp only [ho, List.map_toArray, List.map_cons, List.map_nil, hy, resolve, hx]
    simp [invoke, go_sem, hf]
  unfold wpOp
  simp only [hi]
  rw [if_pos (wanted_free hg)]
  left
  unfold Oper.wp
  rw [hr]
  refine h.mono ?_
  rintro e w' ⟨r, rfl, hk⟩
  rw [← hd] at hk
  exact hk
theorem y_mkF {o : Oper} {a : Act} {x : Operand} {f : FuncId} {v : Value} (hw : Region.wanted o (yielded ops a.tmps) = true) (ho : o.op = .makeFunc (.func f) #[x] #[]) (hx : a.eval x = v) : YieldsIf Tryd.prog ops S o (.func (.func f) #[v] #[]) a :=
  y_ofG hw fun w _ => by
    unfold execOp
    simp only [ho, List.map_toArray, List.map_cons, List.map_nil, hx]
    rfl
theorem y_subI {o : Oper} {a : Act} {x y : Operand} {t t' : TypeId} {i j q : Int} (hw : Region.wanted o (yielded ops a.tmps) = true) (ho : o.op = .binOp .sub t x y t') (hx : a.eval x = .int .i64 i) (hy : a.eval y = .int .i64 j) (hu : Tryd.prog.underlying t = some (.int .i64)) (hb : IntKind.i64.wrap (i - j) = q) : YieldsIf Tryd.prog ops S o (.int .i64 q) a := by
  refine y_ofG hw fun w _ => ?_
  unfold execOp
  simp only [ho, hx, hy]
  simp [go_sem, Sem.run_bind, run_underlying hu, hb]
end
/-- a grower's box -/
structure BxW (W : World) (B : Nat) (a b c d e : Value) : Prop where
  here : W.heap[B]? = some (.cells #[a, b, c, d, e] 45 (0, 0))
theorem BxW.lt {W : World} {B : Nat} {a b c d e : Value} (h : BxW W B a b c d e) : B < W.heap.size := (Array.getElem?_eq_some_iff.1 h.here).1
theorem BxW.below {W W' : World} {B : Nat} {a b c d e : Value} (h : BxW W B a b c d e) (hb : Below W.heap.size W W') : BxW W' B a b c d e := ⟨(hb.block _ h.lt).trans h.here⟩
theorem BxW.but {W W' : World} {B g : Nat} {a b c d e : Value} (h : BxW W B a b c d e) (hb : But g W W') (hne : B ≠ g) : BxW W' B a b c d e := ⟨(hb.block _ h.lt hne).trans h.here⟩
theorem BxW.new (W : World) (a b c d e : Value) : BxW (W.alloc (.cells #[a, b, c, d, e] 45)) W.heap.size a b c d e := ⟨heap_alloc_new W _⟩
theorem BxW.row {W : World} {B : Nat} {a b c d e a' b' c' d' e' : Value} (h : BxW W B a b c d e) : BxW (W.setRow B #[a', b', c', d', e']) B a' b' c' d' e' := ⟨setRow_heap W B _ _ _ _ h.here⟩
theorem BxW.range {W : World} {B : Nat} {a b c d e : Value} (h : BxW W B a b c d e) : W.rangeAt B 0 [a, b, c, d, e] := fun j v hv => by
  rw [Nat.zero_add]
  simp only [World.cell?, h.here]
  simpa using hv
theorem BxW.range3 {W : World} {B : Nat} {a b c d e : Value} (h : BxW W B a b c d e) : W.rangeAt B 0 [a, b, c] := fun j v hv => by
  rw [Nat.zero_add]
  simp only [World.cell?, h.here]
  rcases j with _ | _ | _ | j
  · simpa using hv
  · simpa using hv
  · simpa using hv
  · simp at hv
theorem BxW.c0 {W : World} {B : Nat} {a b c d e : Value} (h : BxW W B a b c d e) : W.cell? ⟨B, 0, none⟩ = some a := by simp [World.cell?, h.here]
theorem BxW.c1 {W : World} {B : Nat} {a b c d e : Value} (h : BxW W B a b c d e) : W.cell? ⟨B, 1, none⟩ = some b := by simp [World.cell?, h.here]
theorem BxW.c2 {W : World} {B : Nat} {a b c d e : Value} (h : BxW W B a b c d e) : W.cell? ⟨B, 2, none⟩ = some c := by simp [World.cell?, h.here]
theorem BxW.c3 {W : World} {B : Nat} {a b c d e : Value} (h : BxW W B a b c d e) : W.cell? ⟨B, 3, none⟩ = some d := by simp [World.cell?, h.here]
theorem BxW.c4 {W : World} {B : Nat} {a b c d e : Value} (h : BxW W B a b c d e) : W.cell? ⟨B, 4, none⟩ = some e := by simp [World.cell?, h.here]
theorem BxW.ret {W : World} {B : Nat} {a b c d e : Value} (h : BxW W B a b c d e) {fn : Func} {p q : Tmp} (hr : fn.results = #[.cell p 45, .tmp q]) (tmps : Array Value) {v : Value} (hp : tmps.getD p undef = .pointer (some ⟨B, 0, none⟩)) (hv : tmps.getD q undef = v) :
    (results fn tmps).run Tryd.prog W = .ok (.tuple #[.agg #[a, b, c, d, e], v]) W := by
  subst hv
  have hp' : tmps[p]?.getD undef = .pointer (some ⟨B, 0, none⟩) := by simpa using hp
  simp [results, hr, hp', asAddr, run_loadVar_row W B 45 45 #[a, b, c, d, e] (0, 0) _ h.here Tryd.underlying45 rfl (by kernel_rfl)]
/-- knots' sums, as many as are grown, each in its place -/
def KnP (wr : World) (H N : Nat) (S : Nat → Prop) (f : Nat → List Nat) : Prop := ∃ us : Array Value, us.size = N ∧ wr.heap[H]? = some (.cells us 25 (0, 0)) ∧ ∀ j, S j → j < N → ∃ u, us[j]? = some u ∧ Row .u8 256 wr u (f j) ∧ Tidy u ∧ ∀ q, u.ownBlock = some q → q ≠ H
theorem KnP.lt {wr : World} {H N : Nat} {S : Nat → Prop} {f : Nat → List Nat} (h : KnP wr H N S f) : H < wr.heap.size := by
  obtain ⟨us, _, h1, _⟩ := h
  exact (Array.getElem?_eq_some_iff.1 h1).1
theorem KnP.below {wr w' : World} {H N : Nat} {S : Nat → Prop} {f : Nat → List Nat} (h : KnP wr H N S f) (hb : Below wr.heap.size wr w') : KnP w' H N S f := by
  have hl := h.lt
  obtain ⟨us, h1, h2, h3⟩ := h
  refine ⟨us, h1, (hb.block _ hl).trans h2, fun j k1 k2 => ?_⟩
  obtain ⟨u, e1, e2, e3, e4⟩ := h3 j k1 k2
  exact ⟨u, e1, e2.below hb, e3, e4⟩
theorem KnP.mono {wr : World} {H N : Nat} {S S' : Nat → Prop} {f : Nat → List Nat} (h : KnP wr H N S f) (hS : ∀ j, j < N → S' j → S j) : KnP wr H N S' f := by
  obtain ⟨us, h1, h2, h3⟩ := h
  exact ⟨us, h1, h2, fun j k1 k2 => h3 j (hS j k2 k1) k2⟩
theorem KnP.frozen {wr : World} {H N : Nat} {S : Nat → Prop} {f : Nat → List Nat} (h : KnP wr H N S f) (j : Nat) : wr.frozen? ⟨H, j, none⟩ = false := by
  obtain ⟨us, _, h1, _⟩ := h
  simp [World.frozen?, h1]
theorem KnP.any {wr : World} {H N : Nat} {S : Nat → Prop} {f : Nat → List Nat} (h : KnP wr H N S f) {j : Nat} (hj : j < N) : (wr.cell? ⟨H, j, none⟩).isSome = true := by
  obtain ⟨us, h0, h1, _⟩ := h
  rw [cell_of_row wr H j _ _ (0, 0) h1]
  rw [Array.getElem?_eq_getElem (by omega)]; rfl
theorem KnP.cell {wr : World} {H N : Nat} {S : Nat → Prop} {f : Nat → List Nat} (h : KnP wr H N S f) {j : Nat} (k1 : S j) (k2 : j < N) : ∃ u, wr.cell? ⟨H, j, none⟩ = some u ∧ Row .u8 256 wr u (f j) ∧ Tidy u ∧ ∀ q, u.ownBlock = some q → q ≠ H := by
  obtain ⟨us, h0, h1, h2⟩ := h
  obtain ⟨u, e1, e2, e3, e4⟩ := h2 j k1 k2
  exact ⟨u, by rw [cell_of_row wr H j _ _ (0, 0) h1]; exact e1, e2, e3, e4⟩
theorem KnP.store {wr : World} {H N i : Nat} {S S' : Nat → Prop} {f : Nat → List Nat} {v : Value} (h : KnP wr H N S f) (hi : i < N) (hS : ∀ j, S' j → j = i ∨ S j) (hv : Row .u8 256 wr v (f i)) (tv : Tidy v) (hn : ∀ q, v.ownBlock = some q → q ≠ H) : KnP (wr.setCell ⟨H, i, none⟩ v) H N S' f := by
  obtain ⟨us, h0, h1, h2⟩ := h
  have hB : But H wr (wr.setCell ⟨H, i, none⟩ v) := (But.refl H wr).setCell i v
  refine ⟨us.setIfInBounds i v, by simp [h0], ?_, fun j k1 k2 => ?_⟩
  · rw [setCell_eq_setRow wr H i _ 25 (0, 0) _ h1]
    exact setRow_heap wr H _ _ 25 _ h1
  · by_cases e : j = i
    · subst e
      exact ⟨v, by rw [Array.getElem?_setIfInBounds_self_of_lt (by omega)], hv.but (fun _ q hq => hn q hq) hB, tv, hn⟩
    · have hSj : S j := (hS j k1).resolve_left e
      obtain ⟨u, e1, e2, e3, e4⟩ := h2 j hSj k2
      exact ⟨u, by rw [Array.getElem?_setIfInBounds_ne (fun x => e x.symm)]; exact e1, e2.but (fun _ q hq => e4 q hq) hB, e3, e4⟩
theorem KnP.made {w : World} {base g n : Nat} {xs : List Value} (f : Nat → List Nat) (h : w.ownsRow base 25 1 (.slice (some ⟨g, 0, none⟩) n n) n xs) : KnP w g n (fun _ => False) f := by
  obtain ⟨us, h0, h1, _⟩ := KnS.made f h
  exact ⟨us, h0, h1, fun j k1 _ => k1.elim⟩
/-- which knots are grown when a row is grown up to knot k -/
def upS (first k : Nat) : Nat → Prop := fun j => 2 * first ≤ j ∨ first ≤ j ∧ j < k
def RwL (W0 : World) (H N first : Nat) (f : Nat → List Nat) (vi : Value) (wr : World) : Prop := ∃ k : Nat, first ≤ k ∧ k ≤ 2 * first ∧ vi = .int .i64 (k : Int) ∧ KnP wr H N (upS first k) f ∧ But H W0 wr
def rw4lt : List Lt := [(0, some 14, [3]), (1, some 15, [14]), (0, some 16, [6]), (0, some 17, [2]), (0, some 18, [6]), (24, some 19, [17, 18]), (63, some 20, [15, 16]), (127, none, [20, 19])]
theorem rw4reg : Reg (opsA (cBA (cLA (cRA (cLpA (cBA (cRA (cRA (Tryd.f32.body.getD .skip))))))))) rw4lt := ⟨by kernel_rfl, by kernel_rfl⟩
set_option maxHeartbeats 4000000 in
set_option maxRecDepth 100000 in
theorem crow_any (fid : FuncId) (H N first : Nat) (f : Nat → List Nat) (h x : Int) (ia sa : Option Addr) (il ic sl sc : Nat) (w : World) (hN : N ≤ 4096) (h1 : 1 ≤ first) (hfN : 2 * first ≤ N) (hfl : ∀ i, (f i).length = 32) (hK : KnP w H N (fun j => 2 * first ≤ j) f)
    (he : ∀ (args : Array Value) (y : World), (callFunc fid args).run Tryd.prog y = .ok (.enter fid args) y)
    (hS : ∀ (y : World) (k : Nat), But H w y → KnP y H N (upS first k) f → first ≤ k → k < 2 * first → Calls Tryd.prog fid #[.agg #[.int .i64 h, .int .i64 x, .slice ia il ic, .slice sa sl sc, .slice (some ⟨H, 0, none⟩) N N], .int .i64 (k : Int)] y fun e w' => ∃ v, e = .returned v ∧ Own 5 .u8 256 w' y.heap.size v (f k) ∧ Below y.heap.size y w') :
    Calls Tryd.prog 32 #[.agg #[.int .i64 h, .int .i64 x, .slice ia il ic, .slice sa sl sc, .slice (some ⟨H, 0, none⟩) N N], .int .i64 (first : Int), .func (.func fid) #[.agg #[.int .i64 h, .int .i64 x, .slice ia il ic, .slice sa sl sc, .slice (some ⟨H, 0, none⟩) N N]] #[]] w fun e w' => e = .returned (.tuple #[]) ∧ But H w w' ∧ KnP w' H N (fun j => first ≤ j) f := by
  have bN := BxW.new w (.int .i64 h) (.int .i64 x) (.slice ia il ic) (.slice sa sl sc) (.slice (some ⟨H, 0, none⟩) N N)
  have k0 := keep_alloc w (.cells #[.int .i64 h, .int .i64 x, .slice ia il ic, .slice sa sl sc, .slice (some ⟨H, 0, none⟩) N N] 45)
  have hHw := hK.lt
  have hK0 := hK.below k0
  have hne : w.heap.size ≠ H := by omega
  obtain ⟨T, hT⟩ : ∃ T : Nat, T = 2 * first := ⟨_, rfl⟩
  have e_T : (2 : Int) * (first : Int) = (T : Int) := by omega
  have s_T : IntKind.i64.wrap (T : Int) = (T : Int) := by rw [IntKind.wrap_i64]; omega
  generalize hW0 : w.alloc (.cells #[.int .i64 h, .int .i64 x, .slice ia il ic, .slice sa sl sc, .slice (some ⟨H, 0, none⟩) N N] 45) = W0 at *
  have H0 : Hid (RwL W0 H N first f (.int .i64 (first : Int)) W0) := hide ⟨first, Nat.le_refl _, by omega, rfl, hK0.mono (fun j _ hj => by unfold upS at hj; omega), But.refl _ _⟩
  have HX := hide (And.intro hT (And.intro hN (And.intro h1 (And.intro hfN (And.intro hfl (And.intro hS (But.of_below (g := H) k0)))))))
  clear hT hN h1 hfN hfl hS hK hK0 k0 hHw
  go_enter Tryd.func32, Tryd.ntmps32
  go_wp2
  go_loopw [6] (fun vi wr => RwL W0 H N first f vi wr) (fun vi _ => T - (intOf vi).toNat)
  case atStart => exact H0.out
  case round =>
    obtain ⟨k, hk1, hk2, rfl, hKr, hbr⟩ := hrel
    clear H0
    rename World => wr
    obtain ⟨hT, hN, h1, hfN, hfl, hS, hb0⟩ := HX.out
    by_cases hlt : k < T
    · have hli : (k : Int) < (T : Int) := by omega
      have hbx := bN.but hbr hne
      have hiP : k < N := by omega
      have hcl := hS wr.drew k (hb0.trans (hbr.trans (But.refl _ _).drew)) (hKr.below (Below.refl _ _).drew) hk1 (by omega)
      have hCl := hfl k
      obtain ⟨I, hI⟩ : ∃ I : Nat, I = k + 1 := ⟨_, rfl⟩
      have e_I : (k : Int) + 1 = (I : Int) := by omega
      have s_I : IntKind.i64.wrap (I : Int) = (I : Int) := by rw [IntKind.wrap_i64]; omega
      have HQ := hide (And.intro hI (And.intro hk1 (And.intro hk2 (And.intro hKr hlt))))
      have hbd : Below wr.heap.size wr wr.drew := (Below.refl _ _).drew
      have hSet := fun y (kb : Below wr.heap.size wr y) (v : Value) (o : Own 5 .u8 256 y wr.drew.heap.size v (f k)) => (hKr.below kb).store (S' := upS first (k + 1)) hiP (fun j hj => by unfold upS at hj ⊢; omega) o.row o.tidy (fun q e => by have := o.new q e; have := hKr.lt; have hz : wr.drew.heap.size = wr.heap.size := rfl; omega)
      have hKf := fun y (kb : Below wr.heap.size wr y) => And.intro ((hKr.below kb).any hiP) ((hKr.below kb).frozen k)
      clear hI hk1 hk2 hT hN h1 hfN hfl hS hlt hKr
      go_wp2
      refine at_begin (ops := opsA (cBA (cLA (cRA (cLpA (cBA (cRA (cRA (Tryd.f32.body.getD .skip))))))))) (n := 8) (fun y => But H wr y) (by kernel_rfl) (by kernel_rfl) ?_
      have kb := hbd
      replace hbd : But H wr wr.drew := (But.refl _ _).drew
      refine at_takeD (i := 0) (m' := 1) (d := some 14) (v := .pointer (some ⟨w.heap.size, 4, none⟩)) rw4reg rfl (by decide) rfl rfl (y_fieldG (wanted_free rfl) rfl rfl (fun w => by simp [go_sem])) hbd ?_
      simp only [Act.put, List.setIfInBounds_toArray, List.set_cons_zero, List.set_cons_succ]
      refine at_takeD (i := 1) (m' := 3) (d := some 15) (v := .slice (some ⟨H, 0, none⟩) N N) rw4reg rfl (by decide) rfl rfl (y_plainG (wanted_free rfl) rfl rfl Tryd.underlying40 rfl (fun _ h => (hbx.but h hne).c4)) hbd ?_
      simp only [Act.put, List.setIfInBounds_toArray, List.set_cons_zero, List.set_cons_succ]
      refine at_takeD (i := 2) (m' := 7) (d := some 16) (v := .int .i64 (k : Int)) rw4reg rfl (by decide) rfl rfl (y_moveG (wanted_free rfl) rfl rfl) hbd ?_
      simp only [Act.put, List.setIfInBounds_toArray, List.set_cons_zero, List.set_cons_succ]
      refine at_takeD (i := 3) (m' := 15) (d := some 17) (v := .func (.func fid) #[.agg #[.int .i64 h, .int .i64 x, .slice ia il ic, .slice sa sl sc, .slice (some ⟨H, 0, none⟩) N N]] #[]) rw4reg rfl (by decide) rfl rfl (y_moveG (wanted_free rfl) rfl rfl) hbd ?_
      simp only [Act.put, List.setIfInBounds_toArray, List.set_cons_zero, List.set_cons_succ]
      refine at_takeD (i := 4) (m' := 31) (d := some 18) (v := .int .i64 (k : Int)) rw4reg rfl (by decide) rfl rfl (y_moveG (wanted_free rfl) rfl rfl) hbd ?_
      simp only [Act.put, List.setIfInBounds_toArray, List.set_cons_zero, List.set_cons_succ]
      refine at_one (i := 5) (m' := 63) rw4reg (by decide) rfl ?_
      refine p_callVL (d := some 19) rfl rfl rfl rfl rfl rfl he ((hcl).mono ?_)
      rintro e y6 ⟨v, rfl, ov, g6⟩
      obtain ⟨va, vc, rfl, _⟩ := ov.row.opens hCl
      replace kb := keep_trans kb g6
      have hb6 := but_keep hbd g6
      refine ⟨_, rfl, ?_⟩
      refine ⟨hb6, ?_⟩
      simp only [Act.put, List.setIfInBounds_toArray, List.set_cons_zero, List.set_cons_succ]
      refine at_takeD (i := 6) (m' := 127) (d := some 20) (v := .pointer (some ⟨H, k, none⟩)) rw4reg rfl (by decide) rfl rfl (y_ix0 (wanted_free rfl) rfl rfl rfl Tryd.underlying40 (by kernel_rfl) hiP) hb6 ?_
      simp only [Act.put, List.setIfInBounds_toArray, List.set_cons_zero, List.set_cons_succ]
      refine at_one (i := 7) (m' := 255) rw4reg (by decide) rfl ?_
      refine p_store_plain (P := Tryd.prog) rfl rfl rfl rfl rfl rfl Tryd.underlying25 rfl (by kernel_rfl) (hKf _ kb).1 (hKf _ kb).2 ?_
      have hb8 := hb6.setCell k (.slice va 32 vc)
      have hKn := hSet _ kb _ ov
      refine ⟨hb8, ?_⟩
      refine at_done rw4reg (by decide) ?_
      go_wp2
      obtain ⟨hI, hk1, hk2, hKr, hlt⟩ := HQ.out
      go_roundw
      case rel => exact ⟨k + 1, by omega, by have := HX.out.1; omega, vint (by omega), hKn, hbr.trans hb8⟩
      case measure => simp [intOf]; omega
    · obtain rfl : k = T := by omega
      have hge : ¬ ((k : Int) < (k : Int)) := by omega
      have HQ := hide (And.intro hKr hbr)
      clear hlt hT hN h1 hfN hfl hS hk1 hk2 hb0 hKr hbr
      go_wp2
      go_end0
      obtain ⟨hT, hN, h1, hfN, hfl, hS, hb0⟩ := HX.out
      obtain ⟨hKr, hbr⟩ := HQ.out
      refine ⟨rfl, hb0.trans hbr, hKr.mono fun j hj hj2 => ?_⟩
      unfold upS
      omega
end Go.Proofs.YtefndnbaifiboaaDoor
