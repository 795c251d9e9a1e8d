/- Trees of leaves that sign once: words for the laws. -/
import Derived.Test.YtefndnbaifiboaaGreatDoorLsJ
import Derived.Test.YtefndnbaifiboaaGreatDoorLtV6
import Derived.Test.YtefndnbaifiboaaGreatDoorLtC2
import Derived.BigFrame
import Derived.Test.YtefndnbaifiboaaGreatDoorLcM
import Derived.Test.YtefndnbaifiboaaGreatDoorLtN
namespace Go.Proofs.YtefndnbaifiboaaGreatDoor
open Go.RowKit
set_option linter.unusedVariables false
set_option linter.unusedSimpArgs false

set_option maxHeartbeats 2000000 in
set_option maxRecDepth 100000 in
theorem fewM (g N : Nat) (len cp : Nat → Nat) (ad : Nat → Option Addr) (w : World) (hN : N ≤ 10) (hc : ∀ i, i < N → w.cell? ⟨g, i, none⟩ = some (.slice (ad i) (len i) (cp i))) :
    Calls Tryz.prog 6 #[.slice (some ⟨g, 0, none⟩) N N] w fun e w' => e = .returned (.bool (decide (∀ i, i < N → len i ≤ 300))) ∧ w' = w := by
  go_enter Tryz.func6, Tryz.ntmps6
  go_wp2
  go_loop [7] (fun i => ∃ k : Nat, k ≤ N ∧ i = .int .i64 k ∧ Hid (∀ j, j < k → len j ≤ 300)) (fun i => N - (intOf i).toNat)
  case atStart => exact ⟨0, Nat.zero_le _, rfl, hide (fun j hj => by omega)⟩
  case round =>
    obtain ⟨k, hk, rfl, HA⟩ := hrel
    by_cases hlt : k < N
    · have hcell := hc k hlt
      have hkN : (k : Int) < (N : Int) := by omega
      have z_k : (0 : Int) ≤ (k : Int) := Int.natCast_nonneg _
      obtain ⟨Q, hQ⟩ : ∃ x : Nat, x = k + 1 := ⟨_, rfl⟩
      have e_Q : (k : Int) + 1 = (Q : Int) := by omega
      have s_Q : IntKind.i64.wrap (Q : Int) = (Q : Int) := by rw [IntKind.wrap_i64]; omega
      by_cases hl : 300 < len k
      · have g1 : (300 : Int) < (len k : Int) := by omega
        have g2 : (len k : Int) > 300 := by omega
        have hd : decide (∀ i, i < N → len i ≤ 300) = false := decide_eq_false fun h => by have := h k hlt; omega
        have HD := hide hd
        clear hc hd hQ
        obtain ⟨n, hn⟩ : ∃ n, n = len k := ⟨_, rfl⟩
        rw [← hn] at hcell g1 g2
        generalize ad k = aa at *
        generalize cp k = cc at *
        go_wp2
        go_ret
        exact ⟨by rw [HD.out]; rfl, rfl⟩
      · have g1 : ¬ (300 : Int) < (len k : Int) := by omega
        have g2 : ¬ (len k : Int) > 300 := by omega
        have HB : Hid (∀ j, j < k + 1 → len j ≤ 300) := hide fun j hj => by
          by_cases e : j = k
          · rw [e]; omega
          · exact HA.out j (by omega)
        have HQ := hide hQ
        clear hc hQ
        obtain ⟨n, hn⟩ : ∃ n, n = len k := ⟨_, rfl⟩
        rw [← hn] at hcell g1 g2
        generalize ad k = aa at *
        generalize cp k = cc at *
        go_wp2
        go_round
        case rel => exact ⟨k + 1, by omega, vint (by have := HQ.out; omega), HB⟩
        case measure => have := HQ.out; simp [intOf]; omega
    · obtain rfl : k = N := by omega
      have hd : decide (∀ i, i < k → len i ≤ 300) = true := decide_eq_true HA.out
      have hge : ¬ ((k : Int) < (k : Int)) := by omega
      have HD := hide hd
      clear hc hd
      go_wp2
      go_ret
      exact ⟨by rw [HD.out]; rfl, rfl⟩
theorem few1M (a0 : Option Addr) (n0 c0 : Nat) (w : World) :
    Calls Tryz.prog 6 #[.slice (some ⟨w.heap.size, 0, none⟩) 1 1] (w.alloc (.cells #[.slice a0 n0 c0] 24)) fun e w' => e = .returned (.bool (decide (n0 ≤ 300))) ∧ Below w.heap.size w w' := by
  have h := fewM w.heap.size 1 (fun i => n0) (fun i => c0) (fun i => a0) (w.alloc (.cells #[.slice a0 n0 c0] 24)) (by decide) (fun i hi => by
    match i, hi with
    | 0, _ => exact cell_row0 _ _ _ _ _ rfl)
  refine h.mono fun e w' hh => ⟨?_, by rw [hh.2]; exact keep_alloc _ _⟩
  rw [hh.1]
  congr 2
  exact decide_eq_decide.2 ⟨fun h => h 0 (by decide), fun h i _ => h⟩
theorem few3M (a0 a1 a2 : Option Addr) (n0 n1 n2 c0 c1 c2 : Nat) (w : World) :
    Calls Tryz.prog 6 #[.slice (some ⟨w.heap.size, 0, none⟩) 3 3] (w.alloc (.cells #[.slice a0 n0 c0, .slice a1 n1 c1, .slice a2 n2 c2] 24)) fun e w' => e = .returned (.bool (decide (n0 ≤ 300 ∧ n1 ≤ 300 ∧ n2 ≤ 300))) ∧ Below w.heap.size w w' := by
  have h := fewM w.heap.size 3 (fun i => if i = 0 then n0 else if i = 1 then n1 else n2) (fun i => if i = 0 then c0 else if i = 1 then c1 else c2) (fun i => if i = 0 then a0 else if i = 1 then a1 else a2) (w.alloc (.cells #[.slice a0 n0 c0, .slice a1 n1 c1, .slice a2 n2 c2] 24)) (by decide) (fun i hi => by
    match i, hi with
    | 0, _ => exact cell_row0 _ _ _ _ _ rfl
    | 1, _ => exact cell_row0 _ _ _ _ _ rfl
    | 2, _ => exact cell_row0 _ _ _ _ _ rfl)
  refine h.mono fun e w' hh => ⟨?_, by rw [hh.2]; exact keep_alloc _ _⟩
  rw [hh.1]
  congr 2
  refine decide_eq_decide.2 ⟨fun h => ⟨h 0 (by decide), h 1 (by decide), h 2 (by decide)⟩, ?_⟩
  rintro ⟨h0, h1, h2⟩ i hi
  match i, hi with
  | 0, _ => exact h0
  | 1, _ => exact h1
  | 2, _ => exact h2
theorem few2M (a0 a1 : Option Addr) (n0 n1 c0 c1 : Nat) (w : World) :
    Calls Tryz.prog 6 #[.slice (some ⟨w.heap.size, 0, none⟩) 2 2] (w.alloc (.cells #[.slice a0 n0 c0, .slice a1 n1 c1] 24)) fun e w' => e = .returned (.bool (decide (n0 ≤ 300 ∧ n1 ≤ 300))) ∧ Below w.heap.size w w' := by
  have h := fewM w.heap.size 2 (fun i => if i = 0 then n0 else n1) (fun i => if i = 0 then c0 else c1) (fun i => if i = 0 then a0 else a1) (w.alloc (.cells #[.slice a0 n0 c0, .slice a1 n1 c1] 24)) (by decide) (fun i hi => by
    match i, hi with
    | 0, _ => exact cell_row0 _ _ _ _ _ rfl
    | 1, _ => exact cell_row0 _ _ _ _ _ rfl)
  refine h.mono fun e w' hh => ⟨?_, by rw [hh.2]; exact keep_alloc _ _⟩
  rw [hh.1]
  congr 2
  refine decide_eq_decide.2 ⟨fun h => ⟨h 0 (by decide), h 1 (by decide)⟩, ?_⟩
  rintro ⟨h0, h1⟩ i hi
  match i, hi with
  | 0, _ => exact h0
  | 1, _ => exact h1
set_option maxHeartbeats 4000000 in
set_option maxRecDepth 100000 in
theorem awakeM_any (w : World) : Calls Tryz.prog 7 #[] w fun e w' => e = .returned (.bool true) ∧ Below w.heap.size w w' := by
  have hs := fun y => csizeT_any 5 8 y
  rw [show szT 5 8 = 1292 by decide] at hs
  have h6 := fun y => cfitT_any 6 8 y
  rw [show decide (FitL 6 8) = false by decide] at h6
  have h5 := fun y => cfitT_any 5 8 y
  rw [show decide (FitL 5 8) = true by decide] at h5
  have hv := fun y => cver_key [] (.slice none 0 0) (.slice none 0 0) (.slice none 0 0) y (Row.nil _ _ _) (fun h => by have := h.1; simp at this)
  go_enter Tryz.func7, Tryz.ntmps7
  go_wp2_with (first
    | (go_at_call 14; refine (hs _).mono ?_; rintro e w1 ⟨rfl, g1⟩)
    | (go_at_call 19; refine (hv _).mono ?_; rintro e w2 ⟨rfl, g2⟩)
    | (go_at_call_of 12 (Value.agg #[.int .i64 6, .int .i64 8]); refine (h6 _).mono ?_; rintro e w3 ⟨rfl, g3⟩)
    | (go_at_call_of 12 (Value.agg #[.int .i64 5, .int .i64 8]); refine (h5 _).mono ?_; rintro e w4 ⟨rfl, g4⟩)
    | fail)
  go_ret
  exact ⟨rfl, keep_trans g1 (keep_trans g2 (keep_trans g3 g4))⟩
end Go.Proofs.YtefndnbaifiboaaGreatDoor

/- Trees of leaves that sign once: words for the law of verifying. -/
namespace Go.Proofs.YtefndnbaifiboaaGreatDoor
open Go.RowKit
set_option linter.unusedVariables false
set_option linter.unusedSimpArgs false

/-- a struct read behind a guard that is met -/
theorem wpList_load_rowG {ops : Array Oper} {rest : List Oper} {o : Oper} {a : Act} {w : World} {Q : Exit → Act → World → Prop} (hw : Region.wanted o (yielded ops a.tmps) = true) (ty : TypeId) (x : Operand) (ho : o.op = .load ty x)
    (g : Nat) (hx : a.eval x = .pointer (some ⟨g, 0, none⟩)) (t : TypeId) (cs : Array Value) (fr : Nat × Nat) (fs : Array Field) (hg : w.heap[g]? = some (.cells cs t fr))
    (hu : Tryz.prog.underlying ty = some (.struct fs)) (hi : (Tryz.prog.info? ty).map (·.size) = some cs.size)
    (h : wpList Tryz.prog ops Q rest (a.put o.dst (.agg cs)) w) : wpList Tryz.prog ops Q (o :: rest) a w :=
  BigFrame.wpList_want hw fun _ hK => wp_load_row ty x ho g hx t cs fr (.struct fs) hg hu rfl hi (hK _ _ h)
def TellsC (y : World) (X1 X2 : List Nat) (H W c : Int) (e : Ending) (y' : World) : Prop := ∃ v1 v2, e = .returned (.tuple #[v1, .agg #[.int .i64 H, .int .i64 W], v2, .int .i64 c]) ∧ Row .u8 256 y' v1 X1 ∧ Row .u8 256 y' v2 X2 ∧ Below y.heap.size y y'
section
variable {w : World} {sig : List Nat} {ga : Option Addr} {gl gc : Nat}
theorem both_cut (rg : Row .u8 256 w (.slice ga gl gc) sig) (hl : sig.length ≤ 12000) :
    ∃ (X1 X2 : List Nat) (H W c : Int), (∀ y, Below w.heap.size w y → Calls Tryz.prog 17 #[.slice ga gl gc] y (TellsC y X1 X2 H W c)) ∧ (∀ y, Below w.heap.size w y → Calls Tryz.prog 18 #[.slice ga gl gc] y (TellsC y X1 X2 H W c)) := by
  by_cases hc : ctE sig = 0
  · refine ⟨sig.take (ctN sig), sig.drop (ctN sig), (ctH sig : Nat), (ctW sig : Nat), 0, fun y hb => (ccut_ok sig _ y (rg.below hb) hc (by omega)).mono fun e w' q => ?_, fun y hb => (rcut_ok sig _ y (rg.below hb) hc).mono fun e w' q => ?_⟩
    · obtain ⟨v1, v2, h1, h2, h3, h4⟩ := q
      exact ⟨v1, v2, h1, h2.row, h3.row, h4⟩
    · obtain ⟨v1, v2, h1, h2, h3, h4⟩ := q
      exact ⟨v1, v2, h1, h2, h3, h4⟩
  · exact ⟨[], [], 0, 0, (ctE sig : Nat), fun y hb => (ccut_no sig _ y (rg.below hb) hc).mono fun e w' q => ⟨_, _, q.1, Row.nil _ _ _, Row.nil _ _ _, q.2⟩, fun y hb => (rcut_no sig _ y (rg.below hb) hc).mono fun e w' q => ⟨_, _, q.1, Row.nil _ _ _, Row.nil _ _ _, q.2⟩⟩
end
end Go.Proofs.YtefndnbaifiboaaGreatDoor

/- Trees of leaves that sign once, the program's own: what grows a tree; a row of knots, by a method that is handed about. -/
namespace Go.Proofs.YtefndnbaifiboaaGreatDoor
open Go.RowKit Go.Shelf
set_option linter.unusedVariables false
set_option linter.unusedSimpArgs false

section
variable {ops : Array Oper} {Q : Exit → Act → World → Prop} {S : World → Prop} {K : Act → World → Prop}
/-- a method value called -/
theorem p_callVL {i : Nat} {o : Oper} {a : Act} {w : World} {f : FuncId} {x y : Operand} {ts : Array TypeId} {u v : Value} {d : Option Nat} (hi : ops[i]? = some o) (hg : o.guard = none) (ho : o.op = .call { callee := .value x, args := #[y], argTypes := ts }) (hx : a.eval x = .func (.func f) #[u] #[]) (hy : a.eval y = v) (hd : o.dst = d)
    (hf : ∀ (args : Array Value) (w : World), (callFunc f args).run Tryz.prog w = .ok (.enter f args) w) (h : Calls Tryz.prog f #[u, v] w fun e w' => ∃ r, e = .returned r ∧ K (a.put d r) w') : wpOp Tryz.prog ops Q i K a w := by
  have hr : (execOp a.eval o).run Tryz.prog w = .ok (.enter f #[u, v]) w := by
    unfold execOp
    simp only [ho, List.map_toArray, List.map_cons, List.map_nil, hy, resolve, hx]
    simp [invoke, go_sem, hf]
  unfold wpOp
  simp only [hi]
  rw [if_pos (wanted_free hg)]
  left
  unfold Oper.wp
  rw [hr]
  refine h.mono ?_
  rintro e w' ⟨r, rfl, hk⟩
  rw [← hd] at hk
  exact hk
theorem y_mkF {o : Oper} {a : Act} {x : Operand} {f : FuncId} {v : Value} (hw : Region.wanted o (yielded ops a.tmps) = true) (ho : o.op = .makeFunc (.func f) #[x] #[]) (hx : a.eval x = v) : YieldsIf Tryz.prog ops S o (.func (.func f) #[v] #[]) a :=
  y_ofG hw fun w _ => by
    unfold execOp
    simp only [ho, List.map_toArray, List.map_cons, List.map_nil, hx]
    rfl
theorem y_subI {o : Oper} {a : Act} {x y : Operand} {t t' : TypeId} {i j q : Int} (hw : Region.wanted o (yielded ops a.tmps) = true) (ho : o.op = .binOp .sub t x y t') (hx : a.eval x = .int .i64 i) (hy : a.eval y = .int .i64 j) (hu : Tryz.prog.underlying t = some (.int .i64)) (hb : IntKind.i64.wrap (i - j) = q) : YieldsIf Tryz.prog ops S o (.int .i64 q) a := by
  refine y_ofG hw fun w _ => ?_
  unfold execOp
  simp only [ho, hx, hy]
  simp [go_sem, Sem.run_bind, run_underlying hu, hb]
end
/-- a grower's box -/
structure BxW (W : World) (B : Nat) (a b c d e : Value) : Prop where
  here : W.heap[B]? = some (.cells #[a, b, c, d, e] 50 (0, 0))
theorem BxW.lt {W : World} {B : Nat} {a b c d e : Value} (h : BxW W B a b c d e) : B < W.heap.size := (Array.getElem?_eq_some_iff.1 h.here).1
theorem BxW.below {W W' : World} {B : Nat} {a b c d e : Value} (h : BxW W B a b c d e) (hb : Below W.heap.size W W') : BxW W' B a b c d e := ⟨(hb.block _ h.lt).trans h.here⟩
theorem BxW.but {W W' : World} {B g : Nat} {a b c d e : Value} (h : BxW W B a b c d e) (hb : But g W W') (hne : B ≠ g) : BxW W' B a b c d e := ⟨(hb.block _ h.lt hne).trans h.here⟩
theorem BxW.new (W : World) (a b c d e : Value) : BxW (W.alloc (.cells #[a, b, c, d, e] 50)) W.heap.size a b c d e := ⟨heap_alloc_new W _⟩
theorem BxW.row {W : World} {B : Nat} {a b c d e a' b' c' d' e' : Value} (h : BxW W B a b c d e) : BxW (W.setRow B #[a', b', c', d', e']) B a' b' c' d' e' := ⟨setRow_heap W B _ _ _ _ h.here⟩
theorem BxW.range {W : World} {B : Nat} {a b c d e : Value} (h : BxW W B a b c d e) : W.rangeAt B 0 [a, b, c, d, e] := fun j v hv => by
  rw [Nat.zero_add]
  simp only [World.cell?, h.here]
  simpa using hv
theorem BxW.range3 {W : World} {B : Nat} {a b c d e : Value} (h : BxW W B a b c d e) : W.rangeAt B 0 [a, b, c] := fun j v hv => by
  rw [Nat.zero_add]
  simp only [World.cell?, h.here]
  rcases j with _ | _ | _ | j
  · simpa using hv
  · simpa using hv
  · simpa using hv
  · simp at hv
theorem BxW.c0 {W : World} {B : Nat} {a b c d e : Value} (h : BxW W B a b c d e) : W.cell? ⟨B, 0, none⟩ = some a := by simp [World.cell?, h.here]
theorem BxW.c1 {W : World} {B : Nat} {a b c d e : Value} (h : BxW W B a b c d e) : W.cell? ⟨B, 1, none⟩ = some b := by simp [World.cell?, h.here]
theorem BxW.c2 {W : World} {B : Nat} {a b c d e : Value} (h : BxW W B a b c d e) : W.cell? ⟨B, 2, none⟩ = some c := by simp [World.cell?, h.here]
theorem BxW.c3 {W : World} {B : Nat} {a b c d e : Value} (h : BxW W B a b c d e) : W.cell? ⟨B, 3, none⟩ = some d := by simp [World.cell?, h.here]
theorem BxW.c4 {W : World} {B : Nat} {a b c d e : Value} (h : BxW W B a b c d e) : W.cell? ⟨B, 4, none⟩ = some e := by simp [World.cell?, h.here]
theorem BxW.ret {W : World} {B : Nat} {a b c d e : Value} (h : BxW W B a b c d e) {fn : Func} {p q : Tmp} (hr : fn.results = #[.cell p 50, .tmp q]) (tmps : Array Value) {v : Value} (hp : tmps.getD p undef = .pointer (some ⟨B, 0, none⟩)) (hv : tmps.getD q undef = v) :
    (results fn tmps).run Tryz.prog W = .ok (.tuple #[.agg #[a, b, c, d, e], v]) W := by
  subst hv
  have hp' : tmps[p]?.getD undef = .pointer (some ⟨B, 0, none⟩) := by simpa using hp
  simp [results, hr, hp', asAddr, run_loadVar_row W B 50 50 #[a, b, c, d, e] (0, 0) _ h.here Tryz.underlying50 rfl (by kernel_rfl)]
/-- knots' sums, as many as are grown, each in its place -/
def KnP (wr : World) (H N : Nat) (S : Nat → Prop) (f : Nat → List Nat) : Prop := ∃ us : Array Value, us.size = N ∧ wr.heap[H]? = some (.cells us 24 (0, 0)) ∧ ∀ j, S j → j < N → ∃ u, us[j]? = some u ∧ Row .u8 256 wr u (f j) ∧ Tidy u ∧ ∀ q, u.ownBlock = some q → q ≠ H
theorem KnP.lt {wr : World} {H N : Nat} {S : Nat → Prop} {f : Nat → List Nat} (h : KnP wr H N S f) : H < wr.heap.size := by
  obtain ⟨us, _, h1, _⟩ := h
  exact (Array.getElem?_eq_some_iff.1 h1).1
theorem KnP.below {wr w' : World} {H N : Nat} {S : Nat → Prop} {f : Nat → List Nat} (h : KnP wr H N S f) (hb : Below wr.heap.size wr w') : KnP w' H N S f := by
  have hl := h.lt
  obtain ⟨us, h1, h2, h3⟩ := h
  refine ⟨us, h1, (hb.block _ hl).trans h2, fun j k1 k2 => ?_⟩
  obtain ⟨u, e1, e2, e3, e4⟩ := h3 j k1 k2
  exact ⟨u, e1, e2.below hb, e3, e4⟩
theorem KnP.mono {wr : World} {H N : Nat} {S S' : Nat → Prop} {f : Nat → List Nat} (h : KnP wr H N S f) (hS : ∀ j, j < N → S' j → S j) : KnP wr H N S' f := by
  obtain ⟨us, h1, h2, h3⟩ := h
  exact ⟨us, h1, h2, fun j k1 k2 => h3 j (hS j k2 k1) k2⟩
theorem KnP.frozen {wr : World} {H N : Nat} {S : Nat → Prop} {f : Nat → List Nat} (h : KnP wr H N S f) (j : Nat) : wr.frozen? ⟨H, j, none⟩ = false := by
  obtain ⟨us, _, h1, _⟩ := h
  simp [World.frozen?, h1]
theorem KnP.any {wr : World} {H N : Nat} {S : Nat → Prop} {f : Nat → List Nat} (h : KnP wr H N S f) {j : Nat} (hj : j < N) : (wr.cell? ⟨H, j, none⟩).isSome = true := by
  obtain ⟨us, h0, h1, _⟩ := h
  rw [cell_of_row wr H j _ _ (0, 0) h1]
  rw [Array.getElem?_eq_getElem (by omega)]; rfl
theorem KnP.cell {wr : World} {H N : Nat} {S : Nat → Prop} {f : Nat → List Nat} (h : KnP wr H N S f) {j : Nat} (k1 : S j) (k2 : j < N) : ∃ u, wr.cell? ⟨H, j, none⟩ = some u ∧ Row .u8 256 wr u (f j) ∧ Tidy u ∧ ∀ q, u.ownBlock = some q → q ≠ H := by
  obtain ⟨us, h0, h1, h2⟩ := h
  obtain ⟨u, e1, e2, e3, e4⟩ := h2 j k1 k2
  exact ⟨u, by rw [cell_of_row wr H j _ _ (0, 0) h1]; exact e1, e2, e3, e4⟩
theorem KnP.store {wr : World} {H N i : Nat} {S S' : Nat → Prop} {f : Nat → List Nat} {v : Value} (h : KnP wr H N S f) (hi : i < N) (hS : ∀ j, S' j → j = i ∨ S j) (hv : Row .u8 256 wr v (f i)) (tv : Tidy v) (hn : ∀ q, v.ownBlock = some q → q ≠ H) : KnP (wr.setCell ⟨H, i, none⟩ v) H N S' f := by
  obtain ⟨us, h0, h1, h2⟩ := h
  have hB : But H wr (wr.setCell ⟨H, i, none⟩ v) := (But.refl H wr).setCell i v
  refine ⟨us.setIfInBounds i v, by simp [h0], ?_, fun j k1 k2 => ?_⟩
  · rw [setCell_eq_setRow wr H i _ 24 (0, 0) _ h1]
    exact setRow_heap wr H _ _ 24 _ h1
  · by_cases e : j = i
    · subst e
      exact ⟨v, by rw [Array.getElem?_setIfInBounds_self_of_lt (by omega)], hv.but (fun _ q hq => hn q hq) hB, tv, hn⟩
    · have hSj : S j := (hS j k1).resolve_left e
      obtain ⟨u, e1, e2, e3, e4⟩ := h2 j hSj k2
      exact ⟨u, by rw [Array.getElem?_setIfInBounds_ne (fun x => e x.symm)]; exact e1, e2.but (fun _ q hq => e4 q hq) hB, e3, e4⟩
theorem KnP.made {w : World} {base g n : Nat} {xs : List Value} (f : Nat → List Nat) (h : w.ownsRow base 24 1 (.slice (some ⟨g, 0, none⟩) n n) n xs) : KnP w g n (fun _ => False) f := by
  obtain ⟨us, h0, h1, _⟩ := KnS.made f h
  exact ⟨us, h0, h1, fun j k1 _ => k1.elim⟩
/-- which knots are grown when a row is grown up to knot k -/
def upS (first k : Nat) : Nat → Prop := fun j => 2 * first ≤ j ∨ first ≤ j ∧ j < k
def RwL (W0 : World) (H N first : Nat) (f : Nat → List Nat) (vi : Value) (wr : World) : Prop := ∃ k : Nat, first ≤ k ∧ k ≤ 2 * first ∧ vi = .int .i64 (k : Int) ∧ KnP wr H N (upS first k) f ∧ But H W0 wr
def rw4lt : List Lt := [(0, some 14, [3]), (1, some 15, [14]), (0, some 16, [6]), (0, some 17, [2]), (0, some 18, [6]), (24, some 19, [17, 18]), (63, some 20, [15, 16]), (127, none, [20, 19])]
theorem rw4reg : Reg (opsA (cBA (cLA (cRA (cLpA (cBA (cRA (cRA (Tryz.f54.body.getD .skip))))))))) rw4lt := ⟨by kernel_rfl, by kernel_rfl⟩
set_option maxHeartbeats 4000000 in
set_option maxRecDepth 100000 in
theorem crow_any (fid : FuncId) (H N first : Nat) (f : Nat → List Nat) (h x : Int) (ia sa : Option Addr) (il ic sl sc : Nat) (w : World) (hN : N ≤ 4096) (h1 : 1 ≤ first) (hfN : 2 * first ≤ N) (hfl : ∀ i, (f i).length = 32) (hK : KnP w H N (fun j => 2 * first ≤ j) f)
    (he : ∀ (args : Array Value) (y : World), (callFunc fid args).run Tryz.prog y = .ok (.enter fid args) y)
    (hS : ∀ (y : World) (k : Nat), But H w y → KnP y H N (upS first k) f → first ≤ k → k < 2 * first → Calls Tryz.prog fid #[.agg #[.int .i64 h, .int .i64 x, .slice ia il ic, .slice sa sl sc, .slice (some ⟨H, 0, none⟩) N N], .int .i64 (k : Int)] y fun e w' => ∃ v, e = .returned v ∧ Own 5 .u8 256 w' y.heap.size v (f k) ∧ Below y.heap.size y w') :
    Calls Tryz.prog 54 #[.agg #[.int .i64 h, .int .i64 x, .slice ia il ic, .slice sa sl sc, .slice (some ⟨H, 0, none⟩) N N], .int .i64 (first : Int), .func (.func fid) #[.agg #[.int .i64 h, .int .i64 x, .slice ia il ic, .slice sa sl sc, .slice (some ⟨H, 0, none⟩) N N]] #[]] w fun e w' => e = .returned (.tuple #[]) ∧ But H w w' ∧ KnP w' H N (fun j => first ≤ j) f := by
  have bN := BxW.new w (.int .i64 h) (.int .i64 x) (.slice ia il ic) (.slice sa sl sc) (.slice (some ⟨H, 0, none⟩) N N)
  have k0 := keep_alloc w (.cells #[.int .i64 h, .int .i64 x, .slice ia il ic, .slice sa sl sc, .slice (some ⟨H, 0, none⟩) N N] 50)
  have hHw := hK.lt
  have hK0 := hK.below k0
  have hne : w.heap.size ≠ H := by omega
  obtain ⟨T, hT⟩ : ∃ T : Nat, T = 2 * first := ⟨_, rfl⟩
  have e_T : (2 : Int) * (first : Int) = (T : Int) := by omega
  have s_T : IntKind.i64.wrap (T : Int) = (T : Int) := by rw [IntKind.wrap_i64]; omega
  generalize hW0 : w.alloc (.cells #[.int .i64 h, .int .i64 x, .slice ia il ic, .slice sa sl sc, .slice (some ⟨H, 0, none⟩) N N] 50) = W0 at *
  have H0 : Hid (RwL W0 H N first f (.int .i64 (first : Int)) W0) := hide ⟨first, Nat.le_refl _, by omega, rfl, hK0.mono (fun j _ hj => by unfold upS at hj; omega), But.refl _ _⟩
  have HX := hide (And.intro hT (And.intro hN (And.intro h1 (And.intro hfN (And.intro hfl (And.intro hS (But.of_below (g := H) k0)))))))
  clear hT hN h1 hfN hfl hS hK hK0 k0 hHw
  go_enter Tryz.func54, Tryz.ntmps54
  go_wp2
  go_loopw [6] (fun vi wr => RwL W0 H N first f vi wr) (fun vi _ => T - (intOf vi).toNat)
  case atStart => exact H0.out
  case round =>
    obtain ⟨k, hk1, hk2, rfl, hKr, hbr⟩ := hrel
    clear H0
    rename World => wr
    obtain ⟨hT, hN, h1, hfN, hfl, hS, hb0⟩ := HX.out
    by_cases hlt : k < T
    · have hli : (k : Int) < (T : Int) := by omega
      have hbx := bN.but hbr hne
      have hiP : k < N := by omega
      have hcl := hS wr.drew k (hb0.trans (hbr.trans (But.refl _ _).drew)) (hKr.below (Below.refl _ _).drew) hk1 (by omega)
      have hCl := hfl k
      obtain ⟨I, hI⟩ : ∃ I : Nat, I = k + 1 := ⟨_, rfl⟩
      have e_I : (k : Int) + 1 = (I : Int) := by omega
      have s_I : IntKind.i64.wrap (I : Int) = (I : Int) := by rw [IntKind.wrap_i64]; omega
      have HQ := hide (And.intro hI (And.intro hk1 (And.intro hk2 (And.intro hKr hlt))))
      have hbd : Below wr.heap.size wr wr.drew := (Below.refl _ _).drew
      have hSet := fun y (kb : Below wr.heap.size wr y) (v : Value) (o : Own 5 .u8 256 y wr.drew.heap.size v (f k)) => (hKr.below kb).store (S' := upS first (k + 1)) hiP (fun j hj => by unfold upS at hj ⊢; omega) o.row o.tidy (fun q e => by have := o.new q e; have := hKr.lt; have hz : wr.drew.heap.size = wr.heap.size := rfl; omega)
      have hKf := fun y (kb : Below wr.heap.size wr y) => And.intro ((hKr.below kb).any hiP) ((hKr.below kb).frozen k)
      clear hI hk1 hk2 hT hN h1 hfN hfl hS hlt hKr
      go_wp2
      refine at_begin (ops := opsA (cBA (cLA (cRA (cLpA (cBA (cRA (cRA (Tryz.f54.body.getD .skip))))))))) (n := 8) (fun y => But H wr y) (by kernel_rfl) (by kernel_rfl) ?_
      have kb := hbd
      replace hbd : But H wr wr.drew := (But.refl _ _).drew
      refine at_takeD (i := 0) (m' := 1) (d := some 14) (v := .pointer (some ⟨w.heap.size, 4, none⟩)) rw4reg rfl (by decide) rfl rfl (y_fieldG (wanted_free rfl) rfl rfl (fun w => by simp [go_sem])) hbd ?_
      simp only [Act.put, List.setIfInBounds_toArray, List.set_cons_zero, List.set_cons_succ]
      refine at_takeD (i := 1) (m' := 3) (d := some 15) (v := .slice (some ⟨H, 0, none⟩) N N) rw4reg rfl (by decide) rfl rfl (y_plainG (wanted_free rfl) rfl rfl Tryz.underlying46 rfl (fun _ h => (hbx.but h hne).c4)) hbd ?_
      simp only [Act.put, List.setIfInBounds_toArray, List.set_cons_zero, List.set_cons_succ]
      refine at_takeD (i := 2) (m' := 7) (d := some 16) (v := .int .i64 (k : Int)) rw4reg rfl (by decide) rfl rfl (y_moveG (wanted_free rfl) rfl rfl) hbd ?_
      simp only [Act.put, List.setIfInBounds_toArray, List.set_cons_zero, List.set_cons_succ]
      refine at_takeD (i := 3) (m' := 15) (d := some 17) (v := .func (.func fid) #[.agg #[.int .i64 h, .int .i64 x, .slice ia il ic, .slice sa sl sc, .slice (some ⟨H, 0, none⟩) N N]] #[]) rw4reg rfl (by decide) rfl rfl (y_moveG (wanted_free rfl) rfl rfl) hbd ?_
      simp only [Act.put, List.setIfInBounds_toArray, List.set_cons_zero, List.set_cons_succ]
      refine at_takeD (i := 4) (m' := 31) (d := some 18) (v := .int .i64 (k : Int)) rw4reg rfl (by decide) rfl rfl (y_moveG (wanted_free rfl) rfl rfl) hbd ?_
      simp only [Act.put, List.setIfInBounds_toArray, List.set_cons_zero, List.set_cons_succ]
      refine at_one (i := 5) (m' := 63) rw4reg (by decide) rfl ?_
      refine p_callVL (d := some 19) rfl rfl rfl rfl rfl rfl he ((hcl).mono ?_)
      rintro e y6 ⟨v, rfl, ov, g6⟩
      obtain ⟨va, vc, rfl, _⟩ := ov.row.opens hCl
      replace kb := keep_trans kb g6
      have hb6 := but_keep hbd g6
      refine ⟨_, rfl, ?_⟩
      refine ⟨hb6, ?_⟩
      simp only [Act.put, List.setIfInBounds_toArray, List.set_cons_zero, List.set_cons_succ]
      refine at_takeD (i := 6) (m' := 127) (d := some 20) (v := .pointer (some ⟨H, k, none⟩)) rw4reg rfl (by decide) rfl rfl (y_ix0 (wanted_free rfl) rfl rfl rfl Tryz.underlying46 (by kernel_rfl) hiP) hb6 ?_
      simp only [Act.put, List.setIfInBounds_toArray, List.set_cons_zero, List.set_cons_succ]
      refine at_one (i := 7) (m' := 255) rw4reg (by decide) rfl ?_
      refine p_store_plain (P := Tryz.prog) rfl rfl rfl rfl rfl rfl Tryz.underlying24 rfl (by kernel_rfl) (hKf _ kb).1 (hKf _ kb).2 ?_
      have hb8 := hb6.setCell k (.slice va 32 vc)
      have hKn := hSet _ kb _ ov
      refine ⟨hb8, ?_⟩
      refine at_done rw4reg (by decide) ?_
      go_wp2
      obtain ⟨hI, hk1, hk2, hKr, hlt⟩ := HQ.out
      go_roundw
      case rel => exact ⟨k + 1, by omega, by have := HX.out.1; omega, vint (by omega), hKn, hbr.trans hb8⟩
      case measure => simp [intOf]; omega
    · obtain rfl : k = T := by omega
      have hge : ¬ ((k : Int) < (k : Int)) := by omega
      have HQ := hide (And.intro hKr hbr)
      clear hlt hT hN h1 hfN hfl hS hk1 hk2 hb0 hKr hbr
      go_wp2
      go_end0
      obtain ⟨hT, hN, h1, hfN, hfl, hS, hb0⟩ := HX.out
      obtain ⟨hKr, hbr⟩ := HQ.out
      refine ⟨rfl, hb0.trans hbr, hKr.mono fun j hj hj2 => ?_⟩
      unfold upS
      omega
end Go.Proofs.YtefndnbaifiboaaGreatDoor
