/- Products and sums, as the law of fields asks them. -/
import Derived.Test.YtjeofkemfpdieaaQcQ
import Derived.Test.YtjeofkemfpdieaaBase
import Derived.Test.YtjeofkemfpdieaaHKit
import Derived.Deep.Slices
import Derived.Test.YtjeofkemfpdieaaAesM
namespace Go.Proofs.Ytjeofkemfpdieaa
open Go.RowKit
set_option linter.unusedVariables false
set_option linter.unusedSimpArgs false

theorem row_boxQ {W : World} {G : Nat} {l : List Nat} {t : TypeId} {fz : Nat × Nat} (h : W.heap[G]? = some (.cells (arr .u8 l) t fz)) (hl : B16 l) : Row .u8 256 W (.slice (some ⟨G, 0, none⟩) 16 16) l := by
  refine ⟨_, 16, by rw [hl.1], by rw [hl.1]; exact Nat.le_refl _, by unfold maxLen; decide, fun _ => ⟨_, _, rfl, fun i hi => ?_⟩, hl.2⟩
  rw [Nat.zero_add]
  refine cell_ofQ h ?_
  unfold arr
  rw [List.getElem?_toArray, vals_get .u8 l i hi]
theorem mT_is {a b : List Nat} (ha : B16 a) (hb : B16 b) : mulT a b = mulP a b := by unfold mulT; rw [if_pos ⟨ha.1, hb.1⟩]
theorem mT_b {a b : List Nat} (ha : B16 a) (hb : B16 b) : B16 (mulT a b) := by rw [mT_is ha hb]; exact mulP_b a b
theorem mT_comm {a b : List Nat} (ha : B16 a) (hb : B16 b) : mulT b a = mulT a b := by rw [mT_is ha hb, mT_is hb ha, mulP_comm]
theorem mT_assoc {a b c : List Nat} (ha : B16 a) (hb : B16 b) (hc : B16 c) : mulT (mulT a b) c = mulT a (mulT b c) := by
  rw [mT_is (mT_b ha hb) hc, mT_is ha (mT_b hb hc), mT_is ha hb, mT_is hb hc, mulP_assoc]
theorem xrL_b {a b : List Nat} (ha : B16 a) (hb : B16 b) : B16 (xrL a b) := by rw [xrL_16 ha.1 hb.1]; exact xr2_b ha hb
theorem mT_xor {a b c : List Nat} (ha : B16 a) (hb : B16 b) (hc : B16 c) : xrL (mulT a b) (mulT a c) = mulT a (xrL b c) := by
  rw [mT_is ha (xrL_b hb hc), mT_is ha hb, mT_is ha hc, xrL_16 (mulP_b a b).1 (mulP_b a c).1, xrL_16 hb.1 hc.1, mulP_xor hb hc]
theorem ghT_is {h b : List Nat} (hh : B16 h) {n : Nat} (hb : b.length = 16 * n) : ghT h b = ghN h z16 b n := by
  unfold ghT
  rw [if_pos ⟨hh.1, by omega⟩]
  unfold ghL
  rw [show b.length / 16 = n by omega]
theorem gh_rows {h p q : List Nat} (hh : B16 h) {n m : Nat} (hp : p.length = 16 * n) (hq : q.length = 16 * (m + 1)) (hqu : Under 256 q) : ghT h (xrL (q.take 16) (ghT h p) ++ q.drop 16) = ghT h (p ++ q) := by
  have hF : B16 (ghN h z16 p n) := ghN_b z16_b _
  have hQ : B16 (q.take 16) := ⟨by rw [List.length_take]; omega, fun x hx => hqu x (List.mem_of_mem_take hx)⟩
  have e1 := ghT_is (b := p ++ q) hh (n := n + (m + 1)) (by rw [List.length_append]; omega)
  have e2 := ghT_is (b := xr2 (q.take 16) (ghN h z16 p n) ++ q.drop 16) hh (n := m + 1) (by rw [List.length_append, (xr2_b hQ hF).1, List.length_drop]; omega)
  rw [ghT_is hh hp, xrL_16 hQ.1 hF.1, e2, e1, ghN_app hp, ghN_on hF hQ, List.take_append_drop]
theorem gh_first_len {h p : List Nat} (hh : B16 h) {n : Nat} (hp : p.length = 16 * n) : B16 (ghT h p) := by rw [ghT_is hh hp]; exact ghN_b z16_b _
/-- the world with three blocks in boxes -/
def box3 (w : World) (a b c : List Nat) : World := ((w.alloc (.cells (arr .u8 a) 35)).alloc (.cells (arr .u8 b) 35)).alloc (.cells (arr .u8 c) 35)
theorem box3_rows (w : World) {a b c : List Nat} (ha : B16 a) (hb : B16 b) (hc : B16 c) :
    Row .u8 256 (box3 w a b c) (.slice (some ⟨w.heap.size, 0, none⟩) 16 16) a ∧ Row .u8 256 (box3 w a b c) (.slice (some ⟨w.heap.size + 1, 0, none⟩) 16 16) b ∧ Row .u8 256 (box3 w a b c) (.slice (some ⟨w.heap.size + 1 + 1, 0, none⟩) 16 16) c ∧ Below w.heap.size w (box3 w a b c) := by
  unfold box3
  refine ⟨row_boxQ (t := 35) (fz := (0, 0)) ?_ ha, row_boxQ (t := 35) (fz := (0, 0)) ?_ hb, row_boxQ (t := 35) (fz := (0, 0)) ?_ hc, keep_trans (keep_trans (keep_alloc _ _) (keep_alloc _ _)) (keep_alloc _ _)⟩
  · rw [heap_oldQ _ _ _ (by simp; omega), heap_oldQ _ _ _ (by simp), heap_alloc_new]
  · rw [heap_oldQ _ _ _ (by simp), heap_alloc2_new]
  · exact heap_alloc3_newQ _ _ _ _
theorem box3_size (w : World) (a b c : List Nat) : (box3 w a b c).heap.size = w.heap.size + 1 + 1 + 1 := by unfold box3; simp
theorem few2_tG (a0 a1 : Option Addr) (n0 n1 c0 c1 : Nat) (w : World) (G : Nat) (hG : w.heap.size = G) (h : n0 ≤ 100 ∧ n1 ≤ 100) :
    Calls Try.prog 7 #[.slice (some ⟨G, 0, none⟩) 2 2] (w.alloc (.cells #[.slice a0 n0 c0, .slice a1 n1 c1] 22)) fun e w' => e = .returned (.bool true) ∧ Below w.heap.size w w' := by
  subst hG
  exact few2_t a0 a1 n0 n1 c0 c1 w h
theorem few2_fG (a0 a1 : Option Addr) (n0 n1 c0 c1 : Nat) (w : World) (G : Nat) (hG : w.heap.size = G) (h : ¬ (n0 ≤ 100 ∧ n1 ≤ 100)) :
    Calls Try.prog 7 #[.slice (some ⟨G, 0, none⟩) 2 2] (w.alloc (.cells #[.slice a0 n0 c0, .slice a1 n1 c1] 22)) fun e w' => e = .returned (.bool false) ∧ Below w.heap.size w w' := by
  subst hG
  exact few2_f a0 a1 n0 n1 c0 c1 w h
section
variable {ops : Array Oper} {S : World → Prop}
theorem y_arrQ {o : Oper} {a : Act} {x : Operand} {g : Nat} (hg : o.guard = none) (ho : o.op = .slice 35 x none none none) (hx : a.eval x = .pointer (some ⟨g, 0, none⟩)) : YieldsIf Try.prog ops S o (.slice (some ⟨g, 0, none⟩) 16 16) a := by
  obtain ⟨i0, hi0, hz0, hz1, hz2⟩ := info_byte
  refine y_of hg fun w _ => ?_
  unfold execOp
  simp only [ho, hx, Option.map_none]
  simp [Instr.sliceAt, Instr.slice, Instr.sliceBounds, Sem.run_bind, run_underlying Try.underlying35, run_underlying Try.underlying22, sizeOf, typeInfo, hi0, hz1, Addr.add, go_sem]
end
def fi3lt : List Lt := [(0, some 22, [5]), (0, some 23, [6]), (0, some 24, [7]), (1, some 11, [22]), (11, some 12, [23]), (31, some 13, [24])]
theorem fi3reg : Reg (opsA (cLA (cRA (cRA (Try.f6.body.getD .skip))))) fi3lt := ⟨by kernel_rfl, by kernel_rfl⟩
section
variable {ops : Array Oper} {S : World → Prop}
theorem y_quoQ {o : Oper} {a : Act} {x : Operand} {n m : Nat} (hg : o.guard = none) (ho : o.op = .binOp .quo 3 x (.const (.int .i64 16)) 3) (hx : a.eval x = .int .i64 (n : Int)) (hm : m = n / 16) (hn : n ≤ 1000) : YieldsIf Try.prog ops S o (.int .i64 (m : Int)) a := by
  have h1 : (n : Int).tdiv 16 = (m : Int) := by rw [Int.tdiv_eq_ediv_of_nonneg (by omega)]; omega
  have h2 : IntKind.i64.wrap (m : Int) = (m : Int) := by rw [IntKind.wrap_i64]; omega
  have h3 : (n : Int) / 16 = (m : Int) := by omega
  refine y_of hg fun w _ => ?_
  unfold execOp
  simp only [ho, hx, ev_const]
  simp [h1, h2, h3, go_sem]
theorem y_mulQ {o : Oper} {a : Act} {x : Operand} {n m : Nat} (hg : o.guard = none) (ho : o.op = .binOp .mul 3 x (.const (.int .i64 16)) 3) (hx : a.eval x = .int .i64 (n : Int)) (hm : m = n * 16) (hn : n ≤ 1000) : YieldsIf Try.prog ops S o (.int .i64 (m : Int)) a := by
  have h1 : (n : Int) * 16 = (m : Int) := by omega
  have h2 : IntKind.i64.wrap (m : Int) = (m : Int) := by rw [IntKind.wrap_i64]; omega
  refine y_of hg fun w _ => ?_
  unfold execOp
  simp only [ho, hx, ev_const]
  simp [h1, h2, go_sem]
theorem y_sliceTo {o : Oper} {a : Act} {x y : Operand} {aa : Option Addr} {n c F : Nat} (hg : o.guard = none) (ho : o.op = .slice 22 x none (some y) none) (hx : a.eval x = .slice aa n c) (hy : a.eval y = .int .i64 (F : Int)) (hF : F ≤ c) : YieldsIf Try.prog ops S o (.slice aa F c) a := by
  refine y_of hg fun w _ => ?_
  have h := slice_to aa n c F hF w
  unfold execOp
  simp only [ho, hx, Option.map_none, Option.map_some, hy]
  simp [Instr.sliceAt, Sem.run_bind, h, run_underlying Try.underlying22, go_sem]
end
theorem tidy_cut {a : Option Addr} {n c M : Nat} (h : Tidy (.slice a n c)) (hM : M ≤ n) : Tidy (.slice a M c) := fun k d e => by
  simp only [Value.slice.injEq] at e
  obtain ⟨rfl, rfl, rfl⟩ := e
  obtain ⟨h1, h2⟩ := h _ _ rfl
  exact ⟨by omega, h2⟩
theorem tidy_behind {ba A : Option Addr} {b o bc F n c : Nat} (hb : ba = some ⟨b, o, none⟩) (h : A = ba ∧ bc = F ∨ A = ba.map (·.add F)) : Tidy (.slice A n c) := fun k d e => by
  simp only [Value.slice.injEq] at e
  obtain ⟨rfl, _, _⟩ := e
  subst hb
  rcases h with ⟨h, _⟩ | h <;> cases h
def fi6lt : List Lt := [(0, some 63, [3]), (0, some 64, [3]), (2, some 65, [64]), (4, some 66, [65]), (8, some 67, [66]), (17, some 68, [63, 67]), (0, some 69, [4]), (0, some 70, [4]), (128, some 71, [70]), (256, some 72, [71]), (512, some 73, [72]), (1088, some 74, [69, 73]), (63, some 3, [68]), (8191, some 4, [74])]
theorem fi6reg : Reg (opsA (cLA (cRA (cRA (cRA (cRA (Try.f6.body.getD .skip))))))) fi6lt := ⟨by kernel_rfl, by kernel_rfl⟩
def fi10lt : List Lt := [(0, some 82, [4]), (1, some 83, [82]), (0, some 84, [14]), (6, some 85, [83, 84]), (0, some 86, [4]), (16, some 87, [86]), (40, some 88, [85, 87]), (127, some 15, [88])]
theorem fi10reg : Reg (opsA (cLA (cRA (cRA (cRA (cRA (cRA (cRA (cRA (Try.f6.body.getD .skip)))))))))) fi10lt := ⟨by kernel_rfl, by kernel_rfl⟩
end Go.Proofs.Ytjeofkemfpdieaa

/- How a slice of texts that came in is read. -/
namespace Go.Proofs.Ytjeofkemfpdieaa
open Go.ChangeShapes Go.WideShapes Go.ChangeAt Go.RowKit Go.Deep
set_option linter.unusedVariables false

theorem Try.cells22 : Try.prog.cellsOf 22 = 1 := by kernel_rfl

/-- a text that is read -/
theorem read_text {H : Type} {enc : TypeId × Value → H} {W : World} {fuel : Nat} {v : Value} {x : DataW H × List MemPlace}
    (h : DataW.trod enc Try.prog W 0 (fun _ => true) true fuel 22 [v] = some x) : ∃ l, Row .u8 256 W v l ∧ Tidy v := by
  rcases open_ints Try.underlying22 Try.underlying5 (by kernel_rfl) h with ⟨hcs, _⟩ | ⟨a, len, cap, zs, hcs, _, hl, hm, hz, _, hcell, hwz⟩
  · simp at hcs
    subst hcs
    exact ⟨[], Row.nil _ _ _, fun n c he => by simp at he; omega⟩
  · simp at hcs
    subst hcs
    have hr : IsRow .u8 W (some a) len cap zs := .inr ⟨a, rfl, hl, hm, by simpa using hz, hcell, hwz⟩
    obtain ⟨l, _, hrow⟩ := hr.row wf_u8
    exact ⟨l, hrow, fun n c he => by simp at he⟩

/-- a slice of texts that is read -/
theorem read_texts {H : Type} {enc : TypeId × Value → H} {W : World} {fuel : Nat} {v : Value} {x : DataW H × List MemPlace}
    (h : DataW.trod enc Try.prog W 0 (fun _ => true) true fuel 37 [v] = some x) : ∃ ls, Rows2 W v ls := by
  rcases open_slice1 Try.underlying37 Try.cells22 h with ⟨hcs, _⟩ | ⟨a, len, cap, m, n, V, D, Pl, hcs, _, hl, hm, hmm, _, hx⟩
  · simp at hcs
    subst hcs
    exact ⟨[], none, 0, rfl, Nat.le_refl _, Nat.zero_le _, fun h => by simp at h⟩
  · simp at hcs
    subst hcs
    have hm' : m = cap := by simpa using hmm
    subst hm'
    obtain ⟨L, hL⟩ := choose_lt (α := List Nat) (p := fun i l => Row .u8 256 W (V i) l ∧ Tidy (V i)) (fun i (hi : i < m) => read_text (hx i hi).2)
    refine ⟨(List.range len).map L, some a, m, by simp, by simpa using hl, hm, fun hp => ?_⟩
    have hp' : 0 < len := by simpa using hp
    obtain ⟨b, off, spot⟩ := a
    have h0 := (hx 0 (by omega)).1
    have hspot : spot = none := by simpa [Addr.add] using World.cell?_spot h0
    subst hspot
    refine ⟨b, off, rfl, fun i hi => ?_⟩
    have hi' : i < len := by simpa using hi
    refine ⟨V i, ?_, ?_, (hL i (by omega)).2⟩
    · have := (hx i (by omega)).1
      rw [Addr.add_lit] at this
      exact this
    · have e : tx ((List.range len).map L) i = L i := by unfold tx; simp [hi']
      rw [e]
      exact (hL i (by omega)).1
end Go.Proofs.Ytjeofkemfpdieaa

/- How 16 bytes that came in are read. -/
namespace Go.Proofs.Ytjeofkemfpdieaa
open Go.ChangeShapes Go.WideShapes Go.ChangeAt Go.RowKit Go.Deep
set_option linter.unusedVariables false
set_option linter.unusedSimpArgs false

theorem Try.cellsU8 : Try.prog.cellsOf 5 = 1 := by kernel_rfl
theorem Try.cellsB16 : Try.prog.cellsOf 35 = 16 := by kernel_rfl
theorem okWide_array {P : Program} {w : World} {r : Reach} {base : Nat} {t e : TypeId} {n : Nat} {v : Value} (ht : P.underlying t = some (.array n e)) (h : Value.okWide P w r base t v) : ∃ cs, v = .agg cs ∧ cs.size = P.cellsOf t := by
  simp only [Value.okWide, ht] at h
  obtain ⟨cs, h1, h2, _⟩ := h
  exact ⟨cs, h1, h2⟩
/-- 16 bytes, as they came in -/
structure BIs (cs : Array Value) (bk : List Nat) : Prop where
  is : cs = arr .u8 bk
  b : B16 bk
theorem read_u8 {H : Type} {enc : TypeId × Value → H} {W : World} {fuel : Nat} {v : Value} {x : DataW H × List MemPlace}
    (h : DataW.trod enc Try.prog W 0 (fun _ => true) true fuel 5 [v] = some x) : ∃ n : Nat, v = .int .u8 (n : Int) ∧ n < 256 := by
  obtain ⟨t, e0, _, hw⟩ := DataW.trod_int Try.underlying5 h
  have hb := wf_u8 t hw
  simp at e0
  exact ⟨t.toNat, by rw [e0, Int.toNat_of_nonneg hb.1], by omega⟩
theorem bytes_inQ : ∀ l : List Value, (∀ i, i < l.length → ∃ n : Nat, l[i]? = some (.int .u8 (n : Int)) ∧ n < 256) → ∃ ws : List Nat, ws.length = l.length ∧ Under 256 ws ∧ l = vals .u8 ws
  | [], _ => ⟨[], rfl, fun x hx => by simp at hx, rfl⟩
  | v :: l, h => by
    obtain ⟨ws, h1, h2, h3⟩ := bytes_inQ l (fun i hi => by
      have := h (i + 1) (by simp; omega)
      simpa using this)
    obtain ⟨n, hn, hb⟩ := h 0 (by simp)
    have hv : v = .int .u8 (n : Int) := by simpa using hn
    refine ⟨n :: ws, by simp [h1], fun x hx => ?_, by rw [hv, h3]; rfl⟩
    rcases List.mem_cons.1 hx with rfl | hx
    · exact hb
    · exact h2 x hx
theorem read_blocks {H : Type} {enc : TypeId × Value → H} {W : World} {fuel : Nat} {cs : Array Value} {x : DataW H × List MemPlace}
    (h : DataW.trod enc Try.prog W 0 (fun _ => true) true fuel 35 cs.toList = some x) : ∃ bk, BIs cs bk := by
  obtain ⟨l⟩ := cs
  obtain ⟨zs, m, _, _, hcl, hzl, hz⟩ := DataW.trod_array Try.underlying35 h
  rw [Try.cellsB16] at hcl
  have hcl : l.length = 16 := hcl
  obtain ⟨ws, h1, h2, h3⟩ := bytes_inQ l (fun i hi => by
    have hi' : i < 16 := by omega
    have := hz i hi'
    rw [Try.cellsU8, Nat.mul_one] at this
    have hd : (l.drop i).take 1 = [l[i]] := by
      rw [List.drop_eq_getElem_cons hi]; rfl
    change DataW.trod enc Try.prog W 0 (fun _ => true) true m 5 ((l.drop i).take 1) = _ at this
    rw [hd, List.getElem?_eq_getElem (by omega)] at this
    obtain ⟨n, hn, hb⟩ := read_u8 this
    exact ⟨n, by rw [List.getElem?_eq_getElem hi, hn], hb⟩)
  exact ⟨ws, by unfold arr; rw [← h3], ⟨by omega, h2⟩⟩
end Go.Proofs.Ytjeofkemfpdieaa
