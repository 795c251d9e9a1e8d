/- How ids of 16 bytes, and digests and seeds of 32, that came in are read. -/
import Derived.Test.YtnjiilnkobhibaaFrameT
import Derived.Test.YtnjiilnkobhibaaHKit
import Derived.Test.YtnjiilnkobhibaaPApp
import Derived.Test.YtnjiilnkobhibaaPgF
import Derived.Test.YtnjiilnkobhibaaPlan2
import Derived.Test.YtnjiilnkobhibaaBase
namespace Go.Proofs.Ytnjiilnkobhibaa
open Go.ChangeShapes Go.WideShapes Go.ChangeAt Go.RowKit Go.Deep
set_option linter.unusedVariables false
set_option linter.unusedSimpArgs false

theorem Try.cellsU8 : Try.prog.cellsOf 5 = 1 := by kernel_rfl
theorem Try.cellsB32 : Try.prog.cellsOf 34 = 32 := by kernel_rfl
theorem okWide_array {P : Program} {w : World} {r : Reach} {base : Nat} {t e : TypeId} {n : Nat} {v : Value} (ht : P.underlying t = some (.array n e)) (h : Value.okWide P w r base t v) : ∃ cs, v = .agg cs ∧ cs.size = P.cellsOf t := by
  simp only [Value.okWide, ht] at h
  obtain ⟨cs, h1, h2, _⟩ := h
  exact ⟨cs, h1, h2⟩
/-- 16 bytes, as they came in -/
structure IBIs (cs : Array Value) (bk : List Nat) : Prop where
  is : cs = arr .u8 bk
  len : bk.length = 16
  und : Under 256 bk
/-- 32 bytes, as they came in -/
structure HBIs (cs : Array Value) (bk : List Nat) : Prop where
  is : cs = arr .u8 bk
  len : bk.length = 32
  und : Under 256 bk
theorem read_u8 {H : Type} {enc : TypeId × Value → H} {W : World} {fuel : Nat} {v : Value} {x : DataW H × List MemPlace}
    (h : DataW.trod enc Try.prog W 0 (fun _ => true) true fuel 5 [v] = some x) : ∃ n : Nat, v = .int .u8 (n : Int) ∧ n < 256 := by
  obtain ⟨t, e0, _, hw⟩ := DataW.trod_int Try.underlying5 h
  have hb := wf_u8 t hw
  simp at e0
  exact ⟨t.toNat, by rw [e0, Int.toNat_of_nonneg hb.1], by omega⟩
theorem bytes_inQ : ∀ l : List Value, (∀ i, i < l.length → ∃ n : Nat, l[i]? = some (.int .u8 (n : Int)) ∧ n < 256) → ∃ ws : List Nat, ws.length = l.length ∧ Under 256 ws ∧ l = vals .u8 ws
  | [], _ => ⟨[], rfl, fun x hx => by simp at hx, rfl⟩
  | v :: l, h => by
    obtain ⟨ws, h1, h2, h3⟩ := bytes_inQ l (fun i hi => by
      have := h (i + 1) (by simp; omega)
      simpa using this)
    obtain ⟨n, hn, hb⟩ := h 0 (by simp)
    have hv : v = .int .u8 (n : Int) := by simpa using hn
    refine ⟨n :: ws, by simp [h1], fun x hx => ?_, by rw [hv, h3]; rfl⟩
    rcases List.mem_cons.1 hx with rfl | hx
    · exact hb
    · exact h2 x hx
theorem read_halves {H : Type} {enc : TypeId × Value → H} {W : World} {fuel : Nat} {cs : Array Value} {x : DataW H × List MemPlace}
    (h : DataW.trod enc Try.prog W 0 (fun _ => true) true fuel 34 cs.toList = some x) : ∃ bk, HBIs cs bk := by
  obtain ⟨l⟩ := cs
  obtain ⟨zs, m, _, _, hcl, hzl, hz⟩ := DataW.trod_array Try.underlying34 h
  rw [Try.cellsB32] at hcl
  have hcl : l.length = 32 := hcl
  obtain ⟨ws, h1, h2, h3⟩ := bytes_inQ l (fun i hi => by
    have hi' : i < 32 := by omega
    have := hz i hi'
    rw [Try.cellsU8, Nat.mul_one] at this
    have hd : (l.drop i).take 1 = [l[i]] := by
      rw [List.drop_eq_getElem_cons hi]; rfl
    change DataW.trod enc Try.prog W 0 (fun _ => true) true m 5 ((l.drop i).take 1) = _ at this
    rw [hd, List.getElem?_eq_getElem (by omega)] at this
    obtain ⟨n, hn, hb⟩ := read_u8 this
    exact ⟨n, by rw [List.getElem?_eq_getElem hi, hn], hb⟩)
  exact ⟨ws, by unfold arr; rw [← h3], by omega, h2⟩
/-- an array's bytes, boxed, are a text -/
theorem row_boxL {w : World} {g : Nat} {bk : List Nat} {t : TypeId} (hb : w.heap[g]? = some (.cells (arr .u8 bk) t (0, 0))) (hu : Under 256 bk) (hl : bk.length ≤ 1000) : Row .u8 256 w (.slice (some ⟨g, 0, none⟩) bk.length bk.length) bk :=
  ⟨_, bk.length, rfl, Nat.le_refl _, by unfold maxLen; omega, fun _ => ⟨g, 0, rfl, fun i hi => by
    have hL : Lies .u8 t w g bk := hb
    rw [Nat.zero_add]
    exact hL.cell hi⟩, hu⟩
section
variable {ops : Array Oper} {S : World → Prop}
theorem y_arr32 {o : Oper} {a : Act} {x : Operand} {g : Nat} (hw : Region.wanted o (yielded ops a.tmps) = true) (ho : o.op = .slice 34 x none none none) (hx : a.eval x = .pointer (some ⟨g, 0, none⟩)) : YieldsIf Try.prog ops S o (.slice (some ⟨g, 0, none⟩) 32 32) a := by
  obtain ⟨i0, hi0, hz0, hz1, hz2⟩ := info_byte
  refine .inl ⟨hw, fun w _ => ?_⟩
  unfold execOp
  simp only [ho, hx, Option.map_none]
  simp [Instr.sliceAt, Instr.slice, Instr.sliceBounds, Sem.run_bind, run_underlying Try.underlying34, run_underlying Try.underlying22, sizeOf, typeInfo, hi0, hz1, Addr.add, go_sem]
end
end Go.Proofs.Ytnjiilnkobhibaa

/- A value whose block is not older than a bound. -/
namespace Go.Proofs.Ytnjiilnkobhibaa
open Go.RowKit
set_option linter.unusedVariables false
def New (B : Nat) (v : Value) : Prop := ∀ q, v.ownBlock = some q → B ≤ q
theorem New.at {B g n c o : Nat} (h : B ≤ g) : New B (.slice (some ⟨g, o, none⟩) n c) := fun q hq => by
  have : g = q := by simpa [Value.ownBlock] using hq
  omega
theorem New.nil (B n c : Nat) : New B (.slice none n c) := fun q hq => by simp [Value.ownBlock] at hq
theorem New.mono {B B' : Nat} {v : Value} (h : New B v) (hB : B' ≤ B) : New B' v := fun q hq => Nat.le_trans hB (h q hq)
theorem Own.new {e : TypeId} {k : IntKind} {m : Nat} {w : World} {B : Nat} {v : Value} {l : List Nat} (h : Own e k m w B v l) : New B v := fun q hq => (h.1.lt q hq).1
end Go.Proofs.Ytnjiilnkobhibaa

/- Sums that go on, as values; the constants; few texts in a new slice. -/
namespace Go.Proofs.Ytnjiilnkobhibaa
open Go.RowKit
set_option linter.unusedVariables false
set_option linter.unusedSimpArgs false

/-- a sum that goes on: its cells -/
def hv (kind : Int) (ws : List Nat) (tv : Value) (size : Nat) : Array Value :=
  #[.int .i64 kind, .int .u64 (el ws 0), .int .u64 (el ws 1), .int .u64 (el ws 2), .int .u64 (el ws 3), .int .u64 (el ws 4), .int .u64 (el ws 5), .int .u64 (el ws 6), .int .u64 (el ws 7), tv, .int .u64 size]
/-- a text's value is one cell -/
theorem Row.cell1 {k : IntKind} {m : Nat} {w : World} {u : Value} {l : List Nat} (h : Row k m w u l) : u.oneCell' = true := by
  obtain ⟨a, cap, rfl, _⟩ := h; rfl
theorem Row.form {k : IntKind} {m : Nat} {w : World} {v : Value} {l : List Nat} (h : Row k m w v l) : ∃ a c, v = .slice a l.length c := by
  obtain ⟨a, c, rfl, _⟩ := h; exact ⟨a, c, rfl⟩

theorem range_below {w w' : World} {b o : Nat} {cs : List Value} (h : w.rangeAt b o cs) (hb : Below w.heap.size w w') : w'.rangeAt b o cs := fun j v hv => keep_cell (h j v hv) hb
theorem tidy_at (x : Addr) (n c : Nat) : Tidy (.slice (some x) n c) := fun n c he => by simp at he
theorem tidy_nil : Tidy (.slice none 0 0) := fun a c he => by simp at he; omega
theorem Own.tidy {e : TypeId} {k : IntKind} {m : Nat} {w : World} {B : Nat} {v : Value} {l : List Nat} (h : Own e k m w B v l) : Tidy v := by
  obtain ⟨⟨_, ⟨rfl, _⟩ | ⟨g, cap, cur, rfl, _⟩⟩, _⟩ := h
  · exact tidy_nil
  · exact tidy_at _ _ _
theorem rows_lit2 {w : World} {u v : Value} {a b : List Nat} (hu : Row .u8 256 w u a) (hv : Row .u8 256 w v b) (tu : Tidy u) (tv : Tidy v) :
    Rows2 (w.alloc (.cells #[u, v] 22)) (.slice (some ⟨w.heap.size, 0, none⟩) 2 2) [a, b] := by
  refine ⟨_, 2, rfl, Nat.le_refl _, by unfold maxLen; decide, fun _ => ⟨_, _, rfl, fun i hi => ?_⟩⟩
  have hb := keep_alloc w (.cells #[u, v] 22)
  match i, hi with
  | 0, _ => exact ⟨u, by rw [World.cell?_alloc_at _ _ _ _ rfl]; rfl, hu.below hb, tu⟩
  | 1, _ => exact ⟨v, by rw [World.cell?_alloc_at _ _ _ _ rfl]; rfl, hv.below hb, tv⟩
theorem rows_lit3 {w : World} {u v x : Value} {a b c : List Nat} (hu : Row .u8 256 w u a) (hv : Row .u8 256 w v b) (hx : Row .u8 256 w x c) (tu : Tidy u) (tv : Tidy v) (tx : Tidy x) :
    Rows2 (w.alloc (.cells #[u, v, x] 22)) (.slice (some ⟨w.heap.size, 0, none⟩) 3 3) [a, b, c] := by
  refine ⟨_, 3, rfl, Nat.le_refl _, by unfold maxLen; decide, fun _ => ⟨_, _, rfl, fun i hi => ?_⟩⟩
  have hb := keep_alloc w (.cells #[u, v, x] 22)
  match i, hi with
  | 0, _ => exact ⟨u, by rw [World.cell?_alloc_at _ _ _ _ rfl]; rfl, hu.below hb, tu⟩
  | 1, _ => exact ⟨v, by rw [World.cell?_alloc_at _ _ _ _ rfl]; rfl, hv.below hb, tv⟩
  | 2, _ => exact ⟨x, by rw [World.cell?_alloc_at _ _ _ _ rfl]; rfl, hx.below hb, tx⟩

/-- bytes of words, at a place -/
theorem el_flat (f : Nat → List Nat) (k : Nat) (hk : 0 < k) (hf : ∀ x, (f x).length = k) : ∀ (l : List Nat) (i : Nat), i < l.length * k → el (l.map f).flatten i = el (f (el l (i / k))) (i % k)
  | [], i, h => by simp at h
  | x :: l, i, h => by
    rw [List.map_cons, List.flatten_cons]
    by_cases hi : i < k
    · rw [el_app_left (by rw [hf]; exact hi), Nat.div_eq_of_lt hi, Nat.mod_eq_of_lt hi]; rfl
    · have e : el (x :: l) (i / k) = el l ((i - k) / k) := by
        rw [Nat.div_eq_sub_div hk (by omega)]; rfl
      rw [el_app_right (by rw [hf]; omega), hf, el_flat f k hk hf l (i - k) (by rw [List.length_cons, Nat.add_mul, Nat.one_mul] at h; omega), e, Nat.mod_eq_sub_mod (by omega : i ≥ k)]
theorem el_be (x k j : Nat) (hj : j < k) : el (leL x k).reverse j = x / 256 ^ (k - 1 - j) % 256 := by
  have hl : (leL x k).length = k := leL_length x k
  rw [el_at (by rw [List.length_reverse, hl]; exact hj), List.getElem_reverse]
  simp only [leL, List.getElem_map, List.getElem_range, List.length_map, List.length_range]
theorem bytesW_length (b : Bool) (h : List Nat) : (bytesW b h).length = h.length * ez b := by
  unfold bytesW
  induction h with
  | nil => simp
  | cons x l ih => rw [List.map_cons, List.flatten_cons, List.length_append, ih, List.length_reverse, leL_length, List.length_cons, Nat.add_mul]; omega
theorem bytesW_el (b : Bool) (h : List Nat) (i : Nat) (hi : i < h.length * ez b) : el (bytesW b h) i = el h (i / ez b) / 256 ^ (ez b - 1 - i % ez b) % 256 := by
  have hp : 0 < ez b := by cases b <;> decide
  unfold bytesW
  rw [el_flat (fun x => (leL x (ez b)).reverse) (ez b) hp (fun x => by rw [List.length_reverse, leL_length]) h i hi, el_be _ _ _ (Nat.mod_lt _ hp)]
theorem bytesW_under (b : Bool) (h : List Nat) : Under 256 (bytesW b h) := by
  intro x hx
  unfold bytesW at hx
  obtain ⟨l, hl, hxl⟩ := List.mem_flatten.1 hx
  obtain ⟨y, _, rfl⟩ := List.mem_map.1 hl
  have := List.mem_reverse.1 hxl
  unfold leL at this
  obtain ⟨i, _, rfl⟩ := List.mem_map.1 this
  omega
theorem el_take {l : List Nat} {n i : Nat} (h : i < n) : el (l.take n) i = el l i := by unfold el; rw [List.getElem?_take_of_lt h]
end Go.Proofs.Ytnjiilnkobhibaa
