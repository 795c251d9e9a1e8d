/- More words for blocks: rows beside a block, results that are arrays. -/
import Derived.Test.YtnjiilnkobhibaaHKit
import Derived.Test.YtnjiilnkobhibaaBase
namespace Go.Proofs.Ytnjiilnkobhibaa
open Go.RowKit
set_option linter.unusedVariables false
set_option linter.unusedSimpArgs false

/-- a row that does not lie in block g -/
def Away (g : Nat) (v : Value) (l : List Nat) : Prop := 0 < l.length → ∀ q, v.ownBlock = some q → q ≠ g
theorem Row.old {k : IntKind} {m : Nat} {w : World} {v : Value} {l : List Nat} (h : Row k m w v l) (hl : 0 < l.length) {q : Nat} (hq : v.ownBlock = some q) : q < w.heap.size := by
  obtain ⟨a, cap, rfl, h1, h2, h3, h4⟩ := h
  obtain ⟨b, off, rfl, hc⟩ := h3 hl
  have e : b = q := by simpa [Value.ownBlock] using hq
  subst e
  exact World.block_lt_of_cell? w _ (hc 0 hl)
theorem Row.away {k : IntKind} {m : Nat} {w : World} {v : Value} {l : List Nat} (h : Row k m w v l) {g : Nat} (hg : w.heap.size ≤ g) : Away g v l := fun hl q hq => by
  have := h.old hl hq
  omega
theorem Row.but {k : IntKind} {m : Nat} {w w' : World} {v : Value} {l : List Nat} {g : Nat} (h : Row k m w v l) (ha : Away g v l) (hb : But g w w') : Row k m w' v l := by
  obtain ⟨a, cap, rfl, h1, h2, h3, h4⟩ := h
  refine ⟨a, cap, rfl, h1, h2, fun hl => ?_, h4⟩
  obtain ⟨b, off, rfl, hc⟩ := h3 hl
  refine ⟨b, off, rfl, fun i hi => ?_⟩
  exact But.cell (hc i hi) hb (ha hl b (by simp [Value.ownBlock]))
theorem Own.away {e : TypeId} {k : IntKind} {m : Nat} {w : World} {B g : Nat} {v : Value} {l : List Nat} (h : Own e k m w B v l) (hg : g < B) : Away g v l := fun _ q hq => by
  have := (h.1.lt q hq).1
  omega
/-- a text without its first bytes -/
theorem Row.rest {k : IntKind} {m : Nat} {w : World} {b off n cap : Nat} {l : List Nat} (h : Row k m w (.slice (some ⟨b, off, none⟩) n cap) l) {i : Nat} (hi : i ≤ n) (A : Option Addr) (hA : A = some ⟨b, off, none⟩ ∧ cap = i ∨ A = some ⟨b, off + i, none⟩) :
    Row k m w (.slice A (n - i) (cap - i)) (l.drop i) := by
  obtain ⟨a', cap', he, h1, h2, h3, h4⟩ := h
  simp at he
  obtain ⟨rfl, rfl, rfl⟩ := he
  refine ⟨A, _, by rw [List.length_drop], by rw [List.length_drop]; omega, by omega, fun hp => ?_, fun x hx => h4 x (List.mem_of_mem_drop hx)⟩
  rw [List.length_drop] at hp
  rcases hA with ⟨_, hc⟩ | rfl
  · omega
  · obtain ⟨b', o', e, hc⟩ := h3 (by omega)
    simp at e
    obtain ⟨rfl, rfl⟩ := e
    refine ⟨b, off + i, rfl, fun x hx => ?_⟩
    rw [List.length_drop] at hx
    rw [el_drop, Nat.add_assoc]
    exact hc (i + x) (by omega)
/-- how long a slice is -/
def slen : Value → Nat
  | .slice _ n _ => n
  | _ => 0
theorem rndN_congr {b : Bool} {ks ws ws' s : List Nat} : ∀ n, (∀ i, i < n → el ws i = el ws' i) → rndN b ks ws n s = rndN b ks ws' n s
  | 0, _ => rfl
  | n + 1, h => by simp only [rndN]; rw [rndN_congr n (fun i hi => h i (by omega)), h n (by omega)]
theorem comp_pad {b : Bool} (h l : List Nat) : addW b h (rndN b (ks b) (pad 80 (sched b l (rn b - 16))) (rn b) h) 8 = comp b h l := by
  unfold comp
  rw [rndN_congr (ws' := sched b l (rn b - 16)) (rn b) (fun i hi => pad_el (by rw [sched_length]; cases b <;> simp [rn] at hi ⊢ <;> omega))]
end Go.Proofs.Ytnjiilnkobhibaa

/- A value whose block is not older than a bound. -/
namespace Go.Proofs.Ytnjiilnkobhibaa
open Go.RowKit
set_option linter.unusedVariables false
def New (B : Nat) (v : Value) : Prop := ∀ q, v.ownBlock = some q → B ≤ q
theorem New.at {B g n c o : Nat} (h : B ≤ g) : New B (.slice (some ⟨g, o, none⟩) n c) := fun q hq => by
  have : g = q := by simpa [Value.ownBlock] using hq
  omega
theorem New.nil (B n c : Nat) : New B (.slice none n c) := fun q hq => by simp [Value.ownBlock] at hq
theorem New.mono {B B' : Nat} {v : Value} (h : New B v) (hB : B' ≤ B) : New B' v := fun q hq => Nat.le_trans hB (h q hq)
theorem Own.new {e : TypeId} {k : IntKind} {m : Nat} {w : World} {B : Nat} {v : Value} {l : List Nat} (h : Own e k m w B v l) : New B v := fun q hq => (h.1.lt q hq).1
end Go.Proofs.Ytnjiilnkobhibaa

/- A slice of texts, and what it reads as. -/
namespace Go.Proofs.Ytnjiilnkobhibaa
open Go.RowKit
set_option linter.unusedVariables false

/-- the text at a place of a list of texts -/
def tx (ls : List (List Nat)) (i : Nat) : List Nat := ls[i]?.getD []

/-- a slice without an address is nil -/
def Tidy (v : Value) : Prop := ∀ n c, v = .slice none n c → n = 0 ∧ c = 0

/-- v is a slice of texts, which are ls -/
def Rows2 (w : World) (v : Value) (ls : List (List Nat)) : Prop :=
  ∃ a cap, v = .slice a ls.length cap ∧ ls.length ≤ cap ∧ cap ≤ maxLen ∧
    (0 < ls.length → ∃ b off, a = some ⟨b, off, none⟩ ∧ ∀ i, i < ls.length → ∃ u, w.cell? ⟨b, off + i, none⟩ = some u ∧ Row .u8 256 w u (tx ls i) ∧ Tidy u)

theorem Rows2.below {w w' : World} {v : Value} {ls : List (List Nat)} (h : Rows2 w v ls) (hb : Below w.heap.size w w') : Rows2 w' v ls := by
  obtain ⟨a, cap, rfl, h1, h2, h3⟩ := h
  refine ⟨a, cap, rfl, h1, h2, fun hl => ?_⟩
  obtain ⟨b, off, rfl, hc⟩ := h3 hl
  refine ⟨b, off, rfl, fun i hi => ?_⟩
  obtain ⟨u, hu, hr, ht⟩ := hc i hi
  have h5 := World.block_lt_of_cell? w _ hu
  exact ⟨u, by rw [hb.cell (p := ⟨b, off + i, none⟩) h5]; exact hu, hr.below hb, ht⟩

/-- how many bytes the first texts have -/
def sumL (ls : List (List Nat)) : Nat := ls.flatten.length

theorem take_tx {ls : List (List Nat)} {k : Nat} (h : k < ls.length) : ls.take (k + 1) = ls.take k ++ [tx ls k] := by
  rw [List.take_succ_eq_append_getElem h]; unfold tx; rw [List.getElem?_eq_getElem h]; rfl
theorem flat_succ {ls : List (List Nat)} {k : Nat} (h : k < ls.length) : (ls.take (k + 1)).flatten = (ls.take k).flatten ++ tx ls k := by
  rw [take_tx h]; simp
theorem flat_le (ls : List (List Nat)) (k : Nat) : (ls.take k).flatten.length ≤ ls.flatten.length := by
  have : ls.flatten = (ls.take k).flatten ++ (ls.drop k).flatten := by rw [← List.flatten_append, List.take_append_drop]
  rw [this]; simp

theorem cells_news {w : World} {k : IntKind} {x : Addr} {l : List Nat} (h : Cells k w (some x) l) : ∀ j u, (vals k l)[j]? = some u → w.cell? (x.add j) = some u := by
  intro j u hj
  have hl : j < l.length := by
    have := (List.getElem?_eq_some_iff.1 hj).1
    rwa [vals_length] at this
  obtain ⟨b, off, he, hc⟩ := h (by omega)
  obtain rfl := Option.some.inj he
  rw [Addr.add_lit, hc j hl, ← vals_get k l j hl]
  exact hj

theorem under_flat (ls : List (List Nat)) (h : ∀ i, i < ls.length → Under 256 (tx ls i)) : Under 256 ls.flatten := by
  intro x hx
  obtain ⟨l, hl, hxl⟩ := List.mem_flatten.1 hx
  obtain ⟨i, hi, rfl⟩ := List.getElem_of_mem hl
  have := h i hi
  unfold tx at this
  rw [List.getElem?_eq_getElem hi] at this
  exact this x hxl

theorem Rows2.under {w : World} {v : Value} {ls : List (List Nat)} (h : Rows2 w v ls) : Under 256 ls.flatten := by
  obtain ⟨a, cap, rfl, h1, h2, h3⟩ := h
  apply under_flat
  intro i hi
  obtain ⟨b, off, rfl, hc⟩ := h3 (by omega)
  obtain ⟨u, _, ⟨_, _, _, _, _, _, h6⟩, _⟩ := hc i hi
  exact h6
end Go.Proofs.Ytnjiilnkobhibaa

/- Sums that go on, as values; the constants; few texts in a new slice. -/
namespace Go.Proofs.Ytnjiilnkobhibaa
open Go.RowKit
set_option linter.unusedVariables false
set_option linter.unusedSimpArgs false

/-- a sum that goes on: its cells -/
def hv (kind : Int) (ws : List Nat) (tv : Value) (size : Nat) : Array Value :=
  #[.int .i64 kind, .int .u64 (el ws 0), .int .u64 (el ws 1), .int .u64 (el ws 2), .int .u64 (el ws 3), .int .u64 (el ws 4), .int .u64 (el ws 5), .int .u64 (el ws 6), .int .u64 (el ws 7), tv, .int .u64 size]
/-- a text's value is one cell -/
theorem Row.cell1 {k : IntKind} {m : Nat} {w : World} {u : Value} {l : List Nat} (h : Row k m w u l) : u.oneCell' = true := by
  obtain ⟨a, cap, rfl, _⟩ := h; rfl
theorem Row.form {k : IntKind} {m : Nat} {w : World} {v : Value} {l : List Nat} (h : Row k m w v l) : ∃ a c, v = .slice a l.length c := by
  obtain ⟨a, c, rfl, _⟩ := h; exact ⟨a, c, rfl⟩

theorem range_below {w w' : World} {b o : Nat} {cs : List Value} (h : w.rangeAt b o cs) (hb : Below w.heap.size w w') : w'.rangeAt b o cs := fun j v hv => keep_cell (h j v hv) hb
theorem tidy_at (x : Addr) (n c : Nat) : Tidy (.slice (some x) n c) := fun n c he => by simp at he
theorem tidy_nil : Tidy (.slice none 0 0) := fun a c he => by simp at he; omega
theorem Own.tidy {e : TypeId} {k : IntKind} {m : Nat} {w : World} {B : Nat} {v : Value} {l : List Nat} (h : Own e k m w B v l) : Tidy v := by
  obtain ⟨⟨_, ⟨rfl, _⟩ | ⟨g, cap, cur, rfl, _⟩⟩, _⟩ := h
  · exact tidy_nil
  · exact tidy_at _ _ _
theorem rows_lit2 {w : World} {u v : Value} {a b : List Nat} (hu : Row .u8 256 w u a) (hv : Row .u8 256 w v b) (tu : Tidy u) (tv : Tidy v) :
    Rows2 (w.alloc (.cells #[u, v] 22)) (.slice (some ⟨w.heap.size, 0, none⟩) 2 2) [a, b] := by
  refine ⟨_, 2, rfl, Nat.le_refl _, by unfold maxLen; decide, fun _ => ⟨_, _, rfl, fun i hi => ?_⟩⟩
  have hb := keep_alloc w (.cells #[u, v] 22)
  match i, hi with
  | 0, _ => exact ⟨u, by rw [World.cell?_alloc_at _ _ _ _ rfl]; rfl, hu.below hb, tu⟩
  | 1, _ => exact ⟨v, by rw [World.cell?_alloc_at _ _ _ _ rfl]; rfl, hv.below hb, tv⟩
theorem rows_lit3 {w : World} {u v x : Value} {a b c : List Nat} (hu : Row .u8 256 w u a) (hv : Row .u8 256 w v b) (hx : Row .u8 256 w x c) (tu : Tidy u) (tv : Tidy v) (tx : Tidy x) :
    Rows2 (w.alloc (.cells #[u, v, x] 22)) (.slice (some ⟨w.heap.size, 0, none⟩) 3 3) [a, b, c] := by
  refine ⟨_, 3, rfl, Nat.le_refl _, by unfold maxLen; decide, fun _ => ⟨_, _, rfl, fun i hi => ?_⟩⟩
  have hb := keep_alloc w (.cells #[u, v, x] 22)
  match i, hi with
  | 0, _ => exact ⟨u, by rw [World.cell?_alloc_at _ _ _ _ rfl]; rfl, hu.below hb, tu⟩
  | 1, _ => exact ⟨v, by rw [World.cell?_alloc_at _ _ _ _ rfl]; rfl, hv.below hb, tv⟩
  | 2, _ => exact ⟨x, by rw [World.cell?_alloc_at _ _ _ _ rfl]; rfl, hx.below hb, tx⟩

/-- bytes of words, at a place -/
theorem el_flat (f : Nat → List Nat) (k : Nat) (hk : 0 < k) (hf : ∀ x, (f x).length = k) : ∀ (l : List Nat) (i : Nat), i < l.length * k → el (l.map f).flatten i = el (f (el l (i / k))) (i % k)
  | [], i, h => by simp at h
  | x :: l, i, h => by
    rw [List.map_cons, List.flatten_cons]
    by_cases hi : i < k
    · rw [el_app_left (by rw [hf]; exact hi), Nat.div_eq_of_lt hi, Nat.mod_eq_of_lt hi]; rfl
    · have e : el (x :: l) (i / k) = el l ((i - k) / k) := by
        rw [Nat.div_eq_sub_div hk (by omega)]; rfl
      rw [el_app_right (by rw [hf]; omega), hf, el_flat f k hk hf l (i - k) (by rw [List.length_cons, Nat.add_mul, Nat.one_mul] at h; omega), e, Nat.mod_eq_sub_mod (by omega : i ≥ k)]
theorem el_be (x k j : Nat) (hj : j < k) : el (leL x k).reverse j = x / 256 ^ (k - 1 - j) % 256 := by
  have hl : (leL x k).length = k := leL_length x k
  rw [el_at (by rw [List.length_reverse, hl]; exact hj), List.getElem_reverse]
  simp only [leL, List.getElem_map, List.getElem_range, List.length_map, List.length_range]
theorem bytesW_length (b : Bool) (h : List Nat) : (bytesW b h).length = h.length * ez b := by
  unfold bytesW
  induction h with
  | nil => simp
  | cons x l ih => rw [List.map_cons, List.flatten_cons, List.length_append, ih, List.length_reverse, leL_length, List.length_cons, Nat.add_mul]; omega
theorem bytesW_el (b : Bool) (h : List Nat) (i : Nat) (hi : i < h.length * ez b) : el (bytesW b h) i = el h (i / ez b) / 256 ^ (ez b - 1 - i % ez b) % 256 := by
  have hp : 0 < ez b := by cases b <;> decide
  unfold bytesW
  rw [el_flat (fun x => (leL x (ez b)).reverse) (ez b) hp (fun x => by rw [List.length_reverse, leL_length]) h i hi, el_be _ _ _ (Nat.mod_lt _ hp)]
theorem bytesW_under (b : Bool) (h : List Nat) : Under 256 (bytesW b h) := by
  intro x hx
  unfold bytesW at hx
  obtain ⟨l, hl, hxl⟩ := List.mem_flatten.1 hx
  obtain ⟨y, _, rfl⟩ := List.mem_map.1 hl
  have := List.mem_reverse.1 hxl
  unfold leL at this
  obtain ⟨i, _, rfl⟩ := List.mem_map.1 this
  omega
theorem el_take {l : List Nat} {n i : Nat} (h : i < n) : el (l.take n) i = el l i := by unfold el; rw [List.getElem?_take_of_lt h]
end Go.Proofs.Ytnjiilnkobhibaa
