/- Sums that go on, as values; the constants; few texts in a new slice. -/
import Derived.Test.YtpmobjfhhkglbaaDoorHKit
import Derived.Test.YtpmobjfhhkglbaaDoorBase
import Derived.Laws.ShiftsVarLaws
import Derived.BigRegion
namespace Go.Proofs.YtpmobjfhhkglbaaDoor
open Go.RowKit
set_option linter.unusedVariables false
set_option linter.unusedSimpArgs false

/-- a sum that goes on: its cells -/
def hv (kind : Int) (ws : List Nat) (tv : Value) (size : Nat) : Array Value :=
  #[.int .i64 kind, .int .u64 (el ws 0), .int .u64 (el ws 1), .int .u64 (el ws 2), .int .u64 (el ws 3), .int .u64 (el ws 4), .int .u64 (el ws 5), .int .u64 (el ws 6), .int .u64 (el ws 7), tv, .int .u64 size]
/-- it lies in block q -/
def Hb (w : World) (q : Nat) (kind : Int) (ws : List Nat) (tv : Value) (size : Nat) : Prop := w.heap[q]? = some (.cells (hv kind ws tv size) 79 (0, 0))
theorem Hb.new (w : World) (kind : Int) (ws : List Nat) (tv : Value) (size : Nat) : Hb (w.alloc (.cells (hv kind ws tv size) 79)) w.heap.size kind ws tv size := heap_alloc_last w _
theorem Hb.lt {w : World} {q : Nat} {kind : Int} {ws : List Nat} {tv : Value} {size : Nat} (h : Hb w q kind ws tv size) : q < w.heap.size := by
  unfold Hb at h
  rcases Nat.lt_or_ge q w.heap.size with hlt | hge
  · exact hlt
  · rw [Array.getElem?_eq_none hge] at h; cases h
theorem Hb.below {w w' : World} {q : Nat} {kind : Int} {ws : List Nat} {tv : Value} {size : Nat} (h : Hb w q kind ws tv size) (hb : Below w.heap.size w w') : Hb w' q kind ws tv size := (hb.block q h.lt).trans h
theorem Hb.but {w w' : World} {q g : Nat} {kind : Int} {ws : List Nat} {tv : Value} {size : Nat} (h : Hb w q kind ws tv size) (hb : But g w w') (hn : q ≠ g) : Hb w' q kind ws tv size := (hb.block q h.lt hn).trans h
theorem Hb.kind {w : World} {q : Nat} {kind : Int} {ws : List Nat} {tv : Value} {size : Nat} (h : Hb w q kind ws tv size) : w.cell? ⟨q, 0, none⟩ = some (.int .i64 kind) := by rw [cell_of_row w q 0 _ _ (0, 0) h]; rfl
theorem Hb.tail {w : World} {q : Nat} {kind : Int} {ws : List Nat} {tv : Value} {size : Nat} (h : Hb w q kind ws tv size) : w.cell? ⟨q, 9, none⟩ = some tv := by rw [cell_of_row w q 9 _ _ (0, 0) h]; rfl
theorem Hb.size {w : World} {q : Nat} {kind : Int} {ws : List Nat} {tv : Value} {size : Nat} (h : Hb w q kind ws tv size) : w.cell? ⟨q, 10, none⟩ = some (.int .u64 size) := by rw [cell_of_row w q 10 _ _ (0, 0) h]; rfl
theorem Hb.word {w : World} {q : Nat} {kind : Int} {ws : List Nat} {tv : Value} {size : Nat} (h : Hb w q kind ws tv size) {i : Nat} (hi : i < 8) : w.cell? ⟨q, 1 + i, none⟩ = some (.int .u64 (el ws i)) := by
  rw [cell_of_row w q _ _ _ (0, 0) h]
  match i, hi with
  | 0, _ => rfl
  | 1, _ => rfl
  | 2, _ => rfl
  | 3, _ => rfl
  | 4, _ => rfl
  | 5, _ => rfl
  | 6, _ => rfl
  | 7, _ => rfl
theorem Hb.words {w : World} {q : Nat} {kind : Int} {ws : List Nat} {tv : Value} {size : Nat} (h : Hb w q kind ws tv size) (h8 : ws.length = 8) : w.rangeAt q 1 (vals .u64 ws) := fun j v hv => by
  have hj : j < ws.length := by have := (List.getElem?_eq_some_iff.1 hv).1; rwa [vals_length] at this
  rw [h.word (by omega), ← hv, vals_get .u64 ws j hj]
/-- a text's value is one cell -/
theorem Row.cell1 {k : IntKind} {m : Nat} {w : World} {u : Value} {l : List Nat} (h : Row k m w u l) : u.oneCell' = true := by
  obtain ⟨a, cap, rfl, _⟩ := h; rfl
theorem Row.form {k : IntKind} {m : Nat} {w : World} {v : Value} {l : List Nat} (h : Row k m w v l) : ∃ a c, v = .slice a l.length c := by
  obtain ⟨a, c, rfl, _⟩ := h; exact ⟨a, c, rfl⟩

/-- the program's two tables hold what its text lays in them -/
def Roots (w : World) : Prop := w.rangeAt 2 0 (vals .u64 cubes) ∧ w.rangeAt 0 0 (vals .u64 squares)
theorem range_below {w w' : World} {b o : Nat} {cs : List Value} (h : w.rangeAt b o cs) (hb : Below w.heap.size w w') : w'.rangeAt b o cs := fun j v hv => keep_cell (h j v hv) hb
theorem Roots.below {w w' : World} (h : Roots w) (hb : Below w.heap.size w w') : Roots w' := ⟨range_below h.1 hb, range_below h.2 hb⟩

theorem tidy_at (x : Addr) (n c : Nat) : Tidy (.slice (some x) n c) := fun n c he => by simp at he
theorem tidy_nil : Tidy (.slice none 0 0) := fun a c he => by simp at he; omega
theorem Own.tidy {e : TypeId} {k : IntKind} {m : Nat} {w : World} {B : Nat} {v : Value} {l : List Nat} (h : Own e k m w B v l) : Tidy v := by
  obtain ⟨⟨_, ⟨rfl, _⟩ | ⟨g, cap, cur, rfl, _⟩⟩, _⟩ := h
  · exact tidy_nil
  · exact tidy_at _ _ _
theorem rows_lit2 {w : World} {u v : Value} {a b : List Nat} (hu : Row .u8 256 w u a) (hv : Row .u8 256 w v b) (tu : Tidy u) (tv : Tidy v) :
    Rows2 (w.alloc (.cells #[u, v] 26)) (.slice (some ⟨w.heap.size, 0, none⟩) 2 2) [a, b] := by
  refine ⟨_, 2, rfl, Nat.le_refl _, by unfold maxLen; decide, fun _ => ⟨_, _, rfl, fun i hi => ?_⟩⟩
  have hb := keep_alloc w (.cells #[u, v] 26)
  match i, hi with
  | 0, _ => exact ⟨u, by rw [World.cell?_alloc_at _ _ _ _ rfl]; rfl, hu.below hb, tu⟩
  | 1, _ => exact ⟨v, by rw [World.cell?_alloc_at _ _ _ _ rfl]; rfl, hv.below hb, tv⟩
theorem rows_lit3 {w : World} {u v x : Value} {a b c : List Nat} (hu : Row .u8 256 w u a) (hv : Row .u8 256 w v b) (hx : Row .u8 256 w x c) (tu : Tidy u) (tv : Tidy v) (tx : Tidy x) :
    Rows2 (w.alloc (.cells #[u, v, x] 26)) (.slice (some ⟨w.heap.size, 0, none⟩) 3 3) [a, b, c] := by
  refine ⟨_, 3, rfl, Nat.le_refl _, by unfold maxLen; decide, fun _ => ⟨_, _, rfl, fun i hi => ?_⟩⟩
  have hb := keep_alloc w (.cells #[u, v, x] 26)
  match i, hi with
  | 0, _ => exact ⟨u, by rw [World.cell?_alloc_at _ _ _ _ rfl]; rfl, hu.below hb, tu⟩
  | 1, _ => exact ⟨v, by rw [World.cell?_alloc_at _ _ _ _ rfl]; rfl, hv.below hb, tv⟩
  | 2, _ => exact ⟨x, by rw [World.cell?_alloc_at _ _ _ _ rfl]; rfl, hx.below hb, tx⟩

/-- bytes of words, at a place -/
theorem el_flat (f : Nat → List Nat) (k : Nat) (hk : 0 < k) (hf : ∀ x, (f x).length = k) : ∀ (l : List Nat) (i : Nat), i < l.length * k → el (l.map f).flatten i = el (f (el l (i / k))) (i % k)
  | [], i, h => by simp at h
  | x :: l, i, h => by
    rw [List.map_cons, List.flatten_cons]
    by_cases hi : i < k
    · rw [el_app_left (by rw [hf]; exact hi), Nat.div_eq_of_lt hi, Nat.mod_eq_of_lt hi]; rfl
    · have e : el (x :: l) (i / k) = el l ((i - k) / k) := by
        rw [Nat.div_eq_sub_div hk (by omega)]; rfl
      rw [el_app_right (by rw [hf]; omega), hf, el_flat f k hk hf l (i - k) (by rw [List.length_cons, Nat.add_mul, Nat.one_mul] at h; omega), e, Nat.mod_eq_sub_mod (by omega : i ≥ k)]
theorem el_be (x k j : Nat) (hj : j < k) : el (leL x k).reverse j = x / 256 ^ (k - 1 - j) % 256 := by
  have hl : (leL x k).length = k := leL_length x k
  rw [el_at (by rw [List.length_reverse, hl]; exact hj), List.getElem_reverse]
  simp only [leL, List.getElem_map, List.getElem_range, List.length_map, List.length_range]
theorem bytesW_length (b : Bool) (h : List Nat) : (bytesW b h).length = h.length * ez b := by
  unfold bytesW
  induction h with
  | nil => simp
  | cons x l ih => rw [List.map_cons, List.flatten_cons, List.length_append, ih, List.length_reverse, leL_length, List.length_cons, Nat.add_mul]; omega
theorem bytesW_el (b : Bool) (h : List Nat) (i : Nat) (hi : i < h.length * ez b) : el (bytesW b h) i = el h (i / ez b) / 256 ^ (ez b - 1 - i % ez b) % 256 := by
  have hp : 0 < ez b := by cases b <;> decide
  unfold bytesW
  rw [el_flat (fun x => (leL x (ez b)).reverse) (ez b) hp (fun x => by rw [List.length_reverse, leL_length]) h i hi, el_be _ _ _ (Nat.mod_lt _ hp)]
theorem bytesW_under (b : Bool) (h : List Nat) : Under 256 (bytesW b h) := by
  intro x hx
  unfold bytesW at hx
  obtain ⟨l, hl, hxl⟩ := List.mem_flatten.1 hx
  obtain ⟨y, _, rfl⟩ := List.mem_map.1 hl
  have := List.mem_reverse.1 hxl
  unfold leL at this
  obtain ⟨i, _, rfl⟩ := List.mem_map.1 this
  omega
theorem el_take {l : List Nat} {n i : Nat} (h : i < n) : el (l.take n) i = el l i := by unfold el; rw [List.getElem?_take_of_lt h]
end Go.Proofs.YtpmobjfhhkglbaaDoor

/- Contracts of sha.either, turned, shifted, firstBits at words of 64 bits. -/
namespace Go.Proofs.YtpmobjfhhkglbaaDoor
open Go.RowKit
set_option linter.unusedVariables false
set_option linter.unusedSimpArgs false

theorem ones64 : bits BinOp.xor .u64 IntKind.u64.max 0 = 18446744073709551616 - 1 := by decide
theorem sgn64 : IntKind.u64.signed = false := rfl

/-- a word turned, in the walk's spelling -/
theorem rot_is64 (x r : Nat) (hx : x < 18446744073709551616) (hr : r < 64) : bits .or .u64 ((x : Int) / 2 ^ r) (IntKind.u64.wrap ((x : Int) * 2 ^ (64 - r))) = ((rot true r x : Nat) : Int) := by
  have e1 : (x : Int) / 2 ^ r = ((x / 2 ^ r : Nat) : Int) := by simp
  have e2 : (IntKind.u64.wrap ((x : Int) * 2 ^ (64 - r))) = ((x * 2 ^ (64 - r) % 18446744073709551616 : Nat) : Int) := by
    rw [IntKind.wrap_u64]; simp
  rw [e1, e2, u64_or_nat _ _ (Nat.lt_of_le_of_lt (Nat.div_le_self _ _) hx) (Nat.mod_lt _ (by decide))]
  rfl
theorem xor_is64 (x y : Nat) (hx : x < 18446744073709551616) (hy : y < 18446744073709551616) : bits .xor .u64 (x : Int) (y : Int) = ((x ^^^ y : Nat) : Int) := u64_xor_nat x y hx hy
theorem turn_is64 (x a b c : Nat) (hx : x < 18446744073709551616) (ha : a < 64) (hb : b < 64) (hc : c < 64) :
    bits .xor .u64 (bits .xor .u64 (bits .or .u64 ((x : Int) / 2 ^ a) (IntKind.u64.wrap ((x : Int) * 2 ^ (64 - a)))) (bits .or .u64 ((x : Int) / 2 ^ b) (IntKind.u64.wrap ((x : Int) * 2 ^ (64 - b))))) (bits .or .u64 ((x : Int) / 2 ^ c) (IntKind.u64.wrap ((x : Int) * 2 ^ (64 - c)))) = ((turn3 true a b c x : Nat) : Int) := by
  have r := fun r => rot_lt (b := true) hx r
  rw [rot_is64 x a hx ha, rot_is64 x b hx hb, rot_is64 x c hx hc, xor_is64 _ _ (r a) (r b), xor_is64 _ _ (xor_lt (b := true) (r a) (r b)) (r c)]
  rfl
theorem shft_is64 (x a b c : Nat) (hx : x < 18446744073709551616) (ha : a < 64) (hb : b < 64) (hc : c < 64) :
    bits .xor .u64 (bits .xor .u64 (bits .or .u64 ((x : Int) / 2 ^ a) (IntKind.u64.wrap ((x : Int) * 2 ^ (64 - a)))) (bits .or .u64 ((x : Int) / 2 ^ b) (IntKind.u64.wrap ((x : Int) * 2 ^ (64 - b))))) ((x : Int) / 2 ^ c) = ((shft3 true a b c x : Nat) : Int) := by
  have r := fun r => rot_lt (b := true) hx r
  have e1 : (x : Int) / 2 ^ c = ((x / 2 ^ c : Nat) : Int) := by simp
  rw [rot_is64 x a hx ha, rot_is64 x b hx hb, e1, xor_is64 _ _ (r a) (r b), xor_is64 _ _ (xor_lt (b := true) (r a) (r b)) (shr_lt (b := true) hx c)]
  rfl

theorem and_is64 (x y : Nat) (hx : x < 18446744073709551616) (hy : y < 18446744073709551616) : bits .and .u64 (x : Int) (y : Int) = ((x &&& y : Nat) : Int) := u64_and_nat x y hx hy
theorem add_is64 (x y : Nat) : (IntKind.u64.wrap ((x : Int) + (y : Int))) = (((x + y) % 18446744073709551616 : Nat) : Int) := by
  rw [IntKind.wrap_u64]
  omega
theorem not_is64 (e : Nat) (he : e < 18446744073709551616) : bits .xor .u64 IntKind.u64.max (e : Int) = ((18446744073709551616 - 1 - e : Nat) : Int) := by
  rw [show IntKind.u64.max = ((18446744073709551616 - 1 : Nat) : Int) from rfl, xor_is64 _ _ (by decide) he, ← ones_xor 64 e he]
theorem chs_is64 (e f g : Nat) (he : e < 18446744073709551616) (hf : f < 18446744073709551616) (hg : g < 18446744073709551616) : bits .xor .u64 (bits .and .u64 (e : Int) (f : Int)) (bits .and .u64 (bits .xor .u64 IntKind.u64.max (e : Int)) (g : Int)) = ((chs true e f g : Nat) : Int) := by
  rw [not_is64 e he, and_is64 e f he hf, and_is64 _ g (by omega) hg, xor_is64 _ _ (and_lt (b := true) he) (and_lt (b := true) (by show 18446744073709551616 - 1 - e < 18446744073709551616; omega))]
  rfl
theorem maj_is64 (x y z : Nat) (hx : x < 18446744073709551616) (hy : y < 18446744073709551616) (hz : z < 18446744073709551616) : bits .xor .u64 (bits .xor .u64 (bits .and .u64 (x : Int) (y : Int)) (bits .and .u64 (x : Int) (z : Int))) (bits .and .u64 (y : Int) (z : Int)) = ((maj x y z : Nat) : Int) := by
  rw [and_is64 x y hx hy, and_is64 x z hx hz, and_is64 y z hy hz, xor_is64 _ _ (and_lt (b := true) hx) (and_lt (b := true) hx), xor_is64 _ _ (xor_lt (b := true) (and_lt (b := true) hx) (and_lt (b := true) hx)) (and_lt (b := true) hy)]
  rfl
theorem rnd064 (s : List Nat) (k w : Nat) : (((((el s 7 + turn3 true 14 18 41 (el s 4)) % 18446744073709551616 + chs true (el s 4) (el s 5) (el s 6)) % 18446744073709551616 + k) % 18446744073709551616 + w) % 18446744073709551616 + (turn3 true 28 34 39 (el s 0) + maj (el s 0) (el s 1) (el s 2)) % 18446744073709551616) % 18446744073709551616 = el (rnd true k w s) 0 := by
  show _ = (tOne true s k w + tTwo true s) % wm true
  unfold tOne tTwo
  simp only [gS0, gS1, wm, cond_true, cond_false]
  omega
theorem rnd464 (s : List Nat) (k w : Nat) : (el s 3 + ((((el s 7 + turn3 true 14 18 41 (el s 4)) % 18446744073709551616 + chs true (el s 4) (el s 5) (el s 6)) % 18446744073709551616 + k) % 18446744073709551616 + w) % 18446744073709551616) % 18446744073709551616 = el (rnd true k w s) 4 := by
  show _ = (el s 3 + tOne true s k w) % wm true
  unfold tOne
  simp only [gS0, gS1, wm, cond_true, cond_false]
  omega

theorem either_int64 (x y : Value) (w : World) :
    Calls Tryd.prog 82 #[x, y] w fun e w' => e = .returned y ∧ w' = w := by
  have h1 := ones64
  have h2 := sgn64
  go_enter Tryd.func82, Tryd.ntmps82
  go_wp2
  go_ret
  exact ⟨rfl, rfl⟩

/-- three turns, as a value -/
def tur64 (a b c : Nat) : Value := .agg #[.int .i64 (a : Int), .int .i64 (b : Int), .int .i64 (c : Int)]

/-- three turns, boxed -/
def Tu64 (w : World) (q a b c : Nat) : Prop := w.heap[q]? = some (.cells #[.int .i64 (a : Int), .int .i64 (b : Int), .int .i64 (c : Int)] 126)
theorem Tu64.new (w : World) (a b c : Nat) : Tu64 (w.alloc (.cells #[.int .i64 (a : Int), .int .i64 (b : Int), .int .i64 (c : Int)] 126)) w.heap.size a b c := heap_alloc_last w _
theorem Tu64.below {w w' : World} {q a b c : Nat} (h : Tu64 w q a b c) (hb : Below w.heap.size w w') : Tu64 w' q a b c := by
  unfold Tu64 at *
  rcases Nat.lt_or_ge q w.heap.size with hlt | hge
  · rw [hb.block q hlt]; exact h
  · rw [Array.getElem?_eq_none hge] at h; cases h
theorem Tu64.but {w w' : World} {q g a b c : Nat} (h : Tu64 w q a b c) (hb : But g w w') (hn : q ≠ g) : Tu64 w' q a b c := by
  unfold Tu64 at *
  rcases Nat.lt_or_ge q w.heap.size with hlt | hge
  · rw [hb.block q hlt hn]; exact h
  · rw [Array.getElem?_eq_none hge] at h; cases h
theorem Tu64.cells {w : World} {q a b c : Nat} (h : Tu64 w q a b c) : w.cell? ⟨q, 0, none⟩ = some (.int .i64 (a : Int)) ∧ w.cell? ⟨q, 1, none⟩ = some (.int .i64 (b : Int)) ∧ w.cell? ⟨q, 2, none⟩ = some (.int .i64 (c : Int)) := by
  unfold Tu64 at h
  refine ⟨?_, ?_, ?_⟩ <;> rw [cell_of_row w q _ _ _ (0, 0) h] <;> rfl

theorem either_tur64 (a b c a' b' c' : Nat) (w : World) :
    Calls Tryd.prog 93 #[tur64 a b c, tur64 a' b' c'] w fun e w' => e = .returned (tur64 a' b' c') ∧ Below w.heap.size w w' := by
  unfold tur64
  have h1 := ones64
  have h2 := sgn64
  go_enter Tryd.func93, Tryd.ntmps93
  go_wp2
  refine bodyPost_ret (v := .agg #[.int .i64 (a' : Int), .int .i64 (b' : Int), .int .i64 (c' : Int)]) (by simp [results, Tryd.results93, go_sem]) rfl ⟨rfl, ?_⟩
  exact (((Below.refl _ _).alloc (Nat.le_refl _) _).alloc (by simp) _).alloc (by simp; omega) _

theorem first64 (n : Nat) (w : World) (hn : n < 18446744073709551616) :
    Calls Tryd.prog 67 #[.int .u64 n] w fun e w' => e = .returned (.int .u64 (hi true n : Nat)) ∧ w' = w := by
  go_enter Tryd.func67, Tryd.ntmps67
  go_wp2_with fail
  refine (either_int64 _ _ _).mono ?_
  rintro e w1 ⟨rfl, rfl⟩
  go_wp2
  go_ret
  exact ⟨ret_int (by simp only [hi, cond_true, cond_false]), rfl⟩

set_option maxHeartbeats 1000000 in
theorem turned64 (x a b c : Nat) (w : World) (hx : x < 18446744073709551616) (ha : a < 64) (hb : b < 64) (hc : c < 64) :
    Calls Tryd.prog 94 #[.int .u64 x, tur64 a b c] w fun e w' => e = .returned (.int .u64 (turn3 true a b c x : Nat)) ∧ Below w.heap.size w w' := by
  unfold tur64
  have m1 : min a 64 = a := by omega
  have m2 : min b 64 = b := by omega
  have m3 : min c 64 = c := by omega
  go_enter Tryd.func94, Tryd.ntmps94
  go_wp2_with fail
  refine (either_int64 _ _ _).mono ?_
  rintro e w1 ⟨rfl, rfl⟩
  go_wp2
  go_quiet (fail)
  go_wp2
  go_ret
  exact ⟨ret_int (turn_is64 x a b c hx ha hb hc), bel_drewN (keep_alloc _ _) _⟩

set_option maxHeartbeats 1000000 in
theorem shifted64 (x a b c : Nat) (w : World) (hx : x < 18446744073709551616) (ha : a < 64) (hb : b < 64) (hc : c < 64) :
    Calls Tryd.prog 95 #[.int .u64 x, tur64 a b c] w fun e w' => e = .returned (.int .u64 (shft3 true a b c x : Nat)) ∧ Below w.heap.size w w' := by
  unfold tur64
  have m1 : min a 64 = a := by omega
  have m2 : min b 64 = b := by omega
  have m3 : min c 64 = c := by omega
  go_enter Tryd.func95, Tryd.ntmps95
  go_wp2_with fail
  refine (either_int64 _ _ _).mono ?_
  rintro e w1 ⟨rfl, rfl⟩
  go_wp2
  go_quiet (fail)
  go_wp2
  go_ret
  exact ⟨ret_int (shft_is64 x a b c hx ha hb hc), bel_drewN (keep_alloc _ _) _⟩
end Go.Proofs.YtpmobjfhhkglbaaDoor

/- Contract of sha.spread at words of 64 bits. -/
namespace Go.Proofs.YtpmobjfhhkglbaaDoor
open Go.RowKit
set_option linter.unusedVariables false
set_option linter.unusedSimpArgs false

set_option maxRecDepth 100000 in
theorem zero8064 : ∀ w, (zeroValue 107).run Tryd.prog w = .ok (.agg (arr .u64 (List.replicate 80 0))) w := zero_arr (by kernel_rfl)

set_option maxHeartbeats 4000000 in
set_option maxRecDepth 100000 in
theorem spread_any64 (v : Value) (l : List Nat) (w : World) (hR : Row .u8 256 w v l) (hl : l.length = 128) :
    Calls Tryd.prog 86 #[v] w fun e w' => e = .returned (.agg (arr .u64 (pad 80 (sched true l 64)))) ∧ Below w.heap.size w w' := by
  have hu := hR.under
  obtain ⟨a, cap, rfl, h1, h2, h3⟩ := hR.opens hl
  obtain ⟨bb, off, rfl, hc⟩ := h3 (by decide)
  have hz := zero8064
  go_enter Tryd.func86, Tryd.ntmps86
  go_wp2_with fail
  refine (either_int64 _ _ _).mono ?_
  rintro e w1 ⟨rfl, rfl⟩
  go_wp2
  have hL0 : Lies .u64 107 ((w.alloc (.cells (arr .u64 (List.replicate 80 0)) 107)).alloc (.cells (arr .u64 (List.replicate 80 0)) 107)) (w.heap.size + 1) (pad 80 (words true l 0)) := by
    have := Lies.new .u64 107 (w.alloc (.cells (arr .u64 (List.replicate 80 0)) 107)) (List.replicate 80 0)
    rw [World.size_alloc] at this
    exact this
  have hO0 : Lies .u64 107 ((w.alloc (.cells (arr .u64 (List.replicate 80 0)) 107)).alloc (.cells (arr .u64 (List.replicate 80 0)) 107)) w.heap.size (List.replicate 80 0) := (Lies.new .u64 107 w (List.replicate 80 0)).alloc _
  have hb0 := keep_trans (keep_alloc w (.cells (arr .u64 (List.replicate 80 0)) 107)) (keep_alloc _ (.cells (arr .u64 (List.replicate 80 0)) 107))
  go_loopw [10] (fun i wr => ∃ t : Nat, t ≤ 16 ∧ i = .int .i64 t ∧ Lies .u64 107 wr (w.heap.size + 1) (pad 80 (words true l t)) ∧ Lies .u64 107 wr w.heap.size (List.replicate 80 0) ∧ Below w.heap.size w wr) (fun i _ => 16 - (intOf i).toNat)
  case atStart => exact ⟨0, Nat.zero_le _, rfl, hL0, hO0, hb0⟩
  case round =>
    obtain ⟨t, ht, rfl, hLt, hOt, hbt⟩ := hrel
    clear hL0 hO0 hb0
    by_cases hlt : t < 16
    · have hRt := (hR.below hbt).mid (i := t * 8) (j := (t + 1) * 8) (by omega) (by omega)
      go_wp2_with fail
      refine (num_any _ _ _ hRt).mono ?_
      rintro e w2 ⟨rfl, rfl⟩
      have hwd : numL ((l.drop (t * 8)).take ((t + 1) * 8 - t * 8)) = word true l t := by
        rw [show (t + 1) * 8 - t * 8 = 8 by omega]; rfl
      rw [hwd]
      have hwl : word true l t < 18446744073709551616 := word_lt hu t
      have hst := hLt.set t (word true l t)
      have hse := pad_set (n := 80) (l := words true l t) (by rw [words_length]; omega) (word true l t)
      rw [words_length, ← words_succ] at hse
      rw [hse] at hst
      have HST := hide hst
      have c1 := hLt.cell (i := t) (by rw [pad_length (by rw [words_length]; omega)]; omega)
      have f1 := hLt.frozen t
      clear hwd hse hst hRt
      generalize hW : word true l t = W at *
      have HW := hide hW
      clear hW
      have ik0 : (0 : Int) ≤ (t : Int) := Int.natCast_nonneg _
      have ik1 : (t : Int) < 80 := by omega
      go_wp2
      refine ⟨⟨t + 1, by omega, by go_num, HST.out, hOt.but (But.setCell (But.refl (w.heap.size + 1) _) _ _) (by omega), hbt.setCell (by simp) _⟩, by simp [intOf]; omega⟩
    · obtain rfl : t = 16 := by omega
      go_wp2_with fail
      refine (either_tur64 7 18 3 1 8 7 _).mono ?_
      rintro e w3 ⟨rfl, hb3⟩
      unfold tur64
      go_wp2_with fail
      refine (either_tur64 17 19 10 19 61 6 _).mono ?_
      rintro e w4 ⟨rfl, hb4⟩
      unfold tur64
      go_wp2
      have hw : Lies .u64 107 w4 (w.heap.size + 1) (pad 80 (sched true l 0)) := ((hLt.below hb3).alloc _).below hb4
      have hO4 : Lies .u64 107 w4 w.heap.size (List.replicate 80 0) := ((hOt.below hb3).alloc _).below hb4
      have hA4 : Tu64 w4 w3.heap.size 1 8 7 := (Tu64.new w3 1 8 7).below hb4
      have hB5 : Tu64 (w4.alloc (.cells #[.int .i64 19, .int .i64 61, .int .i64 6] 126)) w4.heap.size 19 61 6 := Tu64.new w4 19 61 6
      have hw5 := hw.alloc (.cells #[.int .i64 19, .int .i64 61, .int .i64 6] 126)
      have hO5 := hO4.alloc (.cells #[.int .i64 19, .int .i64 61, .int .i64 6] 126)
      have hA5 := hA4.below (keep_alloc w4 (.cells #[.int .i64 19, .int .i64 61, .int .i64 6] 126))
      have hs3 := hb3.size
      have hs4 := hb4.size
      rw [World.size_alloc] at hs4
      have hne3 : w3.heap.size ≠ w.heap.size + 1 := by have := hLt.lt; omega
      have hne4 : w4.heap.size ≠ w.heap.size + 1 := by have := hLt.lt; omega
      have hb5 := keep_trans hbt (keep_trans hb3 (keep_trans (keep_alloc _ _) (keep_trans hb4 (keep_alloc w4 (.cells #[.int .i64 19, .int .i64 61, .int .i64 6] 126)))))
      clear hw hO4 hA4 hb3 hb4 hLt hOt hbt hs3 hs4
      generalize w4.alloc (.cells #[.int .i64 19, .int .i64 61, .int .i64 6] 126) = w5 at *
      go_loopw [8] (fun i wr => ∃ j : Nat, j ≤ 64 ∧ i = .int .i64 ((16 + j : Nat) : Int) ∧ Lies .u64 107 wr (w.heap.size + 1) (pad 80 (sched true l j)) ∧ Lies .u64 107 wr w.heap.size (List.replicate 80 0) ∧ Tu64 wr w3.heap.size 1 8 7 ∧ Tu64 wr w4.heap.size 19 61 6 ∧ Below w.heap.size w wr) (fun i _ => 100 - (intOf i).toNat)
      case atStart => exact ⟨0, Nat.zero_le _, rfl, hw5, hO5, hA5, hB5, hb5⟩
      case round =>
        obtain ⟨j, hj, rfl, hLj, hOj, hAj, hBj, hbj⟩ := hrel
        clear hw5 hO5 hA5 hB5 hb5
        have hlen := sched_length true l j
        have hsu := sched_under (b := true) hu j
        have hsc := sched_succ true l j
        by_cases hlt : j < 64
        · have hpl : (pad 80 (sched true l j)).length = 80 := pad_length (by omega)
          have hse := pad_set (n := 80) (l := sched true l j) (by omega) (nxt true (sched true l j))
          rw [← hsc, hlen] at hse
          have HSE := hide hse
          have HN : Hid (nxt true (sched true l j) = (lS1 true (el (sched true l j) (14 + j)) + el (sched true l j) (9 + j) + lS0 true (el (sched true l j) (1 + j)) + el (sched true l j) j) % wm true) := by
            apply hide
            unfold nxt
            rw [hlen, show 16 + j - 2 = 14 + j by omega, show 16 + j - 7 = 9 + j by omega, show 16 + j - 15 = 1 + j by omega, show 16 + j - 16 = j by omega]
          have HL := hide hlen
          clear hse hsc hlen
          generalize nxt true (sched true l j) = N at *
          generalize sched true l j = s at *
          have u := fun i => el_lt hsu (wm_pos true) i
          have hX : LiesX .u64 107 wr (w.heap.size + 1) (pad 80 s) (16 + j) := hLj.toX (by omega)
          have e2 : el (pad 80 s) (14 + j) = el s (14 + j) := pad_el (by rw [HL.out]; omega)
          have e7 : el (pad 80 s) (9 + j) = el s (9 + j) := pad_el (by rw [HL.out]; omega)
          have e15 : el (pad 80 s) (1 + j) = el s (1 + j) := pad_el (by rw [HL.out]; omega)
          have e16 : el (pad 80 s) j = el s j := pad_el (by rw [HL.out]; omega)
          have hmk : ∀ w', LiesX .u64 107 w' (w.heap.size + 1) (pad 80 s) (16 + j) ∧ But (w.heap.size + 1) wr w' → (w'.cell? ⟨w.heap.size + 1, 14 + j, none⟩ = some (.int .u64 (el s (14 + j))) ∧ w'.cell? ⟨w.heap.size + 1, 9 + j, none⟩ = some (.int .u64 (el s (9 + j))) ∧ w'.cell? ⟨w.heap.size + 1, 1 + j, none⟩ = some (.int .u64 (el s (1 + j))) ∧ w'.cell? ⟨w.heap.size + 1, j, none⟩ = some (.int .u64 (el s j)) ∧ w'.cell? ⟨w3.heap.size, 0, none⟩ = some (.int .i64 1) ∧ w'.cell? ⟨w3.heap.size, 1, none⟩ = some (.int .i64 8) ∧ w'.cell? ⟨w3.heap.size, 2, none⟩ = some (.int .i64 7) ∧ w'.cell? ⟨w4.heap.size, 0, none⟩ = some (.int .i64 19) ∧ w'.cell? ⟨w4.heap.size, 1, none⟩ = some (.int .i64 61) ∧ w'.cell? ⟨w4.heap.size, 2, none⟩ = some (.int .i64 6) ∧ w'.cell? ⟨w.heap.size + 1, 16 + j, none⟩ = some (rdc w' ⟨w.heap.size + 1, 16 + j, none⟩) ∧ w'.frozen? ⟨w.heap.size + 1, 16 + j, none⟩ = false ∧ (LiesX .u64 107 w' (w.heap.size + 1) (pad 80 s) (16 + j) ∧ But (w.heap.size + 1) wr w')) := fun w' ⟨hb, hB⟩ => by
            obtain ⟨a0, a1, a2⟩ := (hAj.but hB hne3).cells
            obtain ⟨b0, b1, b2⟩ := (hBj.but hB hne4).cells
            exact ⟨by rw [hb.cell (by omega) (by omega), e2], by rw [hb.cell (by omega) (by omega), e7], by rw [hb.cell (by omega) (by omega), e15], by rw [hb.cell (by omega) (by omega), e16], a0, a1, a2, b0, b1, b2, hb.here (by omega), hb.frozen _, hb, hB⟩
          have HMK := hide hmk
          have HX := hide hX
          clear hmk hX e2 e7 e15 e16
          have y2 : ((16 + j : Nat) : Int) - 2 = ((14 + j : Nat) : Int) := by omega
          have y7 : ((16 + j : Nat) : Int) - 7 = ((9 + j : Nat) : Int) := by omega
          have y15 : ((16 + j : Nat) : Int) - 15 = ((1 + j : Nat) : Int) := by omega
          have y16 : ((16 + j : Nat) : Int) - 16 = (j : Int) := by omega
          have n0 : 16 + j < 80 ∧ 14 + j < 80 ∧ 9 + j < 80 ∧ 1 + j < 80 ∧ 16 + j < 80 := by omega
          have HNJ : Hid (16 + (j + 1) = 16 + j + 1) := hide (by omega)
          have HJ : Hid (j + 1 ≤ 64) := hide (by omega)
          have nj : j < 80 := by omega
          have u2 : el s (14 + j) < 18446744073709551616 := u _
          have u15 : el s (1 + j) < 18446744073709551616 := u _
          have u7 : el s (9 + j) < 18446744073709551616 := u _
          have u16 : el s j < 18446744073709551616 := u _
          clear hlt hj hpl hsu u
          generalize 16 + j = T at *
          generalize 14 + j = c2 at *
          generalize 9 + j = c7 at *
          generalize 1 + j = c15 at *
          obtain ⟨n1, n2, n3, n4, n5⟩ := n0
          have i0 : (0 : Int) ≤ (j : Int) := Int.natCast_nonneg _
          have i1 : (j : Int) < 80 := by omega
          have i2 : (0 : Int) ≤ (c2 : Int) := Int.natCast_nonneg _
          have i3 : (c2 : Int) < 80 := by omega
          have i4 : (0 : Int) ≤ (c7 : Int) := Int.natCast_nonneg _
          have i5 : (c7 : Int) < 80 := by omega
          have i6 : (0 : Int) ≤ (c15 : Int) := Int.natCast_nonneg _
          have i7 : (c15 : Int) < 80 := by omega
          have i8 : (0 : Int) ≤ (T : Int) := Int.natCast_nonneg _
          have i9 : (T : Int) < 80 := by omega
          have r2 : IntKind.i64.wrap (c2 : Int) = (c2 : Int) := by rw [IntKind.wrap_i64]; omega
          have r7 : IntKind.i64.wrap (c7 : Int) = (c7 : Int) := by rw [IntKind.wrap_i64]; omega
          have r15 : IntKind.i64.wrap (c15 : Int) = (c15 : Int) := by rw [IntKind.wrap_i64]; omega
          have r16 : IntKind.i64.wrap (j : Int) = (j : Int) := by rw [IntKind.wrap_i64]; omega
          have i10 : (T : Int) < 80 := by omega
          go_wp2_with fail
          refine (either_int64 _ _ _).mono ?_
          rintro e w6 ⟨rfl, rfl⟩
          go_wp2
          go_region_held3 (fun w' => w'.cell? ⟨w.heap.size + 1, c2, none⟩ = some (.int .u64 (el s c2)) ∧ w'.cell? ⟨w.heap.size + 1, c7, none⟩ = some (.int .u64 (el s c7)) ∧ w'.cell? ⟨w.heap.size + 1, c15, none⟩ = some (.int .u64 (el s c15)) ∧ w'.cell? ⟨w.heap.size + 1, j, none⟩ = some (.int .u64 (el s j)) ∧ w'.cell? ⟨w3.heap.size, 0, none⟩ = some (.int .i64 1) ∧ w'.cell? ⟨w3.heap.size, 1, none⟩ = some (.int .i64 8) ∧ w'.cell? ⟨w3.heap.size, 2, none⟩ = some (.int .i64 7) ∧ w'.cell? ⟨w4.heap.size, 0, none⟩ = some (.int .i64 19) ∧ w'.cell? ⟨w4.heap.size, 1, none⟩ = some (.int .i64 61) ∧ w'.cell? ⟨w4.heap.size, 2, none⟩ = some (.int .i64 6) ∧ w'.cell? ⟨w.heap.size + 1, T, none⟩ = some (rdc w' ⟨w.heap.size + 1, T, none⟩) ∧ w'.frozen? ⟨w.heap.size + 1, T, none⟩ = false ∧ (LiesX .u64 107 w' (w.heap.size + 1) (pad 80 s) T ∧ But (w.heap.size + 1) w6 w'))
            (first
              | exact HMK.out _ ⟨HX.out, But.refl _ _⟩
              | exact HMK.out _ ⟨HX.out, (But.refl _ _).drew⟩
              | (go_split_ands; exact HMK.out _ ⟨LiesX.below (by assumption) hb8, But.trans (by assumption) (But.of_below hb8)⟩)
              | (go_split_ands; exact HMK.out _ ⟨LiesX.below (by assumption) hb7, But.trans (by assumption) (But.of_below hb7)⟩)
              | (go_split_ands; exact HMK.out _ ⟨LiesX.set (by assumption) _, But.setCell (by assumption) _ _⟩)
              | (go_split_ands; exact HMK.out _ ⟨by assumption, But.drew (by assumption)⟩))
            (first
              | (go_at_call_of 95 (el s c2); refine (shifted64 (el s c2) 19 61 6 _ u2 (by decide) (by decide) (by decide)).mono ?_; rintro e w7 ⟨rfl, hb7⟩)
              | (go_at_call_of 95 (el s c15); refine (shifted64 (el s c15) 1 8 7 _ u15 (by decide) (by decide) (by decide)).mono ?_; rintro e w8 ⟨rfl, hb8⟩))
          go_wp2_with fail
          have hB78 : Below w6.heap.size w6 w8 := by first | exact keep_trans hb7 hb8 | exact keep_trans (un_drew hb7) hb8 | exact keep_trans (un_drewN hb7) hb8
          have hN : (((shft3 true 19 61 6 (el s c2) + el s c7) % 18446744073709551616 + shft3 true 1 8 7 (el s c15)) % 18446744073709551616 + el s j) % 18446744073709551616 = N := by
            rw [HN.out]
            simp only [lS0, lS1, wm, cond_true, cond_false]
            omega
          rw [add_is64, add_is64, add_is64, hN]
          have hBS : But (w.heap.size + 1) w6 (w8.setCell ⟨w.heap.size + 1, T, none⟩ (.int .u64 (N : Int))) := (But.of_below hB78).setCell T _
          exact ⟨⟨j + 1, HJ.out, vint (by rw [HNJ.out]; omega), by rw [← HSE.out]; exact (hLj.below hB78).set T N, hOj.but hBS (by omega), hAj.but hBS hne3, hBj.but hBS hne4, hbj.trans (hBS.below (by omega) hbj.size)⟩, by simp [intOf]; omega⟩
        · obtain rfl : j = 64 := by omega
          have hpl : (pad 80 (sched true l 64)).length = 80 := pad_length (by omega)
          have hlz : (List.replicate 80 0).length = 80 := rfl
          generalize hF : pad 80 (sched true l 64) = F at *
          have HF := hide hF
          clear hF
          go_wp2_with fail
          refine (either_int64 _ _ _).mono ?_
          rintro e w6 ⟨rfl, rfl⟩
          go_wp2_with (first
            | (refine wpList_load_row rfl 107 _ (by rfl) (w.heap.size + 1) (by rfl) _ _ _ (.array 80 49) hLj (by kernel_rfl) rfl (by rw [arr_size, hpl]; kernel_rfl) ?_)
            | (refine wpList_store_row rfl 107 _ _ (by rfl) w.heap.size (arr .u64 F) (by rfl) (by rfl) _ _ hOj (by rw [arr_size, hpl]; kernel_rfl) (by rw [arr_size, arr_size, hpl, List.length_replicate]) (arr_one _ _) ?_)
            | fail)
          have hOf : Lies .u64 107 (w6.setRow w.heap.size (arr .u64 F)) w.heap.size F := hOj.row
          have hbf : Below w.heap.size w (w6.setRow w.heap.size (arr .u64 F)) := hbj.trans ((But.setRow (But.refl _ _) _).below (Nat.le_refl _) hbj.size)
          refine bodyPost_ret (v := .agg (arr .u64 F)) ?_ ?_ ?_
          · exact results_cell_row Tryd.results86 _ _ w.heap.size _ _ _ (.array 80 49) (by rfl) hOf (by kernel_rfl) rfl (by rw [arr_size, hpl]; kernel_rfl)
          · rfl
          · exact ⟨by rw [HF.out], hbf⟩
end Go.Proofs.YtpmobjfhhkglbaaDoor
