/- Leaves that sign once: the document's Kind, Size, H, part, chain, key, digest. -/
import Derived.Test.YtnjiilnkobhibaaGEn32
import Derived.Test.YtnjiilnkobhibaaLmC
import Derived.Test.YtnjiilnkobhibaaRJoin
import Derived.Test.YtnjiilnkobhibaaPApp
import Derived.Test.YtnjiilnkobhibaaHKi2
import Derived.Test.YtnjiilnkobhibaaRev
namespace Go.Proofs.Ytnjiilnkobhibaa
open Go.RowKit
set_option linter.unusedVariables false
set_option linter.unusedSimpArgs false

/-- SHA-256 -/
def shaL (b : List Nat) : List Nat := endS (wide 1) (ini 1) b b.length (outn 1)
theorem shaL_len (b : List Nat) : (shaL b).length = 32 := by
  have e8 : ∀ (c : Bool) (l : List Nat), (eat c (ini 1) l).length = 8 := fun c l => eat_len _ (by decide)
  unfold shaL
  simp [endS, bytesW_length, e8, outn, wide, ez]
/-- what a kind is: digits of a digest, of its check, the shift, the typecode -/
inductive Kd : Nat → Nat → Nat → Nat → Nat → Prop
  | k1 : Kd 1 256 9 7 1
  | k2 : Kd 2 128 5 6 2
  | k4 : Kd 4 64 3 4 3
  | k8 : Kd 8 32 2 0 4
theorem Kd.kind {w n m s c : Nat} (h : Kd w n m s c) : KindL w n m s := by
  cases h
  · exact kind_1
  · exact kind_2
  · exact kind_4
  · exact kind_8
def NoK (x : Int) : Prop := ¬ x = 1 ∧ ¬ x = 2 ∧ ¬ x = 4 ∧ ¬ x = 8
theorem kd_or (x : Int) : NoK x ∨ ∃ w n m s c : Nat, x = (w : Int) ∧ Kd w n m s c := by
  by_cases h1 : x = 1
  · exact .inr ⟨1, _, _, _, _, h1, .k1⟩
  by_cases h2 : x = 2
  · exact .inr ⟨2, _, _, _, _, h2, .k2⟩
  by_cases h4 : x = 4
  · exact .inr ⟨4, _, _, _, _, h4, .k4⟩
  by_cases h8 : x = 8
  · exact .inr ⟨8, _, _, _, _, h8, .k8⟩
  exact .inl ⟨h1, h2, h4, h8⟩
set_option maxHeartbeats 2000000 in
set_option maxRecDepth 100000 in
theorem rkind_no (x : Int) (y : World) (h : NoK x) : Calls Try.prog 14 #[.int .i64 x] y fun e y' => e = .returned (.tuple #[.int .i64 0, .int .i64 0, .int .u64 0]) ∧ y' = y := by
  obtain ⟨h1, h2, h4, h8⟩ := h
  go_enter Try.func14, Try.ntmps14
  go_wp2
  go_ret3
  exact ⟨rfl, rfl⟩
set_option maxHeartbeats 2000000 in
set_option maxRecDepth 100000 in
theorem rkind_ok {w n m s c : Nat} (y : World) (h : Kd w n m s c) : Calls Try.prog 14 #[.int .i64 (w : Int)] y fun e y' => e = .returned (.tuple #[.int .i64 ((n + m : Nat) : Int), .int .i64 (s : Int), .int .u64 (c : Int)]) ∧ y' = y := by
  cases h
  · go_enter Try.func14, Try.ntmps14
    go_wp2
    go_ret3
    exact ⟨rfl, rfl⟩
  · go_enter Try.func14, Try.ntmps14
    go_wp2
    go_ret3
    exact ⟨rfl, rfl⟩
  · go_enter Try.func14, Try.ntmps14
    go_wp2
    go_ret3
    exact ⟨rfl, rfl⟩
  · go_enter Try.func14, Try.ntmps14
    go_wp2
    go_ret3
    exact ⟨rfl, rfl⟩
theorem texts_cons {w : World} {u : Value} {x : List Nat} {us : List Value} {ls : List (List Nat)} (h : Row .u8 256 w u x) (t : Tidy u) (k : Texts w us ls) : Texts w (u :: us) (x :: ls) := (Texts.one h t).append k
theorem rows_litL {w : World} {us : List Value} {ls : List (List Nat)} {B k : Nat} (h : Texts w us ls) (hB : w.heap.size = B) (hk : ls.length = k) (hl : k ≤ 1000) : Rows2 (w.alloc (.cells us.toArray 22)) (.slice (some ⟨B, 0, none⟩) k k) ls := by
  subst hB hk
  refine ⟨_, ls.length, rfl, Nat.le_refl _, by unfold maxLen; omega, fun _ => ⟨_, _, rfl, fun i hi => ?_⟩⟩
  have hb := keep_alloc w (.cells us.toArray 22)
  obtain ⟨u, hu, hr, ht⟩ := h.2 i hi
  refine ⟨u, ?_, hr.below hb, ht⟩
  rw [World.cell?_alloc_at _ _ _ _ rfl, Nat.zero_add]
  simpa using hu
theorem new_ntidy {w : World} {v : Value} {l : List Nat} (h : Row .u8 256 w v l) (hl : 0 < l.length) : Tidy v := by
  obtain ⟨a, c, rfl, _, _, g⟩ := h.opens rfl
  obtain ⟨b, o, rfl, _⟩ := g hl
  intro n c e
  cases e
theorem leS_2 (n : Nat) : leS n 2 = leL n 2 := by unfold leS; rw [if_neg (by decide)]; rfl
theorem leS_4 (n : Nat) : leS n 4 = leL n 4 := by unfold leS; rw [if_neg (by decide)]; rfl
theorem rbe2 (a : Nat) (w : World) (ha : a < 18446744073709551616) : Calls Try.prog 17 #[.int .u64 (a : Int), .int .i64 2] w fun e w' => ∃ v, e = .returned v ∧ Own 5 .u8 256 w' w.heap.size v (be2 a) ∧ Below w.heap.size w w' := by
  have := rbe_any a 2 w ha (by decide) (by decide)
  rw [leS_2] at this
  exact this
theorem rbe4 (a : Nat) (w : World) (ha : a < 18446744073709551616) : Calls Try.prog 17 #[.int .u64 (a : Int), .int .i64 4] w fun e w' => ∃ v, e = .returned v ∧ Own 5 .u8 256 w' w.heap.size v (be4 a) ∧ Below w.heap.size w w' := by
  have := rbe_any a 4 w ha (by decide) (by decide)
  rw [leS_4] at this
  exact this
theorem one_byte (w : World) (x : Nat) (hx : x < 256) : Row .u8 256 (w.alloc (.cells #[.int .u8 (x : Int)] 5)) (.slice (some ⟨w.heap.size, 0, none⟩) 1 1) [x] ∧ Tidy (.slice (some ⟨w.heap.size, 0, none⟩) 1 1) := by
  refine ⟨⟨_, 1, rfl, Nat.le_refl _, by unfold maxLen; decide, fun _ => ⟨_, _, rfl, fun i hi => ?_⟩, ?_⟩, fun n c e => by cases e⟩
  · match i, hi with
    | 0, _ => rw [World.cell?_alloc_at _ _ _ _ rfl]; rfl
  · intro y hy
    simp at hy
    omega
/-- what stands ahead: the tree's id and the leaf's number -/
def preL (id : List Nat) (q : Nat) : List Nat := id ++ be4 q
theorem len_pre (id : List Nat) (q : Nat) : (preL id q).length = id.length + 4 := by unfold preL; rw [List.length_append, be4_len]
end Go.Proofs.Ytnjiilnkobhibaa

/- Leaves that sign once: the document's chain, key, digest. -/
namespace Go.Proofs.Ytnjiilnkobhibaa
open Go.RowKit
set_option linter.unusedVariables false
set_option linter.unusedSimpArgs false

/-- where the chain stands -/
def ChL (w : World) (HH : List Nat → List Nat) (pre : List Nat) (i F N : Nat) (y : List Nat) (yv vy vj : Value) (wr : World) : Prop := ∃ k : Nat, k ≤ N ∧ vj = .int .i64 ((F + k : Nat) : Int) ∧ Row .u8 256 wr vy (chN HH pre i F k y) ∧ Tidy vy ∧ (New w.heap.size vy ∨ vy = yv) ∧ Below w.heap.size w wr
end Go.Proofs.Ytnjiilnkobhibaa

/- Leaves that sign once: the document's key, digest, wrong, Size. -/
namespace Go.Proofs.Ytnjiilnkobhibaa
open Go.RowKit
set_option linter.unusedVariables false
set_option linter.unusedSimpArgs false

/-- what is wrong with a kind, an id, a seed -/
def wrgC (x : Int) (a b : Nat) : Int := if x = 1 ∨ x = 2 ∨ x = 4 ∨ x = 8 then (if a = 16 ∧ b = 32 then 0 else 14) else 9
theorem wrg_no {x : Int} (h : NoK x) (a b : Nat) : wrgC x a b = 9 := by
  obtain ⟨h1, h2, h4, h8⟩ := h
  unfold wrgC
  rw [if_neg (by omega)]
theorem wrg_kd {w n m s c : Nat} (h : Kd w n m s c) (a b : Nat) : wrgC (w : Int) a b = if a = 16 ∧ b = 32 then 0 else 14 := by
  unfold wrgC
  rw [if_pos (by cases h <;> simp)]
theorem Kd.pos {w n m s c : Nat} (h : Kd w n m s c) : 1 ≤ n + m ∧ n + m ≤ 265 ∧ w ≤ 8 ∧ 1 ≤ w ∧ n * w = 256 ∧ c ≤ 4 ∧ s ≤ 7 := by cases h <;> decide
set_option maxHeartbeats 4000000 in
set_option maxRecDepth 100000 in
theorem rsize_no (x : Int) (w : World) (h : NoK x) : Calls Try.prog 11 #[.int .i64 x] w fun e w' => e = .returned (.int .i64 0) ∧ w' = w := by
  have hk := fun y => rkind_no x y h
  clear h
  go_enter Try.func11, Try.ntmps11
  go_wp2_with (first | (go_at_call 14; refine (hk _).mono ?_; rintro e yy ⟨rfl, hy⟩; obtain rfl := hy.symm) | fail)
  go_ret
  exact ⟨rfl, rfl⟩
set_option maxHeartbeats 4000000 in
set_option maxRecDepth 100000 in
theorem rsize_ok {k n m s c : Nat} (w : World) (h : Kd k n m s c) : Calls Try.prog 11 #[.int .i64 (k : Int)] w fun e w' => e = .returned (.int .i64 ((36 + 32 * (n + m) : Nat) : Int)) ∧ w' = w := by
  have hk := fun y => rkind_ok y h
  obtain ⟨P, hP⟩ : ∃ P : Nat, P = n + m := ⟨_, rfl⟩
  rw [← hP] at hk ⊢
  have hp := h.pos
  have hp0 : ¬ ((P : Int) = 0) := by omega
  obtain ⟨A, hA⟩ : ∃ A : Nat, A = 32 * P := ⟨_, rfl⟩
  obtain ⟨B, hB⟩ : ∃ B : Nat, B = 36 + A := ⟨_, rfl⟩
  have e_A : (32 : Int) * (P : Int) = (A : Int) := by omega
  have s_A : IntKind.i64.wrap (A : Int) = (A : Int) := by rw [IntKind.wrap_i64]; omega
  have e_B : (36 : Int) + (A : Int) = (B : Int) := by omega
  have s_B : IntKind.i64.wrap (B : Int) = (B : Int) := by rw [IntKind.wrap_i64]; omega
  rw [← hA, ← hB]
  clear h hP hA hB hp
  go_enter Try.func11, Try.ntmps11
  go_wp2_with (first | (go_at_call 14; refine (hk _).mono ?_; rintro e yy ⟨rfl, hy⟩; obtain rfl := hy.symm) | fail)
  go_ret
  exact ⟨rfl, rfl⟩
end Go.Proofs.Ytnjiilnkobhibaa
