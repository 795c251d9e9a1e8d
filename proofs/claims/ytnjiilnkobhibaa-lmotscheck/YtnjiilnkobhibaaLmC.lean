/- Leaves that sign once: chains, plain, over whatever sum H. -/
import Derived.Test.YtnjiilnkobhibaaLmM
import Derived.Test.YtnjiilnkobhibaaBase
import Derived.Test.YtnjiilnkobhibaaGEn32
import Derived.Test.YtnjiilnkobhibaaRJoin
import Derived.Test.YtnjiilnkobhibaaPApp
import Derived.Test.YtnjiilnkobhibaaLcFrm
import Derived.Test.YtnjiilnkobhibaaBe
namespace Go.Proofs.Ytnjiilnkobhibaa
open Go.RowKit
set_option linter.unusedVariables false
set_option linter.unusedSimpArgs false

def be2 (n : Nat) : List Nat := (leL n 2).reverse
def be4 (n : Nat) : List Nat := (leL n 4).reverse
theorem be2_len (n : Nat) : (be2 n).length = 2 := by unfold be2; rw [List.length_reverse, leL_length]
theorem be4_len (n : Nat) : (be4 n).length = 4 := by unfold be4; rw [List.length_reverse, leL_length]
theorem be2_under (n : Nat) : Under 256 (be2 n) := fun x hx => leM_under _ _ x (List.mem_reverse.1 hx)
theorem be4_under (n : Nat) : Under 256 (be4 n) := fun x hx => leM_under _ _ x (List.mem_reverse.1 hx)
/-- texts of 32 bytes, one behind the other: the i-th -/
theorem flat_32 : ∀ (ps : List (List Nat)) (i : Nat), (∀ p ∈ ps, p.length = 32) → i < ps.length → ((ps.flatten).drop (32 * i)).take 32 = tx ps i
  | [], i, _, h => by simp at h
  | p :: ps, 0, hp, _ => by
    have h0 := hp p (by simp)
    show ((p ++ ps.flatten).drop 0).take 32 = p
    rw [List.drop_zero, List.take_append_of_le_length (by omega), List.take_of_length_le (by omega)]
  | p :: ps, i + 1, hp, h => by
    have h0 := hp p (by simp)
    show ((p ++ ps.flatten).drop (32 * (i + 1))).take 32 = tx ps i
    rw [List.drop_append, List.drop_eq_nil_of_le (by omega), List.nil_append, show 32 * (i + 1) - p.length = 32 * i by omega]
    exact flat_32 ps i (fun q hq => hp q (by simp [hq])) (by simpa using h)
theorem flat_32_len : ∀ (ps : List (List Nat)), (∀ p ∈ ps, p.length = 32) → ps.flatten.length = 32 * ps.length
  | [], _ => rfl
  | p :: ps, hp => by
    show (p ++ ps.flatten).length = _
    rw [List.length_append, hp p (by simp), flat_32_len ps (fun q hq => hp q (by simp [hq])), List.length_cons]
    omega
section
variable (H : List Nat → List Nat) (pre : List Nat)
/-- a part's step, and its beginning (b of 255, y the seed) -/
def lmX (i b : Nat) (y : List Nat) : List Nat := H (pre ++ (be2 i ++ ([b] ++ y)))
/-- k steps from f on -/
def chN (i f : Nat) : Nat → List Nat → List Nat
  | 0, y => y
  | k + 1, y => lmX H pre i (f + k) (chN i f k y)
def keyH (ends : List (List Nat)) : List Nat := H (pre ++ (be2 32896 ++ ends.flatten))
def digH (c text : List Nat) : List Nat := H (pre ++ (be2 33153 ++ (c ++ text)))
def lmCn (seed : List Nat) : List Nat := lmX H pre 65533 255 seed
def endsP (W p : Nat) (seed : List Nat) : List (List Nat) := (List.range p).map fun i => chN H pre i 0 W (lmX H pre i 255 seed)
def pubH (W p : Nat) (seed : List Nat) : List Nat := keyH H pre (endsP H pre W p seed)
def sgnP (ds seed : List Nat) : List (List Nat) := (List.range ds.length).map fun i => chN H pre i 0 (el ds i) (lmX H pre i 255 seed)
def endsC (W : Nat) (ds : List Nat) (sig : List Nat) : List (List Nat) := (List.range ds.length).map fun i => chN H pre i (el ds i) (W - el ds i) ((sig.drop (36 + 32 * i)).take 32)
def sgnH (code : Nat) (ds seed : List Nat) : List Nat := be4 code ++ (lmCn H pre seed ++ (sgnP H pre ds seed).flatten)
end
section
variable {H : List Nat → List Nat} {pre : List Nat}
theorem chN_add (i f j : Nat) (y : List Nat) : ∀ k, chN H pre i f (j + k) y = chN H pre i (f + j) k (chN H pre i f j y)
  | 0 => rfl
  | k + 1 => by
    show lmX H pre i (f + (j + k)) (chN H pre i f (j + k) y) = lmX H pre i (f + j + k) (chN H pre i (f + j) k (chN H pre i f j y))
    rw [chN_add i f j y k, Nat.add_assoc]
theorem chN_len (hH : ∀ x, (H x).length = 32) (i f : Nat) (y : List Nat) (hy : y.length = 32) : ∀ k, (chN H pre i f k y).length = 32
  | 0 => hy
  | k + 1 => hH _
theorem chN_under (hH : ∀ x, Under 256 (H x)) (i f : Nat) (y : List Nat) (hy : Under 256 y) : ∀ k, Under 256 (chN H pre i f k y)
  | 0 => hy
  | k + 1 => hH _
variable (hH : ∀ x, (H x).length = 32)
include hH in
theorem sgnP_32 (ds seed : List Nat) : ∀ p ∈ sgnP H pre ds seed, p.length = 32 := by
  intro p hp
  unfold sgnP at hp
  obtain ⟨i, _, rfl⟩ := List.mem_map.1 hp
  exact chN_len hH i 0 _ (hH _) _
include hH in
theorem sgnH_len (code : Nat) (ds seed : List Nat) : (sgnH H pre code ds seed).length = 36 + 32 * ds.length := by
  unfold sgnH
  rw [List.length_append, List.length_append, be4_len, flat_32_len _ (sgnP_32 hH ds seed), show (lmCn H pre seed).length = 32 from hH _, show (sgnP H pre ds seed).length = ds.length by simp [sgnP]]
  omega
include hH in
theorem sgnH_c (code : Nat) (ds seed : List Nat) : ((sgnH H pre code ds seed).drop 4).take 32 = lmCn H pre seed := by
  unfold sgnH
  have h1 : (lmCn H pre seed).length = 32 := hH _
  rw [List.drop_append, List.drop_eq_nil_of_le (by rw [be4_len]; exact Nat.le_refl _), List.nil_append, be4_len, Nat.sub_self, List.drop_zero, List.take_append_of_le_length (by omega), List.take_of_length_le (by omega)]
theorem sgnH_code (code : Nat) (ds seed : List Nat) : (sgnH H pre code ds seed).take 4 = be4 code := by
  unfold sgnH
  rw [List.take_append_of_le_length (by rw [be4_len]; exact Nat.le_refl _), List.take_of_length_le (by rw [be4_len]; exact Nat.le_refl _)]
include hH in
/-- P14.4: what is signed leads to the key -/
theorem ends_is (W : Nat) (code : Nat) (ds seed : List Nat) (hds : ∀ i, i < ds.length → el ds i ≤ W) : endsC H pre W ds (sgnH H pre code ds seed) = endsP H pre W ds.length seed := by
  unfold endsC endsP
  apply List.map_congr_left
  intro i hi
  have hi' : i < ds.length := by simpa using hi
  have h1 : (lmCn H pre seed).length = 32 := hH _
  have e : (sgnH H pre code ds seed).drop (36 + 32 * i) = ((sgnP H pre ds seed).flatten).drop (32 * i) := by
    have d4 : ∀ (x y : List Nat) (n k : Nat), x.length = n → (x ++ y).drop (n + k) = y.drop k := fun x y n k h => by
      rw [List.drop_append, List.drop_eq_nil_of_le (by omega), List.nil_append, show n + k - x.length = k by omega]
    unfold sgnH
    rw [show 36 + 32 * i = 4 + (32 + 32 * i) by omega, d4 _ _ 4 _ (be4_len _), d4 _ _ 32 _ h1]
  rw [e, flat_32 _ i (sgnP_32 hH ds seed) (by simp [sgnP]; exact hi')]
  have e2 : tx (sgnP H pre ds seed) i = chN H pre i 0 (el ds i) (lmX H pre i 255 seed) := by
    unfold tx sgnP
    rw [List.getElem?_map, List.getElem?_range hi']
    rfl
  have h3 := hds i hi'
  have h4 := chN_add (H := H) (pre := pre) i 0 (el ds i) (lmX H pre i 255 seed) (W - el ds i)
  rw [Nat.zero_add, show el ds i + (W - el ds i) = W by omega] at h4
  rw [e2, h4]
end
end Go.Proofs.Ytnjiilnkobhibaa

/- Leaves that sign once: the document's Kind, Size, H, part, chain, key, digest. -/
namespace Go.Proofs.Ytnjiilnkobhibaa
open Go.RowKit
set_option linter.unusedVariables false
set_option linter.unusedSimpArgs false

/-- SHA-256 -/
def shaL (b : List Nat) : List Nat := endS (wide 1) (ini 1) b b.length (outn 1)
theorem shaL_len (b : List Nat) : (shaL b).length = 32 := by
  have e8 : ∀ (c : Bool) (l : List Nat), (eat c (ini 1) l).length = 8 := fun c l => eat_len _ (by decide)
  unfold shaL
  simp [endS, bytesW_length, e8, outn, wide, ez]
/-- what a kind is: digits of a digest, of its check, the shift, the typecode -/
inductive Kd : Nat → Nat → Nat → Nat → Nat → Prop
  | k1 : Kd 1 256 9 7 1
  | k2 : Kd 2 128 5 6 2
  | k4 : Kd 4 64 3 4 3
  | k8 : Kd 8 32 2 0 4
theorem Kd.kind {w n m s c : Nat} (h : Kd w n m s c) : KindL w n m s := by
  cases h
  · exact kind_1
  · exact kind_2
  · exact kind_4
  · exact kind_8
def NoK (x : Int) : Prop := ¬ x = 1 ∧ ¬ x = 2 ∧ ¬ x = 4 ∧ ¬ x = 8
theorem kd_or (x : Int) : NoK x ∨ ∃ w n m s c : Nat, x = (w : Int) ∧ Kd w n m s c := by
  by_cases h1 : x = 1
  · exact .inr ⟨1, _, _, _, _, h1, .k1⟩
  by_cases h2 : x = 2
  · exact .inr ⟨2, _, _, _, _, h2, .k2⟩
  by_cases h4 : x = 4
  · exact .inr ⟨4, _, _, _, _, h4, .k4⟩
  by_cases h8 : x = 8
  · exact .inr ⟨8, _, _, _, _, h8, .k8⟩
  exact .inl ⟨h1, h2, h4, h8⟩
set_option maxHeartbeats 2000000 in
set_option maxRecDepth 100000 in
theorem rkind_no (x : Int) (y : World) (h : NoK x) : Calls Try.prog 14 #[.int .i64 x] y fun e y' => e = .returned (.tuple #[.int .i64 0, .int .i64 0, .int .u64 0]) ∧ y' = y := by
  obtain ⟨h1, h2, h4, h8⟩ := h
  go_enter Try.func14, Try.ntmps14
  go_wp2
  go_ret3
  exact ⟨rfl, rfl⟩
set_option maxHeartbeats 2000000 in
set_option maxRecDepth 100000 in
theorem rkind_ok {w n m s c : Nat} (y : World) (h : Kd w n m s c) : Calls Try.prog 14 #[.int .i64 (w : Int)] y fun e y' => e = .returned (.tuple #[.int .i64 ((n + m : Nat) : Int), .int .i64 (s : Int), .int .u64 (c : Int)]) ∧ y' = y := by
  cases h
  · go_enter Try.func14, Try.ntmps14
    go_wp2
    go_ret3
    exact ⟨rfl, rfl⟩
  · go_enter Try.func14, Try.ntmps14
    go_wp2
    go_ret3
    exact ⟨rfl, rfl⟩
  · go_enter Try.func14, Try.ntmps14
    go_wp2
    go_ret3
    exact ⟨rfl, rfl⟩
  · go_enter Try.func14, Try.ntmps14
    go_wp2
    go_ret3
    exact ⟨rfl, rfl⟩
theorem texts_cons {w : World} {u : Value} {x : List Nat} {us : List Value} {ls : List (List Nat)} (h : Row .u8 256 w u x) (t : Tidy u) (k : Texts w us ls) : Texts w (u :: us) (x :: ls) := (Texts.one h t).append k
theorem rows_litL {w : World} {us : List Value} {ls : List (List Nat)} {B k : Nat} (h : Texts w us ls) (hB : w.heap.size = B) (hk : ls.length = k) (hl : k ≤ 1000) : Rows2 (w.alloc (.cells us.toArray 22)) (.slice (some ⟨B, 0, none⟩) k k) ls := by
  subst hB hk
  refine ⟨_, ls.length, rfl, Nat.le_refl _, by unfold maxLen; omega, fun _ => ⟨_, _, rfl, fun i hi => ?_⟩⟩
  have hb := keep_alloc w (.cells us.toArray 22)
  obtain ⟨u, hu, hr, ht⟩ := h.2 i hi
  refine ⟨u, ?_, hr.below hb, ht⟩
  rw [World.cell?_alloc_at _ _ _ _ rfl, Nat.zero_add]
  simpa using hu
theorem new_ntidy {w : World} {v : Value} {l : List Nat} (h : Row .u8 256 w v l) (hl : 0 < l.length) : Tidy v := by
  obtain ⟨a, c, rfl, _, _, g⟩ := h.opens rfl
  obtain ⟨b, o, rfl, _⟩ := g hl
  intro n c e
  cases e
theorem leS_2 (n : Nat) : leS n 2 = leL n 2 := by unfold leS; rw [if_neg (by decide)]; rfl
theorem leS_4 (n : Nat) : leS n 4 = leL n 4 := by unfold leS; rw [if_neg (by decide)]; rfl
theorem rbe2 (a : Nat) (w : World) (ha : a < 18446744073709551616) : Calls Try.prog 17 #[.int .u64 (a : Int), .int .i64 2] w fun e w' => ∃ v, e = .returned v ∧ Own 5 .u8 256 w' w.heap.size v (be2 a) ∧ Below w.heap.size w w' := by
  have := rbe_any a 2 w ha (by decide) (by decide)
  rw [leS_2] at this
  exact this
theorem rbe4 (a : Nat) (w : World) (ha : a < 18446744073709551616) : Calls Try.prog 17 #[.int .u64 (a : Int), .int .i64 4] w fun e w' => ∃ v, e = .returned v ∧ Own 5 .u8 256 w' w.heap.size v (be4 a) ∧ Below w.heap.size w w' := by
  have := rbe_any a 4 w ha (by decide) (by decide)
  rw [leS_4] at this
  exact this
theorem one_byte (w : World) (x : Nat) (hx : x < 256) : Row .u8 256 (w.alloc (.cells #[.int .u8 (x : Int)] 5)) (.slice (some ⟨w.heap.size, 0, none⟩) 1 1) [x] ∧ Tidy (.slice (some ⟨w.heap.size, 0, none⟩) 1 1) := by
  refine ⟨⟨_, 1, rfl, Nat.le_refl _, by unfold maxLen; decide, fun _ => ⟨_, _, rfl, fun i hi => ?_⟩, ?_⟩, fun n c e => by cases e⟩
  · match i, hi with
    | 0, _ => rw [World.cell?_alloc_at _ _ _ _ rfl]; rfl
  · intro y hy
    simp at hy
    omega
/-- what stands ahead: the tree's id and the leaf's number -/
def preL (id : List Nat) (q : Nat) : List Nat := id ++ be4 q
theorem len_pre (id : List Nat) (q : Nat) : (preL id q).length = id.length + 4 := by unfold preL; rw [List.length_append, be4_len]
end Go.Proofs.Ytnjiilnkobhibaa

/- Leaves that sign once: the document's chain, key, digest. -/
namespace Go.Proofs.Ytnjiilnkobhibaa
open Go.RowKit
set_option linter.unusedVariables false
set_option linter.unusedSimpArgs false

/-- where the chain stands -/
def ChL (w : World) (HH : List Nat → List Nat) (pre : List Nat) (i F N : Nat) (y : List Nat) (yv vy vj : Value) (wr : World) : Prop := ∃ k : Nat, k ≤ N ∧ vj = .int .i64 ((F + k : Nat) : Int) ∧ Row .u8 256 wr vy (chN HH pre i F k y) ∧ Tidy vy ∧ (New w.heap.size vy ∨ vy = yv) ∧ Below w.heap.size w wr
end Go.Proofs.Ytnjiilnkobhibaa
