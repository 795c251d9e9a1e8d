/- Leaves that sign once: plain facts. -/
import Derived.Test.YtogiballdmgcpaaGreatDoorHTak32
import Derived.Test.YtogiballdmgcpaaGreatDoorHKi2
import Derived.Test.YtogiballdmgcpaaGreatDoorHSl
import Derived.Laws.ShiftsVarLaws
import Derived.BigRegion
import Derived.Deep.AppendLies
import Derived.ArgAppend
import Derived.Test.YtogiballdmgcpaaGreatDoorHMix64
import Derived.Test.YtogiballdmgcpaaGreatDoorHTur32
import Derived.Test.YtogiballdmgcpaaGreatDoorBase
import Derived.Laws.AppendOwnNone
import Derived.Test.YtogiballdmgcpaaGreatDoorHTak64
import Derived.Test.YtogiballdmgcpaaGreatDoorHaM
import Derived.Test.YtogiballdmgcpaaGreatDoorHEnd
import Derived.Lib.MinMax
import Derived.Deep.RegionLaw
import Derived.BigQuiet
namespace Go.Proofs.YtogiballdmgcpaaGreatDoor
open Go.RowKit
set_option linter.unusedVariables false
set_option linter.unusedSimpArgs false

theorem leM_under (V o : Nat) : Under 256 (leL V o) := by
  intro x hx
  obtain ⟨i, _, rfl⟩ := List.mem_map.1 hx
  exact Nat.mod_lt _ (by decide)

theorem dig_ltM (l : List Nat) (w i : Nat) : dig l w i < 2 ^ w := Nat.mod_lt _ (pp w)
/-- the sum of what digits lack -/
def lackL (m : Nat) : List Nat → Nat
  | [] => 0
  | x :: l => (m - x) + lackL m l
theorem lack_lt (m : Nat) : ∀ a : List Nat, lackL m a ≤ a.length * m
  | [] => Nat.zero_le _
  | x :: a => by
    have := lack_lt m a
    show (m - x) + lackL m a ≤ (a.length + 1) * m
    rw [Nat.add_mul, Nat.one_mul]
    omega
theorem lack_snoc (m : Nat) (x : Nat) : ∀ a : List Nat, lackL m (a ++ [x]) = lackL m a + (m - x)
  | [] => by show (m - x) + 0 = 0 + (m - x); omega
  | y :: a => by show (m - y) + lackL m (a ++ [x]) = (m - y) + lackL m a + (m - x); rw [lack_snoc m x a]; omega
/-- a kind: how many digits a digest has, how many its check; the shift -/
structure KindL (w n m s : Nat) : Prop where
  w1 : 1 ≤ w
  w8 : w ≤ 8
  full : n * w = 256
  chk : s + m * w = 16
  room : n * (2 ^ w - 1) < 2 ^ (m * w)
theorem kind_1 : KindL 1 256 9 7 := ⟨by decide, by decide, by decide, by decide, by decide⟩
theorem kind_2 : KindL 2 128 5 6 := ⟨by decide, by decide, by decide, by decide, by decide⟩
theorem kind_4 : KindL 4 64 3 4 := ⟨by decide, by decide, by decide, by decide, by decide⟩
theorem kind_8 : KindL 8 32 2 0 := ⟨by decide, by decide, by decide, by decide, by decide⟩
/-- the digits of a digest, with their check -/
def chkL (w n : Nat) (d : List Nat) : Nat := lackL (2 ^ w - 1) (digL d w n)
def digsL (w n m s : Nat) (d : List Nat) : List Nat := digL (d ++ (leL (chkL w n d * 2 ^ s) 2).reverse) w (n + m)
section
variable {w n m s : Nat} (hK : KindL w n m s) {d : List Nat} (hd : d.length = 32) (hu : Under 256 d)
include hK in
theorem chk_lt (d : List Nat) : chkL w n d < 2 ^ (m * w) := by
  have := lack_lt (2 ^ w - 1) (digL d w n)
  rw [digL_length] at this
  exact Nat.lt_of_le_of_lt this hK.room
include hK in
theorem chk_16 (d : List Nat) : chkL w n d * 2 ^ s < 65536 := by
  have h1 := chk_lt hK d
  have h2 : 2 ^ (m * w) * 2 ^ s = 65536 := by rw [← Nat.pow_add, Nat.add_comm, hK.chk]
  have := Nat.mul_lt_mul_of_pos_right h1 (Nat.pow_pos (n := s) (by decide : 0 < 2))
  omega
theorem digs_len (d : List Nat) : (digsL w n m s d).length = n + m := digL_length _ _ _
theorem digs_lt (d : List Nat) : ∀ x ∈ digsL w n m s d, x < 2 ^ w := by
  intro x hx
  unfold digsL digL at hx
  obtain ⟨i, _, rfl⟩ := List.mem_map.1 hx
  exact dig_ltM _ _ _
end
end Go.Proofs.YtogiballdmgcpaaGreatDoor

/- Leaves that sign once: chains, plain, over whatever sum H. -/
namespace Go.Proofs.YtogiballdmgcpaaGreatDoor
open Go.RowKit
set_option linter.unusedVariables false
set_option linter.unusedSimpArgs false

def be2 (n : Nat) : List Nat := (leL n 2).reverse
def be4 (n : Nat) : List Nat := (leL n 4).reverse
theorem be2_len (n : Nat) : (be2 n).length = 2 := by unfold be2; rw [List.length_reverse, leL_length]
theorem be4_len (n : Nat) : (be4 n).length = 4 := by unfold be4; rw [List.length_reverse, leL_length]
theorem be4_under (n : Nat) : Under 256 (be4 n) := fun x hx => leM_under _ _ x (List.mem_reverse.1 hx)
/-- texts of 32 bytes, one behind the other: the i-th -/
theorem flat_32 : ∀ (ps : List (List Nat)) (i : Nat), (∀ p ∈ ps, p.length = 32) → i < ps.length → ((ps.flatten).drop (32 * i)).take 32 = tx ps i
  | [], i, _, h => by simp at h
  | p :: ps, 0, hp, _ => by
    have h0 := hp p (by simp)
    show ((p ++ ps.flatten).drop 0).take 32 = p
    rw [List.drop_zero, List.take_append_of_le_length (by omega), List.take_of_length_le (by omega)]
  | p :: ps, i + 1, hp, h => by
    have h0 := hp p (by simp)
    show ((p ++ ps.flatten).drop (32 * (i + 1))).take 32 = tx ps i
    rw [List.drop_append, List.drop_eq_nil_of_le (by omega), List.nil_append, show 32 * (i + 1) - p.length = 32 * i by omega]
    exact flat_32 ps i (fun q hq => hp q (by simp [hq])) (by simpa using h)
theorem flat_32_len : ∀ (ps : List (List Nat)), (∀ p ∈ ps, p.length = 32) → ps.flatten.length = 32 * ps.length
  | [], _ => rfl
  | p :: ps, hp => by
    show (p ++ ps.flatten).length = _
    rw [List.length_append, hp p (by simp), flat_32_len ps (fun q hq => hp q (by simp [hq])), List.length_cons]
    omega
section
variable (H : List Nat → List Nat) (pre : List Nat)
/-- a part's step, and its beginning (b of 255, y the seed) -/
def lmX (i b : Nat) (y : List Nat) : List Nat := H (pre ++ (be2 i ++ ([b] ++ y)))
/-- k steps from f on -/
def chN (i f : Nat) : Nat → List Nat → List Nat
  | 0, y => y
  | k + 1, y => lmX H pre i (f + k) (chN i f k y)
def keyH (ends : List (List Nat)) : List Nat := H (pre ++ (be2 32896 ++ ends.flatten))
def digH (c text : List Nat) : List Nat := H (pre ++ (be2 33153 ++ (c ++ text)))
def lmCn (seed : List Nat) : List Nat := lmX H pre 65533 255 seed
def endsP (W p : Nat) (seed : List Nat) : List (List Nat) := (List.range p).map fun i => chN H pre i 0 W (lmX H pre i 255 seed)
def pubH (W p : Nat) (seed : List Nat) : List Nat := keyH H pre (endsP H pre W p seed)
def sgnP (ds seed : List Nat) : List (List Nat) := (List.range ds.length).map fun i => chN H pre i 0 (el ds i) (lmX H pre i 255 seed)
def endsC (W : Nat) (ds : List Nat) (sig : List Nat) : List (List Nat) := (List.range ds.length).map fun i => chN H pre i (el ds i) (W - el ds i) ((sig.drop (36 + 32 * i)).take 32)
def sgnH (code : Nat) (ds seed : List Nat) : List Nat := be4 code ++ (lmCn H pre seed ++ (sgnP H pre ds seed).flatten)
end
section
variable {H : List Nat → List Nat} {pre : List Nat}
theorem chN_add (i f j : Nat) (y : List Nat) : ∀ k, chN H pre i f (j + k) y = chN H pre i (f + j) k (chN H pre i f j y)
  | 0 => rfl
  | k + 1 => by
    show lmX H pre i (f + (j + k)) (chN H pre i f (j + k) y) = lmX H pre i (f + j + k) (chN H pre i (f + j) k (chN H pre i f j y))
    rw [chN_add i f j y k, Nat.add_assoc]
theorem chN_len (hH : ∀ x, (H x).length = 32) (i f : Nat) (y : List Nat) (hy : y.length = 32) : ∀ k, (chN H pre i f k y).length = 32
  | 0 => hy
  | k + 1 => hH _
variable (hH : ∀ x, (H x).length = 32)
include hH in
theorem sgnP_32 (ds seed : List Nat) : ∀ p ∈ sgnP H pre ds seed, p.length = 32 := by
  intro p hp
  unfold sgnP at hp
  obtain ⟨i, _, rfl⟩ := List.mem_map.1 hp
  exact chN_len hH i 0 _ (hH _) _
include hH in
theorem sgnH_len (code : Nat) (ds seed : List Nat) : (sgnH H pre code ds seed).length = 36 + 32 * ds.length := by
  unfold sgnH
  rw [List.length_append, List.length_append, be4_len, flat_32_len _ (sgnP_32 hH ds seed), show (lmCn H pre seed).length = 32 from hH _, show (sgnP H pre ds seed).length = ds.length by simp [sgnP]]
  omega
include hH in
theorem sgnH_c (code : Nat) (ds seed : List Nat) : ((sgnH H pre code ds seed).drop 4).take 32 = lmCn H pre seed := by
  unfold sgnH
  have h1 : (lmCn H pre seed).length = 32 := hH _
  rw [List.drop_append, List.drop_eq_nil_of_le (by rw [be4_len]; exact Nat.le_refl _), List.nil_append, be4_len, Nat.sub_self, List.drop_zero, List.take_append_of_le_length (by omega), List.take_of_length_le (by omega)]
theorem sgnH_code (code : Nat) (ds seed : List Nat) : (sgnH H pre code ds seed).take 4 = be4 code := by
  unfold sgnH
  rw [List.take_append_of_le_length (by rw [be4_len]; exact Nat.le_refl _), List.take_of_length_le (by rw [be4_len]; exact Nat.le_refl _)]
include hH in
/-- P14.4: what is signed leads to the key -/
theorem ends_is (W : Nat) (code : Nat) (ds seed : List Nat) (hds : ∀ i, i < ds.length → el ds i ≤ W) : endsC H pre W ds (sgnH H pre code ds seed) = endsP H pre W ds.length seed := by
  unfold endsC endsP
  apply List.map_congr_left
  intro i hi
  have hi' : i < ds.length := by simpa using hi
  have h1 : (lmCn H pre seed).length = 32 := hH _
  have e : (sgnH H pre code ds seed).drop (36 + 32 * i) = ((sgnP H pre ds seed).flatten).drop (32 * i) := by
    have d4 : ∀ (x y : List Nat) (n k : Nat), x.length = n → (x ++ y).drop (n + k) = y.drop k := fun x y n k h => by
      rw [List.drop_append, List.drop_eq_nil_of_le (by omega), List.nil_append, show n + k - x.length = k by omega]
    unfold sgnH
    rw [show 36 + 32 * i = 4 + (32 + 32 * i) by omega, d4 _ _ 4 _ (be4_len _), d4 _ _ 32 _ h1]
  rw [e, flat_32 _ i (sgnP_32 hH ds seed) (by simp [sgnP]; exact hi')]
  have e2 : tx (sgnP H pre ds seed) i = chN H pre i 0 (el ds i) (lmX H pre i 255 seed) := by
    unfold tx sgnP
    rw [List.getElem?_map, List.getElem?_range hi']
    rfl
  have h3 := hds i hi'
  have h4 := chN_add (H := H) (pre := pre) i 0 (el ds i) (lmX H pre i 255 seed) (W - el ds i)
  rw [Nat.zero_add, show el ds i + (W - el ds i) = W by omega] at h4
  rw [e2, h4]
end
end Go.Proofs.YtogiballdmgcpaaGreatDoor

/- Trees of leaves that sign once: plain facts, over whatever sums of knots (ov) and leaves (lf). -/
namespace Go.Proofs.YtogiballdmgcpaaGreatDoor
open Go.RowKit
set_option linter.unusedVariables false
set_option linter.unusedSimpArgs false

section
variable (ov : Nat → List Nat → List Nat → List Nat) (lf : Nat → List Nat)
/-- the sum of a knot with d levels below it -/
def kn : Nat → Nat → List Nat
  | 0, n => lf n
  | d + 1, n => ov n (kn d (2 * n)) (kn d (2 * n + 1))
/-- the neighbours of k knots from knot n up, which has d levels below it -/
def pth : Nat → Nat → Nat → List (List Nat)
  | _, 0, _ => []
  | d, k + 1, n => kn ov lf d (n ^^^ 1) :: pth (d + 1) k (n / 2)
/-- up from a sum by its neighbours -/
def climb : List (List Nat) → Nat → List Nat → List Nat
  | [], _, s => s
  | p :: ps, n, s => climb ps (n / 2) (if n % 2 = 0 then ov (n / 2) s p else ov (n / 2) p s)
end
theorem xor_one (n : Nat) : n ^^^ 1 = if n % 2 = 0 then n + 1 else n - 1 := by
  have h : ∀ m, (2 * m) ^^^ 1 = 2 * m + 1 := fun m => by
    apply Nat.eq_of_testBit_eq
    intro i
    rw [Nat.testBit_xor]
    cases i with
    | zero => simp
    | succ i =>
      rw [Nat.testBit_succ, Nat.testBit_succ, Nat.testBit_succ, show 2 * m / 2 = m by omega, show (2 * m + 1) / 2 = m by omega]
      simp
  by_cases e : n % 2 = 0
  · obtain ⟨m, rfl⟩ : ∃ m, n = 2 * m := ⟨n / 2, by omega⟩
    rw [if_pos e, h]
  · obtain ⟨m, rfl⟩ : ∃ m, n = 2 * m + 1 := ⟨n / 2, by omega⟩
    rw [if_neg e, ← h m, Nat.xor_assoc, Nat.xor_self, Nat.xor_zero, h]
    omega
section
variable {ov : Nat → List Nat → List Nat → List Nat} {lf : Nat → List Nat}
/-- from each knot its neighbours lead to the top -/
theorem climb_path : ∀ (k d n : Nat), climb ov (pth ov lf d k n) n (kn ov lf d n) = kn ov lf (d + k) (n / 2 ^ k)
  | 0, d, n => by rw [Nat.pow_zero, Nat.div_one]; rfl
  | k + 1, d, n => by
    have e : (if n % 2 = 0 then ov (n / 2) (kn ov lf d n) (kn ov lf d (n ^^^ 1)) else ov (n / 2) (kn ov lf d (n ^^^ 1)) (kn ov lf d n)) = kn ov lf (d + 1) (n / 2) := by
      show _ = ov (n / 2) (kn ov lf d (2 * (n / 2))) (kn ov lf d (2 * (n / 2) + 1))
      rw [xor_one]
      by_cases h : n % 2 = 0
      · rw [if_pos h, if_pos h, show 2 * (n / 2) = n by omega]
      · rw [if_neg h, if_neg h, show 2 * (n / 2) = n - 1 by omega, show n - 1 + 1 = n by omega]
    show climb ov (pth ov lf (d + 1) k (n / 2)) (n / 2) (if n % 2 = 0 then ov (n / 2) (kn ov lf d n) (kn ov lf d (n ^^^ 1)) else ov (n / 2) (kn ov lf d (n ^^^ 1)) (kn ov lf d n)) = _
    rw [e, climb_path k (d + 1) (n / 2), Nat.div_div_eq_div_mul, Nat.pow_succ, Nat.mul_comm 2, show d + 1 + k = d + (k + 1) by omega]
theorem kn_32 (h1 : ∀ n a b, (ov n a b).length = 32) (h2 : ∀ n, (lf n).length = 32) : ∀ d n, (kn ov lf d n).length = 32
  | 0, n => h2 n
  | d + 1, n => h1 _ _ _
end
/-- a height's typecode -/
def lmCode (h : Int) : Nat := if 1 ≤ h ∧ h ≤ 4 then 3758096384 + h.toNat else if 5 ≤ h ∧ h ≤ 25 ∧ h % 5 = 0 then 4 + h.toNat / 5 else 0
theorem lmCode_32 (h : Int) : lmCode h < 4294967296 := by
  unfold lmCode
  repeat' split
  all_goals omega
theorem lmCode_inj {h k : Int} (e : lmCode h = lmCode k) (h0 : lmCode h ≠ 0) : h = k := by
  unfold lmCode at e h0
  repeat' split at h0
  all_goals (repeat' split at e)
  all_goals omega
end Go.Proofs.YtogiballdmgcpaaGreatDoor

/- A value whose block is not older than a bound. -/
namespace Go.Proofs.YtogiballdmgcpaaGreatDoor
open Go.RowKit
set_option linter.unusedVariables false
def New (B : Nat) (v : Value) : Prop := ∀ q, v.ownBlock = some q → B ≤ q
theorem New.at {B g n c o : Nat} (h : B ≤ g) : New B (.slice (some ⟨g, o, none⟩) n c) := fun q hq => by
  have : g = q := by simpa [Value.ownBlock] using hq
  omega
theorem New.nil (B n c : Nat) : New B (.slice none n c) := fun q hq => by simp [Value.ownBlock] at hq
theorem New.mono {B B' : Nat} {v : Value} (h : New B v) (hB : B' ≤ B) : New B' v := fun q hq => Nat.le_trans hB (h q hq)
theorem Own.new {e : TypeId} {k : IntKind} {m : Nat} {w : World} {B : Nat} {v : Value} {l : List Nat} (h : Own e k m w B v l) : New B v := fun q hq => (h.1.lt q hq).1
end Go.Proofs.YtogiballdmgcpaaGreatDoor

/- Leaves that sign once: the document's Kind, Size, H, part, chain, key, digest. -/
namespace Go.Proofs.YtogiballdmgcpaaGreatDoor
open Go.RowKit
set_option linter.unusedVariables false
set_option linter.unusedSimpArgs false

/-- SHA-256 -/
def shaL (b : List Nat) : List Nat := endS (wide 1) (ini 1) b b.length (outn 1)
theorem shaL_len (b : List Nat) : (shaL b).length = 32 := by
  have e8 : ∀ (c : Bool) (l : List Nat), (eat c (ini 1) l).length = 8 := fun c l => eat_len _ (by decide)
  unfold shaL
  simp [endS, bytesW_length, e8, outn, wide, ez]
/-- what a kind is: digits of a digest, of its check, the shift, the typecode -/
inductive Kd : Nat → Nat → Nat → Nat → Nat → Prop
  | k1 : Kd 1 256 9 7 1
  | k2 : Kd 2 128 5 6 2
  | k4 : Kd 4 64 3 4 3
  | k8 : Kd 8 32 2 0 4
theorem Kd.kind {w n m s c : Nat} (h : Kd w n m s c) : KindL w n m s := by
  cases h
  · exact kind_1
  · exact kind_2
  · exact kind_4
  · exact kind_8
def NoK (x : Int) : Prop := ¬ x = 1 ∧ ¬ x = 2 ∧ ¬ x = 4 ∧ ¬ x = 8
theorem kd_or (x : Int) : NoK x ∨ ∃ w n m s c : Nat, x = (w : Int) ∧ Kd w n m s c := by
  by_cases h1 : x = 1
  · exact .inr ⟨1, _, _, _, _, h1, .k1⟩
  by_cases h2 : x = 2
  · exact .inr ⟨2, _, _, _, _, h2, .k2⟩
  by_cases h4 : x = 4
  · exact .inr ⟨4, _, _, _, _, h4, .k4⟩
  by_cases h8 : x = 8
  · exact .inr ⟨8, _, _, _, _, h8, .k8⟩
  exact .inl ⟨h1, h2, h4, h8⟩
theorem texts_cons {w : World} {u : Value} {x : List Nat} {us : List Value} {ls : List (List Nat)} (h : Row .u8 256 w u x) (t : Tidy u) (k : Texts w us ls) : Texts w (u :: us) (x :: ls) := (Texts.one h t).append k
theorem rows_litL {w : World} {us : List Value} {ls : List (List Nat)} {B k : Nat} (h : Texts w us ls) (hB : w.heap.size = B) (hk : ls.length = k) (hl : k ≤ 1000) : Rows2 (w.alloc (.cells us.toArray 23)) (.slice (some ⟨B, 0, none⟩) k k) ls := by
  subst hB hk
  refine ⟨_, ls.length, rfl, Nat.le_refl _, by unfold maxLen; omega, fun _ => ⟨_, _, rfl, fun i hi => ?_⟩⟩
  have hb := keep_alloc w (.cells us.toArray 23)
  obtain ⟨u, hu, hr, ht⟩ := h.2 i hi
  refine ⟨u, ?_, hr.below hb, ht⟩
  rw [World.cell?_alloc_at _ _ _ _ rfl, Nat.zero_add]
  simpa using hu
theorem leS_2 (n : Nat) : leS n 2 = leL n 2 := by unfold leS; rw [if_neg (by decide)]; rfl
theorem leS_4 (n : Nat) : leS n 4 = leL n 4 := by unfold leS; rw [if_neg (by decide)]; rfl
theorem one_byte (w : World) (x : Nat) (hx : x < 256) : Row .u8 256 (w.alloc (.cells #[.int .u8 (x : Int)] 5)) (.slice (some ⟨w.heap.size, 0, none⟩) 1 1) [x] ∧ Tidy (.slice (some ⟨w.heap.size, 0, none⟩) 1 1) := by
  refine ⟨⟨_, 1, rfl, Nat.le_refl _, by unfold maxLen; decide, fun _ => ⟨_, _, rfl, fun i hi => ?_⟩, ?_⟩, fun n c e => by cases e⟩
  · match i, hi with
    | 0, _ => rw [World.cell?_alloc_at _ _ _ _ rfl]; rfl
  · intro y hy
    simp at hy
    omega
/-- what stands ahead: the tree's id and the leaf's number -/
def preL (id : List Nat) (q : Nat) : List Nat := id ++ be4 q
theorem len_pre (id : List Nat) (q : Nat) : (preL id q).length = id.length + 4 := by unfold preL; rw [List.length_append, be4_len]
end Go.Proofs.YtogiballdmgcpaaGreatDoor

/- Leaves that sign once: the document's key, digest, wrong, Size. -/
namespace Go.Proofs.YtogiballdmgcpaaGreatDoor
open Go.RowKit
set_option linter.unusedVariables false
set_option linter.unusedSimpArgs false

theorem Kd.pos {w n m s c : Nat} (h : Kd w n m s c) : 1 ≤ n + m ∧ n + m ≤ 265 ∧ w ≤ 8 ∧ 1 ≤ w ∧ n * w = 256 ∧ c ≤ 4 ∧ s ≤ 7 := by cases h <;> decide
end Go.Proofs.YtogiballdmgcpaaGreatDoor

/- Trees of leaves that sign once: the document's Code, height, digit, over, leafSum. -/
namespace Go.Proofs.YtogiballdmgcpaaGreatDoor
open Go.RowKit
set_option linter.unusedVariables false
set_option linter.unusedSimpArgs false

/-- the first number from f on that is meant, of k; 0: none is -/
def findN (P : Nat → Bool) : Nat → Nat → Nat
  | _, 0 => 0
  | f, k + 1 => if P f = true then f else findN P (f + 1) k
def hgtL (c : Nat) : Nat := findN (fun h : Nat => decide (lmCode (h : Int) = c ∧ c ≠ 0)) 1 25
def kdC (w : Nat) : Nat := if w = 1 then 1 else if w = 2 then 2 else if w = 4 then 3 else if w = 8 then 4 else 0
def dgtL (c : Nat) : Nat := findN (fun w => decide (kdC w = c ∧ c ≠ 0)) 1 8
end Go.Proofs.YtogiballdmgcpaaGreatDoor

/- append of whatever row, apart from mac's and aes'. -/
namespace Go.Proofs.YtogiballdmgcpaaGreatDoor
open Go.RowKit
set_option linter.unusedVariables false
set_option linter.unusedSimpArgs false

theorem tidy_atA (x : Addr) (n c : Nat) : Tidy (.slice (some x) n c) := fun n c he => by simp at he
theorem own_belowA {w w' : World} {base : Nat} {e : TypeId} {size : Nat} {v : Value} {n : Nat} {xs : List Value} (h : w.ownsRow base e size v n xs) (hb : Below w.heap.size w w') : w'.ownsRow base e size v n xs := by
  obtain ⟨h1, h2⟩ := h
  refine ⟨h1, ?_⟩
  rcases h2 with h2 | ⟨g, cap, cur, rfl, h3, h4, h5⟩
  · exact .inl h2
  · refine .inr ⟨g, cap, cur, rfl, h3, ?_, h5⟩
    rw [hb.block g (by
      rcases Nat.lt_or_ge g w.heap.size with hlt | hge
      · exact hlt
      · rw [Array.getElem?_eq_none hge] at h4; cases h4)]
    exact h4
theorem row_tidyA {k : IntKind} {m : Nat} {w : World} {v : Value} {l : List Nat} (h : Row k m w v l) (hl : 0 < l.length) : Tidy v := by
  obtain ⟨a, c, rfl, _, _, h3, _⟩ := h
  obtain ⟨b, off, rfl, _⟩ := h3 hl
  exact tidy_atA _ _ _
end Go.Proofs.YtogiballdmgcpaaGreatDoor

/- Trees of leaves that sign once: the document's over, leafSum, Fit, Size, wrong, head. -/
namespace Go.Proofs.YtogiballdmgcpaaGreatDoor
open Go.RowKit
set_option linter.unusedVariables false
set_option linter.unusedSimpArgs false

/-- the sums of a knot and of a leaf -/
def ovL (id : List Nat) (n : Nat) (a b : List Nat) : List Nat := shaL (id ++ (be4 n ++ (be2 33667 ++ (a ++ b))))
def lfS (id : List Nat) (n : Nat) (k : List Nat) : List Nat := shaL (id ++ (be4 n ++ (be2 33410 ++ k)))
/-- how many bytes a leaf's signature has; 0: there is no such kind -/
def szW (x : Int) : Nat := if x = 1 then 8516 else if x = 2 then 4292 else if x = 4 then 2180 else if x = 8 then 1124 else 0
/-- a tree is fit -/
def FitL (h x : Int) : Prop := lmCode h ≠ 0 ∧ szW x ≠ 0
instance (h x : Int) : Decidable (FitL h x) := by unfold FitL; infer_instance
structure Bx2T (W : World) (B : Nat) (v0 v1 : Value) : Prop where
  here : W.heap[B]? = some (.cells #[v0, v1] 45 (0, 0))
theorem Bx2T.lt {W : World} {B : Nat} {v0 v1 : Value} (h : Bx2T W B v0 v1) : B < W.heap.size := (Array.getElem?_eq_some_iff.1 h.here).1
theorem Bx2T.c0 {W : World} {B : Nat} {v0 v1 : Value} (h : Bx2T W B v0 v1) : W.cell? ⟨B, 0, none⟩ = some v0 := by simp [World.cell?, h.here]
theorem Bx2T.c1 {W : World} {B : Nat} {v0 v1 : Value} (h : Bx2T W B v0 v1) : W.cell? ⟨B, 1, none⟩ = some v1 := by simp [World.cell?, h.here]
theorem Bx2T.below {W W' : World} {B : Nat} {v0 v1 : Value} (h : Bx2T W B v0 v1) (hb : Below W.heap.size W W') : Bx2T W' B v0 v1 := ⟨(hb.block _ h.lt).trans h.here⟩
theorem Bx2T.new (W : World) (v0 v1 : Value) : Bx2T (W.alloc (.cells #[v0, v1] 45)) W.heap.size v0 v1 := ⟨heap_alloc_new W _⟩
end Go.Proofs.YtogiballdmgcpaaGreatDoor

/- Trees of leaves that sign once: the document's Size, wrong. -/
namespace Go.Proofs.YtogiballdmgcpaaGreatDoor
open Go.RowKit
set_option linter.unusedVariables false
set_option linter.unusedSimpArgs false

theorem FitL.pos {h x : Int} (hf : FitL h x) : 1 ≤ h ∧ h ≤ 25 ∧ 1124 ≤ szW x ∧ szW x ≤ 8516 := by
  obtain ⟨h1, h2⟩ := hf
  refine ⟨?_, ?_, ?_, ?_⟩
  · unfold lmCode at h1; split at h1; · omega
    split at h1 <;> omega
  · unfold lmCode at h1; split at h1; · omega
    split at h1 <;> omega
  · unfold szW at h2 ⊢; repeat' split
    all_goals first | omega | (exfalso; simp_all)
  · unfold szW; repeat' split
    all_goals omega
/-- how many bytes a signature has -/
def szT (h x : Int) : Nat := if FitL h x then 8 + 32 * h.toNat + szW x else 0
/-- what is wrong with a tree's kind, an id, a seed -/
def wrgT (h x : Int) (a b : Nat) : Int := if FitL h x then (if a = 16 ∧ b = 32 then (if 10 < h then 8 else 0) else 14) else 9
end Go.Proofs.YtogiballdmgcpaaGreatDoor

/- Trees of leaves that sign once: the knots by their numbers, plain. -/
namespace Go.Proofs.YtogiballdmgcpaaGreatDoor
open Go.RowKit
set_option linter.unusedVariables false
set_option linter.unusedSimpArgs false

section
variable (ov : Nat → List Nat → List Nat → List Nat) (lf : Nat → List Nat)
/-- the sum of knot i of a tree of height h -/
def knA (h i : Nat) : List Nat := kn ov lf (h - Nat.log2 i) i
end
/-- i lies l levels below the top -/
def Lev (l i : Nat) : Prop := 2 ^ l ≤ i ∧ i < 2 ^ (l + 1)
theorem Lev.log {l i : Nat} (h : Lev l i) : Nat.log2 i = l := by
  have h0 : i ≠ 0 := by have := Nat.two_pow_pos l; have := h.1; omega
  have h1 := (Nat.le_log2 h0).2 h.1
  have h2 := (Nat.log2_lt h0).2 h.2
  omega
theorem Lev.of {i : Nat} (h : 1 ≤ i) : Lev (Nat.log2 i) i := by
  have h0 : i ≠ 0 := by omega
  exact ⟨(Nat.le_log2 h0).1 (Nat.le_refl _), (Nat.log2_lt h0).1 (Nat.lt_succ_self _)⟩
theorem Lev.left {l i : Nat} (h : Lev l i) : Lev (l + 1) (2 * i) := by
  obtain ⟨h1, h2⟩ := h
  have e1 : 2 ^ (l + 1) = 2 * 2 ^ l := by rw [Nat.pow_succ]; omega
  have e2 : 2 ^ (l + 1 + 1) = 2 * 2 ^ (l + 1) := by rw [Nat.pow_succ]; omega
  exact ⟨by omega, by omega⟩
theorem Lev.right {l i : Nat} (h : Lev l i) : Lev (l + 1) (2 * i + 1) := by
  obtain ⟨h1, h2⟩ := h
  have e1 : 2 ^ (l + 1) = 2 * 2 ^ l := by rw [Nat.pow_succ]; omega
  have e2 : 2 ^ (l + 1 + 1) = 2 * 2 ^ (l + 1) := by rw [Nat.pow_succ]; omega
  exact ⟨by omega, by omega⟩
theorem Lev.up {l i : Nat} (h : Lev (l + 1) i) : Lev l (i / 2) := by
  obtain ⟨h1, h2⟩ := h
  have e1 : 2 ^ (l + 1) = 2 * 2 ^ l := by rw [Nat.pow_succ]; omega
  have e2 : 2 ^ (l + 1 + 1) = 2 * 2 ^ (l + 1) := by rw [Nat.pow_succ]; omega
  exact ⟨by omega, by omega⟩
theorem Lev.next {l i : Nat} (h : Lev (l + 1) i) : Lev (l + 1) (i ^^^ 1) := by
  obtain ⟨h1, h2⟩ := h
  have e1 : 2 ^ (l + 1) = 2 * 2 ^ l := by rw [Nat.pow_succ]; omega
  have e2 : 2 ^ (l + 1 + 1) = 2 * 2 ^ (l + 1) := by rw [Nat.pow_succ]; omega
  rw [xor_one]
  by_cases e : i % 2 = 0
  · rw [if_pos e]; exact ⟨by omega, by omega⟩
  · rw [if_neg e]; exact ⟨by omega, by omega⟩
section
variable {ov : Nat → List Nat → List Nat → List Nat} {lf : Nat → List Nat}
theorem knA_lev {h l i : Nat} (hl : Lev l i) : knA ov lf h i = kn ov lf (h - l) i := by
  unfold knA; rw [hl.log]
theorem knA_leaf {h i : Nat} (h1 : 2 ^ h ≤ i) (h2 : i < 2 ^ (h + 1)) : knA ov lf h i = lf i := by
  rw [knA_lev (l := h) ⟨h1, h2⟩, Nat.sub_self]; rfl
theorem knA_ov {h i : Nat} (h1 : 1 ≤ i) (h2 : i < 2 ^ h) : knA ov lf h i = ov i (knA ov lf h (2 * i)) (knA ov lf h (2 * i + 1)) := by
  have hL := Lev.of h1
  obtain ⟨l, hl⟩ : ∃ l, l = Nat.log2 i := ⟨_, rfl⟩
  rw [← hl] at hL
  have hlt : l < h := (Nat.pow_lt_pow_iff_right (a := 2) (by decide)).1 (by have := hL.1; omega)
  rw [knA_lev hL, knA_lev hL.left, knA_lev hL.right]
  obtain ⟨d, rfl⟩ : ∃ d, h = l + 1 + d := ⟨h - (l + 1), by omega⟩
  rw [show l + 1 + d - l = d + 1 by omega, show l + 1 + d - (l + 1) = d by omega]
  rfl
theorem knA_top {h : Nat} : knA ov lf h 1 = kn ov lf h 1 := by
  rw [knA_lev (l := 0) ⟨by decide, by decide⟩, Nat.sub_zero]
theorem knA_32 (h1 : ∀ n a b, (ov n a b).length = 32) (h2 : ∀ n, (lf n).length = 32) (h i : Nat) : (knA ov lf h i).length = 32 := kn_32 h1 h2 _ _
/-- the neighbours on the way up, by their numbers -/
def pthA (f : Nat → List Nat) : Nat → Nat → List (List Nat)
  | 0, _ => []
  | k + 1, n => f (n ^^^ 1) :: pthA f k (n / 2)
theorem pthA_is : ∀ (k d n : Nat), Lev k n → pth ov lf d k n = pthA (knA ov lf (k + d)) k n
  | 0, d, n, _ => rfl
  | k + 1, d, n, h => by
    show kn ov lf d (n ^^^ 1) :: pth ov lf (d + 1) k (n / 2) = knA ov lf (k + 1 + d) (n ^^^ 1) :: pthA (knA ov lf (k + 1 + d)) k (n / 2)
    rw [knA_lev h.next, show k + 1 + d - (k + 1) = d by omega, pthA_is k (d + 1) (n / 2) h.up, show k + 1 + d = k + (d + 1) by omega]
/-- the way up, a step at its end: how many are laid when knot n / 2 ^ j is met -/
theorem pthA_snoc (f : Nat → List Nat) : ∀ (k n : Nat), pthA f (k + 1) n = pthA f k n ++ [f ((n / 2 ^ k) ^^^ 1)]
  | 0, n => by rw [Nat.pow_zero, Nat.div_one]; rfl
  | k + 1, n => by
    show f (n ^^^ 1) :: pthA f (k + 1) (n / 2) = f (n ^^^ 1) :: (pthA f k (n / 2) ++ [f ((n / 2 ^ (k + 1)) ^^^ 1)])
    rw [pthA_snoc f k (n / 2), Nat.div_div_eq_div_mul, Nat.pow_succ, Nat.mul_comm 2]
theorem lev_leaf {h q : Nat} (hq : q < 2 ^ h) : Lev h (2 ^ h + q) := ⟨by omega, by rw [Nat.pow_succ]; omega⟩
/-- P15: from a leaf its neighbours lead to the top -/
theorem climb_top {h q : Nat} (hq : q < 2 ^ h) : climb ov (pthA (knA ov lf h) h (2 ^ h + q)) (2 ^ h + q) (lf (2 ^ h + q)) = knA ov lf h 1 := by
  have hL := lev_leaf hq
  have e := pthA_is (ov := ov) (lf := lf) h 0 (2 ^ h + q) hL
  rw [Nat.add_zero] at e
  have hc := climb_path (ov := ov) (lf := lf) h 0 (2 ^ h + q)
  rw [e, Nat.zero_add, show (2 ^ h + q) / 2 ^ h = 1 by rw [Nat.add_div_left _ (Nat.two_pow_pos h), Nat.div_eq_of_lt hq]] at hc
  rw [knA_top]
  exact hc
end
end Go.Proofs.YtogiballdmgcpaaGreatDoor

/- Trees of leaves that sign once: typecodes back to heights and kinds; where a signature's parts lie. Plain. -/
namespace Go.Proofs.YtogiballdmgcpaaGreatDoor
open Go.RowKit
set_option linter.unusedVariables false
set_option linter.unusedSimpArgs false

theorem findN_is {P : Nat → Bool} {x : Nat} (hx : P x = true) : ∀ (k f : Nat), f ≤ x → x < f + k → (∀ y, f ≤ y → y < x → P y = false) → findN P f k = x
  | 0, f, h1, h2, _ => by omega
  | k + 1, f, h1, h2, h => by
    show (if P f = true then f else findN P (f + 1) k) = x
    by_cases e : f = x
    · rw [e, if_pos hx]
    · rw [if_neg (by rw [h f (Nat.le_refl _) (by omega)]; decide)]
      exact findN_is hx k (f + 1) (by omega) (by omega) (fun y k1 k2 => h y (by omega) k2)
theorem findN_or {P : Nat → Bool} : ∀ (k f : Nat), findN P f k = 0 ∨ (P (findN P f k) = true ∧ f ≤ findN P f k ∧ findN P f k < f + k)
  | 0, f => .inl rfl
  | k + 1, f => by
    by_cases e : P f = true
    · have : findN P f (k + 1) = f := if_pos e
      rw [this]
      exact .inr ⟨e, Nat.le_refl _, by omega⟩
    · have : findN P f (k + 1) = findN P (f + 1) k := if_neg e
      rw [this]
      rcases findN_or k (f + 1) with h | ⟨h1, h2, h3⟩
      · exact .inl h
      · exact .inr ⟨h1, by omega, by omega⟩
/-- a height is told by its typecode -/
theorem hgtL_code {h : Nat} (h0 : lmCode (h : Int) ≠ 0) : hgtL (lmCode (h : Int)) = h := by
  have hb : 1 ≤ h ∧ h ≤ 25 := by
    unfold lmCode at h0
    repeat' split at h0
    all_goals omega
  refine findN_is (by simp [h0]) 25 1 hb.1 (by omega) (fun y k1 k2 => ?_)
  refine decide_eq_false fun ⟨e, _⟩ => ?_
  have := lmCode_inj e.symm h0
  omega
theorem hgtL_or (c : Nat) : hgtL c = 0 ∨ (lmCode (hgtL c : Nat) = c ∧ c ≠ 0 ∧ 1 ≤ hgtL c ∧ hgtL c ≤ 25) := by
  rcases findN_or (P := fun h : Nat => decide (lmCode (h : Int) = c ∧ c ≠ 0)) 25 1 with h | ⟨h1, h2, h3⟩
  · exact .inl h
  · have := of_decide_eq_true h1
    exact .inr ⟨this.1, this.2, h2, by unfold hgtL; omega⟩
/-- a kind is told by its typecode -/
theorem dgtL_code {k n m s c : Nat} (hk : Kd k n m s c) : dgtL c = k := by cases hk <;> rfl
theorem dgtL_or (c : Nat) : dgtL c = 0 ∨ ∃ n m s, Kd (dgtL c) n m s c := by
  rcases findN_or (P := fun w => decide (kdC w = c ∧ c ≠ 0)) 8 1 with h | ⟨h1, _, _⟩
  · exact .inl h
  · have h2 : kdC (dgtL c) = c ∧ c ≠ 0 := of_decide_eq_true h1
    rename_i g1 g2
    clear g1 g2
    obtain ⟨h3, h4⟩ := h2
    refine .inr ?_
    clear h1
    generalize dgtL c = d at *
    unfold kdC at h3
    split at h3
    · rename_i e; subst h3; subst e; exact ⟨_, _, _, Kd.k1⟩
    split at h3
    · rename_i e; subst h3; subst e; exact ⟨_, _, _, Kd.k2⟩
    split at h3
    · rename_i e; subst h3; subst e; exact ⟨_, _, _, Kd.k4⟩
    split at h3
    · rename_i e; subst h3; subst e; exact ⟨_, _, _, Kd.k8⟩
    · exact absurd h3.symm h4
/-- where a signature's parts lie -/
def ctW (b : List Nat) : Nat := dgtL (numL ((b.drop 4).take 4))
def ctA (b : List Nat) : Nat := 4 + szW (ctW b)
def ctH (b : List Nat) : Nat := hgtL (numL ((b.drop (ctA b)).take 4))
def ctN (b : List Nat) : Nat := ctA b + 4 + 32 * ctH b
/-- what is wrong with a signature -/
def ctE (b : List Nat) : Nat := if b.length < 8 then 1 else if ctW b = 0 then 9 else if b.length < ctA b + 4 then 1 else if ctH b = 0 then 9 else if b.length < ctN b then 1 else 0
theorem ctH_le (b : List Nat) : ctH b ≤ 25 := by
  unfold ctH
  rcases hgtL_or (numL ((b.drop (ctA b)).take 4)) with h | ⟨_, _, _, h⟩
  · rw [h]; omega
  · exact h
end Go.Proofs.YtogiballdmgcpaaGreatDoor
