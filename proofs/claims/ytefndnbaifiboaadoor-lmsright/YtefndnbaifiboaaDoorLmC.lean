/- Leaves that sign once: chains, plain, over whatever sum H. -/
import Derived.Test.YtefndnbaifiboaaDoorPgF
import Derived.Test.YtefndnbaifiboaaDoorHRes32
import Derived.Test.YtefndnbaifiboaaDoorHSpr32
import Derived.Test.YtefndnbaifiboaaDoorHTur64
import Derived.Laws.ShiftsVarLaws
import Derived.BigRegion
import Derived.Deep.AppendLies
import Derived.ArgAppend
import Derived.Test.YtefndnbaifiboaaDoorHKit
import Derived.Test.YtefndnbaifiboaaDoorHRes64
import Derived.Test.YtefndnbaifiboaaDoorNumLe
import Derived.Test.YtefndnbaifiboaaDoorHFin64
import Derived.Test.YtefndnbaifiboaaDoorHSl
import Derived.Lib.MinMax
import Derived.Test.YtefndnbaifiboaaDoorHEnd
namespace Go.Proofs.YtefndnbaifiboaaDoor
open Go.RowKit
set_option linter.unusedVariables false
set_option linter.unusedSimpArgs false

def be2 (n : Nat) : List Nat := (leL n 2).reverse
def be4 (n : Nat) : List Nat := (leL n 4).reverse
theorem be2_len (n : Nat) : (be2 n).length = 2 := by unfold be2; rw [List.length_reverse, leL_length]
theorem be4_len (n : Nat) : (be4 n).length = 4 := by unfold be4; rw [List.length_reverse, leL_length]
theorem be2_under (n : Nat) : Under 256 (be2 n) := fun x hx => leM_under _ _ x (List.mem_reverse.1 hx)
theorem be4_under (n : Nat) : Under 256 (be4 n) := fun x hx => leM_under _ _ x (List.mem_reverse.1 hx)
/-- texts of 32 bytes, one behind the other: the i-th -/
theorem flat_32 : ∀ (ps : List (List Nat)) (i : Nat), (∀ p ∈ ps, p.length = 32) → i < ps.length → ((ps.flatten).drop (32 * i)).take 32 = tx ps i
  | [], i, _, h => by simp at h
  | p :: ps, 0, hp, _ => by
    have h0 := hp p (by simp)
    show ((p ++ ps.flatten).drop 0).take 32 = p
    rw [List.drop_zero, List.take_append_of_le_length (by omega), List.take_of_length_le (by omega)]
  | p :: ps, i + 1, hp, h => by
    have h0 := hp p (by simp)
    show ((p ++ ps.flatten).drop (32 * (i + 1))).take 32 = tx ps i
    rw [List.drop_append, List.drop_eq_nil_of_le (by omega), List.nil_append, show 32 * (i + 1) - p.length = 32 * i by omega]
    exact flat_32 ps i (fun q hq => hp q (by simp [hq])) (by simpa using h)
theorem flat_32_len : ∀ (ps : List (List Nat)), (∀ p ∈ ps, p.length = 32) → ps.flatten.length = 32 * ps.length
  | [], _ => rfl
  | p :: ps, hp => by
    show (p ++ ps.flatten).length = _
    rw [List.length_append, hp p (by simp), flat_32_len ps (fun q hq => hp q (by simp [hq])), List.length_cons]
    omega
section
variable (H : List Nat → List Nat) (pre : List Nat)
/-- a part's step, and its beginning (b of 255, y the seed) -/
def lmX (i b : Nat) (y : List Nat) : List Nat := H (pre ++ (be2 i ++ ([b] ++ y)))
/-- k steps from f on -/
def chN (i f : Nat) : Nat → List Nat → List Nat
  | 0, y => y
  | k + 1, y => lmX H pre i (f + k) (chN i f k y)
def keyH (ends : List (List Nat)) : List Nat := H (pre ++ (be2 32896 ++ ends.flatten))
def digH (c text : List Nat) : List Nat := H (pre ++ (be2 33153 ++ (c ++ text)))
def lmCn (seed : List Nat) : List Nat := lmX H pre 65533 255 seed
def endsP (W p : Nat) (seed : List Nat) : List (List Nat) := (List.range p).map fun i => chN H pre i 0 W (lmX H pre i 255 seed)
def pubH (W p : Nat) (seed : List Nat) : List Nat := keyH H pre (endsP H pre W p seed)
def sgnP (ds seed : List Nat) : List (List Nat) := (List.range ds.length).map fun i => chN H pre i 0 (el ds i) (lmX H pre i 255 seed)
def endsC (W : Nat) (ds : List Nat) (sig : List Nat) : List (List Nat) := (List.range ds.length).map fun i => chN H pre i (el ds i) (W - el ds i) ((sig.drop (36 + 32 * i)).take 32)
def sgnH (code : Nat) (ds seed : List Nat) : List Nat := be4 code ++ (lmCn H pre seed ++ (sgnP H pre ds seed).flatten)
end
section
variable {H : List Nat → List Nat} {pre : List Nat}
theorem chN_add (i f j : Nat) (y : List Nat) : ∀ k, chN H pre i f (j + k) y = chN H pre i (f + j) k (chN H pre i f j y)
  | 0 => rfl
  | k + 1 => by
    show lmX H pre i (f + (j + k)) (chN H pre i f (j + k) y) = lmX H pre i (f + j + k) (chN H pre i (f + j) k (chN H pre i f j y))
    rw [chN_add i f j y k, Nat.add_assoc]
theorem chN_len (hH : ∀ x, (H x).length = 32) (i f : Nat) (y : List Nat) (hy : y.length = 32) : ∀ k, (chN H pre i f k y).length = 32
  | 0 => hy
  | k + 1 => hH _
theorem chN_under (hH : ∀ x, Under 256 (H x)) (i f : Nat) (y : List Nat) (hy : Under 256 y) : ∀ k, Under 256 (chN H pre i f k y)
  | 0 => hy
  | k + 1 => hH _
variable (hH : ∀ x, (H x).length = 32)
include hH in
theorem sgnP_32 (ds seed : List Nat) : ∀ p ∈ sgnP H pre ds seed, p.length = 32 := by
  intro p hp
  unfold sgnP at hp
  obtain ⟨i, _, rfl⟩ := List.mem_map.1 hp
  exact chN_len hH i 0 _ (hH _) _
include hH in
theorem sgnH_len (code : Nat) (ds seed : List Nat) : (sgnH H pre code ds seed).length = 36 + 32 * ds.length := by
  unfold sgnH
  rw [List.length_append, List.length_append, be4_len, flat_32_len _ (sgnP_32 hH ds seed), show (lmCn H pre seed).length = 32 from hH _, show (sgnP H pre ds seed).length = ds.length by simp [sgnP]]
  omega
include hH in
theorem sgnH_c (code : Nat) (ds seed : List Nat) : ((sgnH H pre code ds seed).drop 4).take 32 = lmCn H pre seed := by
  unfold sgnH
  have h1 : (lmCn H pre seed).length = 32 := hH _
  rw [List.drop_append, List.drop_eq_nil_of_le (by rw [be4_len]; exact Nat.le_refl _), List.nil_append, be4_len, Nat.sub_self, List.drop_zero, List.take_append_of_le_length (by omega), List.take_of_length_le (by omega)]
theorem sgnH_code (code : Nat) (ds seed : List Nat) : (sgnH H pre code ds seed).take 4 = be4 code := by
  unfold sgnH
  rw [List.take_append_of_le_length (by rw [be4_len]; exact Nat.le_refl _), List.take_of_length_le (by rw [be4_len]; exact Nat.le_refl _)]
include hH in
/-- P14.4: what is signed leads to the key -/
theorem ends_is (W : Nat) (code : Nat) (ds seed : List Nat) (hds : ∀ i, i < ds.length → el ds i ≤ W) : endsC H pre W ds (sgnH H pre code ds seed) = endsP H pre W ds.length seed := by
  unfold endsC endsP
  apply List.map_congr_left
  intro i hi
  have hi' : i < ds.length := by simpa using hi
  have h1 : (lmCn H pre seed).length = 32 := hH _
  have e : (sgnH H pre code ds seed).drop (36 + 32 * i) = ((sgnP H pre ds seed).flatten).drop (32 * i) := by
    have d4 : ∀ (x y : List Nat) (n k : Nat), x.length = n → (x ++ y).drop (n + k) = y.drop k := fun x y n k h => by
      rw [List.drop_append, List.drop_eq_nil_of_le (by omega), List.nil_append, show n + k - x.length = k by omega]
    unfold sgnH
    rw [show 36 + 32 * i = 4 + (32 + 32 * i) by omega, d4 _ _ 4 _ (be4_len _), d4 _ _ 32 _ h1]
  rw [e, flat_32 _ i (sgnP_32 hH ds seed) (by simp [sgnP]; exact hi')]
  have e2 : tx (sgnP H pre ds seed) i = chN H pre i 0 (el ds i) (lmX H pre i 255 seed) := by
    unfold tx sgnP
    rw [List.getElem?_map, List.getElem?_range hi']
    rfl
  have h3 := hds i hi'
  have h4 := chN_add (H := H) (pre := pre) i 0 (el ds i) (lmX H pre i 255 seed) (W - el ds i)
  rw [Nat.zero_add, show el ds i + (W - el ds i) = W by omega] at h4
  rw [e2, h4]
end
end Go.Proofs.YtefndnbaifiboaaDoor

/- Trees of leaves that sign once: plain facts, over whatever sums of knots (ov) and leaves (lf). -/
namespace Go.Proofs.YtefndnbaifiboaaDoor
open Go.RowKit
set_option linter.unusedVariables false
set_option linter.unusedSimpArgs false

section
variable (ov : Nat → List Nat → List Nat → List Nat) (lf : Nat → List Nat)
/-- the sum of a knot with d levels below it -/
def kn : Nat → Nat → List Nat
  | 0, n => lf n
  | d + 1, n => ov n (kn d (2 * n)) (kn d (2 * n + 1))
/-- the neighbours of k knots from knot n up, which has d levels below it -/
def pth : Nat → Nat → Nat → List (List Nat)
  | _, 0, _ => []
  | d, k + 1, n => kn ov lf d (n ^^^ 1) :: pth (d + 1) k (n / 2)
/-- up from a sum by its neighbours -/
def climb : List (List Nat) → Nat → List Nat → List Nat
  | [], _, s => s
  | p :: ps, n, s => climb ps (n / 2) (if n % 2 = 0 then ov (n / 2) s p else ov (n / 2) p s)
end
theorem xor_one (n : Nat) : n ^^^ 1 = if n % 2 = 0 then n + 1 else n - 1 := by
  have h : ∀ m, (2 * m) ^^^ 1 = 2 * m + 1 := fun m => by
    apply Nat.eq_of_testBit_eq
    intro i
    rw [Nat.testBit_xor]
    cases i with
    | zero => simp
    | succ i =>
      rw [Nat.testBit_succ, Nat.testBit_succ, Nat.testBit_succ, show 2 * m / 2 = m by omega, show (2 * m + 1) / 2 = m by omega]
      simp
  by_cases e : n % 2 = 0
  · obtain ⟨m, rfl⟩ : ∃ m, n = 2 * m := ⟨n / 2, by omega⟩
    rw [if_pos e, h]
  · obtain ⟨m, rfl⟩ : ∃ m, n = 2 * m + 1 := ⟨n / 2, by omega⟩
    rw [if_neg e, ← h m, Nat.xor_assoc, Nat.xor_self, Nat.xor_zero, h]
    omega
section
variable {ov : Nat → List Nat → List Nat → List Nat} {lf : Nat → List Nat}
/-- from each knot its neighbours lead to the top -/
theorem climb_path : ∀ (k d n : Nat), climb ov (pth ov lf d k n) n (kn ov lf d n) = kn ov lf (d + k) (n / 2 ^ k)
  | 0, d, n => by rw [Nat.pow_zero, Nat.div_one]; rfl
  | k + 1, d, n => by
    have e : (if n % 2 = 0 then ov (n / 2) (kn ov lf d n) (kn ov lf d (n ^^^ 1)) else ov (n / 2) (kn ov lf d (n ^^^ 1)) (kn ov lf d n)) = kn ov lf (d + 1) (n / 2) := by
      show _ = ov (n / 2) (kn ov lf d (2 * (n / 2))) (kn ov lf d (2 * (n / 2) + 1))
      rw [xor_one]
      by_cases h : n % 2 = 0
      · rw [if_pos h, if_pos h, show 2 * (n / 2) = n by omega]
      · rw [if_neg h, if_neg h, show 2 * (n / 2) = n - 1 by omega, show n - 1 + 1 = n by omega]
    show climb ov (pth ov lf (d + 1) k (n / 2)) (n / 2) (if n % 2 = 0 then ov (n / 2) (kn ov lf d n) (kn ov lf d (n ^^^ 1)) else ov (n / 2) (kn ov lf d (n ^^^ 1)) (kn ov lf d n)) = _
    rw [e, climb_path k (d + 1) (n / 2), Nat.div_div_eq_div_mul, Nat.pow_succ, Nat.mul_comm 2, show d + 1 + k = d + (k + 1) by omega]
theorem pth_len : ∀ (k d n : Nat), (pth ov lf d k n).length = k
  | 0, _, _ => rfl
  | k + 1, d, n => by show (pth ov lf (d + 1) k (n / 2)).length + 1 = _; rw [pth_len k]
theorem kn_32 (h1 : ∀ n a b, (ov n a b).length = 32) (h2 : ∀ n, (lf n).length = 32) : ∀ d n, (kn ov lf d n).length = 32
  | 0, n => h2 n
  | d + 1, n => h1 _ _ _
theorem pth_32 (h1 : ∀ n a b, (ov n a b).length = 32) (h2 : ∀ n, (lf n).length = 32) : ∀ (k d n : Nat), ∀ p ∈ pth ov lf d k n, p.length = 32
  | 0, _, _, p, hp => by cases hp
  | k + 1, d, n, p, hp => by
    rcases List.mem_cons.1 hp with h | h
    · rw [h]; exact kn_32 h1 h2 d _
    · exact pth_32 h1 h2 k (d + 1) (n / 2) p h
end
/-- a height's typecode -/
def lmCode (h : Int) : Nat := if 1 ≤ h ∧ h ≤ 4 then 3758096384 + h.toNat else if 5 ≤ h ∧ h ≤ 25 ∧ h % 5 = 0 then 4 + h.toNat / 5 else 0
theorem lmCode_32 (h : Int) : lmCode h < 4294967296 := by
  unfold lmCode
  repeat' split
  all_goals omega
theorem lmCode_inj {h k : Int} (e : lmCode h = lmCode k) (h0 : lmCode h ≠ 0) : h = k := by
  unfold lmCode at e h0
  repeat' split at h0
  all_goals (repeat' split at e)
  all_goals omega
end Go.Proofs.YtefndnbaifiboaaDoor

/- A value whose block is not older than a bound. -/
namespace Go.Proofs.YtefndnbaifiboaaDoor
open Go.RowKit
set_option linter.unusedVariables false
def New (B : Nat) (v : Value) : Prop := ∀ q, v.ownBlock = some q → B ≤ q
theorem New.at {B g n c o : Nat} (h : B ≤ g) : New B (.slice (some ⟨g, o, none⟩) n c) := fun q hq => by
  have : g = q := by simpa [Value.ownBlock] using hq
  omega
theorem New.nil (B n c : Nat) : New B (.slice none n c) := fun q hq => by simp [Value.ownBlock] at hq
theorem New.mono {B B' : Nat} {v : Value} (h : New B v) (hB : B' ≤ B) : New B' v := fun q hq => Nat.le_trans hB (h q hq)
theorem Own.new {e : TypeId} {k : IntKind} {m : Nat} {w : World} {B : Nat} {v : Value} {l : List Nat} (h : Own e k m w B v l) : New B v := fun q hq => (h.1.lt q hq).1
end Go.Proofs.YtefndnbaifiboaaDoor

/- Contracts of the document's right, mix; its tables. -/
namespace Go.Proofs.YtefndnbaifiboaaDoor
open Go.RowKit
set_option linter.unusedVariables false
set_option linter.unusedSimpArgs false

/-- what right tells, of any number -/
def rgt (b : Bool) (r x : Nat) : Nat := bif b then rot true r x else x / 2 ^ r ||| x * 2 ^ (32 - r) % 18446744073709551616 % 4294967296
theorem rgt_rot {b : Bool} {r x : Nat} (hx : x < wm b) (hr : r ≤ 32) : rgt b r x = rot b r x := by
  cases b with
  | true => rfl
  | false =>
    show x / 2 ^ r ||| x * 2 ^ (32 - r) % 18446744073709551616 % 4294967296 = x / 2 ^ r ||| x * 2 ^ (32 - r) % 4294967296
    congr 1
    rw [Nat.mod_mod_of_dvd _ (by decide)]
theorem rgt_lt {b : Bool} {r x : Nat} (hx : x < 18446744073709551616) : rgt b r x < 18446744073709551616 := by
  cases b with
  | true => exact rot_lt (b := true) hx r
  | false =>
    have h2 : x * 2 ^ (32 - r) % 18446744073709551616 % 4294967296 < 4294967296 := Nat.mod_lt _ (by decide)
    exact Nat.or_lt_two_pow (n := 64) (Nat.lt_of_le_of_lt (Nat.div_le_self _ _) hx) (Nat.lt_of_lt_of_le h2 (by decide))
theorem and_ones32 (x : Nat) (hx : x < 18446744073709551616) : bits .and .u64 (x : Int) 4294967295 = ((x % 4294967296 : Nat) : Int) := by
  rw [show (4294967295 : Int) = ((4294967295 : Nat) : Int) from rfl, u64_and_nat x _ hx (by decide)]
  congr 1
  exact Nat.and_two_pow_sub_one_eq_mod x 32
theorem and_ones64 (x : Nat) (hx : x < 18446744073709551616) : bits .and .u64 (x : Int) 18446744073709551615 = ((x : Nat) : Int) := by
  rw [show (18446744073709551615 : Int) = ((18446744073709551615 : Nat) : Int) from rfl, u64_and_nat x _ hx (by decide)]
  congr 1
  rw [Nat.and_two_pow_sub_one_eq_mod x 64]
  exact Nat.mod_eq_of_lt hx

/-- what mix tells, of any number -/
def rmx (b sh : Bool) (r1 r2 r3 x : Nat) : Nat := rgt b r1 x ^^^ rgt b r2 x ^^^ (bif sh then x / 2 ^ r3 else rgt b r3 x)
theorem rmx_lt {b sh : Bool} {r1 r2 r3 x : Nat} (hx : x < 18446744073709551616) : rmx b sh r1 r2 r3 x < 18446744073709551616 := by
  have h := fun r => rgt_lt (b := b) (r := r) hx
  refine Nat.xor_lt_two_pow (n := 64) (Nat.xor_lt_two_pow (n := 64) (h r1) (h r2)) ?_
  cases sh with
  | true => exact Nat.lt_of_le_of_lt (Nat.div_le_self _ _) hx
  | false => exact h r3
theorem rmx_turn {b : Bool} {r1 r2 r3 x : Nat} (hx : x < wm b) (h1 : r1 < wb b) (h2 : r2 < wb b) (h3 : r3 < wb b) : rmx b false r1 r2 r3 x = turn3 b r1 r2 r3 x := by
  cases b with
  | true => rfl
  | false =>
    have h1' : r1 < 32 := h1
    have h2' : r2 < 32 := h2
    have h3' : r3 < 32 := h3
    unfold rmx turn3
    rw [rgt_rot hx (by omega), rgt_rot hx (by omega), cond_false, rgt_rot hx (by omega)]
theorem rmx_shft {b : Bool} {r1 r2 r3 x : Nat} (hx : x < wm b) (h1 : r1 < wb b) (h2 : r2 < wb b) : rmx b true r1 r2 r3 x = shft3 b r1 r2 r3 x := by
  cases b with
  | true => rfl
  | false =>
    have h1' : r1 < 32 := h1
    have h2' : r2 < 32 := h2
    unfold rmx shft3
    rw [rgt_rot hx (by omega), rgt_rot hx (by omega), cond_true]

end Go.Proofs.YtefndnbaifiboaaDoor

/- append onto a row of the call's own: its old cells stay as they were. -/
namespace Go.Proofs.YtefndnbaifiboaaDoor
open Go.RowKit
set_option linter.unusedVariables false
set_option linter.unusedSimpArgs false

theorem run_append_keeps {P : Program} (w : World) (t ty : TypeId) (base : Nat) (e : TypeId) (i : TypeInfo) (z : Value) (bytes : Nat) (ht : P.underlying t = some (.slice e)) (hi : P.info? e = some i) (hz : i.zero = some z)
    (hsize : i.size = 1) (hby : i.bytes = bytes) (hzs : z.cells.size = 1)
    (g0 n cap0 : Nat) (xs : List Value) (hown : w.ownsRow base e 1 (.slice (some ⟨g0, 0, none⟩) n cap0) n xs)
    (ad : Addr) (m c : Nat) (news : List Value) (hl : news.length = m) (hnews : ∀ j u, news[j]? = some u → w.cell? (ad.add j) = some u) (h1 : ∀ u ∈ news, u.oneCell' = true)
    (hm : 0 < m) (h63 : n + m ≤ maxLen) (hbytes : (n + m) * bytes ≤ 140737488355328) (hbase : base ≤ w.heap.size) :
    ∃ g cap w', (Builtin.append_ #[t, t] ty #[.slice (some ⟨g0, 0, none⟩) n cap0, .slice (some ad) m c]).run P w = .ok (.slice (some ⟨g, 0, none⟩) (n + m) cap) w' ∧
      w'.ownsRow base e 1 (.slice (some ⟨g, 0, none⟩) (n + m) cap) (n + m) (xs ++ news) ∧ w.grownBy w' (some g0) ∧ ∀ j, j < n → w'.cell? ⟨g0, j, none⟩ = w.cell? ⟨g0, j, none⟩ := by
  obtain ⟨g, cap, w', hr, h2, h3, h4, h5⟩ := run_append_lies (P := P) w t ty base e i z 1 bytes ht hi hz hsize hby hzs (by decide) _ n xs hown ad m c news (by rw [hl, Nat.mul_one]) hnews h1 hm h63 hbytes hbase _ rfl
  refine ⟨g, cap, w', hr, h2, h3, fun j hj => ?_⟩
  have hown' := hown
  obtain ⟨hlen, ⟨he, _⟩ | ⟨q, cq, cur, he, hB, hg, hn, hc, hcs, htk⟩⟩ := hown
  · cases he
  · obtain ⟨rfl, rfl⟩ : g0 = q ∧ cap0 = cq := by simpa using he
    by_cases hroom : n + m ≤ cap0
    · have hrr := run_append_room_cells (P := P) w t ty e i ht hi g0 0 n cap0 ad m c news (by rw [hl, hsize, Nat.mul_one]) hnews h1 hroom
        (fun j hj => by rw [cell_of_row w g0 _ cur e (0, 0) hg, hsize]; simp; omega)
        (fun j hj => by simp [World.frozen?, hg])
      rw [hr] at hrr
      obtain rfl : w' = w.setCells g0 (0 + n * i.size) news := (Result.ok.inj hrr).2
      exact World.cell?_setCells_out g0 news _ w ⟨g0, j, none⟩ (fun _ _ => .inl (by show j < 0 + n * i.size; rw [hsize]; omega))
    · obtain ⟨v2, w2, hr2, _, hg2⟩ := run_append_arg_grows (P := P) w t ty e i z 1 bytes ht hi hz hsize hby hzs (by decide) ⟨g0, 0, none⟩ n cap0 xs hlen
        (fun j u hu => by
          have hjx : j < xs.length := (List.getElem?_eq_some_iff.1 hu).1
          rw [Addr.add_lit, Nat.zero_add, hown'.cellAt j (by omega)]; exact hu) ad m c news (by rw [hl, Nat.mul_one]) hnews (by omega) h63 hbytes
      rw [hr] at hr2
      obtain rfl : w' = w2 := (Result.ok.inj hr2).2
      exact World.cell?_of_block (hg2.block g0 (by rcases Nat.lt_or_ge g0 w.heap.size with h' | h'
                                                   · exact h'
                                                   · rw [Array.getElem?_eq_none h'] at hg; cases hg) (by simp))

theorem step_append_keeps {P : Program} {w : World} {ops : Array Oper} {o : Oper} {a : Act} {K : Act → World → Prop} {Q : Exit → Act → World → Prop} {E : Prop} (hgd : o.guard = none) (s x : Operand) (t : TypeId)
    (ho : o.op = .call { callee := .builtin .append, args := #[s, x], argTypes := #[t, t] })
    (base : Nat) (e : TypeId) (i : TypeInfo) (z : Value) (bytes : Nat) (ht : P.underlying t = some (.slice e)) (hi : P.info? e = some i) (hz : i.zero = some z)
    (hsize : i.size = 1) (hby : i.bytes = bytes) (hzs : z.cells.size = 1)
    (g0 n cap0 : Nat) (xs : List Value) (hs : a.eval s = .slice (some ⟨g0, 0, none⟩) n cap0) (hown : w.ownsRow base e 1 (.slice (some ⟨g0, 0, none⟩) n cap0) n xs)
    (ad : Addr) (m c : Nat) (news : List Value) (hx : a.eval x = .slice (some ad) m c) (hl : news.length = m) (hnews : ∀ j u, news[j]? = some u → w.cell? (ad.add j) = some u) (h1 : ∀ u ∈ news, u.oneCell' = true)
    (hm : 0 < m) (h63 : n + m ≤ maxLen) (hbytes : (n + m) * bytes ≤ 140737488355328) (hbase : base ≤ w.heap.size)
    (h : ∀ g cap w', w'.ownsRow base e 1 (.slice (some ⟨g, 0, none⟩) (n + m) cap) (n + m) (xs ++ news) → w.grownBy w' (some g0) → (∀ j, j < n → w'.cell? ⟨g0, j, none⟩ = w.cell? ⟨g0, j, none⟩) → K (a.put o.dst (.slice (some ⟨g, 0, none⟩) (n + m) cap)) w') :
    if Region.wanted o (yielded ops a.tmps) = true then Oper.wp P o a w K Q else E := by
  have hw : Region.wanted o (yielded ops a.tmps) = true := by simp [Region.wanted, hgd]
  rw [if_pos hw]
  obtain ⟨g, cap, w', hr, h2, h3, h4⟩ := run_append_keeps (P := P) w t o.type base e i z bytes ht hi hz hsize hby hzs g0 n cap0 xs hown ad m c news hl hnews h1 hm h63 hbytes hbase
  unfold Oper.wp execOp
  simp only [ho, resolve, invoke, builtin, Sem.run_bind, Sem.run_pure, Result.andThen_ok, List.map_toArray, List.map_cons, List.map_nil, hs, hx, hr]
  exact h g cap w' h2 h3 h4
end Go.Proofs.YtefndnbaifiboaaDoor

/- Contract of the document's words, of 32 bits. -/
namespace Go.Proofs.YtefndnbaifiboaaDoor
open Go.RowKit
set_option linter.unusedVariables false
set_option linter.unusedSimpArgs false

theorem Tryd.infoU32 : (Tryd.prog.info? 53).map (fun i => (i.zero, i.size, i.bytes)) = some (some (.int .u64 0), 1, 8) := by kernel_rfl
/-- the first words of a block -/
def wl32 (l : List Nat) (t : Nat) : List Nat := if t < 16 then words false l t else sched false l (t - 16)
theorem wl_length32 (l : List Nat) (t : Nat) : (wl32 l t).length = t := by
  unfold wl32
  split
  · exact words_length _ _ _
  · rw [sched_length]; omega
theorem wl_low32 (l : List Nat) (t : Nat) (h : t < 16) : wl32 l (t + 1) = wl32 l t ++ [word false l t] := by
  unfold wl32
  rw [if_pos h]
  by_cases h2 : t + 1 < 16
  · rw [if_pos h2]; exact words_succ _ _ _
  · obtain rfl : t = 15 := by omega
    exact words_succ _ _ _
theorem wl_high32 (l : List Nat) (t : Nat) (h : 16 ≤ t) : wl32 l (t + 1) = wl32 l t ++ [nxt false (wl32 l t)] := by
  unfold wl32
  rw [if_neg (by omega), if_neg (by omega), show t + 1 - 16 = (t - 16) + 1 by omega]; rfl
theorem wl_under32 (l : List Nat) (t : Nat) (hu : Under 256 l) : Under (wm false) (wl32 l t) := by
  unfold wl32
  split
  · exact words_under hu _
  · exact sched_under hu _

end Go.Proofs.YtefndnbaifiboaaDoor

/- Contracts of the document's tables. -/
namespace Go.Proofs.YtefndnbaifiboaaDoor
open Go.RowKit
set_option linter.unusedVariables false
set_option linter.unusedSimpArgs false

theorem wpList_build_is {P : Program} {ops : Array Oper} {rest : List Oper} {o : Oper} {a : Act} {w : World} {Q : Exit → Act → World → Prop} (hg : o.guard = none) (t : TypeId) (parts : Array (Nat × Operand)) (ho : o.op = .build t parts) (cells : Array Value)
    (hf : P.built t (parts.map fun (i, x) => (i, a.eval x)).toList = some cells)
    (h : wpList P ops Q rest (a.put o.dst (.agg cells)) w) : wpList P ops Q (o :: rest) a w :=
  wpList_build hg t parts ho (by rw [hf]; rfl) (by rw [hf]; exact h)
/-- the document's table of 64 words -/
def k256 : List Nat := (ks false).take 64
theorem k256_length : k256.length = 64 := rfl
theorem k256_el {i : Nat} (h : i < 64) : el k256 i = el (ks false) i := el_take h
end Go.Proofs.YtefndnbaifiboaaDoor

/- Contract of the document's block, of words of 32 bits. -/
namespace Go.Proofs.YtefndnbaifiboaaDoor
open Go.RowKit
set_option linter.unusedVariables false
set_option linter.unusedSimpArgs false

theorem rchs32 (e f g : Nat) (he : e < 4294967296) (hf : f < 4294967296) (hg : g < 4294967296) : bits .xor .u64 (bits .and .u64 (e : Int) (f : Int)) (bits .and .u64 (bits .xor .u64 4294967295 (e : Int)) (g : Int)) = ((chs false e f g : Nat) : Int) := by
  have hn : bits .xor .u64 4294967295 (e : Int) = ((4294967296 - 1 - e : Nat) : Int) := by
    rw [show (4294967295 : Int) = ((4294967296 - 1 : Nat) : Int) from rfl, u64_xor_nat _ _ (by decide) (by omega), ← ones_xor 32 e he]
  rw [hn, and_is64 e f (by omega) (by omega), and_is64 _ g (by omega) (by omega), xor_is64 _ _ (Nat.lt_of_le_of_lt Nat.and_le_left (by omega)) (Nat.lt_of_le_of_lt Nat.and_le_left (by omega))]
  rfl
theorem rr032 (s : List Nat) (k w : Nat) : ((((((el s 7 + turn3 false 6 11 25 (el s 4)) % 18446744073709551616 + chs false (el s 4) (el s 5) (el s 6)) % 18446744073709551616 + k) % 18446744073709551616 + w) % 18446744073709551616 + (turn3 false 2 13 22 (el s 0) + maj (el s 0) (el s 1) (el s 2)) % 18446744073709551616) % 18446744073709551616) % 4294967296 = el (rnd false k w s) 0 := by
  show _ = (tOne false s k w + tTwo false s) % wm false
  unfold tOne tTwo
  simp only [gS0, gS1, wm, cond_true, cond_false]
  omega
theorem rr432 (s : List Nat) (k w : Nat) : ((el s 3 + ((((el s 7 + turn3 false 6 11 25 (el s 4)) % 18446744073709551616 + chs false (el s 4) (el s 5) (el s 6)) % 18446744073709551616 + k) % 18446744073709551616 + w) % 18446744073709551616) % 18446744073709551616) % 4294967296 = el (rnd false k w s) 4 := by
  show _ = (el s 3 + tOne false s k w) % wm false
  unfold tOne
  simp only [gS0, gS1, wm, cond_true, cond_false]
  omega
theorem addS_get32 (h s : List Nat) (j : Nat) (hj : j < s.length) : el (addW false h s j ++ s.drop j) j = el s j := by
  rw [el_app_right (by rw [addW_length]; omega), addW_length, el_drop, Nat.sub_self]; rfl
theorem addS_set32 (h s : List Nat) (j : Nat) (hj : j < s.length) : (addW false h s j ++ s.drop j).set j ((el s j + el h j) % wm false) = addW false h s (j + 1) ++ s.drop (j + 1) := by
  have e : addW false h s (j + 1) = addW false h s j ++ [(el s j + el h j) % wm false] := by simp [addW, List.range_succ]
  rw [e, drop_el hj, List.append_assoc, List.set_append_right _ _ (by rw [addW_length]; omega), addW_length, Nat.sub_self]
  rfl
theorem eight32 {t : TypeId} {w : World} {g : Nat} {l : List Nat} (h : Lies .u64 t w g l) (h8 : l.length = 8) : w.cell? ⟨g, 0, none⟩ = some (.int .u64 (el l 0)) ∧ w.cell? ⟨g, 1, none⟩ = some (.int .u64 (el l 1)) ∧ w.cell? ⟨g, 2, none⟩ = some (.int .u64 (el l 2)) ∧ w.cell? ⟨g, 3, none⟩ = some (.int .u64 (el l 3)) ∧ w.cell? ⟨g, 4, none⟩ = some (.int .u64 (el l 4)) ∧ w.cell? ⟨g, 5, none⟩ = some (.int .u64 (el l 5)) ∧ w.cell? ⟨g, 6, none⟩ = some (.int .u64 (el l 6)) ∧ w.cell? ⟨g, 7, none⟩ = some (.int .u64 (el l 7)) :=
  ⟨h.cell (by omega), h.cell (by omega), h.cell (by omega), h.cell (by omega), h.cell (by omega), h.cell (by omega), h.cell (by omega), h.cell (by omega)⟩
theorem set832 (s : List Nat) (h : s.length = 8) (a b c d e f g i : Nat) : (((((((s.set 0 a).set 1 b).set 2 c).set 3 d).set 4 e).set 5 f).set 6 g).set 7 i = [a, b, c, d, e, f, g, i] := by
  match s, h with
  | [_, _, _, _, _, _, _, _], _ => rfl
theorem Lies.to32 {t : TypeId} {w : World} {g : Nat} {l l' : List Nat} (h : Lies .u64 t w g l) {cs : Array Value} (e : cs = arr .u64 l') : Lies .u64 t (w.setRow g cs) g l' := by rw [e]; exact h.row

end Go.Proofs.YtefndnbaifiboaaDoor

/- Contract of the document's Add, of words of 32 bits. -/
namespace Go.Proofs.YtefndnbaifiboaaDoor
open Go.RowKit
set_option linter.unusedVariables false
set_option linter.unusedSimpArgs false

/-- where the document's Add stands behind some blocks -/
def RAdd32 (w : World) (kind : Int) (tv : Value) (N : Nat) (ws all : List Nat) (u : Value) (wr : World) : Prop := ∃ (L H : List Nat), L.length ≤ 200000 ∧ slen u = L.length ∧ Row .u8 256 wr u L ∧ Away w.heap.size u L ∧ Away (w.heap.size + 1) u L ∧ Tidy u ∧ Hb wr w.heap.size kind H tv N ∧ El wr (w.heap.size + 1) ∧ Below w.heap.size w wr ∧ eat false ws all = eat false H L ∧ left false all = left false L ∧ H.length = 8 ∧ Under 4294967296 H

end Go.Proofs.YtefndnbaifiboaaDoor

/- Contract of sha.add at words of 32 bits. -/
namespace Go.Proofs.YtefndnbaifiboaaDoor
open Go.RowKit
set_option linter.unusedVariables false
set_option linter.unusedSimpArgs false

end Go.Proofs.YtefndnbaifiboaaDoor

/- Contract of sha.add at words of 64 bits. -/
namespace Go.Proofs.YtefndnbaifiboaaDoor
open Go.RowKit
set_option linter.unusedVariables false
set_option linter.unusedSimpArgs false

end Go.Proofs.YtefndnbaifiboaaDoor

/- Contract of sha.Add. -/
namespace Go.Proofs.YtefndnbaifiboaaDoor
open Go.RowKit
set_option linter.unusedVariables false
set_option linter.unusedSimpArgs false

end Go.Proofs.YtefndnbaifiboaaDoor

/- Words for the laws of sums: what is fit; rows over worlds. -/
namespace Go.Proofs.YtefndnbaifiboaaDoor
open Go.RowKit
set_option linter.unusedVariables false
set_option linter.unusedSimpArgs false

/-- what makes a sum that goes on fit -/
theorem hfit_mk {kind : Int} {ws : List Nat} {n size : Nat} (h8 : ws.length = 8) (hk : kind = 1 ∨ kind = 2 ∨ kind = 3) (hs : size < 1152921504606846976) (hn : n = size % bz (wide kind)) (hu : Under (wm (wide kind)) ws) : hfit kind ws n size = true := by
  unfold hfit
  rw [Bool.and_eq_true, decide_eq_true_iff]
  refine ⟨⟨hk, hs, hn⟩, ?_⟩
  rcases hk with rfl | rfl | rfl
  · exact (wfit_one h8).2 (fun j hj => el_lt hu (by decide) j)
  · rfl
  · rfl
/-- a row of the call's own, behind a call -/
theorem own_below {w w' : World} {base : Nat} {e : TypeId} {size : Nat} {v : Value} {n : Nat} {xs : List Value} (h : w.ownsRow base e size v n xs) (hb : Below w.heap.size w w') : w'.ownsRow base e size v n xs := by
  obtain ⟨h1, h2⟩ := h
  refine ⟨h1, ?_⟩
  rcases h2 with h2 | ⟨g, cap, cur, rfl, h3, h4, h5⟩
  · exact .inl h2
  · refine .inr ⟨g, cap, cur, rfl, h3, ?_, h5⟩
    rw [hb.block g (by
      rcases Nat.lt_or_ge g w.heap.size with hlt | hge
      · exact hlt
      · rw [Array.getElem?_eq_none hge] at h4; cases h4)]
    exact h4
/-- the cells of a row of the call's own that is not empty -/
theorem own_news {e : TypeId} {k : IntKind} {m : Nat} {w : World} {B : Nat} {v : Value} {l : List Nat} (h : Own e k m w B v l) (n : Nat) (hn : l.length = n) (hl : 0 < n) :
    ∃ g c, v = .slice (some ⟨g, 0, none⟩) n c ∧ B ≤ g ∧ ∀ j u, (vals k l)[j]? = some u → w.cell? ((⟨g, 0, none⟩ : Addr).add j) = some u := by
  subst hn
  obtain ⟨g, c, rfl, hB, _, _⟩ := row_form h.1 hl
  refine ⟨g, c, rfl, hB, ?_⟩
  exact h.1.cells rfl
theorem leS_8 (n : Nat) : leS n 8 = leL n 8 := by unfold leS; rw [if_neg (by decide)]; rfl
end Go.Proofs.YtefndnbaifiboaaDoor
