/- Leaves that sign once: chains, plain, over whatever sum H. -/
import Derived.Test.YtnjiilnkobhibaaLmM
import Derived.Test.YtnjiilnkobhibaaHKi2
import Derived.Test.YtnjiilnkobhibaaSame
namespace Go.Proofs.Ytnjiilnkobhibaa
open Go.RowKit
set_option linter.unusedVariables false
set_option linter.unusedSimpArgs false

def be2 (n : Nat) : List Nat := (leL n 2).reverse
def be4 (n : Nat) : List Nat := (leL n 4).reverse
theorem be2_len (n : Nat) : (be2 n).length = 2 := by unfold be2; rw [List.length_reverse, leL_length]
theorem be4_len (n : Nat) : (be4 n).length = 4 := by unfold be4; rw [List.length_reverse, leL_length]
theorem be2_under (n : Nat) : Under 256 (be2 n) := fun x hx => leM_under _ _ x (List.mem_reverse.1 hx)
theorem be4_under (n : Nat) : Under 256 (be4 n) := fun x hx => leM_under _ _ x (List.mem_reverse.1 hx)
/-- texts of 32 bytes, one behind the other: the i-th -/
theorem flat_32 : ∀ (ps : List (List Nat)) (i : Nat), (∀ p ∈ ps, p.length = 32) → i < ps.length → ((ps.flatten).drop (32 * i)).take 32 = tx ps i
  | [], i, _, h => by simp at h
  | p :: ps, 0, hp, _ => by
    have h0 := hp p (by simp)
    show ((p ++ ps.flatten).drop 0).take 32 = p
    rw [List.drop_zero, List.take_append_of_le_length (by omega), List.take_of_length_le (by omega)]
  | p :: ps, i + 1, hp, h => by
    have h0 := hp p (by simp)
    show ((p ++ ps.flatten).drop (32 * (i + 1))).take 32 = tx ps i
    rw [List.drop_append, List.drop_eq_nil_of_le (by omega), List.nil_append, show 32 * (i + 1) - p.length = 32 * i by omega]
    exact flat_32 ps i (fun q hq => hp q (by simp [hq])) (by simpa using h)
theorem flat_32_len : ∀ (ps : List (List Nat)), (∀ p ∈ ps, p.length = 32) → ps.flatten.length = 32 * ps.length
  | [], _ => rfl
  | p :: ps, hp => by
    show (p ++ ps.flatten).length = _
    rw [List.length_append, hp p (by simp), flat_32_len ps (fun q hq => hp q (by simp [hq])), List.length_cons]
    omega
section
variable (H : List Nat → List Nat) (pre : List Nat)
/-- a part's step, and its beginning (b of 255, y the seed) -/
def lmX (i b : Nat) (y : List Nat) : List Nat := H (pre ++ (be2 i ++ ([b] ++ y)))
/-- k steps from f on -/
def chN (i f : Nat) : Nat → List Nat → List Nat
  | 0, y => y
  | k + 1, y => lmX H pre i (f + k) (chN i f k y)
def keyH (ends : List (List Nat)) : List Nat := H (pre ++ (be2 32896 ++ ends.flatten))
def digH (c text : List Nat) : List Nat := H (pre ++ (be2 33153 ++ (c ++ text)))
def lmCn (seed : List Nat) : List Nat := lmX H pre 65533 255 seed
def endsP (W p : Nat) (seed : List Nat) : List (List Nat) := (List.range p).map fun i => chN H pre i 0 W (lmX H pre i 255 seed)
def pubH (W p : Nat) (seed : List Nat) : List Nat := keyH H pre (endsP H pre W p seed)
def sgnP (ds seed : List Nat) : List (List Nat) := (List.range ds.length).map fun i => chN H pre i 0 (el ds i) (lmX H pre i 255 seed)
def endsC (W : Nat) (ds : List Nat) (sig : List Nat) : List (List Nat) := (List.range ds.length).map fun i => chN H pre i (el ds i) (W - el ds i) ((sig.drop (36 + 32 * i)).take 32)
def sgnH (code : Nat) (ds seed : List Nat) : List Nat := be4 code ++ (lmCn H pre seed ++ (sgnP H pre ds seed).flatten)
end
section
variable {H : List Nat → List Nat} {pre : List Nat}
theorem chN_add (i f j : Nat) (y : List Nat) : ∀ k, chN H pre i f (j + k) y = chN H pre i (f + j) k (chN H pre i f j y)
  | 0 => rfl
  | k + 1 => by
    show lmX H pre i (f + (j + k)) (chN H pre i f (j + k) y) = lmX H pre i (f + j + k) (chN H pre i (f + j) k (chN H pre i f j y))
    rw [chN_add i f j y k, Nat.add_assoc]
theorem chN_len (hH : ∀ x, (H x).length = 32) (i f : Nat) (y : List Nat) (hy : y.length = 32) : ∀ k, (chN H pre i f k y).length = 32
  | 0 => hy
  | k + 1 => hH _
theorem chN_under (hH : ∀ x, Under 256 (H x)) (i f : Nat) (y : List Nat) (hy : Under 256 y) : ∀ k, Under 256 (chN H pre i f k y)
  | 0 => hy
  | k + 1 => hH _
variable (hH : ∀ x, (H x).length = 32)
include hH in
theorem sgnP_32 (ds seed : List Nat) : ∀ p ∈ sgnP H pre ds seed, p.length = 32 := by
  intro p hp
  unfold sgnP at hp
  obtain ⟨i, _, rfl⟩ := List.mem_map.1 hp
  exact chN_len hH i 0 _ (hH _) _
include hH in
theorem sgnH_len (code : Nat) (ds seed : List Nat) : (sgnH H pre code ds seed).length = 36 + 32 * ds.length := by
  unfold sgnH
  rw [List.length_append, List.length_append, be4_len, flat_32_len _ (sgnP_32 hH ds seed), show (lmCn H pre seed).length = 32 from hH _, show (sgnP H pre ds seed).length = ds.length by simp [sgnP]]
  omega
include hH in
theorem sgnH_c (code : Nat) (ds seed : List Nat) : ((sgnH H pre code ds seed).drop 4).take 32 = lmCn H pre seed := by
  unfold sgnH
  have h1 : (lmCn H pre seed).length = 32 := hH _
  rw [List.drop_append, List.drop_eq_nil_of_le (by rw [be4_len]; exact Nat.le_refl _), List.nil_append, be4_len, Nat.sub_self, List.drop_zero, List.take_append_of_le_length (by omega), List.take_of_length_le (by omega)]
theorem sgnH_code (code : Nat) (ds seed : List Nat) : (sgnH H pre code ds seed).take 4 = be4 code := by
  unfold sgnH
  rw [List.take_append_of_le_length (by rw [be4_len]; exact Nat.le_refl _), List.take_of_length_le (by rw [be4_len]; exact Nat.le_refl _)]
include hH in
/-- P14.4: what is signed leads to the key -/
theorem ends_is (W : Nat) (code : Nat) (ds seed : List Nat) (hds : ∀ i, i < ds.length → el ds i ≤ W) : endsC H pre W ds (sgnH H pre code ds seed) = endsP H pre W ds.length seed := by
  unfold endsC endsP
  apply List.map_congr_left
  intro i hi
  have hi' : i < ds.length := by simpa using hi
  have h1 : (lmCn H pre seed).length = 32 := hH _
  have e : (sgnH H pre code ds seed).drop (36 + 32 * i) = ((sgnP H pre ds seed).flatten).drop (32 * i) := by
    have d4 : ∀ (x y : List Nat) (n k : Nat), x.length = n → (x ++ y).drop (n + k) = y.drop k := fun x y n k h => by
      rw [List.drop_append, List.drop_eq_nil_of_le (by omega), List.nil_append, show n + k - x.length = k by omega]
    unfold sgnH
    rw [show 36 + 32 * i = 4 + (32 + 32 * i) by omega, d4 _ _ 4 _ (be4_len _), d4 _ _ 32 _ h1]
  rw [e, flat_32 _ i (sgnP_32 hH ds seed) (by simp [sgnP]; exact hi')]
  have e2 : tx (sgnP H pre ds seed) i = chN H pre i 0 (el ds i) (lmX H pre i 255 seed) := by
    unfold tx sgnP
    rw [List.getElem?_map, List.getElem?_range hi']
    rfl
  have h3 := hds i hi'
  have h4 := chN_add (H := H) (pre := pre) i 0 (el ds i) (lmX H pre i 255 seed) (W - el ds i)
  rw [Nat.zero_add, show el ds i + (W - el ds i) = W by omega] at h4
  rw [e2, h4]
end
end Go.Proofs.Ytnjiilnkobhibaa

/- An append whose second argument is a slice of another named type. -/
namespace Go.Proofs.Ytnjiilnkobhibaa
open Go.RowKit
set_option linter.unusedVariables false

theorem append_types {P : Program} (w : World) (t tx ty e e' : TypeId) (ht : P.underlying t = some (.slice e)) (hx : P.underlying tx = some (.slice e')) (v x : Value) :
    (Builtin.append_ #[t, tx] ty #[v, x]).run P w = (Builtin.append_ #[t, t] ty #[v, x]).run P w := by
  unfold Builtin.append_
  simp only [List.getElem?_toArray, List.getElem?_cons_zero, List.getElem?_cons_succ, Sem.run_bind, run_underlying ht, Result.andThen_ok]
  cases v <;> try rfl
  simp only [Sem.run_bind]
  cases (sizeOf e).run P w
  · simp only [Result.andThen, run_underlying ht, run_underlying hx]
  all_goals rfl

theorem wpList_append_own2 {P : Program} (w : World) {ops : Array Oper} {rest : List Oper} {o : Oper} {a : Act} {Q : Exit → Act → World → Prop} (hgd : o.guard = none) (s x : Operand) (t tx e' : TypeId)
    (ho : o.op = .call { callee := .builtin .append, args := #[s, x], argTypes := #[t, tx] }) (htx : P.underlying tx = some (.slice e'))
    (base : Nat) (e : TypeId) (i : TypeInfo) (z : Value) (size bytes : Nat) (ht : P.underlying t = some (.slice e)) (hi : P.info? e = some i) (hz : i.zero = some z)
    (hsize : i.size = size) (hby : i.bytes = bytes) (hzs : z.cells.size = size) (hsz : 0 < size)
    (v : Value) (n : Nat) (xs : List Value) (hs : a.eval s = v) (hown : w.ownsRow base e size v n xs)
    (ad : Addr) (m c : Nat) (news : List Value) (hx : a.eval x = .slice (some ad) m c) (hl : news.length = m * size) (hnews : ∀ j u, news[j]? = some u → w.cell? (ad.add j) = some u) (h1 : ∀ u ∈ news, u.oneCell' = true)
    (h63 : n + m ≤ maxLen) (hbytes : (n + m) * bytes ≤ 140737488355328) (hbase : base ≤ w.heap.size)
    (h : ∀ v' w', w'.ownsRow base e size v' (n + m) (xs ++ news) → w.grownBy w' v.ownBlock → (v' = .slice none 0 0 ↔ v = .slice none 0 0 ∧ m = 0) → wpList P ops Q rest (a.put o.dst v') w') : wpList P ops Q (o :: rest) a w :=
  wpList_plain hgd fun _ hK => by
    obtain ⟨v', w', hr, h2, h3, h4⟩ := run_append_own (P := P) w base t o.type e i z size bytes ht hi hz hsize hby hzs hsz v n xs hown ad m c news hl hnews h1 h63 hbytes hbase
    rw [← append_types w t tx o.type e e' ht htx] at hr
    unfold Oper.wp execOp
    simp only [ho, resolve, invoke, builtin, Sem.run_bind, Sem.run_pure, Result.andThen_ok, List.map_toArray, List.map_cons, List.map_nil, hs, hx, hr]
    exact hK _ _ (h v' w' h2 h3 h4)
end Go.Proofs.Ytnjiilnkobhibaa
