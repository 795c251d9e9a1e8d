/- Small words for walks over rows. -/
import Derived.Test.YtiedkpfpaeecfaaOwn
import Derived.Test.YtiedkpfpaeecfaaTFrm
import Derived.Test.YtiedkpfpaeecfaaBase
namespace Go.Proofs.Ytiedkpfpaeecfaa
open Go.RowKit
set_option linter.unusedVariables false

theorem keep_trans {a b c : World} (h : Below a.heap.size a b) (k : Below b.heap.size b c) : Below a.heap.size a c := h.trans (k.mono h.size)
theorem keep_alloc (w : World) (o : Obj) : Below w.heap.size w (w.alloc o) := (Below.refl _ _).alloc (Nat.le_refl _) o

theorem lit_row (k : IntKind) (m : Nat) (w : World) (l : List Nat) (t : TypeId) (hu : Under m l) (hl : l.length ≤ maxLen) :
    Row k m (w.alloc (.cells (vals k l).toArray t)) (.slice (some ⟨w.heap.size, 0, none⟩) l.length l.length) l := by
  refine ⟨_, _, rfl, Nat.le_refl _, hl, fun _ => ⟨_, _, rfl, fun i hi => ?_⟩, hu⟩
  rw [World.cell?_alloc_at _ _ _ _ rfl]
  rw [Nat.zero_add, List.getElem?_toArray, vals_get k l i hi]

theorem rsame_b (va vb : Value) (l m : List Nat) (w : World) (ha : Row .u8 256 w va l) (hb : Row .u8 256 w vb m) :
    Calls Try.prog 15 #[va, vb] w fun e w' => e = .returned (.bool (decide (l = m))) ∧ Below w.heap.size w w' :=
  (rsame_any va vb l m w ha hb).mono fun _ _ ⟨he, n, hw⟩ => ⟨he, by rw [hw]; exact below_drewN (Below.refl _ _) n⟩

theorem rsame_true (va vb : Value) (l : List Nat) (w : World) (ha : Row .u8 256 w va l) (hb : Row .u8 256 w vb l) :
    Calls Try.prog 15 #[va, vb] w fun e w' => e = .returned (.bool true) ∧ Below w.heap.size w w' :=
  (rsame_b va vb l l w ha hb).mono fun _ _ ⟨he, hw⟩ => ⟨by rw [he]; simp, hw⟩

theorem dec_under {m : Nat} {l : List Nat} (h : l.all (fun x => decide (x < m)) = true) : Under m l := by
  intro x hx
  exact of_decide_eq_true (List.all_eq_true.1 h x hx)

/-- a row, its value written out at a length that is known -/
theorem Row.opens {k : IntKind} {m : Nat} {w : World} {v : Value} {l : List Nat} (h : Row k m w v l) {N : Nat} (hN : l.length = N) :
    ∃ a cap, v = .slice a N cap ∧ N ≤ cap ∧ cap ≤ 9223372036854775807 ∧ (0 < N → ∃ b off, a = some ⟨b, off, none⟩ ∧ ∀ i, i < N → w.cell? ⟨b, off + i, none⟩ = some (.int k (el l i))) := by
  obtain ⟨a, cap, rfl, h1, h2, h3, h4⟩ := h
  subst hN
  unfold maxLen at h2
  exact ⟨a, cap, rfl, h1, by omega, h3⟩

/-- a text cut off behind so many bytes -/
theorem Row.cut {k : IntKind} {m : Nat} {w : World} {a : Option Addr} {n cap : Nat} {l : List Nat} (h : Row k m w (.slice a n cap) l) {M : Nat} (hM : M ≤ l.length) : Row k m w (.slice a M cap) (l.take M) := by
  obtain ⟨a', cap', he, h1, h2, h3, h4⟩ := h
  simp at he
  obtain ⟨rfl, rfl, rfl⟩ := he
  refine ⟨_, cap, by rw [List.length_take_of_le hM], by rw [List.length_take_of_le hM]; omega, h2, ?_, fun x hx => h4 x (List.mem_of_mem_take hx)⟩
  intro hp
  rw [List.length_take_of_le hM] at hp
  obtain ⟨b, off, rfl, hc⟩ := h3 (by omega)
  refine ⟨b, off, rfl, fun i hi => ?_⟩
  rw [List.length_take_of_le hM] at hi
  have e1 : i < (l.take M).length := by rw [List.length_take_of_le hM]; exact hi
  have e2 : i < l.length := by omega
  rw [el_at e1, List.getElem_take, ← el_at e2]
  exact hc i e2

theorem Row.under {k : IntKind} {m : Nat} {w : World} {v : Value} {l : List Nat} (h : Row k m w v l) : Under m l := by
  obtain ⟨_, _, _, _, _, _, h⟩ := h
  exact h
theorem Under.append {m : Nat} {a b : List Nat} (ha : Under m a) (hb : Under m b) : Under m (a ++ b) := by
  intro x hx
  rcases List.mem_append.1 hx with h | h
  · exact ha x h
  · exact hb x h
theorem Under.one {m x : Nat} (h : x < m) : Under m [x] := by intro y hy; simp at hy; omega
/-- a new row of one number -/
theorem one_own (e : TypeId) (k : IntKind) (m x : Nat) (w : World) (B : Nat) (hB : B ≤ w.heap.size) :
    (w.alloc (.cells #[.int k (x : Int)] e)).ownsRow B e 1 (.slice (some ⟨w.heap.size, 0, none⟩) 1 1) 1 (vals k [x]) :=
  World.ownsRow_lit (base := B) (e := e) (size := 1) w #[.int k (x : Int)] 1 hB (by decide) rfl
theorem nat_quo (n k : Nat) : (n : Int) / (k : Int) = ((n / k : Nat) : Int) := by simp
theorem nat_rem (n k : Nat) : (n : Int) % (k : Int) = ((n % k : Nat) : Int) := by simp
theorem row_form {w : World} {base : Nat} {e : TypeId} {v : Value} {n : Nat} {xs : List Value} (h : w.ownsRow base e 1 v n xs) (hn : 0 < n) :
    ∃ g cap, v = .slice (some ⟨g, 0, none⟩) n cap ∧ base ≤ g ∧ n ≤ cap ∧ cap ≤ maxLen := by
  obtain ⟨_, ⟨_, h0⟩ | ⟨g, cap, cur, rfl, h1, _, h2, h3, _⟩⟩ := h
  · omega
  · exact ⟨g, cap, rfl, h1, h2, h3⟩
theorem app_cells (w : World) (k : IntKind) (x : Nat) (y : Int) (e : TypeId) (hy : y = (x : Int)) : ∀ j u, (vals k [x])[j]? = some u → (w.alloc (.cells #[.int k y] e)).cell? ((⟨w.heap.size, 0, none⟩ : Addr).add j) = some u := by
  subst hy
  exact cells_new w _ e
theorem own_nil (e : TypeId) (k : IntKind) (m : Nat) (w : World) (B : Nat) : Own e k m w B (.slice none 0 0) [] := ⟨World.ownsRow_nil _ _ _ _, fun x hx => by simp at hx⟩
theorem take_el {l : List Nat} {k : Nat} (h : k < l.length) : l.take (k + 1) = l.take k ++ [el l k] := by
  rw [List.take_succ_eq_append_getElem h, el_at h]
theorem el_drop (l : List Nat) (k i : Nat) : el (l.drop k) i = el l (k + i) := by unfold el; rw [List.getElem?_drop]
theorem own_kept {w w' : World} {B : Nat} {e : TypeId} {v : Value} {n : Nat} {xs : List Value} (h : w.ownsRow B e 1 v n xs) (hb : Below w.heap.size w w') : w'.ownsRow B e 1 v n xs := by
  obtain ⟨h1, h2 | ⟨g, cap, cur, rfl, h3, h4, h5⟩⟩ := h
  · exact ⟨h1, .inl h2⟩
  · have hlt : g < w.heap.size := by
      rcases Nat.lt_or_ge g w.heap.size with hlt | hge
      · exact hlt
      · rw [Array.getElem?_eq_none hge] at h4; cases h4
    exact ⟨h1, .inr ⟨g, cap, cur, rfl, h3, by rw [hb.block g hlt]; exact h4, h5⟩⟩
theorem two_own (e : TypeId) (k : IntKind) (x y : Nat) (w : World) (B : Nat) (hB : B ≤ w.heap.size) :
    (w.alloc (.cells #[.int k (x : Int), .int k (y : Int)] e)).ownsRow B e 1 (.slice (some ⟨w.heap.size, 0, none⟩) 2 2) 2 (vals k [x, y]) :=
  World.ownsRow_lit (base := B) (e := e) (size := 1) w #[.int k (x : Int), .int k (y : Int)] 2 hB (by decide) rfl
theorem drop_el {l : List Nat} {k : Nat} (h : k < l.length) : l.drop k = el l k :: l.drop (k + 1) := by
  rw [List.drop_eq_getElem_cons h, el_at h]
end Go.Proofs.Ytiedkpfpaeecfaa

/- Contracts of bits.Num, apostilleref01.Num. -/
namespace Go.Proofs.Ytiedkpfpaeecfaa
open Go.RowKit
set_option linter.unusedVariables false

/-- the number of bytes, the highest first, modulo 2^64 -/
def numL (l : List Nat) : Nat := l.foldl (fun n x => (n * 256 + x) % 18446744073709551616) 0

theorem take_snoc {l : List Nat} {k : Nat} (h : k < l.length) : l.take (k + 1) = l.take k ++ [el l k] := by
  rw [List.take_succ_eq_append_getElem h, el_at h]

theorem numL_snoc (l : List Nat) (x : Nat) : numL (l ++ [x]) = (numL l * 256 + x) % 18446744073709551616 := by
  unfold numL; rw [List.foldl_append]; rfl

theorem numL_lt (l : List Nat) : numL l < 18446744073709551616 := by
  rcases List.eq_nil_or_concat l with rfl | ⟨m, x, rfl⟩
  · decide
  · rw [List.concat_eq_append, numL_snoc]; exact Nat.mod_lt _ (by decide)

theorem step_num (N x : Nat) (hN : N < 18446744073709551616) (hx : x < 256) :
    bits .or .u64 (IntKind.u64.wrap ((N : Int) * 256)) (x : Int) = (((N * 256 + x) % 18446744073709551616 : Nat) : Int) := by
  have e : IntKind.u64.wrap ((N : Int) * 256) = ((N * 256 % 18446744073709551616 : Nat) : Int) := by
    rw [IntKind.wrap_u64]; omega
  rw [e, u64_or_nat _ _ (Nat.mod_lt _ (by decide)) (by omega), nat_join 8 _ _ (by omega) (by omega)]
  congr 1
  omega

end Go.Proofs.Ytiedkpfpaeecfaa

/- Contract of bits.Le. -/
namespace Go.Proofs.Ytiedkpfpaeecfaa
open Go.RowKit
set_option linter.unusedVariables false

/-- the bytes of a number, the lowest first -/
def leL (n size : Nat) : List Nat := (List.range size).map (fun i => n / 256 ^ i % 256)
def leTo (n size k : Nat) : List Nat := (List.range size).map (fun i => if i < k then n / 256 ^ i % 256 else 0)

theorem leTo_zero (n size : Nat) : leTo n size 0 = List.replicate size 0 := by
  apply List.ext_getElem <;> simp [leTo]
theorem leTo_length (n size k : Nat) : (leTo n size k).length = size := by simp [leTo]
theorem leTo_set (n size k : Nat) : (leTo n size k).set k (n / 256 ^ k % 256) = leTo n size (k + 1) := by
  apply List.ext_getElem
  · simp [leTo]
  · intro i h1 h2
    simp only [leTo, List.getElem_set, List.getElem_map, List.getElem_range]
    by_cases h : k = i
    · subst h; simp
    · simp [h]; by_cases h3 : i < k
      · simp [h3, show i < k + 1 by omega]
      · simp [h3, show ¬ i < k + 1 by omega]
theorem leTo_full (n size k : Nat) (hn : n < 18446744073709551616) (h : k = size ∨ 8 ≤ k) : leTo n size k = leL n size := by
  unfold leTo leL
  apply List.map_congr_left
  intro i hi
  have hi' : i < size := List.mem_range.1 hi
  by_cases h1 : i < k
  · simp [h1]
  · have h8 : 8 ≤ i := by omega
    have h3 : 256 ^ 8 ≤ 256 ^ i := Nat.pow_le_pow_right (by decide) h8
    have h4 : (256 : Nat) ^ 8 = 18446744073709551616 := by decide
    rw [Nat.div_eq_of_lt (by omega)]
    simp
theorem leTo_under (n size k : Nat) : Under 256 (leTo n size k) := by
  intro x hx
  obtain ⟨i, _, rfl⟩ := List.mem_map.1 hx
  split <;> omega

theorem byte_shr (n k : Nat) : (n : Int) / 2 ^ (8 * k) % 256 = ((n / 256 ^ k % 256 : Nat) : Int) := by
  rw [show (256 : Nat) ^ k = 2 ^ (8 * k) from by rw [Nat.pow_mul]]
  simp

/-- what Le tells -/
def leS (n : Nat) (size : Int) : List Nat := if size ≤ 0 ∨ 65536 < size then [] else leL n size.toNat

end Go.Proofs.Ytiedkpfpaeecfaa
