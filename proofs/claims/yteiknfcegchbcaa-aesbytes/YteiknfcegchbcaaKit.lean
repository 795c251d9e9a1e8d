/- Small words for walks over rows. -/
import Derived.Test.YteiknfcegchbcaaOwn
import Derived.Test.YteiknfcegchbcaaSame
namespace Go.Proofs.Yteiknfcegchbcaa
open Go.RowKit
set_option linter.unusedVariables false

theorem keep_trans {a b c : World} (h : Below a.heap.size a b) (k : Below b.heap.size b c) : Below a.heap.size a c := h.trans (k.mono h.size)
theorem keep_alloc (w : World) (o : Obj) : Below w.heap.size w (w.alloc o) := (Below.refl _ _).alloc (Nat.le_refl _) o

theorem lit_row (k : IntKind) (m : Nat) (w : World) (l : List Nat) (t : TypeId) (hu : Under m l) (hl : l.length ≤ maxLen) :
    Row k m (w.alloc (.cells (vals k l).toArray t)) (.slice (some ⟨w.heap.size, 0, none⟩) l.length l.length) l := by
  refine ⟨_, _, rfl, Nat.le_refl _, hl, fun _ => ⟨_, _, rfl, fun i hi => ?_⟩, hu⟩
  rw [World.cell?_alloc_at _ _ _ _ rfl]
  rw [Nat.zero_add, List.getElem?_toArray, vals_get k l i hi]

theorem rsame_b (va vb : Value) (l m : List Nat) (w : World) (ha : Row .u8 256 w va l) (hb : Row .u8 256 w vb m) :
    Calls Try.prog 12 #[va, vb] w fun e w' => e = .returned (.bool (decide (l = m))) ∧ Below w.heap.size w w' :=
  (rsame_any va vb l m w ha hb).mono fun _ _ ⟨he, n, hw⟩ => ⟨he, by rw [hw]; exact below_drewN (Below.refl _ _) n⟩

theorem rsame_true (va vb : Value) (l : List Nat) (w : World) (ha : Row .u8 256 w va l) (hb : Row .u8 256 w vb l) :
    Calls Try.prog 12 #[va, vb] w fun e w' => e = .returned (.bool true) ∧ Below w.heap.size w w' :=
  (rsame_b va vb l l w ha hb).mono fun _ _ ⟨he, hw⟩ => ⟨by rw [he]; simp, hw⟩

theorem dec_under {m : Nat} {l : List Nat} (h : l.all (fun x => decide (x < m)) = true) : Under m l := by
  intro x hx
  exact of_decide_eq_true (List.all_eq_true.1 h x hx)

/-- a row, its value written out at a length that is known -/
theorem Row.opens {k : IntKind} {m : Nat} {w : World} {v : Value} {l : List Nat} (h : Row k m w v l) {N : Nat} (hN : l.length = N) :
    ∃ a cap, v = .slice a N cap ∧ N ≤ cap ∧ cap ≤ 9223372036854775807 ∧ (0 < N → ∃ b off, a = some ⟨b, off, none⟩ ∧ ∀ i, i < N → w.cell? ⟨b, off + i, none⟩ = some (.int k (el l i))) := by
  obtain ⟨a, cap, rfl, h1, h2, h3, h4⟩ := h
  subst hN
  unfold maxLen at h2
  exact ⟨a, cap, rfl, h1, by omega, h3⟩

/-- a text cut off behind so many bytes -/
theorem Row.cut {k : IntKind} {m : Nat} {w : World} {a : Option Addr} {n cap : Nat} {l : List Nat} (h : Row k m w (.slice a n cap) l) {M : Nat} (hM : M ≤ l.length) : Row k m w (.slice a M cap) (l.take M) := by
  obtain ⟨a', cap', he, h1, h2, h3, h4⟩ := h
  simp at he
  obtain ⟨rfl, rfl, rfl⟩ := he
  refine ⟨_, cap, by rw [List.length_take_of_le hM], by rw [List.length_take_of_le hM]; omega, h2, ?_, fun x hx => h4 x (List.mem_of_mem_take hx)⟩
  intro hp
  rw [List.length_take_of_le hM] at hp
  obtain ⟨b, off, rfl, hc⟩ := h3 (by omega)
  refine ⟨b, off, rfl, fun i hi => ?_⟩
  rw [List.length_take_of_le hM] at hi
  have e1 : i < (l.take M).length := by rw [List.length_take_of_le hM]; exact hi
  have e2 : i < l.length := by omega
  rw [el_at e1, List.getElem_take, ← el_at e2]
  exact hc i e2

theorem Row.under {k : IntKind} {m : Nat} {w : World} {v : Value} {l : List Nat} (h : Row k m w v l) : Under m l := by
  obtain ⟨_, _, _, _, _, _, h⟩ := h
  exact h
theorem Under.append {m : Nat} {a b : List Nat} (ha : Under m a) (hb : Under m b) : Under m (a ++ b) := by
  intro x hx
  rcases List.mem_append.1 hx with h | h
  · exact ha x h
  · exact hb x h
theorem Under.one {m x : Nat} (h : x < m) : Under m [x] := by intro y hy; simp at hy; omega
/-- a new row of one number -/
theorem one_own (e : TypeId) (k : IntKind) (m x : Nat) (w : World) (B : Nat) (hB : B ≤ w.heap.size) :
    (w.alloc (.cells #[.int k (x : Int)] e)).ownsRow B e 1 (.slice (some ⟨w.heap.size, 0, none⟩) 1 1) 1 (vals k [x]) :=
  World.ownsRow_lit (base := B) (e := e) (size := 1) w #[.int k (x : Int)] 1 hB (by decide) rfl
theorem nat_quo (n k : Nat) : (n : Int) / (k : Int) = ((n / k : Nat) : Int) := by simp
theorem nat_rem (n k : Nat) : (n : Int) % (k : Int) = ((n % k : Nat) : Int) := by simp
theorem row_form {w : World} {base : Nat} {e : TypeId} {v : Value} {n : Nat} {xs : List Value} (h : w.ownsRow base e 1 v n xs) (hn : 0 < n) :
    ∃ g cap, v = .slice (some ⟨g, 0, none⟩) n cap ∧ base ≤ g ∧ n ≤ cap ∧ cap ≤ maxLen := by
  obtain ⟨_, ⟨_, h0⟩ | ⟨g, cap, cur, rfl, h1, _, h2, h3, _⟩⟩ := h
  · omega
  · exact ⟨g, cap, rfl, h1, h2, h3⟩
theorem app_cells (w : World) (k : IntKind) (x : Nat) (y : Int) (e : TypeId) (hy : y = (x : Int)) : ∀ j u, (vals k [x])[j]? = some u → (w.alloc (.cells #[.int k y] e)).cell? ((⟨w.heap.size, 0, none⟩ : Addr).add j) = some u := by
  subst hy
  exact cells_new w _ e
theorem own_nil (e : TypeId) (k : IntKind) (m : Nat) (w : World) (B : Nat) : Own e k m w B (.slice none 0 0) [] := ⟨World.ownsRow_nil _ _ _ _, fun x hx => by simp at hx⟩
theorem take_el {l : List Nat} {k : Nat} (h : k < l.length) : l.take (k + 1) = l.take k ++ [el l k] := by
  rw [List.take_succ_eq_append_getElem h, el_at h]
theorem el_drop (l : List Nat) (k i : Nat) : el (l.drop k) i = el l (k + i) := by unfold el; rw [List.getElem?_drop]
theorem own_kept {w w' : World} {B : Nat} {e : TypeId} {v : Value} {n : Nat} {xs : List Value} (h : w.ownsRow B e 1 v n xs) (hb : Below w.heap.size w w') : w'.ownsRow B e 1 v n xs := by
  obtain ⟨h1, h2 | ⟨g, cap, cur, rfl, h3, h4, h5⟩⟩ := h
  · exact ⟨h1, .inl h2⟩
  · have hlt : g < w.heap.size := by
      rcases Nat.lt_or_ge g w.heap.size with hlt | hge
      · exact hlt
      · rw [Array.getElem?_eq_none hge] at h4; cases h4
    exact ⟨h1, .inr ⟨g, cap, cur, rfl, h3, by rw [hb.block g hlt]; exact h4, h5⟩⟩
theorem two_own (e : TypeId) (k : IntKind) (x y : Nat) (w : World) (B : Nat) (hB : B ≤ w.heap.size) :
    (w.alloc (.cells #[.int k (x : Int), .int k (y : Int)] e)).ownsRow B e 1 (.slice (some ⟨w.heap.size, 0, none⟩) 2 2) 2 (vals k [x, y]) :=
  World.ownsRow_lit (base := B) (e := e) (size := 1) w #[.int k (x : Int), .int k (y : Int)] 2 hB (by decide) rfl
theorem drop_el {l : List Nat} {k : Nat} (h : k < l.length) : l.drop k = el l k :: l.drop (k + 1) := by
  rw [List.drop_eq_getElem_cons h, el_at h]
end Go.Proofs.Yteiknfcegchbcaa
