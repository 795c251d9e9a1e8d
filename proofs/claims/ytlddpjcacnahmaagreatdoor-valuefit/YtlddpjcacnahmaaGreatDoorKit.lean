/- Small words for walks over rows. -/
import Derived.Test.YtlddpjcacnahmaaGreatDoorBase
import Derived.Test.YtlddpjcacnahmaaGreatDoorDerM
import Derived.Deep.Slices
import Derived.ChangeSame
import Derived.OpenShut
import Derived.Lib.ItoaNum
import Derived.Lib.UnsafeStr
import Derived.Lib.SplitLaws
import Derived.Laws.IdiomStrings
namespace Go.Proofs.YtlddpjcacnahmaaGreatDoor
open Go.RowKit
set_option linter.unusedVariables false

theorem keep_trans {a b c : World} (h : Below a.heap.size a b) (k : Below b.heap.size b c) : Below a.heap.size a c := h.trans (k.mono h.size)
theorem keep_alloc (w : World) (o : Obj) : Below w.heap.size w (w.alloc o) := (Below.refl _ _).alloc (Nat.le_refl _) o

theorem lit_row (k : IntKind) (m : Nat) (w : World) (l : List Nat) (t : TypeId) (hu : Under m l) (hl : l.length ≤ maxLen) :
    Row k m (w.alloc (.cells (vals k l).toArray t)) (.slice (some ⟨w.heap.size, 0, none⟩) l.length l.length) l := by
  refine ⟨_, _, rfl, Nat.le_refl _, hl, fun _ => ⟨_, _, rfl, fun i hi => ?_⟩, hu⟩
  rw [World.cell?_alloc_at _ _ _ _ rfl]
  rw [Nat.zero_add, List.getElem?_toArray, vals_get k l i hi]

theorem rsame_b (va vb : Value) (l m : List Nat) (w : World) (ha : Row .u8 256 w va l) (hb : Row .u8 256 w vb m) :
    Calls Tryz.prog 32 #[va, vb] w fun e w' => e = .returned (.bool (decide (l = m))) ∧ Below w.heap.size w w' :=
  (rsame_any va vb l m w ha hb).mono fun _ _ ⟨he, n, hw⟩ => ⟨he, by rw [hw]; exact below_drewN (Below.refl _ _) n⟩

theorem rsame_true (va vb : Value) (l : List Nat) (w : World) (ha : Row .u8 256 w va l) (hb : Row .u8 256 w vb l) :
    Calls Tryz.prog 32 #[va, vb] w fun e w' => e = .returned (.bool true) ∧ Below w.heap.size w w' :=
  (rsame_b va vb l l w ha hb).mono fun _ _ ⟨he, hw⟩ => ⟨by rw [he]; simp, hw⟩

theorem dec_under {m : Nat} {l : List Nat} (h : l.all (fun x => decide (x < m)) = true) : Under m l := by
  intro x hx
  exact of_decide_eq_true (List.all_eq_true.1 h x hx)

/-- a row, its value written out at a length that is known -/
theorem Row.opens {k : IntKind} {m : Nat} {w : World} {v : Value} {l : List Nat} (h : Row k m w v l) {N : Nat} (hN : l.length = N) :
    ∃ a cap, v = .slice a N cap ∧ N ≤ cap ∧ cap ≤ 9223372036854775807 ∧ (0 < N → ∃ b off, a = some ⟨b, off, none⟩ ∧ ∀ i, i < N → w.cell? ⟨b, off + i, none⟩ = some (.int k (el l i))) := by
  obtain ⟨a, cap, rfl, h1, h2, h3, h4⟩ := h
  subst hN
  unfold maxLen at h2
  exact ⟨a, cap, rfl, h1, by omega, h3⟩

/-- a text cut off behind so many bytes -/
theorem Row.cut {k : IntKind} {m : Nat} {w : World} {a : Option Addr} {n cap : Nat} {l : List Nat} (h : Row k m w (.slice a n cap) l) {M : Nat} (hM : M ≤ l.length) : Row k m w (.slice a M cap) (l.take M) := by
  obtain ⟨a', cap', he, h1, h2, h3, h4⟩ := h
  simp at he
  obtain ⟨rfl, rfl, rfl⟩ := he
  refine ⟨_, cap, by rw [List.length_take_of_le hM], by rw [List.length_take_of_le hM]; omega, h2, ?_, fun x hx => h4 x (List.mem_of_mem_take hx)⟩
  intro hp
  rw [List.length_take_of_le hM] at hp
  obtain ⟨b, off, rfl, hc⟩ := h3 (by omega)
  refine ⟨b, off, rfl, fun i hi => ?_⟩
  rw [List.length_take_of_le hM] at hi
  have e1 : i < (l.take M).length := by rw [List.length_take_of_le hM]; exact hi
  have e2 : i < l.length := by omega
  rw [el_at e1, List.getElem_take, ← el_at e2]
  exact hc i e2

theorem Row.under {k : IntKind} {m : Nat} {w : World} {v : Value} {l : List Nat} (h : Row k m w v l) : Under m l := by
  obtain ⟨_, _, _, _, _, _, h⟩ := h
  exact h
theorem Under.append {m : Nat} {a b : List Nat} (ha : Under m a) (hb : Under m b) : Under m (a ++ b) := by
  intro x hx
  rcases List.mem_append.1 hx with h | h
  · exact ha x h
  · exact hb x h
theorem Under.one {m x : Nat} (h : x < m) : Under m [x] := by intro y hy; simp at hy; omega
/-- a new row of one number -/
theorem one_own (e : TypeId) (k : IntKind) (m x : Nat) (w : World) (B : Nat) (hB : B ≤ w.heap.size) :
    (w.alloc (.cells #[.int k (x : Int)] e)).ownsRow B e 1 (.slice (some ⟨w.heap.size, 0, none⟩) 1 1) 1 (vals k [x]) :=
  World.ownsRow_lit (base := B) (e := e) (size := 1) w #[.int k (x : Int)] 1 hB (by decide) rfl
theorem nat_quo (n k : Nat) : (n : Int) / (k : Int) = ((n / k : Nat) : Int) := by simp
theorem nat_rem (n k : Nat) : (n : Int) % (k : Int) = ((n % k : Nat) : Int) := by simp
theorem row_form {w : World} {base : Nat} {e : TypeId} {v : Value} {n : Nat} {xs : List Value} (h : w.ownsRow base e 1 v n xs) (hn : 0 < n) :
    ∃ g cap, v = .slice (some ⟨g, 0, none⟩) n cap ∧ base ≤ g ∧ n ≤ cap ∧ cap ≤ maxLen := by
  obtain ⟨_, ⟨_, h0⟩ | ⟨g, cap, cur, rfl, h1, _, h2, h3, _⟩⟩ := h
  · omega
  · exact ⟨g, cap, rfl, h1, h2, h3⟩
theorem app_cells (w : World) (k : IntKind) (x : Nat) (y : Int) (e : TypeId) (hy : y = (x : Int)) : ∀ j u, (vals k [x])[j]? = some u → (w.alloc (.cells #[.int k y] e)).cell? ((⟨w.heap.size, 0, none⟩ : Addr).add j) = some u := by
  subst hy
  exact cells_new w _ e
theorem own_nil (e : TypeId) (k : IntKind) (m : Nat) (w : World) (B : Nat) : Own e k m w B (.slice none 0 0) [] := ⟨World.ownsRow_nil _ _ _ _, fun x hx => by simp at hx⟩
theorem take_el {l : List Nat} {k : Nat} (h : k < l.length) : l.take (k + 1) = l.take k ++ [el l k] := by
  rw [List.take_succ_eq_append_getElem h, el_at h]
theorem el_drop (l : List Nat) (k i : Nat) : el (l.drop k) i = el l (k + i) := by unfold el; rw [List.getElem?_drop]
theorem own_kept {w w' : World} {B : Nat} {e : TypeId} {v : Value} {n : Nat} {xs : List Value} (h : w.ownsRow B e 1 v n xs) (hb : Below w.heap.size w w') : w'.ownsRow B e 1 v n xs := by
  obtain ⟨h1, h2 | ⟨g, cap, cur, rfl, h3, h4, h5⟩⟩ := h
  · exact ⟨h1, .inl h2⟩
  · have hlt : g < w.heap.size := by
      rcases Nat.lt_or_ge g w.heap.size with hlt | hge
      · exact hlt
      · rw [Array.getElem?_eq_none hge] at h4; cases h4
    exact ⟨h1, .inr ⟨g, cap, cur, rfl, h3, by rw [hb.block g hlt]; exact h4, h5⟩⟩
theorem two_own (e : TypeId) (k : IntKind) (x y : Nat) (w : World) (B : Nat) (hB : B ≤ w.heap.size) :
    (w.alloc (.cells #[.int k (x : Int), .int k (y : Int)] e)).ownsRow B e 1 (.slice (some ⟨w.heap.size, 0, none⟩) 2 2) 2 (vals k [x, y]) :=
  World.ownsRow_lit (base := B) (e := e) (size := 1) w #[.int k (x : Int), .int k (y : Int)] 2 hB (by decide) rfl
theorem drop_el {l : List Nat} {k : Nat} (h : k < l.length) : l.drop k = el l k :: l.drop (k + 1) := by
  rw [List.drop_eq_getElem_cons h, el_at h]
end Go.Proofs.YtlddpjcacnahmaaGreatDoor

/- Values in memory: a node and its parts; how they are read. -/
namespace Go.Proofs.YtlddpjcacnahmaaGreatDoor
open Go.RowKit Go.Deep
set_option linter.unusedVariables false

/-- three cells in a row -/
def Cell3 (w : World) (b o : Nat) (c0 c1 c2 : Value) : Prop := w.cell? ⟨b, o, none⟩ = some c0 ∧ w.cell? ⟨b, o + 1, none⟩ = some c1 ∧ w.cell? ⟨b, o + 2, none⟩ = some c2
theorem Cell3.below {w w' : World} {b o : Nat} {c0 c1 c2 : Value} (h : Cell3 w b o c0 c1 c2) (hb : Below w.heap.size w w') : Cell3 w' b o c0 c1 c2 := by
  obtain ⟨h0, h1, h2⟩ := h
  have hlt := World.block_lt_of_cell? w _ h0
  refine ⟨?_, ?_, ?_⟩
  · rw [hb.cell (p := ⟨b, o, none⟩) hlt]; exact h0
  · rw [hb.cell (p := ⟨b, o + 1, none⟩) hlt]; exact h1
  · rw [hb.cell (p := ⟨b, o + 2, none⟩) hlt]; exact h2
/-- the part at a place -/
def kx (ks : List Nd) (i : Nat) : Nd := ks[i]?.getD (.mk 0 [] [])
theorem kx_at {ks : List Nd} {i : Nat} (h : i < ks.length) : kx ks i = ks[i] := by unfold kx; rw [List.getElem?_eq_getElem h]; rfl
def I64 (t : Int) : Prop := -9223372036854775808 ≤ t ∧ t ≤ 9223372036854775807
/-- a slice of nodes, each of which is so -/
def KidsAt (N : Value → Value → Value → Nd → Prop) (w : World) (v : Value) (ks : List Nd) : Prop :=
  ∃ a cap, v = .slice a ks.length cap ∧ ks.length ≤ cap ∧ cap ≤ maxLen ∧ (0 < ks.length → ∃ b off, a = some ⟨b, off, none⟩ ∧ ∀ i, i < ks.length → ∃ c0 c1 c2, Cell3 w b (off + i * 3) c0 c1 c2 ∧ N c0 c1 c2 (kx ks i))
/-- three cells are a node, of at most so many layers -/
def NdAt (w : World) : Nat → Value → Value → Value → Nd → Prop
  | 0, _, _, _, _ => False
  | d + 1, ct, cb, ck, .mk t b ks => ct = .int .i64 t ∧ I64 t ∧ Row .u8 256 w cb b ∧ Tidy cb ∧ Tidy ck ∧ KidsAt (NdAt w d) w ck ks
theorem NdAt.below {w w' : World} (hb : Below w.heap.size w w') : ∀ (d : Nat) (c0 c1 c2 : Value) (x : Nd), NdAt w d c0 c1 c2 x → NdAt w' d c0 c1 c2 x := by
  intro d
  induction d with
  | zero => intro c0 c1 c2 x h; exact h.elim
  | succ d ih =>
    rintro c0 c1 c2 ⟨t, b, ks⟩ ⟨h1, h2, h3, h4, h5, a, cap, h6, h7, h8, h9⟩
    refine ⟨h1, h2, h3.below hb, h4, h5, a, cap, h6, h7, h8, fun hl => ?_⟩
    obtain ⟨bl, off, e, hc⟩ := h9 hl
    refine ⟨bl, off, e, fun i hi => ?_⟩
    obtain ⟨k0, k1, k2, k3, k4⟩ := hc i hi
    exact ⟨k0, k1, k2, k3.below hb, ih _ _ _ _ k4⟩
theorem NdAt.more {w : World} : ∀ (d : Nat) (c0 c1 c2 : Value) (x : Nd), NdAt w d c0 c1 c2 x → NdAt w (d + 1) c0 c1 c2 x := by
  intro d
  induction d with
  | zero => intro c0 c1 c2 x h; exact h.elim
  | succ d ih =>
    rintro c0 c1 c2 ⟨t, b, ks⟩ ⟨h1, h2, h3, h4, h5, a, cap, h6, h7, h8, h9⟩
    refine ⟨h1, h2, h3, h4, h5, a, cap, h6, h7, h8, fun hl => ?_⟩
    obtain ⟨bl, off, e, hc⟩ := h9 hl
    refine ⟨bl, off, e, fun i hi => ?_⟩
    obtain ⟨k0, k1, k2, k3, k4⟩ := hc i hi
    exact ⟨k0, k1, k2, k3, ih _ _ _ _ k4⟩
theorem NdAt.le {w : World} {d d' : Nat} (h : d ≤ d') {c0 c1 c2 : Value} {x : Nd} (hx : NdAt w d c0 c1 c2 x) : NdAt w d' c0 c1 c2 x := by
  induction h with
  | refl => exact hx
  | step _ ih => exact NdAt.more _ _ _ _ _ ih
/-- a node -/
def Node (w : World) (v : Value) (x : Nd) : Prop := ∃ d c0 c1 c2, v = .agg #[c0, c1, c2] ∧ NdAt w d c0 c1 c2 x
theorem Node.below {w w' : World} {v : Value} {x : Nd} (h : Node w v x) (hb : Below w.heap.size w w') : Node w' v x := by
  obtain ⟨d, c0, c1, c2, h1, h2⟩ := h
  exact ⟨d, c0, c1, c2, h1, h2.below hb⟩

theorem Tryz.cellsN : Tryz.prog.cellsOf 28 = 3 := by kernel_rfl
theorem Tryz.cellsI : Tryz.prog.cellsOf 3 = 1 := by kernel_rfl
theorem Tryz.cellsB : Tryz.prog.cellsOf 22 = 1 := by kernel_rfl
theorem Tryz.cellsK : Tryz.prog.cellsOf 26 = 1 := by kernel_rfl
theorem add_form (b o : Nat) (j : Nat) : (⟨b, o, none⟩ : Addr).add j = ⟨b, o + j, none⟩ := Addr.add_lit ..
end Go.Proofs.YtlddpjcacnahmaaGreatDoor

/- How a node that came in is read. -/
namespace Go.Proofs.YtlddpjcacnahmaaGreatDoor
open Go.ChangeShapes Go.WideShapes Go.ChangeAt Go.RowKit Go.Deep
set_option linter.unusedVariables false

theorem wf_i64' {t : Int} (h : (Lit.int .i64 t).wf = true) : I64 t := by
  have h' := h
  simp only [Lit.wf, Bool.and_eq_true, decide_eq_true_eq] at h'
  have hmin : IntKind.i64.min = -9223372036854775808 := rfl
  have hmax : IntKind.i64.max = 9223372036854775807 := rfl
  unfold I64
  omega
theorem max_below (f : Nat → Nat) (n : Nat) : ∃ D, ∀ i, i < n → f i ≤ D := by
  induction n with
  | zero => exact ⟨0, fun i hi => by omega⟩
  | succ n ih =>
    obtain ⟨D, hD⟩ := ih
    refine ⟨max D (f n), fun i hi => ?_⟩
    by_cases he : i = n
    · subst he; omega
    · have := hD i (by omega); omega
/-- a node that is read -/
theorem read_cells {H : Type} {enc : TypeId × Value → H} {W : World} : ∀ (fuel : Nat) (c0 c1 c2 : Value) (x : DataW H × List MemPlace),
    DataW.trod enc Tryz.prog W 0 (fun _ => true) true fuel 28 [c0, c1, c2] = some x → ∃ d n, NdAt W d c0 c1 c2 n := by
  intro fuel
  induction fuel using Nat.strongRecOn with
  | ind fuel ih =>
    intro c0 c1 c2 x h
    obtain ⟨xs, n, hfu, _, _, hlen, hf⟩ := DataW.trod_struct Tryz.underlying28 h
    have hlen' : xs.length = 3 := hlen
    match xs, hlen' with
    | [y0, y1, y2], _ =>
      have g0 := hf 0 _ rfl
      have g1 := hf 1 _ rfl
      have g2 := hf 2 _ rfl
      simp [Tryz.cellsI, Tryz.cellsB, Tryz.cellsK] at g0 g1 g2
      obtain ⟨t, e0, _, hw⟩ := DataW.trod_int Tryz.underlying3 g0
      obtain ⟨b, hrow, htb⟩ := read_text g1
      simp at e0
      subst e0
      rcases DataW.trod_slice Tryz.underlying26 g2 with ⟨hcs, _⟩ | ⟨a, len, cap, elems, rest, m, hfm, hcs, _, _, hl, hm, hel, hx, _⟩
      · simp at hcs
        subst hcs
        exact ⟨1, .mk t b [], rfl, wf_i64' hw, hrow, htb, fun n c he => by simp at he; omega, none, 0, rfl, Nat.le_refl _, Nat.zero_le _, fun h => by simp at h⟩
      · simp at hcs
        subst hcs
        rw [Tryz.cellsN] at hx
        have each : ∀ i, i < len → ∃ q : Nat × Nd, ∃ k0 k1 k2, W.cell? (a.add (i * 3)) = some k0 ∧ W.cell? (a.add (i * 3 + 1)) = some k1 ∧ W.cell? (a.add (i * 3 + 2)) = some k2 ∧ NdAt W q.1 k0 k1 k2 q.2 := by
          intro i hi
          have h1 := hx i hi
          rw [List.getElem?_eq_getElem (by omega)] at h1
          obtain ⟨cs', h2, h3⟩ := Option.bind_eq_some_iff.1 h1
          obtain ⟨_, hcl, hcell⟩ := World.cells?_some h2
          match cs', hcl with
          | [k0, k1, k2], _ =>
            obtain ⟨d, nd, hnd⟩ := ih m (by omega) k0 k1 k2 _ h3
            have e0 := hcell 0 (by omega)
            have e1 := hcell 1 (by omega)
            have e2 := hcell 2 (by omega)
            rw [add_add] at e0 e1 e2
            exact ⟨(d, nd), k0, k1, k2, by simpa using e0, by simpa using e1, by simpa using e2, hnd⟩
        have : Inhabited (Nat × Nd) := ⟨(0, .mk 0 [] [])⟩
        obtain ⟨q, hq⟩ := choose_lt (α := Nat × Nd) each
        obtain ⟨D, hD⟩ := max_below (fun i => (q i).1) len
        have hkl : ((List.range len).map fun i => (q i).2).length = len := by simp
        refine ⟨D + 1, .mk t b ((List.range len).map fun i => (q i).2), rfl, wf_i64' hw, hrow, htb, fun n c he => by simp at he, some a, cap, by rw [hkl], by rw [hkl]; exact hl, hm, fun hp => ?_⟩
        rw [hkl] at hp
        obtain ⟨b0, off, spot⟩ := a
        obtain ⟨k0, k1, k2, h0, _⟩ := hq 0 hp
        have hspot : spot = none := by simpa [Addr.add] using World.cell?_spot h0
        subst hspot
        refine ⟨b0, off, rfl, fun i hi => ?_⟩
        rw [hkl] at hi
        obtain ⟨k0, k1, k2, h0, h1, h2, h3⟩ := hq i hi
        rw [Addr.add_lit] at h0 h1 h2
        have e : kx ((List.range len).map fun i => (q i).2) i = (q i).2 := by unfold kx; simp [hi]
        exact ⟨k0, k1, k2, ⟨h0, by rw [← Nat.add_assoc] at h1; exact h1, by rw [← Nat.add_assoc] at h2; exact h2⟩, by rw [e]; exact h3.le (hD i hi)⟩
end Go.Proofs.YtlddpjcacnahmaaGreatDoor

/- der's tags: numbered, Boxed, plain; lengthSize. -/
namespace Go.Proofs.YtlddpjcacnahmaaGreatDoor
open Go.RowKit
set_option linter.unusedVariables false

/-- a tag of what has bytes -/
def plainB (t : Int) : Bool := decide ((1 ≤ t ∧ t ≤ 6) ∨ t = 12 ∨ t = 24 ∨ (128 ≤ t ∧ t ≤ 158))
theorem tagged_or (t : Int) : taggedB t = (plainB t || boxedB t) := rfl
theorem plain_unboxed {t : Int} (h : boxedB t = true) : plainB t = false := by
  unfold boxedB at h
  rw [decide_eq_true_eq] at h
  unfold plainB
  exact decide_eq_false (by omega)

set_option maxHeartbeats 1000000 in
theorem numbered_any (t : Int) (f : Nat) (hf : f ≤ 1000) (w : World) : Calls Tryz.prog 113 #[.int .i64 t, .int .i64 f] w fun e w' => e = .returned (.bool (decide ((f : Int) ≤ t ∧ t ≤ (f : Int) + 30))) ∧ w' = w := by
  have hr1 : (f : Int) + 30 < 9223372036854775808 := by omega
  by_cases h1 : (f : Int) ≤ t
  · by_cases h2 : t ≤ (f : Int) + 30
    · have HB : Hid (decide ((f : Int) ≤ t ∧ t ≤ (f : Int) + 30) = true) := hide (decide_eq_true ⟨h1, h2⟩)
      go_enter Tryz.func113, Tryz.ntmps113
      go_wp2
      go_ret
      first | exact ⟨ret_bool HB.out.symm, rfl⟩ | exact ⟨rfl, rfl⟩
    · have HB : Hid (decide ((f : Int) ≤ t ∧ t ≤ (f : Int) + 30) = false) := hide (decide_eq_false (by omega))
      have h2d : decide (t ≤ (f : Int) + 30) = false := decide_eq_false h2
      go_enter Tryz.func113, Tryz.ntmps113
      go_wp2
      go_ret
      first | exact ⟨ret_bool HB.out.symm, rfl⟩ | exact ⟨rfl, rfl⟩
  · have HB : Hid (decide ((f : Int) ≤ t ∧ t ≤ (f : Int) + 30) = false) := hide (decide_eq_false (by omega))
    have h1d : decide ((f : Int) ≤ t) = false := decide_eq_false h1
    go_enter Tryz.func113, Tryz.ntmps113
    go_wp2
    go_ret
    first | exact ⟨ret_bool HB.out.symm, rfl⟩ | exact ⟨rfl, rfl⟩

set_option maxHeartbeats 1000000 in
theorem boxed_any (t : Int) (w : World) : Calls Tryz.prog 81 #[.int .i64 t] w fun e w' => e = .returned (.bool (boxedB t)) ∧ w' = w := by
  by_cases h1 : t = 48
  · subst h1
    go_enter Tryz.func81, Tryz.ntmps81
    go_wp2_with fail
    go_ret
    exact ⟨rfl, rfl⟩
  have e1 : (t == 48) = false := by simpa using h1
  by_cases h2 : t = 49
  · subst h2
    go_enter Tryz.func81, Tryz.ntmps81
    go_wp2_with fail
    go_ret
    exact ⟨rfl, rfl⟩
  have e2 : (t == 49) = false := by simpa using h2
  have HB : Hid (boxedB t = decide (160 ≤ t ∧ t ≤ 190)) := hide (by unfold boxedB; exact decide_eq_decide.2 (by omega))
  have hn := numbered_any t 160 (by omega) w
  have hc : (((160 : Nat) : Int) ≤ t ∧ t ≤ ((160 : Nat) : Int) + 30) ↔ (160 ≤ t ∧ t ≤ 190) := by omega
  rw [decide_eq_decide.2 hc] at hn
  rw [← HB.out] at hn
  clear h1 h2 HB hc
  go_enter Tryz.func81, Tryz.ntmps81
  go_wp2_with fail
  refine hn.mono ?_
  rintro e w1 ⟨rfl, rfl⟩
  go_wp2_with fail
  go_ret
  exact ⟨rfl, rfl⟩

set_option maxHeartbeats 2000000 in
theorem plain_any (t : Int) (w : World) : Calls Tryz.prog 161 #[.int .i64 t] w fun e w' => e = .returned (.bool (plainB t)) ∧ w' = w := by
  by_cases hs : t = 1 ∨ t = 2 ∨ t = 3 ∨ t = 4 ∨ t = 5 ∨ t = 6 ∨ t = 12 ∨ t = 24
  · rcases hs with rfl | rfl | rfl | rfl | rfl | rfl | rfl | rfl
    all_goals
      go_enter Tryz.func161, Tryz.ntmps161
      go_wp2_with fail
      go_ret
      exact ⟨rfl, rfl⟩
  · have e1 : (t == 1) = false := beq_eq_false_iff_ne.2 (by omega)
    have e2 : (t == 2) = false := beq_eq_false_iff_ne.2 (by omega)
    have e3 : (t == 3) = false := beq_eq_false_iff_ne.2 (by omega)
    have e4 : (t == 4) = false := beq_eq_false_iff_ne.2 (by omega)
    have e5 : (t == 5) = false := beq_eq_false_iff_ne.2 (by omega)
    have e6 : (t == 6) = false := beq_eq_false_iff_ne.2 (by omega)
    have e7 : (t == 12) = false := beq_eq_false_iff_ne.2 (by omega)
    have e8 : (t == 24) = false := beq_eq_false_iff_ne.2 (by omega)
    have HB : Hid (plainB t = decide (128 ≤ t ∧ t ≤ 158)) := hide (by unfold plainB; exact decide_eq_decide.2 (by omega))
    have hn := numbered_any t 128 (by omega) w
    have hc : (((128 : Nat) : Int) ≤ t ∧ t ≤ ((128 : Nat) : Int) + 30) ↔ (128 ≤ t ∧ t ≤ 158) := by omega
    rw [decide_eq_decide.2 hc] at hn
    rw [← HB.out] at hn
    clear hs HB hc
    go_enter Tryz.func161, Tryz.ntmps161
    go_wp2_with fail
    refine hn.mono ?_
    rintro e w1 ⟨rfl, rfl⟩
    go_wp2_with fail
    go_ret
    exact ⟨rfl, rfl⟩

/-- how many bytes of a length stand behind its first one -/
def lsz (n : Nat) : Nat := if n < 128 then 0 else if n < 256 then 1 else if n < 65536 then 2 else 3
set_option maxHeartbeats 1000000 in
theorem lengthSize_any (n : Nat) (hn : n ≤ 1000000000) (w : World) : Calls Tryz.prog 141 #[.int .i64 n] w fun e w' => e = .returned (.int .i64 (lsz n : Nat)) ∧ w' = w := by
  by_cases h1 : n < 128
  · have HB : Hid (lsz n = 0) := hide (by unfold lsz; rw [if_pos h1])
    have h1i : (n : Int) < 128 := by omega
    go_enter Tryz.func141, Tryz.ntmps141
    go_wp2
    go_ret
    exact ⟨ret_int (by rw [HB.out]; rfl), rfl⟩
  have h1i : ¬ (n : Int) < 128 := by omega
  by_cases h2 : n < 256
  · have HB : Hid (lsz n = 1) := hide (by unfold lsz; rw [if_neg h1, if_pos h2])
    have h2i : (n : Int) < 256 := by omega
    go_enter Tryz.func141, Tryz.ntmps141
    go_wp2
    go_ret
    exact ⟨ret_int (by rw [HB.out]; rfl), rfl⟩
  have h2i : ¬ (n : Int) < 256 := by omega
  by_cases h3 : n < 65536
  · have HB : Hid (lsz n = 2) := hide (by unfold lsz; rw [if_neg h1, if_neg h2, if_pos h3])
    have h3i : (n : Int) < 65536 := by omega
    go_enter Tryz.func141, Tryz.ntmps141
    go_wp2
    go_ret
    exact ⟨ret_int (by rw [HB.out]; rfl), rfl⟩
  have h3i : ¬ (n : Int) < 65536 := by omega
  have HB : Hid (lsz n = 3) := hide (by unfold lsz; rw [if_neg h1, if_neg h2, if_neg h3])
  go_enter Tryz.func141, Tryz.ntmps141
  go_wp2
  go_ret
  exact ⟨ret_int (by rw [HB.out]; rfl), rfl⟩
end Go.Proofs.YtlddpjcacnahmaaGreatDoor

/- Texts: their bytes, digits, parts. -/
namespace Go.Proofs.YtlddpjcacnahmaaGreatDoor
open Go.RowKit
set_option linter.unusedVariables false

/-- a text of these bytes -/
abbrev str (l : List UInt8) : Value := .string ⟨l.toArray⟩
/-- a byte -/
def ch (x : Nat) : UInt8 := UInt8.ofNat x
theorem ch_nat {x : Nat} (h : x < 256) : (ch x).toNat = x := by unfold ch; simp; omega
abbrev dg (n : Nat) : List UInt8 := Lib.decDigits n
theorem dg_low {n : Nat} (h : n < 10) : dg n = [ch (48 + n)] := by unfold dg; rw [Lib.decDigits, dif_pos h]; rfl
theorem dg_high {n : Nat} (h : ¬ n < 10) : dg n = dg (n / 10) ++ [ch (48 + n % 10)] := by unfold dg; rw [Lib.decDigits, dif_neg h]; rfl
theorem dg_len (n : Nat) : ∀ k, n < 10 ^ (k + 1) → (dg n).length ≤ k + 1 := by
  induction n using Nat.strongRecOn with
  | ind n ih =>
    intro k hk
    by_cases h : n < 10
    · rw [dg_low h]; simp
    · rw [dg_high h, List.length_append]
      cases k with
      | zero => simp at hk; omega
      | succ k =>
        have := ih (n / 10) (by omega) k (Nat.div_lt_of_lt_mul (by rw [Nat.pow_succ] at hk; omega))
        simp; omega
theorem dg_len20 {n : Nat} (h : n < 18446744073709551616) : (dg n).length ≤ 20 := dg_len n 19 (by omega)
theorem conv_one (w : World) (x : Nat) (y : Int) (hy : y = (x : Int)) (hx : x < 256) :
    (convert 22 9 (.slice (some ⟨w.heap.size, 0, none⟩) 1 1)).run Tryz.prog (w.alloc (.cells #[.int .u8 y] 5)) = .ok (.string ⟨#[ch x]⟩) (w.alloc (.cells #[.int .u8 y] 5)) := by
  subst hy
  refine run_convert_bytes_back (P := Tryz.prog) _ 22 9 5 ⟨w.heap.size, 0, none⟩ 1 [ch x] Tryz.underlying22 Tryz.underlying5 Tryz.underlying9 ?_
  intro j hj
  have hj0 : j = 0 := by simp at hj; omega
  subst hj0
  rw [cells_new w (.int .u8 (x : Int)) 5 0 (.int .u8 (x : Int)) rfl]
  simp [ch_nat hx]
theorem str_app (a b : List UInt8) : (⟨a.toArray⟩ ++ ⟨b.toArray⟩ : ByteArray) = ⟨(a ++ b).toArray⟩ := by
  apply ByteArray.ext
  simp
theorem str_one (x : UInt8) (b : List UInt8) : (⟨#[x]⟩ ++ ⟨b.toArray⟩ : ByteArray) = ⟨(x :: b).toArray⟩ := str_app [x] b
theorem ba_size (b : ByteArray) : b.size = b.data.toList.length := Lib.size_eq b
theorem cut_snoc {l : List UInt8} {f k : Nat} (hf : f ≤ k) (hk : k < l.length) : (l.take (k + 1)).drop f = (l.take k).drop f ++ [l[k]] := by
  rw [List.take_succ_eq_append_getElem hk, List.drop_append_of_le_length (by simp; omega)]
theorem cut_len {l : List UInt8} {f k : Nat} : ((l.take k).drop f).length ≤ l.length := by simp; omega
theorem sub_eq (l : List UInt8) (f k : Nat) : (⟨l.toArray⟩ : ByteArray).extract f k = ⟨((l.take k).drop f).toArray⟩ := by
  apply ByteArray.ext
  apply Array.ext'
  rw [Lib.extract_data]
  simp [List.drop_take]
theorem dg_pos (n : Nat) : 0 < (dg n).length := by
  by_cases h : n < 10
  · rw [dg_low h]; simp
  · rw [dg_high h]; simp
theorem bc_cells (l : List UInt8) (w : World) (g : Nat) (h : ∀ j u, (Lib.byteCells l)[j]? = some u → w.cell? ((⟨g, 0, none⟩ : Addr).add j) = some u) :
    ∀ j (hj : j < l.length), w.cell? ((⟨g, 0, none⟩ : Addr).add j) = some (.int .u8 (l[j].toNat : Int)) := by
  intro j hj
  refine h j _ ?_
  simp [Lib.byteCells, hj]
theorem dg_digit (n : Nat) : ∀ c ∈ dg n, 48 ≤ c.toNat ∧ c.toNat ≤ 57 := by
  induction n using Nat.strongRecOn with
  | ind n ih =>
    by_cases h : n < 10
    · rw [dg_low h]; intro c hc; simp at hc; subst hc; rw [ch_nat (by omega)]; omega
    · rw [dg_high h]; intro c hc
      rcases List.mem_append.1 hc with h1 | h1
      · exact ih (n / 10) (by omega) c h1
      · simp at h1; subst h1; rw [ch_nat (by omega)]; omega
end Go.Proofs.YtlddpjcacnahmaaGreatDoor
