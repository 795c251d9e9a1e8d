/- Contract of apostilleref01.Same. -/
import Derived.Test.YtjkciheoknjfhaaDoorBase
import Derived.Test.YtjkciheoknjfhaaDoorOrM
import Derived.Deep.Slices
import Derived.ChangeSame
import Derived.OpenShut
namespace Go.Proofs.YtjkciheoknjfhaaDoor
open Go.RowKit
set_option linter.unusedVariables false

theorem el_ext {l m : List Nat} (h : l.length = m.length) (he : ∀ i, i < l.length → el l i = el m i) : l = m := by
  apply List.ext_getElem h
  intro i h1 h2
  have := he i h1
  rwa [el_at h1, el_at h2] at this

set_option maxHeartbeats 400000 in
theorem rsame_any (va vb : Value) (l m : List Nat) (w : World) (ha : Row .u8 256 w va l) (hb : Row .u8 256 w vb m) :
    Calls Tryd.prog 17 #[va, vb] w fun e w' => e = .returned (.bool (decide (l = m))) ∧ ∃ n, w' = w.drewN n := by
  obtain ⟨a, ca, rfl, ha1, ha2, ha3, ha4⟩ := ha
  obtain ⟨b, cb, rfl, hb1, hb2, hb3, hb4⟩ := hb
  unfold maxLen at ha2 hb2
  by_cases hlen : l.length = m.length
  · have hne : ((l.length : Int) != (m.length : Int)) = false := by simp [hlen]
    have H : Hid (l.length = m.length) := hlen
    have hle1 : l.length ≤ m.length := by omega
    have hle2 : m.length ≤ l.length := by omega
    clear hlen
    go_enter Tryd.func17, Tryd.ntmps17
    go_wp2
    go_loopw [5] (fun i wr => ∃ k n : Nat, k ≤ l.length ∧ i = .int .i64 k ∧ wr = w.drewN n ∧ ∀ j, j < k → el l j = el m j) (fun i _ => l.length - (intOf i).toNat)
    case atStart => exact ⟨0, 0, Nat.zero_le _, rfl, rfl, fun j hj => by omega⟩
    case round =>
      obtain ⟨k, n, hk, rfl, rfl, hall⟩ := hrel
      have HA : Hid (∀ j, j < k → el l j = el m j) := hall
      clear hall
      by_cases hlt : k < l.length
      · obtain ⟨ba, oa, rfl, hca⟩ := ha3 (by omega)
        obtain ⟨bb, ob, rfl, hcb⟩ := hb3 (by omega)
        have c1 := hca k hlt
        have c2 := hcb k (by omega)
        clear hca hcb
        have hlt2 : k < m.length := by omega
        by_cases he : el l k = el m k
        · have hd : ((el l k : Int) != (el m k : Int)) = false := by simp [he]
          have HE : Hid (el l k = el m k) := he
          clear he
          go_wp2
          go_quiet (fail)
          go_wp2
          go_roundw
          case rel => exact ⟨k + 1, _, by omega, by go_num, rfl, fun j hj => by
            by_cases hjk : j = k
            · subst hjk; exact HE.out
            · exact HA.out j (by omega)⟩
          case measure => simp [intOf]; omega
        · have hd : ((el l k : Int) != (el m k : Int)) = true := by simp; omega
          go_wp2
          go_quiet (fail)
          go_wp2
          go_ret
          exact ⟨ret_bool (by symm; simp; intro h; exact he (by rw [h])), _, World.drewN_drewN _ _ _⟩
      · go_wp2
        go_ret
        exact ⟨ret_bool (by symm; simp; exact el_ext H.out (fun i hi => HA.out i (by omega))), _, rfl⟩
  · have hne : ((l.length : Int) != (m.length : Int)) = true := by simp; omega
    have hd : decide (l = m) = false := by simp; intro h; exact hlen (by rw [h])
    go_enter Tryd.func17, Tryd.ntmps17
    go_wp2
    go_ret
    exact ⟨ret_bool hd.symm, 0, rfl⟩

end Go.Proofs.YtjkciheoknjfhaaDoor

/- Small words for walks over rows. -/
namespace Go.Proofs.YtjkciheoknjfhaaDoor
open Go.RowKit
set_option linter.unusedVariables false

theorem keep_trans {a b c : World} (h : Below a.heap.size a b) (k : Below b.heap.size b c) : Below a.heap.size a c := h.trans (k.mono h.size)
theorem keep_alloc (w : World) (o : Obj) : Below w.heap.size w (w.alloc o) := (Below.refl _ _).alloc (Nat.le_refl _) o

theorem lit_row (k : IntKind) (m : Nat) (w : World) (l : List Nat) (t : TypeId) (hu : Under m l) (hl : l.length ≤ maxLen) :
    Row k m (w.alloc (.cells (vals k l).toArray t)) (.slice (some ⟨w.heap.size, 0, none⟩) l.length l.length) l := by
  refine ⟨_, _, rfl, Nat.le_refl _, hl, fun _ => ⟨_, _, rfl, fun i hi => ?_⟩, hu⟩
  rw [World.cell?_alloc_at _ _ _ _ rfl]
  rw [Nat.zero_add, List.getElem?_toArray, vals_get k l i hi]

theorem rsame_b (va vb : Value) (l m : List Nat) (w : World) (ha : Row .u8 256 w va l) (hb : Row .u8 256 w vb m) :
    Calls Tryd.prog 17 #[va, vb] w fun e w' => e = .returned (.bool (decide (l = m))) ∧ Below w.heap.size w w' :=
  (rsame_any va vb l m w ha hb).mono fun _ _ ⟨he, n, hw⟩ => ⟨he, by rw [hw]; exact below_drewN (Below.refl _ _) n⟩

theorem rsame_true (va vb : Value) (l : List Nat) (w : World) (ha : Row .u8 256 w va l) (hb : Row .u8 256 w vb l) :
    Calls Tryd.prog 17 #[va, vb] w fun e w' => e = .returned (.bool true) ∧ Below w.heap.size w w' :=
  (rsame_b va vb l l w ha hb).mono fun _ _ ⟨he, hw⟩ => ⟨by rw [he]; simp, hw⟩

theorem dec_under {m : Nat} {l : List Nat} (h : l.all (fun x => decide (x < m)) = true) : Under m l := by
  intro x hx
  exact of_decide_eq_true (List.all_eq_true.1 h x hx)

/-- a row, its value written out at a length that is known -/
theorem Row.opens {k : IntKind} {m : Nat} {w : World} {v : Value} {l : List Nat} (h : Row k m w v l) {N : Nat} (hN : l.length = N) :
    ∃ a cap, v = .slice a N cap ∧ N ≤ cap ∧ cap ≤ 9223372036854775807 ∧ (0 < N → ∃ b off, a = some ⟨b, off, none⟩ ∧ ∀ i, i < N → w.cell? ⟨b, off + i, none⟩ = some (.int k (el l i))) := by
  obtain ⟨a, cap, rfl, h1, h2, h3, h4⟩ := h
  subst hN
  unfold maxLen at h2
  exact ⟨a, cap, rfl, h1, by omega, h3⟩

/-- a text cut off behind so many bytes -/
theorem Row.cut {k : IntKind} {m : Nat} {w : World} {a : Option Addr} {n cap : Nat} {l : List Nat} (h : Row k m w (.slice a n cap) l) {M : Nat} (hM : M ≤ l.length) : Row k m w (.slice a M cap) (l.take M) := by
  obtain ⟨a', cap', he, h1, h2, h3, h4⟩ := h
  simp at he
  obtain ⟨rfl, rfl, rfl⟩ := he
  refine ⟨_, cap, by rw [List.length_take_of_le hM], by rw [List.length_take_of_le hM]; omega, h2, ?_, fun x hx => h4 x (List.mem_of_mem_take hx)⟩
  intro hp
  rw [List.length_take_of_le hM] at hp
  obtain ⟨b, off, rfl, hc⟩ := h3 (by omega)
  refine ⟨b, off, rfl, fun i hi => ?_⟩
  rw [List.length_take_of_le hM] at hi
  have e1 : i < (l.take M).length := by rw [List.length_take_of_le hM]; exact hi
  have e2 : i < l.length := by omega
  rw [el_at e1, List.getElem_take, ← el_at e2]
  exact hc i e2

theorem Row.under {k : IntKind} {m : Nat} {w : World} {v : Value} {l : List Nat} (h : Row k m w v l) : Under m l := by
  obtain ⟨_, _, _, _, _, _, h⟩ := h
  exact h
theorem Under.append {m : Nat} {a b : List Nat} (ha : Under m a) (hb : Under m b) : Under m (a ++ b) := by
  intro x hx
  rcases List.mem_append.1 hx with h | h
  · exact ha x h
  · exact hb x h
theorem Under.one {m x : Nat} (h : x < m) : Under m [x] := by intro y hy; simp at hy; omega
/-- a new row of one number -/
theorem one_own (e : TypeId) (k : IntKind) (m x : Nat) (w : World) (B : Nat) (hB : B ≤ w.heap.size) :
    (w.alloc (.cells #[.int k (x : Int)] e)).ownsRow B e 1 (.slice (some ⟨w.heap.size, 0, none⟩) 1 1) 1 (vals k [x]) :=
  World.ownsRow_lit (base := B) (e := e) (size := 1) w #[.int k (x : Int)] 1 hB (by decide) rfl
theorem nat_quo (n k : Nat) : (n : Int) / (k : Int) = ((n / k : Nat) : Int) := by simp
theorem nat_rem (n k : Nat) : (n : Int) % (k : Int) = ((n % k : Nat) : Int) := by simp
theorem row_form {w : World} {base : Nat} {e : TypeId} {v : Value} {n : Nat} {xs : List Value} (h : w.ownsRow base e 1 v n xs) (hn : 0 < n) :
    ∃ g cap, v = .slice (some ⟨g, 0, none⟩) n cap ∧ base ≤ g ∧ n ≤ cap ∧ cap ≤ maxLen := by
  obtain ⟨_, ⟨_, h0⟩ | ⟨g, cap, cur, rfl, h1, _, h2, h3, _⟩⟩ := h
  · omega
  · exact ⟨g, cap, rfl, h1, h2, h3⟩
theorem app_cells (w : World) (k : IntKind) (x : Nat) (y : Int) (e : TypeId) (hy : y = (x : Int)) : ∀ j u, (vals k [x])[j]? = some u → (w.alloc (.cells #[.int k y] e)).cell? ((⟨w.heap.size, 0, none⟩ : Addr).add j) = some u := by
  subst hy
  exact cells_new w _ e
theorem own_nil (e : TypeId) (k : IntKind) (m : Nat) (w : World) (B : Nat) : Own e k m w B (.slice none 0 0) [] := ⟨World.ownsRow_nil _ _ _ _, fun x hx => by simp at hx⟩
theorem take_el {l : List Nat} {k : Nat} (h : k < l.length) : l.take (k + 1) = l.take k ++ [el l k] := by
  rw [List.take_succ_eq_append_getElem h, el_at h]
theorem el_drop (l : List Nat) (k i : Nat) : el (l.drop k) i = el l (k + i) := by unfold el; rw [List.getElem?_drop]
theorem own_kept {w w' : World} {B : Nat} {e : TypeId} {v : Value} {n : Nat} {xs : List Value} (h : w.ownsRow B e 1 v n xs) (hb : Below w.heap.size w w') : w'.ownsRow B e 1 v n xs := by
  obtain ⟨h1, h2 | ⟨g, cap, cur, rfl, h3, h4, h5⟩⟩ := h
  · exact ⟨h1, .inl h2⟩
  · have hlt : g < w.heap.size := by
      rcases Nat.lt_or_ge g w.heap.size with hlt | hge
      · exact hlt
      · rw [Array.getElem?_eq_none hge] at h4; cases h4
    exact ⟨h1, .inr ⟨g, cap, cur, rfl, h3, by rw [hb.block g hlt]; exact h4, h5⟩⟩
theorem two_own (e : TypeId) (k : IntKind) (x y : Nat) (w : World) (B : Nat) (hB : B ≤ w.heap.size) :
    (w.alloc (.cells #[.int k (x : Int), .int k (y : Int)] e)).ownsRow B e 1 (.slice (some ⟨w.heap.size, 0, none⟩) 2 2) 2 (vals k [x, y]) :=
  World.ownsRow_lit (base := B) (e := e) (size := 1) w #[.int k (x : Int), .int k (y : Int)] 2 hB (by decide) rfl
theorem drop_el {l : List Nat} {k : Nat} (h : k < l.length) : l.drop k = el l k :: l.drop (k + 1) := by
  rw [List.drop_eq_getElem_cons h, el_at h]
end Go.Proofs.YtjkciheoknjfhaaDoor

/- Values in memory: a node and its parts; how they are read. -/
namespace Go.Proofs.YtjkciheoknjfhaaDoor
open Go.RowKit Go.Deep
set_option linter.unusedVariables false

/-- three cells in a row -/
def Cell3 (w : World) (b o : Nat) (c0 c1 c2 : Value) : Prop := w.cell? ⟨b, o, none⟩ = some c0 ∧ w.cell? ⟨b, o + 1, none⟩ = some c1 ∧ w.cell? ⟨b, o + 2, none⟩ = some c2
theorem Cell3.below {w w' : World} {b o : Nat} {c0 c1 c2 : Value} (h : Cell3 w b o c0 c1 c2) (hb : Below w.heap.size w w') : Cell3 w' b o c0 c1 c2 := by
  obtain ⟨h0, h1, h2⟩ := h
  have hlt := World.block_lt_of_cell? w _ h0
  refine ⟨?_, ?_, ?_⟩
  · rw [hb.cell (p := ⟨b, o, none⟩) hlt]; exact h0
  · rw [hb.cell (p := ⟨b, o + 1, none⟩) hlt]; exact h1
  · rw [hb.cell (p := ⟨b, o + 2, none⟩) hlt]; exact h2
/-- the part at a place -/
def kx (ks : List Nd) (i : Nat) : Nd := ks[i]?.getD (.mk 0 [] [])
theorem kx_at {ks : List Nd} {i : Nat} (h : i < ks.length) : kx ks i = ks[i] := by unfold kx; rw [List.getElem?_eq_getElem h]; rfl
def I64 (t : Int) : Prop := -9223372036854775808 ≤ t ∧ t ≤ 9223372036854775807
/-- a slice of nodes, each of which is so -/
def KidsAt (N : Value → Value → Value → Nd → Prop) (w : World) (v : Value) (ks : List Nd) : Prop :=
  ∃ a cap, v = .slice a ks.length cap ∧ ks.length ≤ cap ∧ cap ≤ maxLen ∧ (0 < ks.length → ∃ b off, a = some ⟨b, off, none⟩ ∧ ∀ i, i < ks.length → ∃ c0 c1 c2, Cell3 w b (off + i * 3) c0 c1 c2 ∧ N c0 c1 c2 (kx ks i))
/-- three cells are a node, of at most so many layers -/
def NdAt (w : World) : Nat → Value → Value → Value → Nd → Prop
  | 0, _, _, _, _ => False
  | d + 1, ct, cb, ck, .mk t b ks => ct = .int .i64 t ∧ I64 t ∧ Row .u8 256 w cb b ∧ Tidy cb ∧ Tidy ck ∧ KidsAt (NdAt w d) w ck ks
theorem NdAt.below {w w' : World} (hb : Below w.heap.size w w') : ∀ (d : Nat) (c0 c1 c2 : Value) (x : Nd), NdAt w d c0 c1 c2 x → NdAt w' d c0 c1 c2 x := by
  intro d
  induction d with
  | zero => intro c0 c1 c2 x h; exact h.elim
  | succ d ih =>
    rintro c0 c1 c2 ⟨t, b, ks⟩ ⟨h1, h2, h3, h4, h5, a, cap, h6, h7, h8, h9⟩
    refine ⟨h1, h2, h3.below hb, h4, h5, a, cap, h6, h7, h8, fun hl => ?_⟩
    obtain ⟨bl, off, e, hc⟩ := h9 hl
    refine ⟨bl, off, e, fun i hi => ?_⟩
    obtain ⟨k0, k1, k2, k3, k4⟩ := hc i hi
    exact ⟨k0, k1, k2, k3.below hb, ih _ _ _ _ k4⟩
theorem NdAt.more {w : World} : ∀ (d : Nat) (c0 c1 c2 : Value) (x : Nd), NdAt w d c0 c1 c2 x → NdAt w (d + 1) c0 c1 c2 x := by
  intro d
  induction d with
  | zero => intro c0 c1 c2 x h; exact h.elim
  | succ d ih =>
    rintro c0 c1 c2 ⟨t, b, ks⟩ ⟨h1, h2, h3, h4, h5, a, cap, h6, h7, h8, h9⟩
    refine ⟨h1, h2, h3, h4, h5, a, cap, h6, h7, h8, fun hl => ?_⟩
    obtain ⟨bl, off, e, hc⟩ := h9 hl
    refine ⟨bl, off, e, fun i hi => ?_⟩
    obtain ⟨k0, k1, k2, k3, k4⟩ := hc i hi
    exact ⟨k0, k1, k2, k3, ih _ _ _ _ k4⟩
theorem NdAt.le {w : World} {d d' : Nat} (h : d ≤ d') {c0 c1 c2 : Value} {x : Nd} (hx : NdAt w d c0 c1 c2 x) : NdAt w d' c0 c1 c2 x := by
  induction h with
  | refl => exact hx
  | step _ ih => exact NdAt.more _ _ _ _ _ ih
/-- a node -/
def Node (w : World) (v : Value) (x : Nd) : Prop := ∃ d c0 c1 c2, v = .agg #[c0, c1, c2] ∧ NdAt w d c0 c1 c2 x
theorem Node.below {w w' : World} {v : Value} {x : Nd} (h : Node w v x) (hb : Below w.heap.size w w') : Node w' v x := by
  obtain ⟨d, c0, c1, c2, h1, h2⟩ := h
  exact ⟨d, c0, c1, c2, h1, h2.below hb⟩

theorem Tryd.cellsN : Tryd.prog.cellsOf 26 = 3 := by kernel_rfl
theorem Tryd.cellsI : Tryd.prog.cellsOf 3 = 1 := by kernel_rfl
theorem Tryd.cellsB : Tryd.prog.cellsOf 22 = 1 := by kernel_rfl
theorem Tryd.cellsK : Tryd.prog.cellsOf 24 = 1 := by kernel_rfl
theorem add_form (b o : Nat) (j : Nat) : (⟨b, o, none⟩ : Addr).add j = ⟨b, o + j, none⟩ := Addr.add_lit ..
end Go.Proofs.YtjkciheoknjfhaaDoor

/- How a node that came in is read. -/
namespace Go.Proofs.YtjkciheoknjfhaaDoor
open Go.ChangeShapes Go.WideShapes Go.ChangeAt Go.RowKit Go.Deep
set_option linter.unusedVariables false

theorem wf_i64' {t : Int} (h : (Lit.int .i64 t).wf = true) : I64 t := by
  have h' := h
  simp only [Lit.wf, Bool.and_eq_true, decide_eq_true_eq] at h'
  have hmin : IntKind.i64.min = -9223372036854775808 := rfl
  have hmax : IntKind.i64.max = 9223372036854775807 := rfl
  unfold I64
  omega
theorem max_below (f : Nat → Nat) (n : Nat) : ∃ D, ∀ i, i < n → f i ≤ D := by
  induction n with
  | zero => exact ⟨0, fun i hi => by omega⟩
  | succ n ih =>
    obtain ⟨D, hD⟩ := ih
    refine ⟨max D (f n), fun i hi => ?_⟩
    by_cases he : i = n
    · subst he; omega
    · have := hD i (by omega); omega
/-- a node that is read -/
theorem read_cells {H : Type} {enc : TypeId × Value → H} {W : World} : ∀ (fuel : Nat) (c0 c1 c2 : Value) (x : DataW H × List MemPlace),
    DataW.trod enc Tryd.prog W 0 (fun _ => true) true fuel 26 [c0, c1, c2] = some x → ∃ d n, NdAt W d c0 c1 c2 n := by
  intro fuel
  induction fuel using Nat.strongRecOn with
  | ind fuel ih =>
    intro c0 c1 c2 x h
    obtain ⟨xs, n, hfu, _, _, hlen, hf⟩ := DataW.trod_struct Tryd.underlying26 h
    have hlen' : xs.length = 3 := hlen
    match xs, hlen' with
    | [y0, y1, y2], _ =>
      have g0 := hf 0 _ rfl
      have g1 := hf 1 _ rfl
      have g2 := hf 2 _ rfl
      simp [Tryd.cellsI, Tryd.cellsB, Tryd.cellsK] at g0 g1 g2
      obtain ⟨t, e0, _, hw⟩ := DataW.trod_int Tryd.underlying3 g0
      obtain ⟨b, hrow, htb⟩ := read_text g1
      simp at e0
      subst e0
      rcases DataW.trod_slice Tryd.underlying24 g2 with ⟨hcs, _⟩ | ⟨a, len, cap, elems, rest, m, hfm, hcs, _, _, hl, hm, hel, hx, _⟩
      · simp at hcs
        subst hcs
        exact ⟨1, .mk t b [], rfl, wf_i64' hw, hrow, htb, fun n c he => by simp at he; omega, none, 0, rfl, Nat.le_refl _, Nat.zero_le _, fun h => by simp at h⟩
      · simp at hcs
        subst hcs
        rw [Tryd.cellsN] at hx
        have each : ∀ i, i < len → ∃ q : Nat × Nd, ∃ k0 k1 k2, W.cell? (a.add (i * 3)) = some k0 ∧ W.cell? (a.add (i * 3 + 1)) = some k1 ∧ W.cell? (a.add (i * 3 + 2)) = some k2 ∧ NdAt W q.1 k0 k1 k2 q.2 := by
          intro i hi
          have h1 := hx i hi
          rw [List.getElem?_eq_getElem (by omega)] at h1
          obtain ⟨cs', h2, h3⟩ := Option.bind_eq_some_iff.1 h1
          obtain ⟨_, hcl, hcell⟩ := World.cells?_some h2
          match cs', hcl with
          | [k0, k1, k2], _ =>
            obtain ⟨d, nd, hnd⟩ := ih m (by omega) k0 k1 k2 _ h3
            have e0 := hcell 0 (by omega)
            have e1 := hcell 1 (by omega)
            have e2 := hcell 2 (by omega)
            rw [add_add] at e0 e1 e2
            exact ⟨(d, nd), k0, k1, k2, by simpa using e0, by simpa using e1, by simpa using e2, hnd⟩
        have : Inhabited (Nat × Nd) := ⟨(0, .mk 0 [] [])⟩
        obtain ⟨q, hq⟩ := choose_lt (α := Nat × Nd) each
        obtain ⟨D, hD⟩ := max_below (fun i => (q i).1) len
        have hkl : ((List.range len).map fun i => (q i).2).length = len := by simp
        refine ⟨D + 1, .mk t b ((List.range len).map fun i => (q i).2), rfl, wf_i64' hw, hrow, htb, fun n c he => by simp at he, some a, cap, by rw [hkl], by rw [hkl]; exact hl, hm, fun hp => ?_⟩
        rw [hkl] at hp
        obtain ⟨b0, off, spot⟩ := a
        obtain ⟨k0, k1, k2, h0, _⟩ := hq 0 hp
        have hspot : spot = none := by simpa [Addr.add] using World.cell?_spot h0
        subst hspot
        refine ⟨b0, off, rfl, fun i hi => ?_⟩
        rw [hkl] at hi
        obtain ⟨k0, k1, k2, h0, h1, h2, h3⟩ := hq i hi
        rw [Addr.add_lit] at h0 h1 h2
        have e : kx ((List.range len).map fun i => (q i).2) i = (q i).2 := by unfold kx; simp [hi]
        exact ⟨k0, k1, k2, ⟨h0, by rw [← Nat.add_assoc] at h1; exact h1, by rw [← Nat.add_assoc] at h2; exact h2⟩, by rw [e]; exact h3.le (hD i hi)⟩
end Go.Proofs.YtjkciheoknjfhaaDoor
