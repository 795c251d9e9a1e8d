import Derived.Test.YtpmobjfhhkglbaaGreatDoorBase
namespace Go.Proofs.YtpmobjfhhkglbaaGreatDoor
open Go.RowKit
set_option linter.unusedVariables false
set_option linter.unusedSimpArgs false
theorem leM_under (V o : Nat) : Under 256 (leL V o) := by
  intro x hx
  obtain ⟨i, _, rfl⟩ := List.mem_map.1 hx
  exact Nat.mod_lt _ (by decide)
theorem dig_ltM (l : List Nat) (w i : Nat) : dig l w i < 2 ^ w := Nat.mod_lt _ (pp w)
def fromD (w : Nat) (l : List Nat) : Nat := l.foldl (fun n x => n * 2 ^ w + x) 0
theorem foldD (w : Nat) : ∀ (b : List Nat) (x : Nat), b.foldl (fun n x => n * 2 ^ w + x) x = x * 2 ^ (b.length * w) + b.foldl (fun n x => n * 2 ^ w + x) 0
  | [], x => by simp
  | y :: b, x => by
    show b.foldl _ (x * 2 ^ w + y) = x * 2 ^ ((b.length + 1) * w) + b.foldl _ (0 * 2 ^ w + y)
    rw [foldD w b (x * 2 ^ w + y), foldD w b (0 * 2 ^ w + y), Nat.zero_mul, Nat.zero_add, Nat.add_mul, Nat.add_mul, Nat.one_mul, Nat.mul_assoc, ← Nat.pow_add, Nat.add_comm w, Nat.add_assoc]
theorem fromD_app (w : Nat) (a b : List Nat) : fromD w (a ++ b) = fromD w a * 2 ^ (b.length * w) + fromD w b := by
  unfold fromD
  rw [List.foldl_append, foldD]
def lackL (m : Nat) : List Nat → Nat
  | [] => 0
  | x :: l => (m - x) + lackL m l
theorem lack_lt (m : Nat) : ∀ a : List Nat, lackL m a ≤ a.length * m
  | [] => Nat.zero_le _
  | x :: a => by
    have := lack_lt m a
    show (m - x) + lackL m a ≤ (a.length + 1) * m
    rw [Nat.add_mul, Nat.one_mul]
    omega
theorem lack_snoc (m : Nat) (x : Nat) : ∀ a : List Nat, lackL m (a ++ [x]) = lackL m a + (m - x)
  | [] => by show (m - x) + 0 = 0 + (m - x); omega
  | y :: a => by show (m - y) + lackL m (a ++ [x]) = (m - y) + lackL m a + (m - x); rw [lack_snoc m x a]; omega
structure KindL (w n m s : Nat) : Prop where
  w1 : 1 ≤ w
  w8 : w ≤ 8
  full : n * w = 256
  chk : s + m * w = 16
  room : n * (2 ^ w - 1) < 2 ^ (m * w)
theorem valBe_app (a b : List Nat) : valBe (a ++ b) = valBe a * 2 ^ (8 * b.length) + valBe b := by
  have e : ∀ l : List Nat, valBe l = fromD 8 l := fun l => rfl
  rw [e, e, e, fromD_app, Nat.mul_comm b.length]
section
variable {w n m s : Nat} (hK : KindL w n m s) {d : List Nat} (hd : d.length = 32) (hu : Under 256 d)
end
def tx (ls : List (List Nat)) (i : Nat) : List Nat := ls[i]?.getD []
def Tidy (v : Value) : Prop := ∀ n c, v = .slice none n c → n = 0 ∧ c = 0
def Rows2 (w : World) (v : Value) (ls : List (List Nat)) : Prop :=
  ∃ a cap, v = .slice a ls.length cap ∧ ls.length ≤ cap ∧ cap ≤ maxLen ∧
    (0 < ls.length → ∃ b off, a = some ⟨b, off, none⟩ ∧ ∀ i, i < ls.length → ∃ u, w.cell? ⟨b, off + i, none⟩ = some u ∧ Row .u8 256 w u (tx ls i) ∧ Tidy u)
theorem Rows2.below {w w' : World} {v : Value} {ls : List (List Nat)} (h : Rows2 w v ls) (hb : Below w.heap.size w w') : Rows2 w' v ls := by
  obtain ⟨a, cap, rfl, h1, h2, h3⟩ := h
  refine ⟨a, cap, rfl, h1, h2, fun hl => ?_⟩
  obtain ⟨b, off, rfl, hc⟩ := h3 hl
  refine ⟨b, off, rfl, fun i hi => ?_⟩
  obtain ⟨u, hu, hr, ht⟩ := hc i hi
  have h5 := World.block_lt_of_cell? w _ hu
  exact ⟨u, by rw [hb.cell (p := ⟨b, off + i, none⟩) h5]; exact hu, hr.below hb, ht⟩
theorem take_tx {ls : List (List Nat)} {k : Nat} (h : k < ls.length) : ls.take (k + 1) = ls.take k ++ [tx ls k] := by
  rw [List.take_succ_eq_append_getElem h]; unfold tx; rw [List.getElem?_eq_getElem h]; rfl
theorem flat_succ {ls : List (List Nat)} {k : Nat} (h : k < ls.length) : (ls.take (k + 1)).flatten = (ls.take k).flatten ++ tx ls k := by
  rw [take_tx h]; simp
theorem flat_le (ls : List (List Nat)) (k : Nat) : (ls.take k).flatten.length ≤ ls.flatten.length := by
  have : ls.flatten = (ls.take k).flatten ++ (ls.drop k).flatten := by rw [← List.flatten_append, List.take_append_drop]
  rw [this]; simp
theorem cells_news {w : World} {k : IntKind} {x : Addr} {l : List Nat} (h : Cells k w (some x) l) : ∀ j u, (vals k l)[j]? = some u → w.cell? (x.add j) = some u := by
  intro j u hj
  have hl : j < l.length := by
    have := (List.getElem?_eq_some_iff.1 hj).1
    rwa [vals_length] at this
  obtain ⟨b, off, he, hc⟩ := h (by omega)
  obtain rfl := Option.some.inj he
  rw [Addr.add_lit, hc j hl, ← vals_get k l j hl]
  exact hj
theorem under_flat (ls : List (List Nat)) (h : ∀ i, i < ls.length → Under 256 (tx ls i)) : Under 256 ls.flatten := by
  intro x hx
  obtain ⟨l, hl, hxl⟩ := List.mem_flatten.1 hx
  obtain ⟨i, hi, rfl⟩ := List.getElem_of_mem hl
  have := h i hi
  unfold tx at this
  rw [List.getElem?_eq_getElem hi] at this
  exact this x hxl
theorem Rows2.under {w : World} {v : Value} {ls : List (List Nat)} (h : Rows2 w v ls) : Under 256 ls.flatten := by
  obtain ⟨a, cap, rfl, h1, h2, h3⟩ := h
  apply under_flat
  intro i hi
  obtain ⟨b, off, rfl, hc⟩ := h3 (by omega)
  obtain ⟨u, _, ⟨_, _, _, _, _, _, h6⟩, _⟩ := hc i hi
  exact h6
def be2 (n : Nat) : List Nat := (leL n 2).reverse
theorem be2_len (n : Nat) : (be2 n).length = 2 := by unfold be2; rw [List.length_reverse, leL_length]
section
variable (H : List Nat → List Nat) (pre : List Nat)
end
section
variable {H : List Nat → List Nat} {pre : List Nat}
variable (hH : ∀ x, (H x).length = 32)
end
def layLW (a : List Nat) (at' : Nat) (b : List Nat) : List Nat := a.take at' ++ (b ++ a.drop (at' + b.length))
theorem layL_len {a : List Nat} {p : Nat} {b : List Nat} (h : p + b.length ≤ a.length) : (layLW a p b).length = a.length := by
  unfold layLW
  rw [List.length_append, List.length_append, List.length_take, List.length_drop]
  omega
theorem layL_under {a b : List Nat} {p : Nat} (ha : Under 256 a) (hb : Under 256 b) : Under 256 (layLW a p b) := by
  intro x hx
  unfold layLW at hx
  rcases List.mem_append.1 hx with h | h
  · exact ha x (List.mem_of_mem_take h)
  · rcases List.mem_append.1 h with h | h
    · exact hb x h
    · exact ha x (List.mem_of_mem_drop h)
def beNW (n k : Nat) : List Nat := (leL n k).reverse
theorem beN_len (n k : Nat) : (beNW n k).length = k := by unfold beNW; rw [List.length_reverse, leL_length]
theorem beN_under (n k : Nat) : Under 256 (beNW n k) := fun x hx => leM_under _ _ x (List.mem_reverse.1 hx)
def putA (a : List Nat) (part : Int) (n : Nat) : List Nat :=
  if part = 0 then layLW a 0 (beNW n 4) else if part = 1 then layLW a 4 (beNW n 12) else if part = 2 then layLW (layLW a 16 (beNW n 4)) 20 (List.replicate 12 0) else
  if part = 3 then layLW a 20 (beNW n 4) else if part = 4 then layLW a 24 (beNW n 4) else if part = 5 then layLW a 28 (beNW n 4) else a
def Pl (a : List Nat) : Prop := a.length = 32 ∧ Under 256 a
theorem Pl.lay {a b : List Nat} {p : Nat} (h : Pl a) (hb : Under 256 b) (hp : p + b.length ≤ 32) : Pl (layLW a p b) := ⟨(layL_len (by rw [h.1]; exact hp)).trans h.1, layL_under h.2 hb⟩
theorem Pl.put {a : List Nat} (h : Pl a) (part : Int) (n : Nat) : Pl (putA a part n) := by
  have b4 := fun p (hp : p + 4 ≤ 32) => h.lay (b := beNW n 4) (p := p) (beN_under n 4) (by rw [beN_len]; exact hp)
  unfold putA
  split
  · exact b4 0 (by decide)
  split
  · exact h.lay (beN_under n 12) (by rw [beN_len]; decide)
  split
  · exact (b4 16 (by decide)).lay (fun x hx => by rw [List.eq_of_mem_replicate hx]; decide) (by simp)
  split
  · exact b4 20 (by decide)
  split
  · exact b4 24 (by decide)
  split
  · exact b4 28 (by decide)
  · exact h
def pairA (a : List Nat) : Nat := numL ((a.drop 20).take 4)
def chkW (N : Nat) (d : List Nat) : Nat := lackL 15 (digL d 4 (2 * N))
def dgW (N : Nat) (d : List Nat) : List Nat := digL d 4 (2 * N) ++ digL (be2 (16 * chkW N d)) 4 3
theorem dgW_len (N : Nat) (d : List Nat) : (dgW N d).length = 2 * N + 3 := by unfold dgW; rw [List.length_append, digL_length, digL_length]
theorem digL_lt (d : List Nat) (n : Nat) : ∀ x ∈ digL d 4 n, x < 16 := by
  intro x hx
  unfold digL at hx
  obtain ⟨i, _, rfl⟩ := List.mem_map.1 hx
  exact dig_ltM _ _ _
theorem dgW_lt (N : Nat) (d : List Nat) : ∀ x ∈ dgW N d, x < 16 := by
  intro x hx
  rcases List.mem_append.1 hx with h | h
  · exact digL_lt _ _ x h
  · exact digL_lt _ _ x h
theorem chkW_lt {N : Nat} (hN : N ≤ 32) (d : List Nat) : chkW N d ≤ 960 := by
  have := lack_lt 15 (digL d 4 (2 * N))
  rw [digL_length] at this
  unfold chkW
  omega
theorem be2_under' (n : Nat) : Under 256 (be2 n) := fun x hx => leM_under _ _ x (List.mem_reverse.1 hx)
section
variable (F : List Nat → List Nat → List Nat) (a : List Nat)
def wch (f : Nat) : Nat → List Nat → List Nat
  | 0, y => y
  | k + 1, y => F (putA a 5 (f + k)) (wch f k y)
def wbg (secret : List Nat) (i : Nat) : List Nat := F (putA (putA (putA a 2 5) 3 (pairA a)) 4 i) secret
def wky (ends : List (List Nat)) : List Nat := F (putA (putA a 2 1) 3 (pairA a)) ends.flatten
def wpE (N : Nat) (secret : List Nat) : List (List Nat) := (List.range (2 * N + 3)).map fun i => wch F (putA a 4 i) 0 15 (wbg F a secret i)
def wpb (N : Nat) (secret : List Nat) : List Nat := wky F a (wpE F a N secret)
def wsP (ds secret : List Nat) : List (List Nat) := (List.range ds.length).map fun i => wch F (putA a 4 i) 0 (el ds i) (wbg F a secret i)
def wcE (N : Nat) (ds sig : List Nat) : List (List Nat) := (List.range ds.length).map fun i => wch F (putA a 4 i) (el ds i) (15 - el ds i) ((sig.drop (N * i)).take N)
end
section
variable {F : List Nat → List Nat → List Nat} {a : List Nat}
theorem wch_len {N : Nat} (hF : ∀ p x, (F p x).length = N) (f : Nat) (y : List Nat) (hy : y.length = N) : ∀ k, (wch F a f k y).length = N
  | 0 => hy
  | k + 1 => hF _ _
theorem flat_N_len {N : Nat} : ∀ (ps : List (List Nat)), (∀ p ∈ ps, p.length = N) → ps.flatten.length = N * ps.length
  | [], _ => by simp
  | p :: ps, hp => by
    show (p ++ ps.flatten).length = _
    rw [List.length_append, hp p (by simp), flat_N_len ps (fun q hq => hp q (List.mem_cons_of_mem _ hq)), List.length_cons, Nat.mul_add]
    omega
end
theorem el_ext {l m : List Nat} (h : l.length = m.length) (he : ∀ i, i < l.length → el l i = el m i) : l = m := by
  apply List.ext_getElem h
  intro i h1 h2
  have := he i h1
  rwa [el_at h1, el_at h2] at this
set_option maxHeartbeats 400000 in
theorem rsame_any (va vb : Value) (l m : List Nat) (w : World) (ha : Row .u8 256 w va l) (hb : Row .u8 256 w vb m) :
    Calls Tryz.prog 14 #[va, vb] w fun e w' => e = .returned (.bool (decide (l = m))) ∧ ∃ n, w' = w.drewN n := by
  obtain ⟨a, ca, rfl, ha1, ha2, ha3, ha4⟩ := ha
  obtain ⟨b, cb, rfl, hb1, hb2, hb3, hb4⟩ := hb
  unfold maxLen at ha2 hb2
  by_cases hlen : l.length = m.length
  · have hne : ((l.length : Int) != (m.length : Int)) = false := by simp [hlen]
    have H : Hid (l.length = m.length) := hlen
    have hle1 : l.length ≤ m.length := by omega
    have hle2 : m.length ≤ l.length := by omega
    clear hlen
    go_enter Tryz.func14, Tryz.ntmps14
    go_wp2
    go_loopw [5] (fun i wr => ∃ k n : Nat, k ≤ l.length ∧ i = .int .i64 k ∧ wr = w.drewN n ∧ ∀ j, j < k → el l j = el m j) (fun i _ => l.length - (intOf i).toNat)
    case atStart => exact ⟨0, 0, Nat.zero_le _, rfl, rfl, fun j hj => by omega⟩
    case round =>
      obtain ⟨k, n, hk, rfl, rfl, hall⟩ := hrel
      have HA : Hid (∀ j, j < k → el l j = el m j) := hall
      clear hall
      by_cases hlt : k < l.length
      · obtain ⟨ba, oa, rfl, hca⟩ := ha3 (by omega)
        obtain ⟨bb, ob, rfl, hcb⟩ := hb3 (by omega)
        have c1 := hca k hlt
        have c2 := hcb k (by omega)
        clear hca hcb
        have hlt2 : k < m.length := by omega
        by_cases he : el l k = el m k
        · have hd : ((el l k : Int) != (el m k : Int)) = false := by simp [he]
          have HE : Hid (el l k = el m k) := he
          clear he
          go_wp2
          go_quiet (fail)
          go_wp2
          go_roundw
          case rel => exact ⟨k + 1, _, by omega, by go_num, rfl, fun j hj => by
            by_cases hjk : j = k
            · subst hjk; exact HE.out
            · exact HA.out j (by omega)⟩
          case measure => simp [intOf]; omega
        · have hd : ((el l k : Int) != (el m k : Int)) = true := by simp; omega
          go_wp2
          go_quiet (fail)
          go_wp2
          go_ret
          exact ⟨ret_bool (by symm; simp; intro h; exact he (by rw [h])), _, World.drewN_drewN _ _ _⟩
      · go_wp2
        go_ret
        exact ⟨ret_bool (by symm; simp; exact el_ext H.out (fun i hi => HA.out i (by omega))), _, rfl⟩
  · have hne : ((l.length : Int) != (m.length : Int)) = true := by simp; omega
    have hd : decide (l = m) = false := by simp; intro h; exact hlen (by rw [h])
    go_enter Tryz.func14, Tryz.ntmps14
    go_wp2
    go_ret
    exact ⟨ret_bool hd.symm, 0, rfl⟩
theorem keep_trans {a b c : World} (h : Below a.heap.size a b) (k : Below b.heap.size b c) : Below a.heap.size a c := h.trans (k.mono h.size)
theorem keep_alloc (w : World) (o : Obj) : Below w.heap.size w (w.alloc o) := (Below.refl _ _).alloc (Nat.le_refl _) o
theorem lit_row (k : IntKind) (m : Nat) (w : World) (l : List Nat) (t : TypeId) (hu : Under m l) (hl : l.length ≤ maxLen) :
    Row k m (w.alloc (.cells (vals k l).toArray t)) (.slice (some ⟨w.heap.size, 0, none⟩) l.length l.length) l := by
  refine ⟨_, _, rfl, Nat.le_refl _, hl, fun _ => ⟨_, _, rfl, fun i hi => ?_⟩, hu⟩
  rw [World.cell?_alloc_at _ _ _ _ rfl]
  rw [Nat.zero_add, List.getElem?_toArray, vals_get k l i hi]
theorem rsame_b (va vb : Value) (l m : List Nat) (w : World) (ha : Row .u8 256 w va l) (hb : Row .u8 256 w vb m) :
    Calls Tryz.prog 14 #[va, vb] w fun e w' => e = .returned (.bool (decide (l = m))) ∧ Below w.heap.size w w' :=
  (rsame_any va vb l m w ha hb).mono fun _ _ ⟨he, n, hw⟩ => ⟨he, by rw [hw]; exact below_drewN (Below.refl _ _) n⟩
theorem rsame_true (va vb : Value) (l : List Nat) (w : World) (ha : Row .u8 256 w va l) (hb : Row .u8 256 w vb l) :
    Calls Tryz.prog 14 #[va, vb] w fun e w' => e = .returned (.bool true) ∧ Below w.heap.size w w' :=
  (rsame_b va vb l l w ha hb).mono fun _ _ ⟨he, hw⟩ => ⟨by rw [he]; simp, hw⟩
theorem dec_under {m : Nat} {l : List Nat} (h : l.all (fun x => decide (x < m)) = true) : Under m l := by
  intro x hx
  exact of_decide_eq_true (List.all_eq_true.1 h x hx)
theorem Row.opens {k : IntKind} {m : Nat} {w : World} {v : Value} {l : List Nat} (h : Row k m w v l) {N : Nat} (hN : l.length = N) :
    ∃ a cap, v = .slice a N cap ∧ N ≤ cap ∧ cap ≤ 9223372036854775807 ∧ (0 < N → ∃ b off, a = some ⟨b, off, none⟩ ∧ ∀ i, i < N → w.cell? ⟨b, off + i, none⟩ = some (.int k (el l i))) := by
  obtain ⟨a, cap, rfl, h1, h2, h3, h4⟩ := h
  subst hN
  unfold maxLen at h2
  exact ⟨a, cap, rfl, h1, by omega, h3⟩
theorem Row.cut {k : IntKind} {m : Nat} {w : World} {a : Option Addr} {n cap : Nat} {l : List Nat} (h : Row k m w (.slice a n cap) l) {M : Nat} (hM : M ≤ l.length) : Row k m w (.slice a M cap) (l.take M) := by
  obtain ⟨a', cap', he, h1, h2, h3, h4⟩ := h
  simp at he
  obtain ⟨rfl, rfl, rfl⟩ := he
  refine ⟨_, cap, by rw [List.length_take_of_le hM], by rw [List.length_take_of_le hM]; omega, h2, ?_, fun x hx => h4 x (List.mem_of_mem_take hx)⟩
  intro hp
  rw [List.length_take_of_le hM] at hp
  obtain ⟨b, off, rfl, hc⟩ := h3 (by omega)
  refine ⟨b, off, rfl, fun i hi => ?_⟩
  rw [List.length_take_of_le hM] at hi
  have e1 : i < (l.take M).length := by rw [List.length_take_of_le hM]; exact hi
  have e2 : i < l.length := by omega
  rw [el_at e1, List.getElem_take, ← el_at e2]
  exact hc i e2
theorem Row.under {k : IntKind} {m : Nat} {w : World} {v : Value} {l : List Nat} (h : Row k m w v l) : Under m l := by
  obtain ⟨_, _, _, _, _, _, h⟩ := h
  exact h
theorem Under.append {m : Nat} {a b : List Nat} (ha : Under m a) (hb : Under m b) : Under m (a ++ b) := by
  intro x hx
  rcases List.mem_append.1 hx with h | h
  · exact ha x h
  · exact hb x h
theorem Under.one {m x : Nat} (h : x < m) : Under m [x] := by intro y hy; simp at hy; omega
theorem one_own (e : TypeId) (k : IntKind) (m x : Nat) (w : World) (B : Nat) (hB : B ≤ w.heap.size) :
    (w.alloc (.cells #[.int k (x : Int)] e)).ownsRow B e 1 (.slice (some ⟨w.heap.size, 0, none⟩) 1 1) 1 (vals k [x]) :=
  World.ownsRow_lit (base := B) (e := e) (size := 1) w #[.int k (x : Int)] 1 hB (by decide) rfl
theorem row_form {w : World} {base : Nat} {e : TypeId} {v : Value} {n : Nat} {xs : List Value} (h : w.ownsRow base e 1 v n xs) (hn : 0 < n) :
    ∃ g cap, v = .slice (some ⟨g, 0, none⟩) n cap ∧ base ≤ g ∧ n ≤ cap ∧ cap ≤ maxLen := by
  obtain ⟨_, ⟨_, h0⟩ | ⟨g, cap, cur, rfl, h1, _, h2, h3, _⟩⟩ := h
  · omega
  · exact ⟨g, cap, rfl, h1, h2, h3⟩
theorem app_cells (w : World) (k : IntKind) (x : Nat) (y : Int) (e : TypeId) (hy : y = (x : Int)) : ∀ j u, (vals k [x])[j]? = some u → (w.alloc (.cells #[.int k y] e)).cell? ((⟨w.heap.size, 0, none⟩ : Addr).add j) = some u := by
  subst hy
  exact cells_new w _ e
theorem own_nil (e : TypeId) (k : IntKind) (m : Nat) (w : World) (B : Nat) : Own e k m w B (.slice none 0 0) [] := ⟨World.ownsRow_nil _ _ _ _, fun x hx => by simp at hx⟩
theorem take_el {l : List Nat} {k : Nat} (h : k < l.length) : l.take (k + 1) = l.take k ++ [el l k] := by
  rw [List.take_succ_eq_append_getElem h, el_at h]
theorem el_drop (l : List Nat) (k i : Nat) : el (l.drop k) i = el l (k + i) := by unfold el; rw [List.getElem?_drop]
theorem own_kept {w w' : World} {B : Nat} {e : TypeId} {v : Value} {n : Nat} {xs : List Value} (h : w.ownsRow B e 1 v n xs) (hb : Below w.heap.size w w') : w'.ownsRow B e 1 v n xs := by
  obtain ⟨h1, h2 | ⟨g, cap, cur, rfl, h3, h4, h5⟩⟩ := h
  · exact ⟨h1, .inl h2⟩
  · have hlt : g < w.heap.size := by
      rcases Nat.lt_or_ge g w.heap.size with hlt | hge
      · exact hlt
      · rw [Array.getElem?_eq_none hge] at h4; cases h4
    exact ⟨h1, .inr ⟨g, cap, cur, rfl, h3, by rw [hb.block g hlt]; exact h4, h5⟩⟩
theorem drop_el {l : List Nat} {k : Nat} (h : k < l.length) : l.drop k = el l k :: l.drop (k + 1) := by
  rw [List.drop_eq_getElem_cons h, el_at h]
end Go.Proofs.YtpmobjfhhkglbaaGreatDoor
