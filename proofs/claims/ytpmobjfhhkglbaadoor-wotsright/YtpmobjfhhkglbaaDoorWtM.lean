/- Keys of chains: plain facts, over whatever sum F of a place and a text. -/
import Derived.Test.YtpmobjfhhkglbaaDoorBase
namespace Go.Proofs.YtpmobjfhhkglbaaDoor
open Go.RowKit
set_option linter.unusedVariables false
set_option linter.unusedSimpArgs false

/-- bytes laid at a place -/
def layLW (a : List Nat) (at' : Nat) (b : List Nat) : List Nat := a.take at' ++ (b ++ a.drop (at' + b.length))
theorem layL_len {a : List Nat} {p : Nat} {b : List Nat} (h : p + b.length ≤ a.length) : (layLW a p b).length = a.length := by
  unfold layLW
  rw [List.length_append, List.length_append, List.length_take, List.length_drop]
  omega
theorem layL_under {a b : List Nat} {p : Nat} (ha : Under 256 a) (hb : Under 256 b) : Under 256 (layLW a p b) := by
  intro x hx
  unfold layLW at hx
  rcases List.mem_append.1 hx with h | h
  · exact ha x (List.mem_of_mem_take h)
  · rcases List.mem_append.1 h with h | h
    · exact hb x h
    · exact ha x (List.mem_of_mem_drop h)
def beNW (n k : Nat) : List Nat := (leL n k).reverse
theorem beN_len (n k : Nat) : (beNW n k).length = k := by unfold beNW; rw [List.length_reverse, leL_length]
theorem beN_under (n k : Nat) : Under 256 (beNW n k) := fun x hx => leM_under _ _ x (List.mem_reverse.1 hx)
/-- a place with one of its parts -/
def putA (a : List Nat) (part : Int) (n : Nat) : List Nat :=
  if part = 0 then layLW a 0 (beNW n 4) else if part = 1 then layLW a 4 (beNW n 12) else if part = 2 then layLW (layLW a 16 (beNW n 4)) 20 (List.replicate 12 0) else
  if part = 3 then layLW a 20 (beNW n 4) else if part = 4 then layLW a 24 (beNW n 4) else if part = 5 then layLW a 28 (beNW n 4) else a
/-- a place has 32 bytes -/
def Pl (a : List Nat) : Prop := a.length = 32 ∧ Under 256 a
theorem Pl.lay {a b : List Nat} {p : Nat} (h : Pl a) (hb : Under 256 b) (hp : p + b.length ≤ 32) : Pl (layLW a p b) := ⟨(layL_len (by rw [h.1]; exact hp)).trans h.1, layL_under h.2 hb⟩
theorem Pl.put {a : List Nat} (h : Pl a) (part : Int) (n : Nat) : Pl (putA a part n) := by
  have b4 := fun p (hp : p + 4 ≤ 32) => h.lay (b := beNW n 4) (p := p) (beN_under n 4) (by rw [beN_len]; exact hp)
  unfold putA
  split
  · exact b4 0 (by decide)
  split
  · exact h.lay (beN_under n 12) (by rw [beN_len]; decide)
  split
  · exact (b4 16 (by decide)).lay (fun x hx => by rw [List.eq_of_mem_replicate hx]; decide) (by simp)
  split
  · exact b4 20 (by decide)
  split
  · exact b4 24 (by decide)
  split
  · exact b4 28 (by decide)
  · exact h
/-- the pair's number of a place -/
def pairA (a : List Nat) : Nat := numL ((a.drop 20).take 4)
/-- the digits of a text, with their check -/
def chkW (N : Nat) (d : List Nat) : Nat := lackL 15 (digL d 4 (2 * N))
def dgW (N : Nat) (d : List Nat) : List Nat := digL d 4 (2 * N) ++ digL (be2 (16 * chkW N d)) 4 3
theorem dgW_len (N : Nat) (d : List Nat) : (dgW N d).length = 2 * N + 3 := by unfold dgW; rw [List.length_append, digL_length, digL_length]
theorem digL_lt (d : List Nat) (n : Nat) : ∀ x ∈ digL d 4 n, x < 16 := by
  intro x hx
  unfold digL at hx
  obtain ⟨i, _, rfl⟩ := List.mem_map.1 hx
  exact dig_ltM _ _ _
theorem dgW_lt (N : Nat) (d : List Nat) : ∀ x ∈ dgW N d, x < 16 := by
  intro x hx
  rcases List.mem_append.1 hx with h | h
  · exact digL_lt _ _ x h
  · exact digL_lt _ _ x h
theorem chkW_lt {N : Nat} (hN : N ≤ 32) (d : List Nat) : chkW N d ≤ 960 := by
  have := lack_lt 15 (digL d 4 (2 * N))
  rw [digL_length] at this
  unfold chkW
  omega
theorem be2_under' (n : Nat) : Under 256 (be2 n) := fun x hx => leM_under _ _ x (List.mem_reverse.1 hx)
section
variable (F : List Nat → List Nat → List Nat) (a : List Nat)
/-- k steps of a chain from f on -/
def wch (f : Nat) : Nat → List Nat → List Nat
  | 0, y => y
  | k + 1, y => F (putA a 5 (f + k)) (wch f k y)
/-- what a chain begins with -/
def wbg (secret : List Nat) (i : Nat) : List Nat := F (putA (putA (putA a 2 5) 3 (pairA a)) 4 i) secret
def wky (ends : List (List Nat)) : List Nat := F (putA (putA a 2 1) 3 (pairA a)) ends.flatten
def wpE (N : Nat) (secret : List Nat) : List (List Nat) := (List.range (2 * N + 3)).map fun i => wch F (putA a 4 i) 0 15 (wbg F a secret i)
def wpb (N : Nat) (secret : List Nat) : List Nat := wky F a (wpE F a N secret)
def wsP (ds secret : List Nat) : List (List Nat) := (List.range ds.length).map fun i => wch F (putA a 4 i) 0 (el ds i) (wbg F a secret i)
def wcE (N : Nat) (ds sig : List Nat) : List (List Nat) := (List.range ds.length).map fun i => wch F (putA a 4 i) (el ds i) (15 - el ds i) ((sig.drop (N * i)).take N)
end
section
variable {F : List Nat → List Nat → List Nat} {a : List Nat}
theorem wch_add (f j : Nat) (y : List Nat) : ∀ k, wch F a f (j + k) y = wch F a (f + j) k (wch F a f j y)
  | 0 => rfl
  | k + 1 => by
    show F (putA a 5 (f + (j + k))) (wch F a f (j + k) y) = F (putA a 5 (f + j + k)) (wch F a (f + j) k (wch F a f j y))
    rw [wch_add f j y k, Nat.add_assoc]
theorem wch_len {N : Nat} (hF : ∀ p x, (F p x).length = N) (f : Nat) (y : List Nat) (hy : y.length = N) : ∀ k, (wch F a f k y).length = N
  | 0 => hy
  | k + 1 => hF _ _
theorem flat_N {N : Nat} : ∀ (ps : List (List Nat)) (i : Nat), (∀ p ∈ ps, p.length = N) → i < ps.length → (ps.flatten.drop (N * i)).take N = tx ps i
  | [], i, _, h => absurd h (by simp)
  | p :: ps, 0, hp, _ => by
    have h1 := hp p (by simp)
    show ((p ++ ps.flatten).drop (N * 0)).take N = p
    rw [Nat.mul_zero, List.drop_zero, List.take_append_of_le_length (by omega), List.take_of_length_le (by omega)]
  | p :: ps, i + 1, hp, hi => by
    have h1 := hp p (by simp)
    show ((p ++ ps.flatten).drop (N * (i + 1))).take N = tx ps i
    have hd : (p ++ ps.flatten).drop N = ps.flatten := by rw [← h1]; exact List.drop_left
    rw [show N * (i + 1) = N + N * i by rw [Nat.mul_add]; omega, ← List.drop_drop, hd]
    exact flat_N ps i (fun q hq => hp q (List.mem_cons_of_mem _ hq)) (by simpa using hi)
theorem wsP_N {N : Nat} (hF : ∀ p x, (F p x).length = N) (ds secret : List Nat) : ∀ p ∈ wsP F a ds secret, p.length = N := by
  intro p hp
  unfold wsP at hp
  obtain ⟨i, _, rfl⟩ := List.mem_map.1 hp
  exact wch_len hF 0 _ (hF _ _) _
theorem flat_N_len {N : Nat} : ∀ (ps : List (List Nat)), (∀ p ∈ ps, p.length = N) → ps.flatten.length = N * ps.length
  | [], _ => by simp
  | p :: ps, hp => by
    show (p ++ ps.flatten).length = _
    rw [List.length_append, hp p (by simp), flat_N_len ps (fun q hq => hp q (List.mem_cons_of_mem _ hq)), List.length_cons, Nat.mul_add]
    omega
/-- P17.5: what is signed leads to the key -/
theorem wcE_is {N : Nat} (hF : ∀ p x, (F p x).length = N) (ds secret : List Nat) (hd : ∀ i, i < ds.length → el ds i ≤ 15) (hl : ds.length = 2 * N + 3) : wcE F a N ds (wsP F a ds secret).flatten = wpE F a N secret := by
  unfold wcE wpE
  rw [hl]
  apply List.map_congr_left
  intro i hi
  have hi' : i < ds.length := by rw [hl]; simpa using hi
  rw [flat_N _ i (wsP_N hF ds secret) (by simp [wsP]; exact hi')]
  have e2 : tx (wsP F a ds secret) i = wch F (putA a 4 i) 0 (el ds i) (wbg F a secret i) := by
    unfold tx wsP
    rw [List.getElem?_map, List.getElem?_range hi']
    rfl
  have h3 := hd i hi'
  have h4 := wch_add (F := F) (a := putA a 4 i) 0 (el ds i) (wbg F a secret i) (15 - el ds i)
  rw [Nat.zero_add, show el ds i + (15 - el ds i) = 15 by omega] at h4
  rw [e2, h4]
end
end Go.Proofs.YtpmobjfhhkglbaaDoor

/- Contract of apostilleref01.Same. -/
namespace Go.Proofs.YtpmobjfhhkglbaaDoor
open Go.RowKit
set_option linter.unusedVariables false

theorem el_ext {l m : List Nat} (h : l.length = m.length) (he : ∀ i, i < l.length → el l i = el m i) : l = m := by
  apply List.ext_getElem h
  intro i h1 h2
  have := he i h1
  rwa [el_at h1, el_at h2] at this

set_option maxHeartbeats 400000 in
theorem rsame_any (va vb : Value) (l m : List Nat) (w : World) (ha : Row .u8 256 w va l) (hb : Row .u8 256 w vb m) :
    Calls Tryd.prog 6 #[va, vb] w fun e w' => e = .returned (.bool (decide (l = m))) ∧ ∃ n, w' = w.drewN n := by
  obtain ⟨a, ca, rfl, ha1, ha2, ha3, ha4⟩ := ha
  obtain ⟨b, cb, rfl, hb1, hb2, hb3, hb4⟩ := hb
  unfold maxLen at ha2 hb2
  by_cases hlen : l.length = m.length
  · have hne : ((l.length : Int) != (m.length : Int)) = false := by simp [hlen]
    have H : Hid (l.length = m.length) := hlen
    have hle1 : l.length ≤ m.length := by omega
    have hle2 : m.length ≤ l.length := by omega
    clear hlen
    go_enter Tryd.func6, Tryd.ntmps6
    go_wp2
    go_loopw [5] (fun i wr => ∃ k n : Nat, k ≤ l.length ∧ i = .int .i64 k ∧ wr = w.drewN n ∧ ∀ j, j < k → el l j = el m j) (fun i _ => l.length - (intOf i).toNat)
    case atStart => exact ⟨0, 0, Nat.zero_le _, rfl, rfl, fun j hj => by omega⟩
    case round =>
      obtain ⟨k, n, hk, rfl, rfl, hall⟩ := hrel
      have HA : Hid (∀ j, j < k → el l j = el m j) := hall
      clear hall
      by_cases hlt : k < l.length
      · obtain ⟨ba, oa, rfl, hca⟩ := ha3 (by omega)
        obtain ⟨bb, ob, rfl, hcb⟩ := hb3 (by omega)
        have c1 := hca k hlt
        have c2 := hcb k (by omega)
        clear hca hcb
        have hlt2 : k < m.length := by omega
        by_cases he : el l k = el m k
        · have hd : ((el l k : Int) != (el m k : Int)) = false := by simp [he]
          have HE : Hid (el l k = el m k) := he
          clear he
          go_wp2
          go_quiet (fail)
          go_wp2
          go_roundw
          case rel => exact ⟨k + 1, _, by omega, by go_num, rfl, fun j hj => by
            by_cases hjk : j = k
            · subst hjk; exact HE.out
            · exact HA.out j (by omega)⟩
          case measure => simp [intOf]; omega
        · have hd : ((el l k : Int) != (el m k : Int)) = true := by simp; omega
          go_wp2
          go_quiet (fail)
          go_wp2
          go_ret
          exact ⟨ret_bool (by symm; simp; intro h; exact he (by rw [h])), _, World.drewN_drewN _ _ _⟩
      · go_wp2
        go_ret
        exact ⟨ret_bool (by symm; simp; exact el_ext H.out (fun i hi => HA.out i (by omega))), _, rfl⟩
  · have hne : ((l.length : Int) != (m.length : Int)) = true := by simp; omega
    have hd : decide (l = m) = false := by simp; intro h; exact hlen (by rw [h])
    go_enter Tryd.func6, Tryd.ntmps6
    go_wp2
    go_ret
    exact ⟨ret_bool hd.symm, 0, rfl⟩

end Go.Proofs.YtpmobjfhhkglbaaDoor

/- Small words for walks over rows. -/
namespace Go.Proofs.YtpmobjfhhkglbaaDoor
open Go.RowKit
set_option linter.unusedVariables false

theorem keep_trans {a b c : World} (h : Below a.heap.size a b) (k : Below b.heap.size b c) : Below a.heap.size a c := h.trans (k.mono h.size)
theorem keep_alloc (w : World) (o : Obj) : Below w.heap.size w (w.alloc o) := (Below.refl _ _).alloc (Nat.le_refl _) o

theorem lit_row (k : IntKind) (m : Nat) (w : World) (l : List Nat) (t : TypeId) (hu : Under m l) (hl : l.length ≤ maxLen) :
    Row k m (w.alloc (.cells (vals k l).toArray t)) (.slice (some ⟨w.heap.size, 0, none⟩) l.length l.length) l := by
  refine ⟨_, _, rfl, Nat.le_refl _, hl, fun _ => ⟨_, _, rfl, fun i hi => ?_⟩, hu⟩
  rw [World.cell?_alloc_at _ _ _ _ rfl]
  rw [Nat.zero_add, List.getElem?_toArray, vals_get k l i hi]

theorem rsame_b (va vb : Value) (l m : List Nat) (w : World) (ha : Row .u8 256 w va l) (hb : Row .u8 256 w vb m) :
    Calls Tryd.prog 6 #[va, vb] w fun e w' => e = .returned (.bool (decide (l = m))) ∧ Below w.heap.size w w' :=
  (rsame_any va vb l m w ha hb).mono fun _ _ ⟨he, n, hw⟩ => ⟨he, by rw [hw]; exact below_drewN (Below.refl _ _) n⟩

theorem rsame_true (va vb : Value) (l : List Nat) (w : World) (ha : Row .u8 256 w va l) (hb : Row .u8 256 w vb l) :
    Calls Tryd.prog 6 #[va, vb] w fun e w' => e = .returned (.bool true) ∧ Below w.heap.size w w' :=
  (rsame_b va vb l l w ha hb).mono fun _ _ ⟨he, hw⟩ => ⟨by rw [he]; simp, hw⟩

theorem dec_under {m : Nat} {l : List Nat} (h : l.all (fun x => decide (x < m)) = true) : Under m l := by
  intro x hx
  exact of_decide_eq_true (List.all_eq_true.1 h x hx)

/-- a row, its value written out at a length that is known -/
theorem Row.opens {k : IntKind} {m : Nat} {w : World} {v : Value} {l : List Nat} (h : Row k m w v l) {N : Nat} (hN : l.length = N) :
    ∃ a cap, v = .slice a N cap ∧ N ≤ cap ∧ cap ≤ 9223372036854775807 ∧ (0 < N → ∃ b off, a = some ⟨b, off, none⟩ ∧ ∀ i, i < N → w.cell? ⟨b, off + i, none⟩ = some (.int k (el l i))) := by
  obtain ⟨a, cap, rfl, h1, h2, h3, h4⟩ := h
  subst hN
  unfold maxLen at h2
  exact ⟨a, cap, rfl, h1, by omega, h3⟩

/-- a text cut off behind so many bytes -/
theorem Row.cut {k : IntKind} {m : Nat} {w : World} {a : Option Addr} {n cap : Nat} {l : List Nat} (h : Row k m w (.slice a n cap) l) {M : Nat} (hM : M ≤ l.length) : Row k m w (.slice a M cap) (l.take M) := by
  obtain ⟨a', cap', he, h1, h2, h3, h4⟩ := h
  simp at he
  obtain ⟨rfl, rfl, rfl⟩ := he
  refine ⟨_, cap, by rw [List.length_take_of_le hM], by rw [List.length_take_of_le hM]; omega, h2, ?_, fun x hx => h4 x (List.mem_of_mem_take hx)⟩
  intro hp
  rw [List.length_take_of_le hM] at hp
  obtain ⟨b, off, rfl, hc⟩ := h3 (by omega)
  refine ⟨b, off, rfl, fun i hi => ?_⟩
  rw [List.length_take_of_le hM] at hi
  have e1 : i < (l.take M).length := by rw [List.length_take_of_le hM]; exact hi
  have e2 : i < l.length := by omega
  rw [el_at e1, List.getElem_take, ← el_at e2]
  exact hc i e2

theorem Row.under {k : IntKind} {m : Nat} {w : World} {v : Value} {l : List Nat} (h : Row k m w v l) : Under m l := by
  obtain ⟨_, _, _, _, _, _, h⟩ := h
  exact h
theorem Under.append {m : Nat} {a b : List Nat} (ha : Under m a) (hb : Under m b) : Under m (a ++ b) := by
  intro x hx
  rcases List.mem_append.1 hx with h | h
  · exact ha x h
  · exact hb x h
theorem Under.one {m x : Nat} (h : x < m) : Under m [x] := by intro y hy; simp at hy; omega
theorem own_nil (e : TypeId) (k : IntKind) (m : Nat) (w : World) (B : Nat) : Own e k m w B (.slice none 0 0) [] := ⟨World.ownsRow_nil _ _ _ _, fun x hx => by simp at hx⟩
theorem take_el {l : List Nat} {k : Nat} (h : k < l.length) : l.take (k + 1) = l.take k ++ [el l k] := by
  rw [List.take_succ_eq_append_getElem h, el_at h]
theorem el_drop (l : List Nat) (k i : Nat) : el (l.drop k) i = el l (k + i) := by unfold el; rw [List.getElem?_drop]
theorem drop_el {l : List Nat} {k : Nat} (h : k < l.length) : l.drop k = el l k :: l.drop (k + 1) := by
  rw [List.drop_eq_getElem_cons h, el_at h]
end Go.Proofs.YtpmobjfhhkglbaaDoor

/- Plain facts on the sums of SHA-2: words, rounds, blocks. No walk. -/
namespace Go.Proofs.YtpmobjfhhkglbaaDoor
set_option linter.unusedVariables false
set_option linter.unusedSimpArgs false

/-- a word's bits; its bound; rounds; a block's bytes; a word's bytes -/
def wb (b : Bool) : Nat := bif b then 64 else 32
def wm (b : Bool) : Nat := bif b then 18446744073709551616 else 4294967296
def rn (b : Bool) : Nat := bif b then 80 else 64
def bz (b : Bool) : Nat := bif b then 128 else 64
def ez (b : Bool) : Nat := bif b then 8 else 4

theorem wm_pow (b : Bool) : wm b = 2 ^ wb b := by cases b <;> decide
theorem wm_pos (b : Bool) : 0 < wm b := by cases b <;> decide
theorem bz_pos (b : Bool) : 0 < bz b := by cases b <;> decide

/-- a word turned to the right -/
def rot (b : Bool) (r x : Nat) : Nat := x / 2 ^ r ||| x * 2 ^ (wb b - r) % wm b
def turn3 (b : Bool) (r1 r2 r3 x : Nat) : Nat := rot b r1 x ^^^ rot b r2 x ^^^ rot b r3 x
def shft3 (b : Bool) (r1 r2 r3 x : Nat) : Nat := rot b r1 x ^^^ rot b r2 x ^^^ x / 2 ^ r3
def gS0 (b : Bool) (x : Nat) : Nat := bif b then turn3 true 28 34 39 x else turn3 false 2 13 22 x
def gS1 (b : Bool) (x : Nat) : Nat := bif b then turn3 true 14 18 41 x else turn3 false 6 11 25 x
def lS0 (b : Bool) (x : Nat) : Nat := bif b then shft3 true 1 8 7 x else shft3 false 7 18 3 x
def lS1 (b : Bool) (x : Nat) : Nat := bif b then shft3 true 19 61 6 x else shft3 false 17 19 10 x
def chs (b : Bool) (e f g : Nat) : Nat := (e &&& f) ^^^ ((wm b - 1 - e) &&& g)
def maj (x y z : Nat) : Nat := (x &&& y) ^^^ (x &&& z) ^^^ (y &&& z)

theorem shr_lt {b : Bool} {x : Nat} (hx : x < wm b) (r : Nat) : x / 2 ^ r < wm b := Nat.lt_of_le_of_lt (Nat.div_le_self _ _) hx
theorem rot_lt {b : Bool} {x : Nat} (hx : x < wm b) (r : Nat) : rot b r x < wm b := by
  unfold rot
  rw [wm_pow] at *
  exact Nat.or_lt_two_pow (Nat.lt_of_le_of_lt (Nat.div_le_self _ _) hx) (Nat.mod_lt _ (Nat.two_pow_pos _))
theorem xor_lt {b : Bool} {x y : Nat} (hx : x < wm b) (hy : y < wm b) : x ^^^ y < wm b := by rw [wm_pow] at *; exact Nat.xor_lt_two_pow hx hy
theorem and_lt {b : Bool} {x y : Nat} (hx : x < wm b) : x &&& y < wm b := Nat.lt_of_le_of_lt Nat.and_le_left hx
theorem ones_xor (n e : Nat) (h : e < 2 ^ n) : (2 ^ n - 1) ^^^ e = 2 ^ n - 1 - e := by
  apply Nat.eq_of_testBit_eq
  intro i
  rw [Nat.testBit_xor, Nat.testBit_two_pow_sub_one, show 2 ^ n - 1 - e = 2 ^ n - (e + 1) by omega, Nat.testBit_two_pow_sub_succ h]
  by_cases hi : i < n
  · simp [hi]
  · have : e.testBit i = false := Nat.testBit_lt_two_pow (Nat.lt_of_lt_of_le h (Nat.pow_le_pow_right (by decide) (by omega)))
    simp [hi, this]
/-- a round's two sums, and the words behind it -/
def tOne (b : Bool) (s : List Nat) (k w : Nat) : Nat := (el s 7 + gS1 b (el s 4) + chs b (el s 4) (el s 5) (el s 6) + k + w) % wm b
def tTwo (b : Bool) (s : List Nat) : Nat := (gS0 b (el s 0) + maj (el s 0) (el s 1) (el s 2)) % wm b
def rnd (b : Bool) (k w : Nat) (s : List Nat) : List Nat :=
  [(tOne b s k w + tTwo b s) % wm b, el s 0, el s 1, el s 2, (el s 3 + tOne b s k w) % wm b, el s 4, el s 5, el s 6]
def rndN (b : Bool) (ks ws : List Nat) : Nat → List Nat → List Nat
  | 0, s => s
  | n + 1, s => rnd b (el ks n) (el ws n) (rndN b ks ws n s)

theorem rnd_under {b : Bool} {k w : Nat} {s : List Nat} (hs : Under (wm b) s) : Under (wm b) (rnd b k w s) := by
  have hp := wm_pos b
  have he := fun i => el_lt hs hp i
  intro x hx
  simp only [rnd, List.mem_cons, List.not_mem_nil, or_false] at hx
  rcases hx with rfl | rfl | rfl | rfl | rfl | rfl | rfl | rfl <;> first | exact Nat.mod_lt _ hp | exact he _
theorem rndN_under {b : Bool} {ks ws s : List Nat} (hs : Under (wm b) s) : ∀ n, Under (wm b) (rndN b ks ws n s)
  | 0 => hs
  | n + 1 => rnd_under (rndN_under hs n)
theorem rndN_length {b : Bool} {ks ws s : List Nat} (hs : s.length = 8) : ∀ n, (rndN b ks ws n s).length = 8
  | 0 => hs
  | n + 1 => rfl

/-- a block's words, one for each round -/
def nxt (b : Bool) (l : List Nat) : Nat := (lS1 b (el l (l.length - 2)) + el l (l.length - 7) + lS0 b (el l (l.length - 15)) + el l (l.length - 16)) % wm b
def grow (b : Bool) : Nat → List Nat → List Nat
  | 0, l => l
  | n + 1, l => grow b n l ++ [nxt b (grow b n l)]
def word (b : Bool) (l : List Nat) (t : Nat) : Nat := numL ((l.drop (t * ez b)).take (ez b))
def words (b : Bool) (l : List Nat) (n : Nat) : List Nat := (List.range n).map (word b l)
def sched (b : Bool) (l : List Nat) (n : Nat) : List Nat := grow b n (words b l 16)

theorem grow_length (b : Bool) (l : List Nat) : ∀ n, (grow b n l).length = l.length + n
  | 0 => rfl
  | n + 1 => by simp [grow, grow_length b l n]; omega
theorem words_length (b : Bool) (l : List Nat) (n : Nat) : (words b l n).length = n := by simp [words]
theorem sched_length (b : Bool) (l : List Nat) (n : Nat) : (sched b l n).length = 16 + n := by rw [sched, grow_length, words_length]
theorem words_succ (b : Bool) (l : List Nat) (n : Nat) : words b l (n + 1) = words b l n ++ [word b l n] := by simp [words, List.range_succ]
theorem numL_small (l : List Nat) (hu : Under 256 l) : ∀ k, k ≤ 8 → l.length ≤ k → numL l < 256 ^ k := by
  have key : ∀ (l : List Nat) (n j : Nat), Under 256 l → n < 256 ^ j → l.foldl (fun n x => (n * 256 + x) % 18446744073709551616) n < 256 ^ (j + l.length) := by
    intro l
    induction l with
    | nil => intro n j _ h; exact h
    | cons x l ih =>
      intro n j hu h
      rw [List.foldl_cons, List.length_cons, show j + (l.length + 1) = (j + 1) + l.length from by omega]
      refine ih _ (j + 1) (fun y hy => hu y (List.mem_cons_of_mem _ hy)) ?_
      have hx := hu x (List.mem_cons_self ..)
      have : (n * 256 + x) % 18446744073709551616 ≤ n * 256 + x := Nat.mod_le _ _
      rw [Nat.pow_succ]
      omega
  intro k hk hl
  have h := key l 0 0 hu (by decide)
  rw [Nat.zero_add] at h
  exact Nat.lt_of_lt_of_le h (Nat.pow_le_pow_right (by decide) hl)
theorem word_lt {b : Bool} {l : List Nat} (hu : Under 256 l) (t : Nat) : word b l t < wm b := by
  have h := numL_small _ ((hu.drop (t * ez b)).take (ez b)) (ez b) (by cases b <;> decide) (List.length_take_le _ _)
  have e : (256 : Nat) ^ ez b = wm b := by cases b <;> decide
  rw [e] at h
  exact h
theorem words_under {b : Bool} {l : List Nat} (hu : Under 256 l) (n : Nat) : Under (wm b) (words b l n) := by
  intro x hx
  obtain ⟨t, _, rfl⟩ := List.mem_map.1 hx
  exact word_lt hu t
theorem grow_under {b : Bool} {l : List Nat} (hu : Under (wm b) l) : ∀ n, Under (wm b) (grow b n l)
  | 0 => hu
  | n + 1 => (grow_under hu n).append (Under.one (Nat.mod_lt _ (wm_pos b)))
theorem sched_under {b : Bool} {l : List Nat} (hu : Under 256 l) (n : Nat) : Under (wm b) (sched b l n) := grow_under (words_under hu 16) n
theorem sched_succ (b : Bool) (l : List Nat) (n : Nat) : sched b l (n + 1) = sched b l n ++ [nxt b (sched b l n)] := rfl

theorem el_app_left {a b : List Nat} {i : Nat} (h : i < a.length) : el (a ++ b) i = el a i := by unfold el; rw [List.getElem?_append_left h]
theorem el_app_right {a b : List Nat} {i : Nat} (h : a.length ≤ i) : el (a ++ b) i = el b (i - a.length) := by unfold el; rw [List.getElem?_append_right h]
/-- a list that is filled from the front, in a row of so many cells -/
def pad (n : Nat) (l : List Nat) : List Nat := l ++ List.replicate (n - l.length) 0
theorem pad_length {n : Nat} {l : List Nat} (h : l.length ≤ n) : (pad n l).length = n := by simp [pad]; omega
theorem pad_full {n : Nat} {l : List Nat} (h : l.length = n) : pad n l = l := by simp [pad, h]
theorem pad_el {n : Nat} {l : List Nat} {i : Nat} (h : i < l.length) : el (pad n l) i = el l i := by unfold pad; exact el_app_left h
theorem pad_set {n : Nat} {l : List Nat} (h : l.length < n) (x : Nat) : (pad n l).set l.length x = pad n (l ++ [x]) := by
  unfold pad
  rw [List.set_append_right _ _ (Nat.le_refl _), Nat.sub_self, show n - l.length = (n - (l ++ [x]).length) + 1 by simp; omega, List.replicate_succ, List.set_cons_zero, List.append_assoc]; rfl
theorem pad_under {m n : Nat} {l : List Nat} (h : Under m l) (hm : 0 < m) : Under m (pad n l) := h.append (Under.replicate m _ hm)

/-- the first 64 bits of the fractions of roots of primes -/
def cubes : List Nat := [4794697086780616226, 8158064640168781261, 13096744586834688815, 16840607885511220156,
  4131703408338449720, 6480981068601479193, 10538285296894168987, 12329834152419229976,
  15566598209576043074, 1334009975649890238, 2608012711638119052, 6128411473006802146,
  8268148722764581231, 9286055187155687089, 11230858885718282805, 13951009754708518548,
  16472876342353939154, 17275323862435702243, 1135362057144423861, 2597628984639134821,
  3308224258029322869, 5365058923640841347, 6679025012923562964, 8573033837759648693,
  10970295158949994411, 12119686244451234320, 12683024718118986047, 13788192230050041572,
  14330467153632333762, 15395433587784984357, 489312712824947311, 1452737877330783856,
  2861767655752347644, 3322285676063803686, 5560940570517711597, 5996557281743188959,
  7280758554555802590, 8532644243296465576, 9350256976987008742, 10552545826968843579,
  11727347734174303076, 12113106623233404929, 14000437183269869457, 14369950271660146224,
  15101387698204529176, 15463397548674623760, 17586052441742319658, 1182934255886127544,
  1847814050463011016, 2177327727835720531, 2830643537854262169, 3796741975233480872,
  4115178125766777443, 5681478168544905931, 6601373596472566643, 7507060721942968483,
  8399075790359081724, 8693463985226723168, 9568029438360202098, 10144078919501101548,
  10430055236837252648, 11840083180663258601, 13761210420658862357, 14299343276471374635,
  14566680578165727644, 15097957966210449927, 16922976911328602910, 17689382322260857208,
  500013540394364858, 748580250866718886, 1242879168328830382, 1977374033974150939,
  2944078676154940804, 3659926193048069267, 4368137639120453308, 4836135668995329356,
  5532061633213252278, 6448918945643986474, 6902733635092675308, 7801388544844847127]
def squares : List Nat := [7640891576956012808, 13503953896175478587, 4354685564936845355, 11912009170470909681,
  5840696475078001361, 11170449401992604703, 2270897969802886507, 6620516959819538809,
  14680500436340154072, 7105036623409894663, 10473403895298186519, 1526699215303891257,
  7436329637833083697, 10282925794625328401, 15784041429090275239, 5167115440072839076]
def hi (b : Bool) (x : Nat) : Nat := bif b then x else x / 4294967296
def ks (b : Bool) : List Nat := cubes.map (hi b)
theorem cubes_length : cubes.length = 80 := rfl
theorem squares_length : squares.length = 16 := rfl
theorem cubes_under : Under 18446744073709551616 cubes := dec_under (by decide)
theorem squares_under : Under 18446744073709551616 squares := dec_under (by decide)
theorem ks_length (b : Bool) : (ks b).length = 80 := by cases b <;> rfl
theorem hi_lt {b : Bool} {x : Nat} (h : x < 18446744073709551616) : hi b x < wm b := by
  cases b <;> simp only [hi, wm, cond_true, cond_false] <;> omega
theorem ks_under (b : Bool) : Under (wm b) (ks b) := by
  intro x hx
  obtain ⟨y, hy, rfl⟩ := List.mem_map.1 hx
  exact hi_lt (cubes_under y hy)

/-- words behind a block -/
def addW (b : Bool) (h s : List Nat) (n : Nat) : List Nat := (List.range n).map fun i => (el s i + el h i) % wm b
def comp (b : Bool) (h l : List Nat) : List Nat := addW b h (rndN b (ks b) (sched b l (rn b - 16)) (rn b) h) 8
theorem comp_length (b : Bool) (h l : List Nat) : (comp b h l).length = 8 := by simp [comp, addW]
theorem comp_under (b : Bool) (h l : List Nat) : Under (wm b) (comp b h l) := by
  intro x hx
  obtain ⟨i, _, rfl⟩ := List.mem_map.1 hx
  exact Nat.mod_lt _ (wm_pos b)

theorem addW_length (b : Bool) (h s : List Nat) (n : Nat) : (addW b h s n).length = n := by simp [addW]
theorem addTo_get (b : Bool) (h s c : List Nat) (j : Nat) (hj : j < h.length) : el (addW b h s j ++ h.drop j ++ c) j = el h j := by
  rw [el_app_left (by rw [List.length_append, addW_length, List.length_drop]; omega), el_app_right (by rw [addW_length]; omega), addW_length, el_drop, Nat.sub_self]; rfl
theorem addTo_set (b : Bool) (h s c : List Nat) (j : Nat) (hj : j < h.length) : (addW b h s j ++ h.drop j ++ c).set j ((el h j + el s j) % wm b) = addW b h s (j + 1) ++ h.drop (j + 1) ++ c := by
  have e : addW b h s (j + 1) = addW b h s j ++ [(el h j + el s j) % wm b] := by simp [addW, List.range_succ, Nat.add_comm]
  rw [e, drop_el hj, List.append_assoc, List.append_assoc, List.append_assoc, List.set_append_right _ _ (by rw [addW_length]; omega), addW_length, Nat.sub_self]
  rfl

/-- words behind so many blocks; behind all whole blocks of a text; what is left of it -/
def eatN (b : Bool) : Nat → List Nat → List Nat → List Nat
  | 0, h, _ => h
  | n + 1, h, l => eatN b n (comp b h (l.take (bz b))) (l.drop (bz b))
def eat (b : Bool) (h l : List Nat) : List Nat := eatN b (l.length / bz b) h l
def left (b : Bool) (l : List Nat) : List Nat := l.drop (l.length / bz b * bz b)

theorem eat_short {b : Bool} {h l : List Nat} (hl : l.length < bz b) : eat b h l = h := by
  unfold eat; rw [Nat.div_eq_of_lt hl]; rfl
theorem left_short {b : Bool} {l : List Nat} (hl : l.length < bz b) : left b l = l := by
  unfold left; rw [Nat.div_eq_of_lt hl]; simp
theorem div_step {b : Bool} {n : Nat} (h : bz b ≤ n) : n / bz b = (n - bz b) / bz b + 1 := by
  rw [Nat.div_eq_sub_div (bz_pos b) h]
theorem eat_step {b : Bool} {h l : List Nat} (hl : bz b ≤ l.length) : eat b h l = eat b (comp b h (l.take (bz b))) (l.drop (bz b)) := by
  unfold eat
  rw [div_step hl, List.length_drop]; rfl
theorem left_step {b : Bool} {l : List Nat} (hl : bz b ≤ l.length) : left b l = left b (l.drop (bz b)) := by
  unfold left
  rw [List.drop_drop, List.length_drop, div_step hl, Nat.add_mul, Nat.one_mul, Nat.add_comm]
theorem left_length (b : Bool) (l : List Nat) : (left b l).length = l.length % bz b := by
  unfold left
  have := Nat.div_add_mod l.length (bz b)
  rw [Nat.mul_comm] at this
  rw [List.length_drop]; omega
theorem left_lt (b : Bool) (l : List Nat) : (left b l).length < bz b := by rw [left_length]; exact Nat.mod_lt _ (bz_pos b)
theorem eat_length {b : Bool} : ∀ (n : Nat) (h l : List Nat), l.length ≤ n → h.length = 8 → (eat b h l).length = 8 := by
  intro n
  induction n with
  | zero => intro h l hl h8; rw [eat_short (by have := bz_pos b; omega)]; exact h8
  | succ n ih =>
    intro h l hl h8
    by_cases hb : bz b ≤ l.length
    · rw [eat_step hb]; exact ih _ _ (by have := bz_pos b; rw [List.length_drop]; omega) (comp_length _ _ _)
    · rw [eat_short (by omega)]; exact h8
theorem eat_len {b : Bool} {h : List Nat} (l : List Nat) (h8 : h.length = 8) : (eat b h l).length = 8 := eat_length l.length h l (Nat.le_refl _) h8
theorem eat_under' {b : Bool} : ∀ (n : Nat) (h l : List Nat), l.length ≤ n → Under (wm b) h → Under (wm b) (eat b h l) := by
  intro n
  induction n with
  | zero => intro h l hl h8; rw [eat_short (by have := bz_pos b; omega)]; exact h8
  | succ n ih =>
    intro h l hl h8
    by_cases hb : bz b ≤ l.length
    · rw [eat_step hb]; exact ih _ _ (by have := bz_pos b; rw [List.length_drop]; omega) (comp_under _ _ _)
    · rw [eat_short (by omega)]; exact h8
theorem eat_under {b : Bool} {h : List Nat} (l : List Nat) (hu : Under (wm b) h) : Under (wm b) (eat b h l) := eat_under' l.length h l (Nat.le_refl _) hu
/-- PARTS -/
theorem eat_parts' {b : Bool} : ∀ (n : Nat) (h x y : List Nat), x.length ≤ n → eat b h (x ++ y) = eat b (eat b h x) (left b x ++ y) ∧ left b (x ++ y) = left b (left b x ++ y) := by
  intro n
  induction n with
  | zero =>
    intro h x y hx
    have h0 : x.length < bz b := by have := bz_pos b; omega
    rw [eat_short h0, left_short h0]; exact ⟨rfl, rfl⟩
  | succ n ih =>
    intro h x y hx
    by_cases hb : bz b ≤ x.length
    · have hb2 : bz b ≤ (x ++ y).length := by rw [List.length_append]; omega
      rw [eat_step hb2, left_step hb2, eat_step hb, left_step hb, List.take_append_of_le_length hb, List.drop_append_of_le_length hb]
      exact ih _ _ _ (by have := bz_pos b; rw [List.length_drop]; omega)
    · rw [eat_short (l := x) (by omega), left_short (l := x) (by omega)]; exact ⟨rfl, rfl⟩
theorem eat_parts (b : Bool) (h x y : List Nat) : eat b h (x ++ y) = eat b (eat b h x) (left b x ++ y) := (eat_parts' x.length h x y (Nat.le_refl _)).1
theorem left_parts (b : Bool) (x y : List Nat) : left b (x ++ y) = left b (left b x ++ y) := (eat_parts' x.length [] x y (Nat.le_refl _)).2

/-- how many bytes the size has in a block behind the byte 128; what fills up a text; the sum's bytes -/
def room (b : Bool) (n : Nat) : Nat := if bz b - n % bz b - 1 < bz b / 8 then bz b - n % bz b - 1 + bz b else bz b - n % bz b - 1
def fill (b : Bool) (n size : Nat) : List Nat := [128] ++ (leL (8 * size) (room b n)).reverse
def bytesW (b : Bool) (h : List Nat) : List Nat := (h.map fun x => (leL x (ez b)).reverse).flatten
/-- the whole sum: of a text behind words, of so many bytes in all, so many bytes of it -/
def endS (b : Bool) (h l : List Nat) (size n : Nat) : List Nat := (bytesW b (eat b h (l ++ fill b l.length size))).take n
end Go.Proofs.YtpmobjfhhkglbaaDoor
