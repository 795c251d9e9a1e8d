/- Contracts of bits.Be, apostilleref01.Be. -/
import Derived.Test.YtogiballdmgcpaaGreatDoorBase
namespace Go.Proofs.YtogiballdmgcpaaGreatDoor
open Go.RowKit
set_option linter.unusedVariables false

set_option maxHeartbeats 400000 in
set_option maxRecDepth 100000 in
theorem be_any (n : Nat) (size : Int) (w : World) (hn : n < 18446744073709551616) (hs0 : -9223372036854775808 ≤ size) (hs1 : size ≤ 9223372036854775807) :
    Calls Tryz.prog 21 #[.int .u64 n, .int .i64 size] w fun e w' => ∃ v, e = .returned v ∧ Own 5 .u8 256 w' w.heap.size v (leS n size).reverse ∧ Below w.heap.size w w' := by
  go_enter Tryz.func21, Tryz.ntmps21
  go_wp2_with fail
  refine (le_any n size _ hn hs0 hs1).mono ?_
  rintro e w1 ⟨v, rfl, ho, hb⟩
  go_wp2_with fail
  refine (rev_any v _ _ _ ho).mono ?_
  rintro e w2 ⟨rfl, ho2, hb2⟩
  go_wp2
  go_ret
  exact ⟨_, rfl, ho2, hb.trans hb2⟩

/-- the bytes of a number, the highest first, the lowest k of them laid -/
def beTo (n size k : Nat) : List Nat := (List.range size).map (fun t => if size - k ≤ t then n / 256 ^ (size - 1 - t) % 256 else 0)

theorem beTo_zero (n size : Nat) : beTo n size 0 = List.replicate size 0 := by
  apply List.ext_getElem
  · simp [beTo]
  · intro i h1 h2
    have : i < size := by simpa [beTo] using h1
    simp only [beTo, List.getElem_map, List.getElem_range, List.getElem_replicate]
    rw [if_neg (by omega)]
theorem beTo_length (n size k : Nat) : (beTo n size k).length = size := by simp [beTo]
theorem beTo_set (n size k j : Nat) (h : j + 1 + k = size) : (beTo n size k).set j (n / 256 ^ k % 256) = beTo n size (k + 1) := by
  apply List.ext_getElem
  · simp [beTo]
  · intro i h1 h2
    have h3 : i < size := by simpa [beTo] using h2
    simp only [beTo, List.getElem_set, List.getElem_map, List.getElem_range]
    by_cases e : j = i
    · subst e; rw [if_pos rfl, if_pos (by omega)]; congr 3; omega
    · rw [if_neg e]
      by_cases h4 : size - k ≤ i
      · rw [if_pos h4, if_pos (by omega)]
      · rw [if_neg h4, if_neg (by omega)]
theorem leL_length (n size : Nat) : (leL n size).length = size := by simp [leL]
theorem beTo_full (n size : Nat) : beTo n size size = (leL n size).reverse := by
  apply List.ext_getElem
  · simp [beTo, leL]
  · intro i h1 h2
    have h3 : i < size := by simpa [beTo] using h1
    simp only [beTo, leL, List.getElem_map, List.getElem_range, List.getElem_reverse, List.length_map, List.length_range]
    rw [if_pos (by omega)]
theorem beTo_under (n size k : Nat) : Under 256 (beTo n size k) := by
  intro x hx
  obtain ⟨i, _, rfl⟩ := List.mem_map.1 hx
  split <;> omega

theorem rbe_nil (n : Nat) (size : Int) (h : size ≤ 0 ∨ 65536 < size) : (leS n size).reverse = [] := by
  unfold leS; rw [if_pos h]; rfl

theorem and255 (M : Nat) (h : M < 18446744073709551616) : bits BinOp.and IntKind.u64 (M : Int) 255 % 256 = ((M % 256 : Nat) : Int) := by
  rw [show (255 : Int) = ((255 : Nat) : Int) from rfl, u64_and_nat M 255 h (by decide), show M &&& 255 = M % 256 from Nat.and_two_pow_sub_one_eq_mod M 8]
  omega

set_option maxHeartbeats 400000 in
set_option maxRecDepth 100000 in
theorem rbe_any (n : Nat) (size : Int) (w : World) (hn : n < 18446744073709551616) (hs0 : -9223372036854775808 ≤ size) (hs1 : size ≤ 9223372036854775807) :
    Calls Tryz.prog 24 #[.int .u64 n, .int .i64 size] w fun e w' => ∃ v, e = .returned v ∧ Own 5 .u8 256 w' w.heap.size v (leS n size).reverse ∧ Below w.heap.size w w' := by
  by_cases h0 : size < 0
  · rw [rbe_nil n size (by omega)]
    go_enter Tryz.func24, Tryz.ntmps24
    go_wp2
    go_ret
    exact ⟨_, rfl, ⟨World.ownsRow_nil _ _ _ _, fun x hx => by simp at hx⟩, Below.refl _ _⟩
  by_cases h1 : 65536 < size
  · rw [rbe_nil n size (by omega)]
    go_enter Tryz.func24, Tryz.ntmps24
    go_wp2
    go_ret
    exact ⟨_, rfl, ⟨World.ownsRow_nil _ _ _ _, fun x hx => by simp at hx⟩, Below.refl _ _⟩
  obtain ⟨N, rfl⟩ := Int.eq_ofNat_of_zero_le (show 0 ≤ size by omega)
  have hS : (leS n (N : Int)).reverse = beTo n N N := by
    rw [beTo_full]; unfold leS
    by_cases hz : N = 0
    · subst hz; rfl
    · rw [if_neg (by omega), Int.toNat_natCast]
  rw [hS]
  clear hS
  obtain ⟨i0, hi, hz0, hz1, hz2⟩ := info_parts Tryz.info5
  have hNN : N ≤ 65536 := by omega
  go_enter Tryz.func24, Tryz.ntmps24
  go_wp2_with (first | (at_make; refine wpList_make_full _ rfl _ _ 23 rfl w.heap.size 5 i0 (.int .u8 0) 1 Tryz.underlying23 hi hz0 hz1 _ _ _ _ N rfl rfl rfl rfl (by rw [hz2]; omega) (by unfold maxLen; omega) (Nat.le_refl _) ?_; intro w1 hown hgrow) | go_in)
  rw [made_u8] at hown
  have hb := (Below.refl w.heap.size w).grown hgrow (Nat.le_refl _) (fun k h => by cases h)
  clear hgrow
  go_loopw [0, 6] (fun nn i wr => ∃ k jn : Nat, jn + k = N ∧ i = .int .i64 ((jn : Int) - 1) ∧ nn = .int .u64 ((n / 256 ^ k : Nat) : Int) ∧ wr.ownsRow w.heap.size 5 1 (.slice (some ⟨w.heap.size, 0, none⟩) N N) N (vals .u8 (beTo n N k)) ∧ Below w.heap.size w wr) (fun _ i _ => (intOf i + 1).toNat)
  case atStart => exact ⟨0, N, by omega, rfl, by simp, by rw [beTo_zero]; exact hown, hb⟩
  case round =>
    obtain ⟨k, jn, hkj, rfl, rfl, how, hbr⟩ := hrel
    clear hown hb
    have HKJ := hide hkj
    have hle : jn ≤ N := by omega
    clear hkj
    have hM : n / 256 ^ k < 18446744073709551616 := Nat.lt_of_le_of_lt (Nat.div_le_self _ _) hn
    generalize hMM : n / 256 ^ k = M at *
    have HM := hide hMM
    clear hMM
    by_cases hlt : 0 < jn
    · obtain ⟨j, rfl⟩ : ∃ j, jn = j + 1 := ⟨jn - 1, by omega⟩
      rw [show (((j + 1 : Nat) : Int) - 1) = (j : Int) from by omega]
      have c1 := how.cellAt j (by omega)
      rw [vals_get _ _ _ (by rw [beTo_length]; omega)] at c1
      have f1 := how.frozenAt j
      go_wp2
      rw [and255 M hM]
      go_roundw
      case rel =>
        have e : M % 256 = n / 256 ^ k % 256 := by rw [HM.out]
        have st := (how.stored j (.int .u8 ((M % 256 : Nat) : Int))).1
        rw [vals_set, e, beTo_set n N k j HKJ.out] at st
        rw [e]
        exact ⟨k + 1, j, by have := HKJ.out; omega, rfl, vint (by rw [Nat.pow_succ, ← Nat.div_div_eq_div_mul, HM.out]; simp), st, hbr.setCell (by simp) _⟩
      case measure => simp [intOf]
    · go_wp2
      go_ret
      have e : k = N := by have := HKJ.out; omega
      subst e
      exact ⟨_, rfl, ⟨by rw [beTo_length]; exact how, beTo_under _ _ _⟩, hbr⟩
end Go.Proofs.YtogiballdmgcpaaGreatDoor

/- Plain facts on the sums of SHA-2: words, rounds, blocks. No walk. -/
namespace Go.Proofs.YtogiballdmgcpaaGreatDoor
set_option linter.unusedVariables false
set_option linter.unusedSimpArgs false

/-- a word's bits; its bound; rounds; a block's bytes; a word's bytes -/
def wb (b : Bool) : Nat := bif b then 64 else 32
def wm (b : Bool) : Nat := bif b then 18446744073709551616 else 4294967296
def rn (b : Bool) : Nat := bif b then 80 else 64
def bz (b : Bool) : Nat := bif b then 128 else 64
def ez (b : Bool) : Nat := bif b then 8 else 4

theorem wm_pow (b : Bool) : wm b = 2 ^ wb b := by cases b <;> decide
theorem wm_pos (b : Bool) : 0 < wm b := by cases b <;> decide
theorem wm_le (b : Bool) : wm b ≤ 18446744073709551616 := by cases b <;> decide
theorem bz_pos (b : Bool) : 0 < bz b := by cases b <;> decide

/-- a word turned to the right -/
def rot (b : Bool) (r x : Nat) : Nat := x / 2 ^ r ||| x * 2 ^ (wb b - r) % wm b
def turn3 (b : Bool) (r1 r2 r3 x : Nat) : Nat := rot b r1 x ^^^ rot b r2 x ^^^ rot b r3 x
def shft3 (b : Bool) (r1 r2 r3 x : Nat) : Nat := rot b r1 x ^^^ rot b r2 x ^^^ x / 2 ^ r3
def gS0 (b : Bool) (x : Nat) : Nat := bif b then turn3 true 28 34 39 x else turn3 false 2 13 22 x
def gS1 (b : Bool) (x : Nat) : Nat := bif b then turn3 true 14 18 41 x else turn3 false 6 11 25 x
def lS0 (b : Bool) (x : Nat) : Nat := bif b then shft3 true 1 8 7 x else shft3 false 7 18 3 x
def lS1 (b : Bool) (x : Nat) : Nat := bif b then shft3 true 19 61 6 x else shft3 false 17 19 10 x
def chs (b : Bool) (e f g : Nat) : Nat := (e &&& f) ^^^ ((wm b - 1 - e) &&& g)
def maj (x y z : Nat) : Nat := (x &&& y) ^^^ (x &&& z) ^^^ (y &&& z)

theorem shr_lt {b : Bool} {x : Nat} (hx : x < wm b) (r : Nat) : x / 2 ^ r < wm b := Nat.lt_of_le_of_lt (Nat.div_le_self _ _) hx
theorem rot_lt {b : Bool} {x : Nat} (hx : x < wm b) (r : Nat) : rot b r x < wm b := by
  unfold rot
  rw [wm_pow] at *
  exact Nat.or_lt_two_pow (Nat.lt_of_le_of_lt (Nat.div_le_self _ _) hx) (Nat.mod_lt _ (Nat.two_pow_pos _))
theorem xor_lt {b : Bool} {x y : Nat} (hx : x < wm b) (hy : y < wm b) : x ^^^ y < wm b := by rw [wm_pow] at *; exact Nat.xor_lt_two_pow hx hy
theorem and_lt {b : Bool} {x y : Nat} (hx : x < wm b) : x &&& y < wm b := Nat.lt_of_le_of_lt Nat.and_le_left hx
theorem ones_xor (n e : Nat) (h : e < 2 ^ n) : (2 ^ n - 1) ^^^ e = 2 ^ n - 1 - e := by
  apply Nat.eq_of_testBit_eq
  intro i
  rw [Nat.testBit_xor, Nat.testBit_two_pow_sub_one, show 2 ^ n - 1 - e = 2 ^ n - (e + 1) by omega, Nat.testBit_two_pow_sub_succ h]
  by_cases hi : i < n
  · simp [hi]
  · have : e.testBit i = false := Nat.testBit_lt_two_pow (Nat.lt_of_lt_of_le h (Nat.pow_le_pow_right (by decide) (by omega)))
    simp [hi, this]
/-- a round's two sums, and the words behind it -/
def tOne (b : Bool) (s : List Nat) (k w : Nat) : Nat := (el s 7 + gS1 b (el s 4) + chs b (el s 4) (el s 5) (el s 6) + k + w) % wm b
def tTwo (b : Bool) (s : List Nat) : Nat := (gS0 b (el s 0) + maj (el s 0) (el s 1) (el s 2)) % wm b
def rnd (b : Bool) (k w : Nat) (s : List Nat) : List Nat :=
  [(tOne b s k w + tTwo b s) % wm b, el s 0, el s 1, el s 2, (el s 3 + tOne b s k w) % wm b, el s 4, el s 5, el s 6]
def rndN (b : Bool) (ks ws : List Nat) : Nat → List Nat → List Nat
  | 0, s => s
  | n + 1, s => rnd b (el ks n) (el ws n) (rndN b ks ws n s)

theorem rnd_under {b : Bool} {k w : Nat} {s : List Nat} (hs : Under (wm b) s) : Under (wm b) (rnd b k w s) := by
  have hp := wm_pos b
  have he := fun i => el_lt hs hp i
  intro x hx
  simp only [rnd, List.mem_cons, List.not_mem_nil, or_false] at hx
  rcases hx with rfl | rfl | rfl | rfl | rfl | rfl | rfl | rfl <;> first | exact Nat.mod_lt _ hp | exact he _
theorem rndN_under {b : Bool} {ks ws s : List Nat} (hs : Under (wm b) s) : ∀ n, Under (wm b) (rndN b ks ws n s)
  | 0 => hs
  | n + 1 => rnd_under (rndN_under hs n)
theorem rndN_length {b : Bool} {ks ws s : List Nat} (hs : s.length = 8) : ∀ n, (rndN b ks ws n s).length = 8
  | 0 => hs
  | n + 1 => rfl

/-- a block's words, one for each round -/
def nxt (b : Bool) (l : List Nat) : Nat := (lS1 b (el l (l.length - 2)) + el l (l.length - 7) + lS0 b (el l (l.length - 15)) + el l (l.length - 16)) % wm b
def grow (b : Bool) : Nat → List Nat → List Nat
  | 0, l => l
  | n + 1, l => grow b n l ++ [nxt b (grow b n l)]
def word (b : Bool) (l : List Nat) (t : Nat) : Nat := numL ((l.drop (t * ez b)).take (ez b))
def words (b : Bool) (l : List Nat) (n : Nat) : List Nat := (List.range n).map (word b l)
def sched (b : Bool) (l : List Nat) (n : Nat) : List Nat := grow b n (words b l 16)

theorem grow_length (b : Bool) (l : List Nat) : ∀ n, (grow b n l).length = l.length + n
  | 0 => rfl
  | n + 1 => by simp [grow, grow_length b l n]; omega
theorem words_length (b : Bool) (l : List Nat) (n : Nat) : (words b l n).length = n := by simp [words]
theorem sched_length (b : Bool) (l : List Nat) (n : Nat) : (sched b l n).length = 16 + n := by rw [sched, grow_length, words_length]
theorem words_succ (b : Bool) (l : List Nat) (n : Nat) : words b l (n + 1) = words b l n ++ [word b l n] := by simp [words, List.range_succ]
theorem numL_small (l : List Nat) (hu : Under 256 l) : ∀ k, k ≤ 8 → l.length ≤ k → numL l < 256 ^ k := by
  have key : ∀ (l : List Nat) (n j : Nat), Under 256 l → n < 256 ^ j → l.foldl (fun n x => (n * 256 + x) % 18446744073709551616) n < 256 ^ (j + l.length) := by
    intro l
    induction l with
    | nil => intro n j _ h; exact h
    | cons x l ih =>
      intro n j hu h
      rw [List.foldl_cons, List.length_cons, show j + (l.length + 1) = (j + 1) + l.length from by omega]
      refine ih _ (j + 1) (fun y hy => hu y (List.mem_cons_of_mem _ hy)) ?_
      have hx := hu x (List.mem_cons_self ..)
      have : (n * 256 + x) % 18446744073709551616 ≤ n * 256 + x := Nat.mod_le _ _
      rw [Nat.pow_succ]
      omega
  intro k hk hl
  have h := key l 0 0 hu (by decide)
  rw [Nat.zero_add] at h
  exact Nat.lt_of_lt_of_le h (Nat.pow_le_pow_right (by decide) hl)
theorem Under.drop {m : Nat} {l : List Nat} (h : Under m l) (k : Nat) : Under m (l.drop k) := fun x hx => h x (List.mem_of_mem_drop hx)
theorem Under.take {m : Nat} {l : List Nat} (h : Under m l) (k : Nat) : Under m (l.take k) := fun x hx => h x (List.mem_of_mem_take hx)
theorem word_lt {b : Bool} {l : List Nat} (hu : Under 256 l) (t : Nat) : word b l t < wm b := by
  have h := numL_small _ ((hu.drop (t * ez b)).take (ez b)) (ez b) (by cases b <;> decide) (List.length_take_le _ _)
  have e : (256 : Nat) ^ ez b = wm b := by cases b <;> decide
  rw [e] at h
  exact h
theorem words_under {b : Bool} {l : List Nat} (hu : Under 256 l) (n : Nat) : Under (wm b) (words b l n) := by
  intro x hx
  obtain ⟨t, _, rfl⟩ := List.mem_map.1 hx
  exact word_lt hu t
theorem grow_under {b : Bool} {l : List Nat} (hu : Under (wm b) l) : ∀ n, Under (wm b) (grow b n l)
  | 0 => hu
  | n + 1 => (grow_under hu n).append (Under.one (Nat.mod_lt _ (wm_pos b)))
theorem sched_under {b : Bool} {l : List Nat} (hu : Under 256 l) (n : Nat) : Under (wm b) (sched b l n) := grow_under (words_under hu 16) n
theorem sched_succ (b : Bool) (l : List Nat) (n : Nat) : sched b l (n + 1) = sched b l n ++ [nxt b (sched b l n)] := rfl

theorem el_app_left {a b : List Nat} {i : Nat} (h : i < a.length) : el (a ++ b) i = el a i := by unfold el; rw [List.getElem?_append_left h]
theorem el_app_right {a b : List Nat} {i : Nat} (h : a.length ≤ i) : el (a ++ b) i = el b (i - a.length) := by unfold el; rw [List.getElem?_append_right h]
/-- a list that is filled from the front, in a row of so many cells -/
def pad (n : Nat) (l : List Nat) : List Nat := l ++ List.replicate (n - l.length) 0
theorem pad_length {n : Nat} {l : List Nat} (h : l.length ≤ n) : (pad n l).length = n := by simp [pad]; omega
theorem pad_full {n : Nat} {l : List Nat} (h : l.length = n) : pad n l = l := by simp [pad, h]
theorem pad_el {n : Nat} {l : List Nat} {i : Nat} (h : i < l.length) : el (pad n l) i = el l i := by unfold pad; exact el_app_left h
theorem pad_set {n : Nat} {l : List Nat} (h : l.length < n) (x : Nat) : (pad n l).set l.length x = pad n (l ++ [x]) := by
  unfold pad
  rw [List.set_append_right _ _ (Nat.le_refl _), Nat.sub_self, show n - l.length = (n - (l ++ [x]).length) + 1 by simp; omega, List.replicate_succ, List.set_cons_zero, List.append_assoc]; rfl
theorem pad_under {m n : Nat} {l : List Nat} (h : Under m l) (hm : 0 < m) : Under m (pad n l) := h.append (Under.replicate m _ hm)

/-- the first 64 bits of the fractions of roots of primes -/
def cubes : List Nat := [4794697086780616226, 8158064640168781261, 13096744586834688815, 16840607885511220156,
  4131703408338449720, 6480981068601479193, 10538285296894168987, 12329834152419229976,
  15566598209576043074, 1334009975649890238, 2608012711638119052, 6128411473006802146,
  8268148722764581231, 9286055187155687089, 11230858885718282805, 13951009754708518548,
  16472876342353939154, 17275323862435702243, 1135362057144423861, 2597628984639134821,
  3308224258029322869, 5365058923640841347, 6679025012923562964, 8573033837759648693,
  10970295158949994411, 12119686244451234320, 12683024718118986047, 13788192230050041572,
  14330467153632333762, 15395433587784984357, 489312712824947311, 1452737877330783856,
  2861767655752347644, 3322285676063803686, 5560940570517711597, 5996557281743188959,
  7280758554555802590, 8532644243296465576, 9350256976987008742, 10552545826968843579,
  11727347734174303076, 12113106623233404929, 14000437183269869457, 14369950271660146224,
  15101387698204529176, 15463397548674623760, 17586052441742319658, 1182934255886127544,
  1847814050463011016, 2177327727835720531, 2830643537854262169, 3796741975233480872,
  4115178125766777443, 5681478168544905931, 6601373596472566643, 7507060721942968483,
  8399075790359081724, 8693463985226723168, 9568029438360202098, 10144078919501101548,
  10430055236837252648, 11840083180663258601, 13761210420658862357, 14299343276471374635,
  14566680578165727644, 15097957966210449927, 16922976911328602910, 17689382322260857208,
  500013540394364858, 748580250866718886, 1242879168328830382, 1977374033974150939,
  2944078676154940804, 3659926193048069267, 4368137639120453308, 4836135668995329356,
  5532061633213252278, 6448918945643986474, 6902733635092675308, 7801388544844847127]
def squares : List Nat := [7640891576956012808, 13503953896175478587, 4354685564936845355, 11912009170470909681,
  5840696475078001361, 11170449401992604703, 2270897969802886507, 6620516959819538809,
  14680500436340154072, 7105036623409894663, 10473403895298186519, 1526699215303891257,
  7436329637833083697, 10282925794625328401, 15784041429090275239, 5167115440072839076]
def hi (b : Bool) (x : Nat) : Nat := bif b then x else x / 4294967296
def ks (b : Bool) : List Nat := cubes.map (hi b)
theorem cubes_length : cubes.length = 80 := rfl
theorem squares_length : squares.length = 16 := rfl
theorem cubes_under : Under 18446744073709551616 cubes := dec_under (by decide)
theorem squares_under : Under 18446744073709551616 squares := dec_under (by decide)
theorem ks_length (b : Bool) : (ks b).length = 80 := by cases b <;> rfl
theorem hi_lt {b : Bool} {x : Nat} (h : x < 18446744073709551616) : hi b x < wm b := by
  cases b <;> simp only [hi, wm, cond_true, cond_false] <;> omega
theorem ks_under (b : Bool) : Under (wm b) (ks b) := by
  intro x hx
  obtain ⟨y, hy, rfl⟩ := List.mem_map.1 hx
  exact hi_lt (cubes_under y hy)

/-- words behind a block -/
def addW (b : Bool) (h s : List Nat) (n : Nat) : List Nat := (List.range n).map fun i => (el s i + el h i) % wm b
def comp (b : Bool) (h l : List Nat) : List Nat := addW b h (rndN b (ks b) (sched b l (rn b - 16)) (rn b) h) 8
theorem comp_length (b : Bool) (h l : List Nat) : (comp b h l).length = 8 := by simp [comp, addW]
theorem comp_under (b : Bool) (h l : List Nat) : Under (wm b) (comp b h l) := by
  intro x hx
  obtain ⟨i, _, rfl⟩ := List.mem_map.1 hx
  exact Nat.mod_lt _ (wm_pos b)

theorem addW_length (b : Bool) (h s : List Nat) (n : Nat) : (addW b h s n).length = n := by simp [addW]
theorem addTo_get (b : Bool) (h s c : List Nat) (j : Nat) (hj : j < h.length) : el (addW b h s j ++ h.drop j ++ c) j = el h j := by
  rw [el_app_left (by rw [List.length_append, addW_length, List.length_drop]; omega), el_app_right (by rw [addW_length]; omega), addW_length, el_drop, Nat.sub_self]; rfl
theorem addTo_set (b : Bool) (h s c : List Nat) (j : Nat) (hj : j < h.length) : (addW b h s j ++ h.drop j ++ c).set j ((el h j + el s j) % wm b) = addW b h s (j + 1) ++ h.drop (j + 1) ++ c := by
  have e : addW b h s (j + 1) = addW b h s j ++ [(el h j + el s j) % wm b] := by simp [addW, List.range_succ, Nat.add_comm]
  rw [e, drop_el hj, List.append_assoc, List.append_assoc, List.append_assoc, List.set_append_right _ _ (by rw [addW_length]; omega), addW_length, Nat.sub_self]
  rfl

/-- words behind so many blocks; behind all whole blocks of a text; what is left of it -/
def eatN (b : Bool) : Nat → List Nat → List Nat → List Nat
  | 0, h, _ => h
  | n + 1, h, l => eatN b n (comp b h (l.take (bz b))) (l.drop (bz b))
def eat (b : Bool) (h l : List Nat) : List Nat := eatN b (l.length / bz b) h l
def left (b : Bool) (l : List Nat) : List Nat := l.drop (l.length / bz b * bz b)

theorem eat_short {b : Bool} {h l : List Nat} (hl : l.length < bz b) : eat b h l = h := by
  unfold eat; rw [Nat.div_eq_of_lt hl]; rfl
theorem left_short {b : Bool} {l : List Nat} (hl : l.length < bz b) : left b l = l := by
  unfold left; rw [Nat.div_eq_of_lt hl]; simp
theorem div_step {b : Bool} {n : Nat} (h : bz b ≤ n) : n / bz b = (n - bz b) / bz b + 1 := by
  rw [Nat.div_eq_sub_div (bz_pos b) h]
theorem eat_step {b : Bool} {h l : List Nat} (hl : bz b ≤ l.length) : eat b h l = eat b (comp b h (l.take (bz b))) (l.drop (bz b)) := by
  unfold eat
  rw [div_step hl, List.length_drop]; rfl
theorem left_step {b : Bool} {l : List Nat} (hl : bz b ≤ l.length) : left b l = left b (l.drop (bz b)) := by
  unfold left
  rw [List.drop_drop, List.length_drop, div_step hl, Nat.add_mul, Nat.one_mul, Nat.add_comm]
theorem left_length (b : Bool) (l : List Nat) : (left b l).length = l.length % bz b := by
  unfold left
  have := Nat.div_add_mod l.length (bz b)
  rw [Nat.mul_comm] at this
  rw [List.length_drop]; omega
theorem left_lt (b : Bool) (l : List Nat) : (left b l).length < bz b := by rw [left_length]; exact Nat.mod_lt _ (bz_pos b)
theorem eat_length {b : Bool} : ∀ (n : Nat) (h l : List Nat), l.length ≤ n → h.length = 8 → (eat b h l).length = 8 := by
  intro n
  induction n with
  | zero => intro h l hl h8; rw [eat_short (by have := bz_pos b; omega)]; exact h8
  | succ n ih =>
    intro h l hl h8
    by_cases hb : bz b ≤ l.length
    · rw [eat_step hb]; exact ih _ _ (by have := bz_pos b; rw [List.length_drop]; omega) (comp_length _ _ _)
    · rw [eat_short (by omega)]; exact h8
theorem eat_len {b : Bool} {h : List Nat} (l : List Nat) (h8 : h.length = 8) : (eat b h l).length = 8 := eat_length l.length h l (Nat.le_refl _) h8
theorem eat_under' {b : Bool} : ∀ (n : Nat) (h l : List Nat), l.length ≤ n → Under (wm b) h → Under (wm b) (eat b h l) := by
  intro n
  induction n with
  | zero => intro h l hl h8; rw [eat_short (by have := bz_pos b; omega)]; exact h8
  | succ n ih =>
    intro h l hl h8
    by_cases hb : bz b ≤ l.length
    · rw [eat_step hb]; exact ih _ _ (by have := bz_pos b; rw [List.length_drop]; omega) (comp_under _ _ _)
    · rw [eat_short (by omega)]; exact h8
theorem eat_under {b : Bool} {h : List Nat} (l : List Nat) (hu : Under (wm b) h) : Under (wm b) (eat b h l) := eat_under' l.length h l (Nat.le_refl _) hu
/-- PARTS -/
theorem eat_parts' {b : Bool} : ∀ (n : Nat) (h x y : List Nat), x.length ≤ n → eat b h (x ++ y) = eat b (eat b h x) (left b x ++ y) ∧ left b (x ++ y) = left b (left b x ++ y) := by
  intro n
  induction n with
  | zero =>
    intro h x y hx
    have h0 : x.length < bz b := by have := bz_pos b; omega
    rw [eat_short h0, left_short h0]; exact ⟨rfl, rfl⟩
  | succ n ih =>
    intro h x y hx
    by_cases hb : bz b ≤ x.length
    · have hb2 : bz b ≤ (x ++ y).length := by rw [List.length_append]; omega
      rw [eat_step hb2, left_step hb2, eat_step hb, left_step hb, List.take_append_of_le_length hb, List.drop_append_of_le_length hb]
      exact ih _ _ _ (by have := bz_pos b; rw [List.length_drop]; omega)
    · rw [eat_short (l := x) (by omega), left_short (l := x) (by omega)]; exact ⟨rfl, rfl⟩
theorem eat_parts (b : Bool) (h x y : List Nat) : eat b h (x ++ y) = eat b (eat b h x) (left b x ++ y) := (eat_parts' x.length h x y (Nat.le_refl _)).1
/-- how many bytes the size has in a block behind the byte 128; what fills up a text; the sum's bytes -/
def room (b : Bool) (n : Nat) : Nat := if bz b - n % bz b - 1 < bz b / 8 then bz b - n % bz b - 1 + bz b else bz b - n % bz b - 1
def fill (b : Bool) (n size : Nat) : List Nat := [128] ++ (leL (8 * size) (room b n)).reverse
def bytesW (b : Bool) (h : List Nat) : List Nat := (h.map fun x => (leL x (ez b)).reverse).flatten
/-- the whole sum: of a text behind words, of so many bytes in all, so many bytes of it -/
def endS (b : Bool) (h l : List Nat) (size n : Nat) : List Nat := (bytesW b (eat b h (l ++ fill b l.length size))).take n
end Go.Proofs.YtogiballdmgcpaaGreatDoor
