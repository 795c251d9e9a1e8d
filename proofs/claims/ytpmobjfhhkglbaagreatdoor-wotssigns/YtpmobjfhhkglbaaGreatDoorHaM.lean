import Derived.Test.YtpmobjfhhkglbaaGreatDoorBase
import Derived.Test.YtpmobjfhhkglbaaGreatDoorLmM
import Derived.Deep.WholeRow
import Derived.Deep.MidRow
import Derived.Deep.RegionHeld3
import Derived.Deep.AppendLies
import Derived.Laws.AppendOwnNone
import Derived.ArgAppend
namespace Go.Proofs.YtpmobjfhhkglbaaGreatDoor
set_option linter.unusedVariables false
set_option linter.unusedSimpArgs false
def wb (b : Bool) : Nat := bif b then 64 else 32
def wm (b : Bool) : Nat := bif b then 18446744073709551616 else 4294967296
def rn (b : Bool) : Nat := bif b then 80 else 64
def bz (b : Bool) : Nat := bif b then 128 else 64
def ez (b : Bool) : Nat := bif b then 8 else 4
theorem wm_pow (b : Bool) : wm b = 2 ^ wb b := by cases b <;> decide
theorem wm_pos (b : Bool) : 0 < wm b := by cases b <;> decide
theorem wm_le (b : Bool) : wm b ≤ 18446744073709551616 := by cases b <;> decide
theorem bz_pos (b : Bool) : 0 < bz b := by cases b <;> decide
def rot (b : Bool) (r x : Nat) : Nat := x / 2 ^ r ||| x * 2 ^ (wb b - r) % wm b
def turn3 (b : Bool) (r1 r2 r3 x : Nat) : Nat := rot b r1 x ^^^ rot b r2 x ^^^ rot b r3 x
def shft3 (b : Bool) (r1 r2 r3 x : Nat) : Nat := rot b r1 x ^^^ rot b r2 x ^^^ x / 2 ^ r3
def gS0 (b : Bool) (x : Nat) : Nat := bif b then turn3 true 28 34 39 x else turn3 false 2 13 22 x
def gS1 (b : Bool) (x : Nat) : Nat := bif b then turn3 true 14 18 41 x else turn3 false 6 11 25 x
def lS0 (b : Bool) (x : Nat) : Nat := bif b then shft3 true 1 8 7 x else shft3 false 7 18 3 x
def lS1 (b : Bool) (x : Nat) : Nat := bif b then shft3 true 19 61 6 x else shft3 false 17 19 10 x
def chs (b : Bool) (e f g : Nat) : Nat := (e &&& f) ^^^ ((wm b - 1 - e) &&& g)
def maj (x y z : Nat) : Nat := (x &&& y) ^^^ (x &&& z) ^^^ (y &&& z)
theorem shr_lt {b : Bool} {x : Nat} (hx : x < wm b) (r : Nat) : x / 2 ^ r < wm b := Nat.lt_of_le_of_lt (Nat.div_le_self _ _) hx
theorem rot_lt {b : Bool} {x : Nat} (hx : x < wm b) (r : Nat) : rot b r x < wm b := by
  unfold rot
  rw [wm_pow] at *
  exact Nat.or_lt_two_pow (Nat.lt_of_le_of_lt (Nat.div_le_self _ _) hx) (Nat.mod_lt _ (Nat.two_pow_pos _))
theorem xor_lt {b : Bool} {x y : Nat} (hx : x < wm b) (hy : y < wm b) : x ^^^ y < wm b := by rw [wm_pow] at *; exact Nat.xor_lt_two_pow hx hy
theorem and_lt {b : Bool} {x y : Nat} (hx : x < wm b) : x &&& y < wm b := Nat.lt_of_le_of_lt Nat.and_le_left hx
theorem ones_xor (n e : Nat) (h : e < 2 ^ n) : (2 ^ n - 1) ^^^ e = 2 ^ n - 1 - e := by
  apply Nat.eq_of_testBit_eq
  intro i
  rw [Nat.testBit_xor, Nat.testBit_two_pow_sub_one, show 2 ^ n - 1 - e = 2 ^ n - (e + 1) by omega, Nat.testBit_two_pow_sub_succ h]
  by_cases hi : i < n
  · simp [hi]
  · have : e.testBit i = false := Nat.testBit_lt_two_pow (Nat.lt_of_lt_of_le h (Nat.pow_le_pow_right (by decide) (by omega)))
    simp [hi, this]
def tOne (b : Bool) (s : List Nat) (k w : Nat) : Nat := (el s 7 + gS1 b (el s 4) + chs b (el s 4) (el s 5) (el s 6) + k + w) % wm b
def tTwo (b : Bool) (s : List Nat) : Nat := (gS0 b (el s 0) + maj (el s 0) (el s 1) (el s 2)) % wm b
def rnd (b : Bool) (k w : Nat) (s : List Nat) : List Nat :=
  [(tOne b s k w + tTwo b s) % wm b, el s 0, el s 1, el s 2, (el s 3 + tOne b s k w) % wm b, el s 4, el s 5, el s 6]
def rndN (b : Bool) (ks ws : List Nat) : Nat → List Nat → List Nat
  | 0, s => s
  | n + 1, s => rnd b (el ks n) (el ws n) (rndN b ks ws n s)
theorem rnd_under {b : Bool} {k w : Nat} {s : List Nat} (hs : Under (wm b) s) : Under (wm b) (rnd b k w s) := by
  have hp := wm_pos b
  have he := fun i => el_lt hs hp i
  intro x hx
  simp only [rnd, List.mem_cons, List.not_mem_nil, or_false] at hx
  rcases hx with rfl | rfl | rfl | rfl | rfl | rfl | rfl | rfl <;> first | exact Nat.mod_lt _ hp | exact he _
theorem rndN_under {b : Bool} {ks ws s : List Nat} (hs : Under (wm b) s) : ∀ n, Under (wm b) (rndN b ks ws n s)
  | 0 => hs
  | n + 1 => rnd_under (rndN_under hs n)
theorem rndN_length {b : Bool} {ks ws s : List Nat} (hs : s.length = 8) : ∀ n, (rndN b ks ws n s).length = 8
  | 0 => hs
  | n + 1 => rfl
def nxt (b : Bool) (l : List Nat) : Nat := (lS1 b (el l (l.length - 2)) + el l (l.length - 7) + lS0 b (el l (l.length - 15)) + el l (l.length - 16)) % wm b
def grow (b : Bool) : Nat → List Nat → List Nat
  | 0, l => l
  | n + 1, l => grow b n l ++ [nxt b (grow b n l)]
def word (b : Bool) (l : List Nat) (t : Nat) : Nat := numL ((l.drop (t * ez b)).take (ez b))
def words (b : Bool) (l : List Nat) (n : Nat) : List Nat := (List.range n).map (word b l)
def sched (b : Bool) (l : List Nat) (n : Nat) : List Nat := grow b n (words b l 16)
theorem grow_length (b : Bool) (l : List Nat) : ∀ n, (grow b n l).length = l.length + n
  | 0 => rfl
  | n + 1 => by simp [grow, grow_length b l n]; omega
theorem words_length (b : Bool) (l : List Nat) (n : Nat) : (words b l n).length = n := by simp [words]
theorem sched_length (b : Bool) (l : List Nat) (n : Nat) : (sched b l n).length = 16 + n := by rw [sched, grow_length, words_length]
theorem words_succ (b : Bool) (l : List Nat) (n : Nat) : words b l (n + 1) = words b l n ++ [word b l n] := by simp [words, List.range_succ]
theorem numL_small (l : List Nat) (hu : Under 256 l) : ∀ k, k ≤ 8 → l.length ≤ k → numL l < 256 ^ k := by
  have key : ∀ (l : List Nat) (n j : Nat), Under 256 l → n < 256 ^ j → l.foldl (fun n x => (n * 256 + x) % 18446744073709551616) n < 256 ^ (j + l.length) := by
    intro l
    induction l with
    | nil => intro n j _ h; exact h
    | cons x l ih =>
      intro n j hu h
      rw [List.foldl_cons, List.length_cons, show j + (l.length + 1) = (j + 1) + l.length from by omega]
      refine ih _ (j + 1) (fun y hy => hu y (List.mem_cons_of_mem _ hy)) ?_
      have hx := hu x (List.mem_cons_self ..)
      have : (n * 256 + x) % 18446744073709551616 ≤ n * 256 + x := Nat.mod_le _ _
      rw [Nat.pow_succ]
      omega
  intro k hk hl
  have h := key l 0 0 hu (by decide)
  rw [Nat.zero_add] at h
  exact Nat.lt_of_lt_of_le h (Nat.pow_le_pow_right (by decide) hl)
theorem word_lt {b : Bool} {l : List Nat} (hu : Under 256 l) (t : Nat) : word b l t < wm b := by
  have h := numL_small _ ((hu.drop (t * ez b)).take (ez b)) (ez b) (by cases b <;> decide) (List.length_take_le _ _)
  have e : (256 : Nat) ^ ez b = wm b := by cases b <;> decide
  rw [e] at h
  exact h
theorem words_under {b : Bool} {l : List Nat} (hu : Under 256 l) (n : Nat) : Under (wm b) (words b l n) := by
  intro x hx
  obtain ⟨t, _, rfl⟩ := List.mem_map.1 hx
  exact word_lt hu t
theorem grow_under {b : Bool} {l : List Nat} (hu : Under (wm b) l) : ∀ n, Under (wm b) (grow b n l)
  | 0 => hu
  | n + 1 => (grow_under hu n).append (Under.one (Nat.mod_lt _ (wm_pos b)))
theorem sched_under {b : Bool} {l : List Nat} (hu : Under 256 l) (n : Nat) : Under (wm b) (sched b l n) := grow_under (words_under hu 16) n
theorem sched_succ (b : Bool) (l : List Nat) (n : Nat) : sched b l (n + 1) = sched b l n ++ [nxt b (sched b l n)] := rfl
theorem el_app_left {a b : List Nat} {i : Nat} (h : i < a.length) : el (a ++ b) i = el a i := by unfold el; rw [List.getElem?_append_left h]
theorem el_app_right {a b : List Nat} {i : Nat} (h : a.length ≤ i) : el (a ++ b) i = el b (i - a.length) := by unfold el; rw [List.getElem?_append_right h]
def pad (n : Nat) (l : List Nat) : List Nat := l ++ List.replicate (n - l.length) 0
theorem pad_length {n : Nat} {l : List Nat} (h : l.length ≤ n) : (pad n l).length = n := by simp [pad]; omega
theorem pad_full {n : Nat} {l : List Nat} (h : l.length = n) : pad n l = l := by simp [pad, h]
theorem pad_el {n : Nat} {l : List Nat} {i : Nat} (h : i < l.length) : el (pad n l) i = el l i := by unfold pad; exact el_app_left h
theorem pad_set {n : Nat} {l : List Nat} (h : l.length < n) (x : Nat) : (pad n l).set l.length x = pad n (l ++ [x]) := by
  unfold pad
  rw [List.set_append_right _ _ (Nat.le_refl _), Nat.sub_self, show n - l.length = (n - (l ++ [x]).length) + 1 by simp; omega, List.replicate_succ, List.set_cons_zero, List.append_assoc]; rfl
theorem pad_under {m n : Nat} {l : List Nat} (h : Under m l) (hm : 0 < m) : Under m (pad n l) := h.append (Under.replicate m _ hm)
def cubes : List Nat := [4794697086780616226, 8158064640168781261, 13096744586834688815, 16840607885511220156,
  4131703408338449720, 6480981068601479193, 10538285296894168987, 12329834152419229976,
  15566598209576043074, 1334009975649890238, 2608012711638119052, 6128411473006802146,
  8268148722764581231, 9286055187155687089, 11230858885718282805, 13951009754708518548,
  16472876342353939154, 17275323862435702243, 1135362057144423861, 2597628984639134821,
  3308224258029322869, 5365058923640841347, 6679025012923562964, 8573033837759648693,
  10970295158949994411, 12119686244451234320, 12683024718118986047, 13788192230050041572,
  14330467153632333762, 15395433587784984357, 489312712824947311, 1452737877330783856,
  2861767655752347644, 3322285676063803686, 5560940570517711597, 5996557281743188959,
  7280758554555802590, 8532644243296465576, 9350256976987008742, 10552545826968843579,
  11727347734174303076, 12113106623233404929, 14000437183269869457, 14369950271660146224,
  15101387698204529176, 15463397548674623760, 17586052441742319658, 1182934255886127544,
  1847814050463011016, 2177327727835720531, 2830643537854262169, 3796741975233480872,
  4115178125766777443, 5681478168544905931, 6601373596472566643, 7507060721942968483,
  8399075790359081724, 8693463985226723168, 9568029438360202098, 10144078919501101548,
  10430055236837252648, 11840083180663258601, 13761210420658862357, 14299343276471374635,
  14566680578165727644, 15097957966210449927, 16922976911328602910, 17689382322260857208,
  500013540394364858, 748580250866718886, 1242879168328830382, 1977374033974150939,
  2944078676154940804, 3659926193048069267, 4368137639120453308, 4836135668995329356,
  5532061633213252278, 6448918945643986474, 6902733635092675308, 7801388544844847127]
def squares : List Nat := [7640891576956012808, 13503953896175478587, 4354685564936845355, 11912009170470909681,
  5840696475078001361, 11170449401992604703, 2270897969802886507, 6620516959819538809,
  14680500436340154072, 7105036623409894663, 10473403895298186519, 1526699215303891257,
  7436329637833083697, 10282925794625328401, 15784041429090275239, 5167115440072839076]
def hi (b : Bool) (x : Nat) : Nat := bif b then x else x / 4294967296
def ks (b : Bool) : List Nat := cubes.map (hi b)
theorem cubes_length : cubes.length = 80 := rfl
theorem squares_length : squares.length = 16 := rfl
theorem cubes_under : Under 18446744073709551616 cubes := dec_under (by decide)
theorem squares_under : Under 18446744073709551616 squares := dec_under (by decide)
theorem ks_length (b : Bool) : (ks b).length = 80 := by cases b <;> rfl
theorem hi_lt {b : Bool} {x : Nat} (h : x < 18446744073709551616) : hi b x < wm b := by
  cases b <;> simp only [hi, wm, cond_true, cond_false] <;> omega
theorem ks_under (b : Bool) : Under (wm b) (ks b) := by
  intro x hx
  obtain ⟨y, hy, rfl⟩ := List.mem_map.1 hx
  exact hi_lt (cubes_under y hy)
def addW (b : Bool) (h s : List Nat) (n : Nat) : List Nat := (List.range n).map fun i => (el s i + el h i) % wm b
def comp (b : Bool) (h l : List Nat) : List Nat := addW b h (rndN b (ks b) (sched b l (rn b - 16)) (rn b) h) 8
theorem comp_length (b : Bool) (h l : List Nat) : (comp b h l).length = 8 := by simp [comp, addW]
theorem comp_under (b : Bool) (h l : List Nat) : Under (wm b) (comp b h l) := by
  intro x hx
  obtain ⟨i, _, rfl⟩ := List.mem_map.1 hx
  exact Nat.mod_lt _ (wm_pos b)
theorem addW_length (b : Bool) (h s : List Nat) (n : Nat) : (addW b h s n).length = n := by simp [addW]
theorem addTo_get (b : Bool) (h s c : List Nat) (j : Nat) (hj : j < h.length) : el (addW b h s j ++ h.drop j ++ c) j = el h j := by
  rw [el_app_left (by rw [List.length_append, addW_length, List.length_drop]; omega), el_app_right (by rw [addW_length]; omega), addW_length, el_drop, Nat.sub_self]; rfl
theorem addTo_set (b : Bool) (h s c : List Nat) (j : Nat) (hj : j < h.length) : (addW b h s j ++ h.drop j ++ c).set j ((el h j + el s j) % wm b) = addW b h s (j + 1) ++ h.drop (j + 1) ++ c := by
  have e : addW b h s (j + 1) = addW b h s j ++ [(el h j + el s j) % wm b] := by simp [addW, List.range_succ, Nat.add_comm]
  rw [e, drop_el hj, List.append_assoc, List.append_assoc, List.append_assoc, List.set_append_right _ _ (by rw [addW_length]; omega), addW_length, Nat.sub_self]
  rfl
def eatN (b : Bool) : Nat → List Nat → List Nat → List Nat
  | 0, h, _ => h
  | n + 1, h, l => eatN b n (comp b h (l.take (bz b))) (l.drop (bz b))
def eat (b : Bool) (h l : List Nat) : List Nat := eatN b (l.length / bz b) h l
def left (b : Bool) (l : List Nat) : List Nat := l.drop (l.length / bz b * bz b)
theorem eat_short {b : Bool} {h l : List Nat} (hl : l.length < bz b) : eat b h l = h := by
  unfold eat; rw [Nat.div_eq_of_lt hl]; rfl
theorem left_short {b : Bool} {l : List Nat} (hl : l.length < bz b) : left b l = l := by
  unfold left; rw [Nat.div_eq_of_lt hl]; simp
theorem div_step {b : Bool} {n : Nat} (h : bz b ≤ n) : n / bz b = (n - bz b) / bz b + 1 := by
  rw [Nat.div_eq_sub_div (bz_pos b) h]
theorem eat_step {b : Bool} {h l : List Nat} (hl : bz b ≤ l.length) : eat b h l = eat b (comp b h (l.take (bz b))) (l.drop (bz b)) := by
  unfold eat
  rw [div_step hl, List.length_drop]; rfl
theorem left_step {b : Bool} {l : List Nat} (hl : bz b ≤ l.length) : left b l = left b (l.drop (bz b)) := by
  unfold left
  rw [List.drop_drop, List.length_drop, div_step hl, Nat.add_mul, Nat.one_mul, Nat.add_comm]
theorem left_length (b : Bool) (l : List Nat) : (left b l).length = l.length % bz b := by
  unfold left
  have := Nat.div_add_mod l.length (bz b)
  rw [Nat.mul_comm] at this
  rw [List.length_drop]; omega
theorem left_lt (b : Bool) (l : List Nat) : (left b l).length < bz b := by rw [left_length]; exact Nat.mod_lt _ (bz_pos b)
theorem eat_length {b : Bool} : ∀ (n : Nat) (h l : List Nat), l.length ≤ n → h.length = 8 → (eat b h l).length = 8 := by
  intro n
  induction n with
  | zero => intro h l hl h8; rw [eat_short (by have := bz_pos b; omega)]; exact h8
  | succ n ih =>
    intro h l hl h8
    by_cases hb : bz b ≤ l.length
    · rw [eat_step hb]; exact ih _ _ (by have := bz_pos b; rw [List.length_drop]; omega) (comp_length _ _ _)
    · rw [eat_short (by omega)]; exact h8
theorem eat_len {b : Bool} {h : List Nat} (l : List Nat) (h8 : h.length = 8) : (eat b h l).length = 8 := eat_length l.length h l (Nat.le_refl _) h8
theorem eat_under' {b : Bool} : ∀ (n : Nat) (h l : List Nat), l.length ≤ n → Under (wm b) h → Under (wm b) (eat b h l) := by
  intro n
  induction n with
  | zero => intro h l hl h8; rw [eat_short (by have := bz_pos b; omega)]; exact h8
  | succ n ih =>
    intro h l hl h8
    by_cases hb : bz b ≤ l.length
    · rw [eat_step hb]; exact ih _ _ (by have := bz_pos b; rw [List.length_drop]; omega) (comp_under _ _ _)
    · rw [eat_short (by omega)]; exact h8
theorem eat_under {b : Bool} {h : List Nat} (l : List Nat) (hu : Under (wm b) h) : Under (wm b) (eat b h l) := eat_under' l.length h l (Nat.le_refl _) hu
theorem eat_parts' {b : Bool} : ∀ (n : Nat) (h x y : List Nat), x.length ≤ n → eat b h (x ++ y) = eat b (eat b h x) (left b x ++ y) ∧ left b (x ++ y) = left b (left b x ++ y) := by
  intro n
  induction n with
  | zero =>
    intro h x y hx
    have h0 : x.length < bz b := by have := bz_pos b; omega
    rw [eat_short h0, left_short h0]; exact ⟨rfl, rfl⟩
  | succ n ih =>
    intro h x y hx
    by_cases hb : bz b ≤ x.length
    · have hb2 : bz b ≤ (x ++ y).length := by rw [List.length_append]; omega
      rw [eat_step hb2, left_step hb2, eat_step hb, left_step hb, List.take_append_of_le_length hb, List.drop_append_of_le_length hb]
      exact ih _ _ _ (by have := bz_pos b; rw [List.length_drop]; omega)
    · rw [eat_short (l := x) (by omega), left_short (l := x) (by omega)]; exact ⟨rfl, rfl⟩
theorem eat_parts (b : Bool) (h x y : List Nat) : eat b h (x ++ y) = eat b (eat b h x) (left b x ++ y) := (eat_parts' x.length h x y (Nat.le_refl _)).1
theorem left_parts (b : Bool) (x y : List Nat) : left b (x ++ y) = left b (left b x ++ y) := (eat_parts' x.length [] x y (Nat.le_refl _)).2
def room (b : Bool) (n : Nat) : Nat := if bz b - n % bz b - 1 < bz b / 8 then bz b - n % bz b - 1 + bz b else bz b - n % bz b - 1
def fill (b : Bool) (n size : Nat) : List Nat := [128] ++ (leL (8 * size) (room b n)).reverse
def bytesW (b : Bool) (h : List Nat) : List Nat := (h.map fun x => (leL x (ez b)).reverse).flatten
def endS (b : Bool) (h l : List Nat) (size n : Nat) : List Nat := (bytesW b (eat b h (l ++ fill b l.length size))).take n
end Go.Proofs.YtpmobjfhhkglbaaGreatDoor

namespace Go.Proofs.YtpmobjfhhkglbaaGreatDoor
open Go.RowKit
set_option linter.unusedVariables false
set_option linter.unusedSimpArgs false
theorem bel_drewN {B : Nat} {a w : World} (h : Below B a w) (n : Nat) : Below B a (w.drewN n) := h.trans ⟨rfl, rfl, rfl, Nat.le_refl _, fun _ _ => rfl⟩
theorem un_drew {w w' : World} (h : Below w.drew.heap.size w.drew w') : Below w.heap.size w w' := ⟨h.os, h.tape, h.output, h.size, h.block⟩
theorem un_drewN {n : Nat} {w w' : World} (h : Below (w.drewN n).heap.size (w.drewN n) w') : Below w.heap.size w w' := ⟨h.os, h.tape, h.output, h.size, h.block⟩
def arr (k : IntKind) (l : List Nat) : Array Value := (vals k l).toArray
theorem arr_size (k : IntKind) (l : List Nat) : (arr k l).size = l.length := by simp [arr, vals]
theorem arr_get (k : IntKind) (l : List Nat) (i : Nat) (h : i < l.length) : (arr k l)[i]? = some (.int k (el l i)) := by
  unfold arr; rw [List.getElem?_toArray]; exact vals_get k l i h
theorem arr_one (k : IntKind) (l : List Nat) : (arr k l).all (·.oneCell') = true := all_oneCell_toArray (vals_one k l)
structure But (g : Nat) (w w' : World) : Prop where
  os : w'.os = w.os
  tape : w'.tape = w.tape
  output : w'.output = w.output
  size : w.heap.size ≤ w'.heap.size
  block : ∀ k, k < w.heap.size → k ≠ g → w'.heap[k]? = w.heap[k]?
theorem But.refl (g : Nat) (w : World) : But g w w := ⟨rfl, rfl, rfl, Nat.le_refl _, fun _ _ _ => rfl⟩
theorem But.trans {g : Nat} {a b c : World} (h : But g a b) (k : But g b c) : But g a c :=
  ⟨k.os.trans h.os, k.tape.trans h.tape, k.output.trans h.output, Nat.le_trans h.size k.size, fun i hi hn => (k.block i (Nat.lt_of_lt_of_le hi h.size) hn).trans (h.block i hi hn)⟩
theorem But.of_below {g : Nat} {w w' : World} (h : Below w.heap.size w w') : But g w w' := ⟨h.os, h.tape, h.output, h.size, fun k hk _ => h.block k hk⟩
theorem But.below {g B : Nat} {w w' : World} (h : But g w w') (hg : B ≤ g) (hB : B ≤ w.heap.size) : Below B w w' := ⟨h.os, h.tape, h.output, h.size, fun k hk => h.block k (by omega) (by omega)⟩
theorem But.setCell {g : Nat} {a w : World} (h : But g a w) (i : Nat) (u : Value) : But g a (w.setCell ⟨g, i, none⟩ u) :=
  h.trans ⟨rfl, rfl, rfl, by simp [World.setCell], fun k hk hn => heap_setCell_other _ _ _ _ (by show k ≠ g; exact hn)⟩
theorem But.alloc {g : Nat} {a w : World} (h : But g a w) (o : Obj) : But g a (w.alloc o) := h.trans (But.of_below (keep_alloc w o))
theorem But.drew {g : Nat} {a w : World} (h : But g a w) : But g a w.drew := h.trans ⟨rfl, rfl, rfl, Nat.le_refl _, fun _ _ _ => rfl⟩
theorem But.drewN {g : Nat} {a w : World} (h : But g a w) (n : Nat) : But g a (w.drewN n) := h.trans ⟨rfl, rfl, rfl, Nat.le_refl _, fun _ _ _ => rfl⟩
def Lies (k : IntKind) (t : TypeId) (w : World) (g : Nat) (l : List Nat) : Prop := w.heap[g]? = some (.cells (arr k l) t (0, 0))
theorem Lies.lt {k : IntKind} {t : TypeId} {w : World} {g : Nat} {l : List Nat} (h : Lies k t w g l) : g < w.heap.size := by
  unfold Lies at h
  rcases Nat.lt_or_ge g w.heap.size with hlt | hge
  · exact hlt
  · rw [Array.getElem?_eq_none hge] at h; cases h
theorem Lies.cell {k : IntKind} {t : TypeId} {w : World} {g : Nat} {l : List Nat} (h : Lies k t w g l) {i : Nat} (hi : i < l.length) : w.cell? ⟨g, i, none⟩ = some (.int k (el l i)) := by
  rw [cell_of_row w g i _ t (0, 0) h, arr_get k l i hi]
theorem Lies.frozen {k : IntKind} {t : TypeId} {w : World} {g : Nat} {l : List Nat} (h : Lies k t w g l) (i : Nat) : w.frozen? ⟨g, i, none⟩ = false := by
  have h' : w.heap[g]? = some (.cells (arr k l) t (0, 0)) := h
  simp [World.frozen?, h']
theorem Lies.new (k : IntKind) (t : TypeId) (w : World) (l : List Nat) : Lies k t (w.alloc (.cells (arr k l) t)) w.heap.size l := heap_alloc_last w _
theorem Lies.below {k : IntKind} {t : TypeId} {w w' : World} {g : Nat} {l : List Nat} (h : Lies k t w g l) (hb : Below w.heap.size w w') : Lies k t w' g l := (hb.block g h.lt).trans h
theorem Lies.but {k : IntKind} {t : TypeId} {w w' : World} {g q : Nat} {l : List Nat} (h : Lies k t w g l) (hb : But q w w') (hn : g ≠ q) : Lies k t w' g l := (hb.block g h.lt hn).trans h
theorem Lies.drewN {k : IntKind} {t : TypeId} {w : World} {g : Nat} {l : List Nat} (h : Lies k t w g l) (n : Nat) : Lies k t (w.drewN n) g l := h
theorem Lies.alloc {k : IntKind} {t : TypeId} {w : World} {g : Nat} {l : List Nat} (h : Lies k t w g l) (o : Obj) : Lies k t (w.alloc o) g l := h.below (keep_alloc w o)
theorem arr_set (k : IntKind) (l : List Nat) (i x : Nat) : (arr k l).setIfInBounds i (.int k (x : Int)) = arr k (l.set i x) := by
  unfold arr; rw [← vals_set]; simp
theorem Lies.set {k : IntKind} {t : TypeId} {w : World} {g : Nat} {l : List Nat} (h : Lies k t w g l) (i x : Nat) : Lies k t (w.setCell ⟨g, i, none⟩ (.int k (x : Int))) g (l.set i x) := by
  unfold Lies
  rw [setCell_eq_setRow w g i _ t (0, 0) _ h, arr_set]
  exact setRow_heap w g _ _ t _ h
theorem Lies.load {k : IntKind} {t : TypeId} {w : World} {g : Nat} {l : List Nat} (h : Lies k t w g l) {P : Program} (ty : TypeId) (d : TypeDesc) (hu : P.underlying ty = some d) (hd : d.isRow = true) (hi : (P.info? ty).map (·.size) = some l.length) :
    (Instr.loadAt ty (.pointer (some ⟨g, 0, none⟩))).run P w = .ok (.agg (arr k l)) w :=
  run_loadAt_mid w g 0 ty (vals k l) d (fun j v hv => by
    have hj : j < l.length := by have := (List.getElem?_eq_some_iff.1 hv).1; rwa [vals_length] at this
    rw [Nat.zero_add, h.cell hj, ← vals_get k l j hj]; exact hv) hu hd (by rw [vals_length]; exact hi)
theorem index_arr {P : Program} (t e : TypeId) (n : Nat) (k : IntKind) (l : List Nat) (hu : P.underlying t = some (.array n e)) (he : P.underlying e = some (.int k)) (hs : (P.info? e).map (·.size) = some 1) (hn : l.length = n) (i : Nat) (hi : i < n) (w : World) :
    (Instr.index t (.agg (arr k l)) (.int .i64 (i : Int))).run P w = .ok (.int k (el l i)) w := by
  cases hq : P.info? e with
  | none => simp [hq] at hs
  | some x =>
    have hx : x.size = 1 := by simpa [hq] using hs
    have ha := arr_get k l i (by omega)
    have hagg : (isAgg e).run P w = .ok false w := by
      unfold isAgg
      rw [Sem.run_bind, run_underlying he w]; rfl
    simp [Instr.index, asIntOf, Sem.run_bind, run_underlying hu w, sizeOf, typeInfo, hq, hx, part, hagg, ha, show (i : Int) < (n : Int) by omega]
    intro hh; omega
theorem arr8 (k : IntKind) (l : List Nat) (h : l.length = 8) : arr k l = #[.int k (el l 0), .int k (el l 1), .int k (el l 2), .int k (el l 3), .int k (el l 4), .int k (el l 5), .int k (el l 6), .int k (el l 7)] := by
  match l, h with
  | [a, b, c, d, e, f, g, i], _ => rfl
theorem Row.mid {k : IntKind} {m : Nat} {w : World} {bl off n cap : Nat} {l : List Nat} (h : Row k m w (.slice (some ⟨bl, off, none⟩) n cap) l) {i j : Nat} (hij : i ≤ j) (hj : j ≤ l.length) :
    Row k m w (.slice (some ⟨bl, off + i, none⟩) (j - i) (cap - i)) ((l.drop i).take (j - i)) := by
  obtain ⟨a', cap', he, h1, h2, h3, h4⟩ := h
  simp at he
  obtain ⟨rfl, rfl, rfl⟩ := he
  have hlen : ((l.drop i).take (j - i)).length = j - i := by simp; omega
  refine ⟨_, _, by rw [hlen], by omega, by omega, fun hp => ?_, fun x hx => h4 x (List.mem_of_mem_drop (List.mem_of_mem_take hx))⟩
  rw [hlen] at hp
  obtain ⟨b', o', e, hc⟩ := h3 (by omega)
  simp at e
  obtain ⟨rfl, rfl⟩ := e
  refine ⟨bl, off + i, rfl, fun x hx => ?_⟩
  rw [hlen] at hx
  have c := hc (i + x) (by omega)
  rw [Nat.add_assoc, c]
  congr 2
  rw [el_at (by omega), el_at (by rw [hlen]; omega), List.getElem_take, List.getElem_drop]
theorem zero_arr {P : Program} {t : TypeId} {k : IntKind} {n : Nat} (h : (P.info? t).map (fun i => (i.zero, i.size)) = some (some (.agg (arr k (List.replicate n 0))), n)) : ∀ w, (zeroValue t).run P w = .ok (.agg (arr k (List.replicate n 0))) w := (zero_of_info h).1
theorem wpList_store_row {P : Program} {ops : Array Oper} {rest : List Oper} {o : Oper} {a : Act} {w : World} {Q : Exit → Act → World → Prop} (hgd : o.guard = none) (ty : TypeId) (x y : Operand) (ho : o.op = .store ty x y)
    (g : Nat) (cells : Array Value) (hx : a.eval x = .pointer (some ⟨g, 0, none⟩)) (hy : a.eval y = .agg cells)
    (t : TypeId) (old : Array Value) (hg : w.heap[g]? = some (.cells old t (0, 0))) (hi : (P.info? ty).map (·.size) = some cells.size)
    (hold : old.size = cells.size) (h1 : cells.all (·.oneCell') = true)
    (h : wpList P ops Q rest (a.put o.dst undef) (w.setRow g cells)) : wpList P ops Q (o :: rest) a w :=
  wpList_plain hgd fun _ hK => wp_store_row ty x y ho g cells hx hy t old hg hi hold h1 (hK _ _ h)
theorem Lies.row {k : IntKind} {t : TypeId} {w : World} {g : Nat} {l l' : List Nat} (h : Lies k t w g l) : Lies k t (w.setRow g (arr k l')) g l' := setRow_heap w g _ _ t _ h
theorem But.setRow {g : Nat} {a w : World} (h : But g a w) (c : Array Value) : But g a (w.setRow g c) :=
  h.trans ⟨rfl, rfl, rfl, by simp [World.setRow], fun k hk hn => setRow_other w g k c hn⟩
def LiesX (k : IntKind) (t : TypeId) (w : World) (g : Nat) (l : List Nat) (T : Nat) : Prop := ∃ v, w.heap[g]? = some (.cells ((arr k l).setIfInBounds T v) t (0, 0))
theorem Lies.toX {k : IntKind} {t : TypeId} {w : World} {g : Nat} {l : List Nat} (h : Lies k t w g l) {T : Nat} (hT : T < l.length) : LiesX k t w g l T := by
  refine ⟨.int k (el l T), ?_⟩
  unfold Lies at h
  rw [h, arr_set]
  congr 3
  apply List.ext_getElem?
  intro i
  rw [List.getElem?_set]
  by_cases hi : T = i
  · subst hi; rw [if_pos rfl, if_pos hT, el_at hT, List.getElem?_eq_getElem hT]
  · rw [if_neg hi]
theorem LiesX.lt {k : IntKind} {t : TypeId} {w : World} {g : Nat} {l : List Nat} {T : Nat} (h : LiesX k t w g l T) : g < w.heap.size := by
  obtain ⟨v, h⟩ := h
  rcases Nat.lt_or_ge g w.heap.size with hlt | hge
  · exact hlt
  · rw [Array.getElem?_eq_none hge] at h; cases h
theorem LiesX.cell {k : IntKind} {t : TypeId} {w : World} {g : Nat} {l : List Nat} {T : Nat} (h : LiesX k t w g l T) {i : Nat} (hi : i < l.length) (hn : i ≠ T) : w.cell? ⟨g, i, none⟩ = some (.int k (el l i)) := by
  obtain ⟨v, h⟩ := h
  rw [cell_of_row w g i _ t (0, 0) h, Array.getElem?_setIfInBounds, if_neg (fun e => hn e.symm), arr_get k l i hi]
def rdc (w : World) (p : Addr) : Value := (w.cell? p).getD undef
theorem LiesX.here {k : IntKind} {t : TypeId} {w : World} {g : Nat} {l : List Nat} {T : Nat} (h : LiesX k t w g l T) (hT : T < l.length) : w.cell? ⟨g, T, none⟩ = some (rdc w ⟨g, T, none⟩) := by
  unfold rdc
  obtain ⟨v, h⟩ := h
  have e : w.cell? ⟨g, T, none⟩ = some v := by
    rw [cell_of_row w g T _ t (0, 0) h, Array.getElem?_setIfInBounds, if_pos rfl, if_pos (by rw [arr_size]; exact hT)]
  rw [e]; rfl
theorem LiesX.frozen {k : IntKind} {t : TypeId} {w : World} {g : Nat} {l : List Nat} {T : Nat} (h : LiesX k t w g l T) (i : Nat) : w.frozen? ⟨g, i, none⟩ = false := by
  obtain ⟨v, h⟩ := h
  simp [World.frozen?, h]
theorem LiesX.below {k : IntKind} {t : TypeId} {w w' : World} {g : Nat} {l : List Nat} {T : Nat} (h : LiesX k t w g l T) (hb : Below w.heap.size w w') : LiesX k t w' g l T := by
  have hl := h.lt
  obtain ⟨v, h⟩ := h
  exact ⟨v, (hb.block g hl).trans h⟩
theorem LiesX.set {k : IntKind} {t : TypeId} {w : World} {g : Nat} {l : List Nat} {T : Nat} (h : LiesX k t w g l T) (v : Value) : LiesX k t (w.setCell ⟨g, T, none⟩ v) g l T := by
  obtain ⟨u, h⟩ := h
  refine ⟨v, ?_⟩
  rw [setCell_eq_setRow w g T _ t (0, 0) _ h]
  have := setRow_heap w g _ (((arr k l).setIfInBounds T u).setIfInBounds T v) t _ h
  rw [this]
  simp
theorem But.cell {g : Nat} {w w' : World} {p : Addr} {v : Value} (h : w.cell? p = some v) (hb : But g w w') (hn : p.block ≠ g) : w'.cell? p = some v := by
  have hl := World.block_lt_of_cell? w _ h
  rw [World.cell?_of_block (hb.block _ hl hn)]; exact h
theorem keep_cell {w w' : World} {p : Addr} {v : Value} (h : w.cell? p = some v) (hb : Below w.heap.size w w') : w'.cell? p = some v := by
  rw [hb.cell (p := p) (World.block_lt_of_cell? w _ h)]; exact h
def Away (g : Nat) (v : Value) (l : List Nat) : Prop := 0 < l.length → ∀ q, v.ownBlock = some q → q ≠ g
theorem Row.old {k : IntKind} {m : Nat} {w : World} {v : Value} {l : List Nat} (h : Row k m w v l) (hl : 0 < l.length) {q : Nat} (hq : v.ownBlock = some q) : q < w.heap.size := by
  obtain ⟨a, cap, rfl, h1, h2, h3, h4⟩ := h
  obtain ⟨b, off, rfl, hc⟩ := h3 hl
  have e : b = q := by simpa [Value.ownBlock] using hq
  subst e
  exact World.block_lt_of_cell? w _ (hc 0 hl)
theorem Row.away {k : IntKind} {m : Nat} {w : World} {v : Value} {l : List Nat} (h : Row k m w v l) {g : Nat} (hg : w.heap.size ≤ g) : Away g v l := fun hl q hq => by
  have := h.old hl hq
  omega
theorem Row.but {k : IntKind} {m : Nat} {w w' : World} {v : Value} {l : List Nat} {g : Nat} (h : Row k m w v l) (ha : Away g v l) (hb : But g w w') : Row k m w' v l := by
  obtain ⟨a, cap, rfl, h1, h2, h3, h4⟩ := h
  refine ⟨a, cap, rfl, h1, h2, fun hl => ?_, h4⟩
  obtain ⟨b, off, rfl, hc⟩ := h3 hl
  refine ⟨b, off, rfl, fun i hi => ?_⟩
  exact But.cell (hc i hi) hb (ha hl b (by simp [Value.ownBlock]))
theorem Own.away {e : TypeId} {k : IntKind} {m : Nat} {w : World} {B g : Nat} {v : Value} {l : List Nat} (h : Own e k m w B v l) (hg : g < B) : Away g v l := fun _ q hq => by
  have := (h.1.lt q hq).1
  omega
theorem Row.rest {k : IntKind} {m : Nat} {w : World} {b off n cap : Nat} {l : List Nat} (h : Row k m w (.slice (some ⟨b, off, none⟩) n cap) l) {i : Nat} (hi : i ≤ n) (A : Option Addr) (hA : A = some ⟨b, off, none⟩ ∧ cap = i ∨ A = some ⟨b, off + i, none⟩) :
    Row k m w (.slice A (n - i) (cap - i)) (l.drop i) := by
  obtain ⟨a', cap', he, h1, h2, h3, h4⟩ := h
  simp at he
  obtain ⟨rfl, rfl, rfl⟩ := he
  refine ⟨A, _, by rw [List.length_drop], by rw [List.length_drop]; omega, by omega, fun hp => ?_, fun x hx => h4 x (List.mem_of_mem_drop hx)⟩
  rw [List.length_drop] at hp
  rcases hA with ⟨_, hc⟩ | rfl
  · omega
  · obtain ⟨b', o', e, hc⟩ := h3 (by omega)
    simp at e
    obtain ⟨rfl, rfl⟩ := e
    refine ⟨b, off + i, rfl, fun x hx => ?_⟩
    rw [List.length_drop] at hx
    rw [el_drop, Nat.add_assoc]
    exact hc (i + x) (by omega)
def slen : Value → Nat
  | .slice _ n _ => n
  | _ => 0
theorem rndN_congr {b : Bool} {ks ws ws' s : List Nat} : ∀ n, (∀ i, i < n → el ws i = el ws' i) → rndN b ks ws n s = rndN b ks ws' n s
  | 0, _ => rfl
  | n + 1, h => by simp only [rndN]; rw [rndN_congr n (fun i hi => h i (by omega)), h n (by omega)]
theorem comp_pad {b : Bool} (h l : List Nat) : addW b h (rndN b (ks b) (pad 80 (sched b l (rn b - 16))) (rn b) h) 8 = comp b h l := by
  unfold comp
  rw [rndN_congr (ws' := sched b l (rn b - 16)) (rn b) (fun i hi => pad_el (by rw [sched_length]; cases b <;> simp [rn] at hi ⊢ <;> omega))]
theorem own_belowA {w w' : World} {base : Nat} {e : TypeId} {size : Nat} {v : Value} {n : Nat} {xs : List Value} (h : w.ownsRow base e size v n xs) (hb : Below w.heap.size w w') : w'.ownsRow base e size v n xs := by
  obtain ⟨h1, h2⟩ := h
  refine ⟨h1, ?_⟩
  rcases h2 with h2 | ⟨g, cap, cur, rfl, h3, h4, h5⟩
  · exact .inl h2
  · refine .inr ⟨g, cap, cur, rfl, h3, ?_, h5⟩
    rw [hb.block g (by
      rcases Nat.lt_or_ge g w.heap.size with hlt | hge
      · exact hlt
      · rw [Array.getElem?_eq_none hge] at h4; cases h4)]
    exact h4
end Go.Proofs.YtpmobjfhhkglbaaGreatDoor
