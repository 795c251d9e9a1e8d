/- How a kind of tree that came in is read. -/
import Derived.Test.YtogiballdmgcpaaGreatDoorHN1
import Derived.Test.YtogiballdmgcpaaGreatDoorHKit
import Derived.Test.YtogiballdmgcpaaGreatDoorPlan
import Derived.Test.YtogiballdmgcpaaGreatDoorNumLe
import Derived.Test.YtogiballdmgcpaaGreatDoorHRes32
import Derived.Test.YtogiballdmgcpaaGreatDoorHSpr32
import Derived.Test.YtogiballdmgcpaaGreatDoorHTur64
import Derived.Laws.ShiftsVarLaws
import Derived.BigRegion
import Derived.Deep.AppendLies
import Derived.ArgAppend
namespace Go.Proofs.YtogiballdmgcpaaGreatDoor
open Go.ChangeShapes Go.WideShapes Go.ChangeAt Go.RowKit Go.Deep
set_option linter.unusedVariables false
set_option linter.unusedSimpArgs false

theorem Tryz.cellsTrS : Tryz.prog.cellsOf 45 = 2 := by kernel_rfl
theorem Tryz.cellsIntS : Tryz.prog.cellsOf 3 = 1 := by kernel_rfl
/-- a kind of tree, as it came in -/
structure TrIs (cs : Array Value) (th tw : Int) : Prop where
  is : cs = #[.int .i64 th, .int .i64 tw]
set_option maxRecDepth 100000 in
theorem read_treeS {H : Type} {enc : TypeId × Value → H} {W : World} {fuel : Nat} {cs : Array Value} {x : DataW H × List MemPlace}
    (h : DataW.trod enc Tryz.prog W 0 (fun _ => true) true fuel 45 cs.toList = some x) : ∃ th tw, TrIs cs th tw := by
  obtain ⟨l⟩ := cs
  obtain ⟨xs, n, _, _, hcl, hlen, hf⟩ := DataW.trod_struct Tryz.underlying45 h
  rw [Tryz.cellsTrS] at hcl
  match l, hcl with
  | [c0, c1], _ =>
    have hlen' : xs.length = 2 := hlen
    match xs, hlen' with
    | [y0, y1], _ =>
      have g0 := hf 0 _ rfl
      have g1 := hf 1 _ rfl
      simp [Tryz.cellsIntS] at g0 g1
      obtain ⟨t, e0, _, _⟩ := DataW.trod_int Tryz.underlying3 g0
      obtain ⟨u, e1, _, _⟩ := DataW.trod_int Tryz.underlying3 g1
      simp at e0 e1
      exact ⟨t, u, ⟨by rw [e0, e1]⟩⟩
end Go.Proofs.YtogiballdmgcpaaGreatDoor

/- Leaves that sign once: plain facts. -/
namespace Go.Proofs.YtogiballdmgcpaaGreatDoor
open Go.RowKit
set_option linter.unusedVariables false
set_option linter.unusedSimpArgs false

theorem leM_under (V o : Nat) : Under 256 (leL V o) := by
  intro x hx
  obtain ⟨i, _, rfl⟩ := List.mem_map.1 hx
  exact Nat.mod_lt _ (by decide)

theorem dig_ltM (l : List Nat) (w i : Nat) : dig l w i < 2 ^ w := Nat.mod_lt _ (pp w)
/-- the sum of what digits lack -/
def lackL (m : Nat) : List Nat → Nat
  | [] => 0
  | x :: l => (m - x) + lackL m l
theorem lack_lt (m : Nat) : ∀ a : List Nat, lackL m a ≤ a.length * m
  | [] => Nat.zero_le _
  | x :: a => by
    have := lack_lt m a
    show (m - x) + lackL m a ≤ (a.length + 1) * m
    rw [Nat.add_mul, Nat.one_mul]
    omega
theorem lack_snoc (m : Nat) (x : Nat) : ∀ a : List Nat, lackL m (a ++ [x]) = lackL m a + (m - x)
  | [] => by show (m - x) + 0 = 0 + (m - x); omega
  | y :: a => by show (m - y) + lackL m (a ++ [x]) = (m - y) + lackL m a + (m - x); rw [lack_snoc m x a]; omega
/-- a kind: how many digits a digest has, how many its check; the shift -/
structure KindL (w n m s : Nat) : Prop where
  w1 : 1 ≤ w
  w8 : w ≤ 8
  full : n * w = 256
  chk : s + m * w = 16
  room : n * (2 ^ w - 1) < 2 ^ (m * w)
theorem kind_1 : KindL 1 256 9 7 := ⟨by decide, by decide, by decide, by decide, by decide⟩
theorem kind_2 : KindL 2 128 5 6 := ⟨by decide, by decide, by decide, by decide, by decide⟩
theorem kind_4 : KindL 4 64 3 4 := ⟨by decide, by decide, by decide, by decide, by decide⟩
theorem kind_8 : KindL 8 32 2 0 := ⟨by decide, by decide, by decide, by decide, by decide⟩
/-- the digits of a digest, with their check -/
def chkL (w n : Nat) (d : List Nat) : Nat := lackL (2 ^ w - 1) (digL d w n)
def digsL (w n m s : Nat) (d : List Nat) : List Nat := digL (d ++ (leL (chkL w n d * 2 ^ s) 2).reverse) w (n + m)
section
variable {w n m s : Nat} (hK : KindL w n m s) {d : List Nat} (hd : d.length = 32) (hu : Under 256 d)
include hK in
theorem chk_lt (d : List Nat) : chkL w n d < 2 ^ (m * w) := by
  have := lack_lt (2 ^ w - 1) (digL d w n)
  rw [digL_length] at this
  exact Nat.lt_of_le_of_lt this hK.room
include hK in
theorem chk_16 (d : List Nat) : chkL w n d * 2 ^ s < 65536 := by
  have h1 := chk_lt hK d
  have h2 : 2 ^ (m * w) * 2 ^ s = 65536 := by rw [← Nat.pow_add, Nat.add_comm, hK.chk]
  have := Nat.mul_lt_mul_of_pos_right h1 (Nat.pow_pos (n := s) (by decide : 0 < 2))
  omega
theorem digs_len (d : List Nat) : (digsL w n m s d).length = n + m := digL_length _ _ _
theorem digs_lt (d : List Nat) : ∀ x ∈ digsL w n m s d, x < 2 ^ w := by
  intro x hx
  unfold digsL digL at hx
  obtain ⟨i, _, rfl⟩ := List.mem_map.1 hx
  exact dig_ltM _ _ _
end
end Go.Proofs.YtogiballdmgcpaaGreatDoor

/- Leaves that sign once: chains, plain, over whatever sum H. -/
namespace Go.Proofs.YtogiballdmgcpaaGreatDoor
open Go.RowKit
set_option linter.unusedVariables false
set_option linter.unusedSimpArgs false

def be2 (n : Nat) : List Nat := (leL n 2).reverse
def be4 (n : Nat) : List Nat := (leL n 4).reverse
theorem be2_len (n : Nat) : (be2 n).length = 2 := by unfold be2; rw [List.length_reverse, leL_length]
theorem be4_len (n : Nat) : (be4 n).length = 4 := by unfold be4; rw [List.length_reverse, leL_length]
theorem be4_under (n : Nat) : Under 256 (be4 n) := fun x hx => leM_under _ _ x (List.mem_reverse.1 hx)
theorem flat_32_len : ∀ (ps : List (List Nat)), (∀ p ∈ ps, p.length = 32) → ps.flatten.length = 32 * ps.length
  | [], _ => rfl
  | p :: ps, hp => by
    show (p ++ ps.flatten).length = _
    rw [List.length_append, hp p (by simp), flat_32_len ps (fun q hq => hp q (by simp [hq])), List.length_cons]
    omega
section
variable (H : List Nat → List Nat) (pre : List Nat)
/-- a part's step, and its beginning (b of 255, y the seed) -/
def lmX (i b : Nat) (y : List Nat) : List Nat := H (pre ++ (be2 i ++ ([b] ++ y)))
/-- k steps from f on -/
def chN (i f : Nat) : Nat → List Nat → List Nat
  | 0, y => y
  | k + 1, y => lmX H pre i (f + k) (chN i f k y)
def keyH (ends : List (List Nat)) : List Nat := H (pre ++ (be2 32896 ++ ends.flatten))
def digH (c text : List Nat) : List Nat := H (pre ++ (be2 33153 ++ (c ++ text)))
def lmCn (seed : List Nat) : List Nat := lmX H pre 65533 255 seed
def endsP (W p : Nat) (seed : List Nat) : List (List Nat) := (List.range p).map fun i => chN H pre i 0 W (lmX H pre i 255 seed)
def pubH (W p : Nat) (seed : List Nat) : List Nat := keyH H pre (endsP H pre W p seed)
def sgnP (ds seed : List Nat) : List (List Nat) := (List.range ds.length).map fun i => chN H pre i 0 (el ds i) (lmX H pre i 255 seed)
def sgnH (code : Nat) (ds seed : List Nat) : List Nat := be4 code ++ (lmCn H pre seed ++ (sgnP H pre ds seed).flatten)
end
section
variable {H : List Nat → List Nat} {pre : List Nat}
theorem chN_len (hH : ∀ x, (H x).length = 32) (i f : Nat) (y : List Nat) (hy : y.length = 32) : ∀ k, (chN H pre i f k y).length = 32
  | 0 => hy
  | k + 1 => hH _
variable (hH : ∀ x, (H x).length = 32)
include hH in
theorem sgnP_32 (ds seed : List Nat) : ∀ p ∈ sgnP H pre ds seed, p.length = 32 := by
  intro p hp
  unfold sgnP at hp
  obtain ⟨i, _, rfl⟩ := List.mem_map.1 hp
  exact chN_len hH i 0 _ (hH _) _
include hH in
theorem sgnH_len (code : Nat) (ds seed : List Nat) : (sgnH H pre code ds seed).length = 36 + 32 * ds.length := by
  unfold sgnH
  rw [List.length_append, List.length_append, be4_len, flat_32_len _ (sgnP_32 hH ds seed), show (lmCn H pre seed).length = 32 from hH _, show (sgnP H pre ds seed).length = ds.length by simp [sgnP]]
  omega
end
end Go.Proofs.YtogiballdmgcpaaGreatDoor

/- Trees of leaves that sign once: plain facts, over whatever sums of knots (ov) and leaves (lf). -/
namespace Go.Proofs.YtogiballdmgcpaaGreatDoor
open Go.RowKit
set_option linter.unusedVariables false
set_option linter.unusedSimpArgs false

section
variable (ov : Nat → List Nat → List Nat → List Nat) (lf : Nat → List Nat)
/-- the sum of a knot with d levels below it -/
def kn : Nat → Nat → List Nat
  | 0, n => lf n
  | d + 1, n => ov n (kn d (2 * n)) (kn d (2 * n + 1))
end
theorem xor_one (n : Nat) : n ^^^ 1 = if n % 2 = 0 then n + 1 else n - 1 := by
  have h : ∀ m, (2 * m) ^^^ 1 = 2 * m + 1 := fun m => by
    apply Nat.eq_of_testBit_eq
    intro i
    rw [Nat.testBit_xor]
    cases i with
    | zero => simp
    | succ i =>
      rw [Nat.testBit_succ, Nat.testBit_succ, Nat.testBit_succ, show 2 * m / 2 = m by omega, show (2 * m + 1) / 2 = m by omega]
      simp
  by_cases e : n % 2 = 0
  · obtain ⟨m, rfl⟩ : ∃ m, n = 2 * m := ⟨n / 2, by omega⟩
    rw [if_pos e, h]
  · obtain ⟨m, rfl⟩ : ∃ m, n = 2 * m + 1 := ⟨n / 2, by omega⟩
    rw [if_neg e, ← h m, Nat.xor_assoc, Nat.xor_self, Nat.xor_zero, h]
    omega
section
variable {ov : Nat → List Nat → List Nat → List Nat} {lf : Nat → List Nat}
theorem kn_32 (h1 : ∀ n a b, (ov n a b).length = 32) (h2 : ∀ n, (lf n).length = 32) : ∀ d n, (kn ov lf d n).length = 32
  | 0, n => h2 n
  | d + 1, n => h1 _ _ _
end
/-- a height's typecode -/
def lmCode (h : Int) : Nat := if 1 ≤ h ∧ h ≤ 4 then 3758096384 + h.toNat else if 5 ≤ h ∧ h ≤ 25 ∧ h % 5 = 0 then 4 + h.toNat / 5 else 0
theorem lmCode_32 (h : Int) : lmCode h < 4294967296 := by
  unfold lmCode
  repeat' split
  all_goals omega
end Go.Proofs.YtogiballdmgcpaaGreatDoor

/- A value whose block is not older than a bound. -/
namespace Go.Proofs.YtogiballdmgcpaaGreatDoor
open Go.RowKit
set_option linter.unusedVariables false
def New (B : Nat) (v : Value) : Prop := ∀ q, v.ownBlock = some q → B ≤ q
theorem New.at {B g n c o : Nat} (h : B ≤ g) : New B (.slice (some ⟨g, o, none⟩) n c) := fun q hq => by
  have : g = q := by simpa [Value.ownBlock] using hq
  omega
theorem New.nil (B n c : Nat) : New B (.slice none n c) := fun q hq => by simp [Value.ownBlock] at hq
theorem New.mono {B B' : Nat} {v : Value} (h : New B v) (hB : B' ≤ B) : New B' v := fun q hq => Nat.le_trans hB (h q hq)
theorem Own.new {e : TypeId} {k : IntKind} {m : Nat} {w : World} {B : Nat} {v : Value} {l : List Nat} (h : Own e k m w B v l) : New B v := fun q hq => (h.1.lt q hq).1
end Go.Proofs.YtogiballdmgcpaaGreatDoor

/- Contracts of the document's right, mix; its tables. -/
namespace Go.Proofs.YtogiballdmgcpaaGreatDoor
open Go.RowKit
set_option linter.unusedVariables false
set_option linter.unusedSimpArgs false

/-- what right tells, of any number -/
def rgt (b : Bool) (r x : Nat) : Nat := bif b then rot true r x else x / 2 ^ r ||| x * 2 ^ (32 - r) % 18446744073709551616 % 4294967296
theorem rgt_rot {b : Bool} {r x : Nat} (hx : x < wm b) (hr : r ≤ 32) : rgt b r x = rot b r x := by
  cases b with
  | true => rfl
  | false =>
    show x / 2 ^ r ||| x * 2 ^ (32 - r) % 18446744073709551616 % 4294967296 = x / 2 ^ r ||| x * 2 ^ (32 - r) % 4294967296
    congr 1
    rw [Nat.mod_mod_of_dvd _ (by decide)]
theorem rgt_lt {b : Bool} {r x : Nat} (hx : x < 18446744073709551616) : rgt b r x < 18446744073709551616 := by
  cases b with
  | true => exact rot_lt (b := true) hx r
  | false =>
    have h2 : x * 2 ^ (32 - r) % 18446744073709551616 % 4294967296 < 4294967296 := Nat.mod_lt _ (by decide)
    exact Nat.or_lt_two_pow (n := 64) (Nat.lt_of_le_of_lt (Nat.div_le_self _ _) hx) (Nat.lt_of_lt_of_le h2 (by decide))
theorem and_ones32 (x : Nat) (hx : x < 18446744073709551616) : bits .and .u64 (x : Int) 4294967295 = ((x % 4294967296 : Nat) : Int) := by
  rw [show (4294967295 : Int) = ((4294967295 : Nat) : Int) from rfl, u64_and_nat x _ hx (by decide)]
  congr 1
  exact Nat.and_two_pow_sub_one_eq_mod x 32
theorem and_ones64 (x : Nat) (hx : x < 18446744073709551616) : bits .and .u64 (x : Int) 18446744073709551615 = ((x : Nat) : Int) := by
  rw [show (18446744073709551615 : Int) = ((18446744073709551615 : Nat) : Int) from rfl, u64_and_nat x _ hx (by decide)]
  congr 1
  rw [Nat.and_two_pow_sub_one_eq_mod x 64]
  exact Nat.mod_eq_of_lt hx

set_option maxHeartbeats 1000000 in
theorem right_any (b : Bool) (x r : Nat) (w : World) (hx : x < 18446744073709551616) (hr : r < wb b) :
    Calls Tryz.prog 149 #[.int .u64 x, .int .i64 r, .bool b] w fun e w' => e = .returned (.int .u64 (rgt b r x : Nat)) ∧ Below w.heap.size w w' := by
  cases b with
  | true =>
    have hr' : r < 64 := hr
    have m1 : min r 64 = r := by omega
    clear hr
    go_enter Tryz.func149, Tryz.ntmps149
    go_wp2
    go_quiet (fail)
    go_wp2
    go_ret
    exact ⟨ret_int (rot_is64 x r hx hr'), bel_drewN (Below.refl _ _) _⟩
  | false =>
    have hr' : r < 32 := hr
    have m1 : min r 64 = r := by omega
    clear hr
    go_enter Tryz.func149, Tryz.ntmps149
    go_wp2
    go_quiet (fail)
    go_wp2
    go_ret
    refine ⟨ret_int ?_, bel_drewN (Below.refl _ _) _⟩
    have e1 : (x : Int) / 2 ^ r = ((x / 2 ^ r : Nat) : Int) := by simp
    have e2 : IntKind.u64.wrap ((x : Int) * 2 ^ (32 - r)) = ((x * 2 ^ (32 - r) % 18446744073709551616 : Nat) : Int) := by rw [IntKind.wrap_u64]; simp
    rw [e1, e2, and_ones32 _ (Nat.mod_lt _ (by decide)), u64_or_nat _ _ (Nat.lt_of_le_of_lt (Nat.div_le_self _ _) hx) (Nat.lt_of_lt_of_le (Nat.mod_lt _ (by decide)) (by decide))]
    rfl

/-- what mix tells, of any number -/
def rmx (b sh : Bool) (r1 r2 r3 x : Nat) : Nat := rgt b r1 x ^^^ rgt b r2 x ^^^ (bif sh then x / 2 ^ r3 else rgt b r3 x)
theorem rmx_lt {b sh : Bool} {r1 r2 r3 x : Nat} (hx : x < 18446744073709551616) : rmx b sh r1 r2 r3 x < 18446744073709551616 := by
  have h := fun r => rgt_lt (b := b) (r := r) hx
  refine Nat.xor_lt_two_pow (n := 64) (Nat.xor_lt_two_pow (n := 64) (h r1) (h r2)) ?_
  cases sh with
  | true => exact Nat.lt_of_le_of_lt (Nat.div_le_self _ _) hx
  | false => exact h r3
theorem rmx_turn {b : Bool} {r1 r2 r3 x : Nat} (hx : x < wm b) (h1 : r1 < wb b) (h2 : r2 < wb b) (h3 : r3 < wb b) : rmx b false r1 r2 r3 x = turn3 b r1 r2 r3 x := by
  cases b with
  | true => rfl
  | false =>
    have h1' : r1 < 32 := h1
    have h2' : r2 < 32 := h2
    have h3' : r3 < 32 := h3
    unfold rmx turn3
    rw [rgt_rot hx (by omega), rgt_rot hx (by omega), cond_false, rgt_rot hx (by omega)]
theorem rmx_shft {b : Bool} {r1 r2 r3 x : Nat} (hx : x < wm b) (h1 : r1 < wb b) (h2 : r2 < wb b) : rmx b true r1 r2 r3 x = shft3 b r1 r2 r3 x := by
  cases b with
  | true => rfl
  | false =>
    have h1' : r1 < 32 := h1
    have h2' : r2 < 32 := h2
    unfold rmx shft3
    rw [rgt_rot hx (by omega), rgt_rot hx (by omega), cond_true]

set_option maxHeartbeats 1000000 in
theorem rmix_any (b sh : Bool) (x r1 r2 r3 : Nat) (w : World) (hx : x < 18446744073709551616) (h1 : r1 < wb b) (h2 : r2 < wb b) (h3 : r3 < wb b) :
    Calls Tryz.prog 137 #[.int .u64 x, .int .i64 r1, .int .i64 r2, .int .i64 r3, .bool sh, .bool b] w fun e w' => e = .returned (.int .u64 (rmx b sh r1 r2 r3 x : Nat)) ∧ Below w.heap.size w w' := by
  have hle : wb b ≤ 64 := by cases b <;> decide
  have m1 : min r3 64 = r3 := by omega
  have hrg := fun r => rgt_lt (b := b) (r := r) hx
  cases sh with
  | true =>
    go_enter Tryz.func137, Tryz.ntmps137
    go_wp2_with fail
    refine (right_any b x r1 _ hx h1).mono ?_
    rintro e w1 ⟨rfl, hb1⟩
    go_wp2_with fail
    refine (right_any b x r2 _ hx h2).mono ?_
    rintro e w2 ⟨rfl, hb2⟩
    go_wp2
    go_ret
    refine ⟨ret_int ?_, keep_trans hb1 hb2⟩
    have e1 : (x : Int) / 2 ^ r3 = ((x / 2 ^ r3 : Nat) : Int) := by simp
    rw [e1, xor_is64 _ _ (hrg r1) (hrg r2), xor_is64 _ _ (Nat.xor_lt_two_pow (n := 64) (hrg r1) (hrg r2)) (Nat.lt_of_le_of_lt (Nat.div_le_self _ _) hx)]
    rfl
  | false =>
    go_enter Tryz.func137, Tryz.ntmps137
    go_wp2_with fail
    refine (right_any b x r3 _ hx h3).mono ?_
    rintro e w0 ⟨rfl, hb0⟩
    go_wp2_with fail
    refine (right_any b x r1 _ hx h1).mono ?_
    rintro e w1 ⟨rfl, hb1⟩
    go_wp2_with fail
    refine (right_any b x r2 _ hx h2).mono ?_
    rintro e w2 ⟨rfl, hb2⟩
    go_wp2
    go_ret
    refine ⟨ret_int ?_, keep_trans hb0 (keep_trans hb1 hb2)⟩
    rw [xor_is64 _ _ (hrg r1) (hrg r2), xor_is64 _ _ (Nat.xor_lt_two_pow (n := 64) (hrg r1) (hrg r2)) (hrg r3)]
    rfl

end Go.Proofs.YtogiballdmgcpaaGreatDoor

/- append onto a row of the call's own: its old cells stay as they were. -/
namespace Go.Proofs.YtogiballdmgcpaaGreatDoor
open Go.RowKit
set_option linter.unusedVariables false
set_option linter.unusedSimpArgs false

theorem run_append_keeps {P : Program} (w : World) (t ty : TypeId) (base : Nat) (e : TypeId) (i : TypeInfo) (z : Value) (bytes : Nat) (ht : P.underlying t = some (.slice e)) (hi : P.info? e = some i) (hz : i.zero = some z)
    (hsize : i.size = 1) (hby : i.bytes = bytes) (hzs : z.cells.size = 1)
    (g0 n cap0 : Nat) (xs : List Value) (hown : w.ownsRow base e 1 (.slice (some ⟨g0, 0, none⟩) n cap0) n xs)
    (ad : Addr) (m c : Nat) (news : List Value) (hl : news.length = m) (hnews : ∀ j u, news[j]? = some u → w.cell? (ad.add j) = some u) (h1 : ∀ u ∈ news, u.oneCell' = true)
    (hm : 0 < m) (h63 : n + m ≤ maxLen) (hbytes : (n + m) * bytes ≤ 140737488355328) (hbase : base ≤ w.heap.size) :
    ∃ g cap w', (Builtin.append_ #[t, t] ty #[.slice (some ⟨g0, 0, none⟩) n cap0, .slice (some ad) m c]).run P w = .ok (.slice (some ⟨g, 0, none⟩) (n + m) cap) w' ∧
      w'.ownsRow base e 1 (.slice (some ⟨g, 0, none⟩) (n + m) cap) (n + m) (xs ++ news) ∧ w.grownBy w' (some g0) ∧ ∀ j, j < n → w'.cell? ⟨g0, j, none⟩ = w.cell? ⟨g0, j, none⟩ := by
  obtain ⟨g, cap, w', hr, h2, h3, h4, h5⟩ := run_append_lies (P := P) w t ty base e i z 1 bytes ht hi hz hsize hby hzs (by decide) _ n xs hown ad m c news (by rw [hl, Nat.mul_one]) hnews h1 hm h63 hbytes hbase _ rfl
  refine ⟨g, cap, w', hr, h2, h3, fun j hj => ?_⟩
  have hown' := hown
  obtain ⟨hlen, ⟨he, _⟩ | ⟨q, cq, cur, he, hB, hg, hn, hc, hcs, htk⟩⟩ := hown
  · cases he
  · obtain ⟨rfl, rfl⟩ : g0 = q ∧ cap0 = cq := by simpa using he
    by_cases hroom : n + m ≤ cap0
    · have hrr := run_append_room_cells (P := P) w t ty e i ht hi g0 0 n cap0 ad m c news (by rw [hl, hsize, Nat.mul_one]) hnews h1 hroom
        (fun j hj => by rw [cell_of_row w g0 _ cur e (0, 0) hg, hsize]; simp; omega)
        (fun j hj => by simp [World.frozen?, hg])
      rw [hr] at hrr
      obtain rfl : w' = w.setCells g0 (0 + n * i.size) news := (Result.ok.inj hrr).2
      exact World.cell?_setCells_out g0 news _ w ⟨g0, j, none⟩ (fun _ _ => .inl (by show j < 0 + n * i.size; rw [hsize]; omega))
    · obtain ⟨v2, w2, hr2, _, hg2⟩ := run_append_arg_grows (P := P) w t ty e i z 1 bytes ht hi hz hsize hby hzs (by decide) ⟨g0, 0, none⟩ n cap0 xs hlen
        (fun j u hu => by
          have hjx : j < xs.length := (List.getElem?_eq_some_iff.1 hu).1
          rw [Addr.add_lit, Nat.zero_add, hown'.cellAt j (by omega)]; exact hu) ad m c news (by rw [hl, Nat.mul_one]) hnews (by omega) h63 hbytes
      rw [hr] at hr2
      obtain rfl : w' = w2 := (Result.ok.inj hr2).2
      exact World.cell?_of_block (hg2.block g0 (by rcases Nat.lt_or_ge g0 w.heap.size with h' | h'
                                                   · exact h'
                                                   · rw [Array.getElem?_eq_none h'] at hg; cases hg) (by simp))

theorem step_append_keeps {P : Program} {w : World} {ops : Array Oper} {o : Oper} {a : Act} {K : Act → World → Prop} {Q : Exit → Act → World → Prop} {E : Prop} (hgd : o.guard = none) (s x : Operand) (t : TypeId)
    (ho : o.op = .call { callee := .builtin .append, args := #[s, x], argTypes := #[t, t] })
    (base : Nat) (e : TypeId) (i : TypeInfo) (z : Value) (bytes : Nat) (ht : P.underlying t = some (.slice e)) (hi : P.info? e = some i) (hz : i.zero = some z)
    (hsize : i.size = 1) (hby : i.bytes = bytes) (hzs : z.cells.size = 1)
    (g0 n cap0 : Nat) (xs : List Value) (hs : a.eval s = .slice (some ⟨g0, 0, none⟩) n cap0) (hown : w.ownsRow base e 1 (.slice (some ⟨g0, 0, none⟩) n cap0) n xs)
    (ad : Addr) (m c : Nat) (news : List Value) (hx : a.eval x = .slice (some ad) m c) (hl : news.length = m) (hnews : ∀ j u, news[j]? = some u → w.cell? (ad.add j) = some u) (h1 : ∀ u ∈ news, u.oneCell' = true)
    (hm : 0 < m) (h63 : n + m ≤ maxLen) (hbytes : (n + m) * bytes ≤ 140737488355328) (hbase : base ≤ w.heap.size)
    (h : ∀ g cap w', w'.ownsRow base e 1 (.slice (some ⟨g, 0, none⟩) (n + m) cap) (n + m) (xs ++ news) → w.grownBy w' (some g0) → (∀ j, j < n → w'.cell? ⟨g0, j, none⟩ = w.cell? ⟨g0, j, none⟩) → K (a.put o.dst (.slice (some ⟨g, 0, none⟩) (n + m) cap)) w') :
    if Region.wanted o (yielded ops a.tmps) = true then Oper.wp P o a w K Q else E := by
  have hw : Region.wanted o (yielded ops a.tmps) = true := by simp [Region.wanted, hgd]
  rw [if_pos hw]
  obtain ⟨g, cap, w', hr, h2, h3, h4⟩ := run_append_keeps (P := P) w t o.type base e i z bytes ht hi hz hsize hby hzs g0 n cap0 xs hown ad m c news hl hnews h1 hm h63 hbytes hbase
  unfold Oper.wp execOp
  simp only [ho, resolve, invoke, builtin, Sem.run_bind, Sem.run_pure, Result.andThen_ok, List.map_toArray, List.map_cons, List.map_nil, hs, hx, hr]
  exact h g cap w' h2 h3 h4
end Go.Proofs.YtogiballdmgcpaaGreatDoor

/- Contract of the document's words, of 32 bits. -/
namespace Go.Proofs.YtogiballdmgcpaaGreatDoor
open Go.RowKit
set_option linter.unusedVariables false
set_option linter.unusedSimpArgs false

theorem Tryz.infoU32 : (Tryz.prog.info? 26).map (fun i => (i.zero, i.size, i.bytes)) = some (some (.int .u64 0), 1, 8) := by kernel_rfl
/-- the first words of a block -/
def wl32 (l : List Nat) (t : Nat) : List Nat := if t < 16 then words false l t else sched false l (t - 16)
theorem wl_length32 (l : List Nat) (t : Nat) : (wl32 l t).length = t := by
  unfold wl32
  split
  · exact words_length _ _ _
  · rw [sched_length]; omega
theorem wl_low32 (l : List Nat) (t : Nat) (h : t < 16) : wl32 l (t + 1) = wl32 l t ++ [word false l t] := by
  unfold wl32
  rw [if_pos h]
  by_cases h2 : t + 1 < 16
  · rw [if_pos h2]; exact words_succ _ _ _
  · obtain rfl : t = 15 := by omega
    exact words_succ _ _ _
theorem wl_high32 (l : List Nat) (t : Nat) (h : 16 ≤ t) : wl32 l (t + 1) = wl32 l t ++ [nxt false (wl32 l t)] := by
  unfold wl32
  rw [if_neg (by omega), if_neg (by omega), show t + 1 - 16 = (t - 16) + 1 by omega]; rfl
theorem wl_under32 (l : List Nat) (t : Nat) (hu : Under 256 l) : Under (wm false) (wl32 l t) := by
  unfold wl32
  split
  · exact words_under hu _
  · exact sched_under hu _

set_option maxHeartbeats 4000000 in
set_option maxRecDepth 100000 in
theorem words_any32 (v : Value) (l : List Nat) (w : World) (hR : Row .u8 256 w v l) (hl : l.length = 64) :
    Calls Tryz.prog 136 #[v, .bool false, .int .i64 64, (.int .u64 4294967295)] w fun e w' => ∃ v', e = .returned v' ∧ Own 26 .u64 18446744073709551616 w' w.heap.size v' (sched false l 48) ∧ Below w.heap.size w w' := by
  have hu := hR.under
  obtain ⟨a, cap, rfl, h1, h2, h3⟩ := hR.opens hl
  obtain ⟨bb, off, rfl, hc⟩ := h3 (by decide)
  clear h3 hc
  obtain ⟨i0, hi, hz0, hz1, hz2⟩ := info_parts Tryz.infoU32
  go_enter Tryz.func136, Tryz.ntmps136
  go_wp2
  go_loopw [10, 11] (fun v i wr => ∃ t : Nat, t ≤ 64 ∧ i = .int .i64 t ∧ wr.ownsRow w.heap.size 26 1 v t (vals .u64 (wl32 l t)) ∧ Below w.heap.size w wr) (fun _ i _ => 64 - (intOf i).toNat)
  case atStart => exact ⟨0, Nat.zero_le _, rfl, World.ownsRow_nil _ _ _ _, Below.refl _ _⟩
  case round =>
    obtain ⟨t, ht, rfl, how, hbr⟩ := hrel
    have hsz := hbr.size
    by_cases hlt : t < 16
    · have hRt : Row .u8 256 wr (.slice (some ⟨bb, off + t * 4, none⟩) 4 (cap - t * 4)) ((l.drop (t * 4)).take 4) := by
        have := (hR.below hbr).mid (i := t * 4) (j := t * 4 + 4) (by omega) (by omega)
        rwa [show t * 4 + 4 - t * 4 = 4 by omega] at this
      have hwn := wl_low32 l t hlt
      have HWN := hide hwn
      clear hwn
      go_wp2_with (first
        | (go_at_call 36; refine (rnum_any _ _ _ hRt).mono ?_; rintro e w2 ⟨rfl, rfl⟩)
        | (at_builtin; refine wpList_append_own _ rfl _ _ 176 rfl w.heap.size 26 i0 (.int .u64 0) 1 8 Tryz.underlying176 hi hz0 hz1 hz2 rfl (by decide) _ _ _ rfl (how.alloc _) ⟨w2.heap.size, 0, none⟩ 1 1 (vals .u64 [word false l t]) rfl rfl (app_cells w2 .u64 (word false l t) _ _ rfl) (vals_one _ _) (by unfold maxLen; omega) (by omega) (by simp; omega) ?_; intro v4 w4 how4 hgrow4 _; have hb4 := below_append hbr hsz how _ hgrow4)
        | fail)
      exact ⟨⟨t + 1, by omega, by go_num, by rw [HWN.out, vals_append]; exact how4, hb4⟩, by simp [intOf]; omega⟩
    · by_cases hl2 : t < 64
      · obtain ⟨g, cg, rfl, hgB, hgc, hgm⟩ := row_form how (by omega)
        have hlen := wl_length32 l t
        have hwu := wl_under32 l t hu
        have hwn := wl_high32 l t (by omega)
        have HWN := hide hwn
        have HN : Hid (nxt false (wl32 l t) = (lS1 false (el (wl32 l t) (t - 2)) + el (wl32 l t) (t - 7) + lS0 false (el (wl32 l t) (t - 15)) + el (wl32 l t) (t - 16)) % wm false) := by
          apply hide; unfold nxt; rw [hlen]
        clear hwn
        have cc := fun (i : Nat) (hi : i < t) => (how.cellAt i (by omega)).trans (vals_get .u64 (wl32 l t) i (by omega))
        have x2 := cc (t - 2) (by omega)
        have x7 := cc (t - 7) (by omega)
        have x15 := cc (t - 15) (by omega)
        have x16 := cc (t - 16) (by omega)
        clear cc
        have y2 : (t : Int) - 2 = ((t - 2 : Nat) : Int) := by omega
        have y7 : (t : Int) - 7 = ((t - 7 : Nat) : Int) := by omega
        have y15 : (t : Int) - 15 = ((t - 15 : Nat) : Int) := by omega
        have y16 : (t : Int) - 16 = ((t - 16 : Nat) : Int) := by omega
        have n0 : t - 2 < t ∧ t - 7 < t ∧ t - 15 < t ∧ t - 16 < t ∧ t < 80 := by omega
        have u := fun i => el_lt hwu (wm_pos false) i
        have v2 : el (wl32 l t) (t - 2) < 4294967296 := u _
        have v7 : el (wl32 l t) (t - 7) < 4294967296 := u _
        have v15 : el (wl32 l t) (t - 15) < 4294967296 := u _
        have v16 : el (wl32 l t) (t - 16) < 4294967296 := u _
        have HWU := hide hwu
        clear u hlen hwu
        generalize nxt false (wl32 l t) = N at *
        generalize wl32 l t = s at *
        generalize t - 2 = c2 at *
        generalize t - 7 = c7 at *
        generalize t - 15 = c15 at *
        generalize t - 16 = c16 at *
        obtain ⟨n1, n2, n3, n4, n5⟩ := n0
        have i2 : (c2 : Int) < (t : Int) := by omega
        have i7 : (c7 : Int) < (t : Int) := by omega
        have i15 : (c15 : Int) < (t : Int) := by omega
        have i16 : (c16 : Int) < (t : Int) := by omega
        have r2 : IntKind.i64.wrap (c2 : Int) = (c2 : Int) := by rw [IntKind.wrap_i64]; omega
        have r7 : IntKind.i64.wrap (c7 : Int) = (c7 : Int) := by rw [IntKind.wrap_i64]; omega
        have r15 : IntKind.i64.wrap (c15 : Int) = (c15 : Int) := by rw [IntKind.wrap_i64]; omega
        have r16 : IntKind.i64.wrap (c16 : Int) = (c16 : Int) := by rw [IntKind.wrap_i64]; omega
        have hlow : ¬ (t : Int) < 16 := by omega
        go_wp2_with fail
        refine (rmix_any false true (el s c15) 7 18 3 wr (by omega) (by decide) (by decide) (by decide)).mono ?_
        rintro e w1 ⟨rfl, hb1⟩
        replace x2 := keep_cell x2 hb1
        replace x7 := keep_cell x7 hb1
        replace x15 := keep_cell x15 hb1
        replace x16 := keep_cell x16 hb1
        replace how := own_kept how hb1
        replace hbr := keep_trans hbr hb1
        go_wp2_with fail
        refine (rmix_any false true (el s c2) 17 19 10 w1 (by omega) (by decide) (by decide) (by decide)).mono ?_
        rintro e w2 ⟨rfl, hb2⟩
        replace x2 := keep_cell x2 hb2
        replace x7 := keep_cell x7 hb2
        replace x15 := keep_cell x15 hb2
        replace x16 := keep_cell x16 hb2
        replace how := own_kept how hb2
        replace hbr := keep_trans hbr hb2
        have hsz2 := hbr.size
        generalize hWR : w2 = wq at *
        go_wp2
        go_region_held3 (fun w' => w'.cell? ⟨g, c7, none⟩ = some (.int .u64 (el s c7)) ∧ w'.cell? ⟨g, c16, none⟩ = some (.int .u64 (el s c16)))
          (first
            | exact ⟨x7, x16⟩
            | exact ⟨keep_cell x7 (keep_alloc _ _), keep_cell x16 (keep_alloc _ _)⟩
            | (go_split_ands; exact ⟨(hcell5 c7 n2).trans (by assumption), (hcell5 c16 n4).trans (by assumption)⟩)
            | go_keep)
          (first
            | (refine step_append_keeps (by rfl) _ _ _ (by rfl) w.heap.size 26 i0 (.int .u64 0) 8 Tryz.underlying176 hi hz0 hz1 hz2 rfl g t cg _ (by rfl) ((how.alloc _).drew) ⟨wq.heap.size, 0, none⟩ 1 1 [.int .u64 (bits .and .u64 (IntKind.u64.wrap (IntKind.u64.wrap (IntKind.u64.wrap (((rmx false true 17 19 10 (el s c2) : Nat) : Int) + (el s c7 : Nat)) + ((rmx false true 7 18 3 (el s c15) : Nat) : Int)) + (el s c16 : Nat))) 4294967295)] (by rfl) (by rfl) (World.news_of_block (cs := #[.int .u64 (bits .and .u64 (IntKind.u64.wrap (IntKind.u64.wrap (IntKind.u64.wrap (((rmx false true 17 19 10 (el s c2) : Nat) : Int) + (el s c7 : Nat)) + ((rmx false true 7 18 3 (el s c15) : Nat) : Int)) + (el s c16 : Nat))) 4294967295)]) (t := 26) (fr := (0, 0)) (heap_alloc_new wq _)) (by simp [Value.oneCell']) (by decide) (by unfold maxLen; omega) (by omega) (by simp; omega) ?_; intro gg cap5 w5 how5 hgrow5 hcell5))
        have hb5 : Below w.heap.size w w5 := ((hbr.alloc hsz2 _).drew).grown hgrow5 (by simp; omega) (fun k h => by have e := Option.some.inj h; omega)
        have hsl := rmx_lt (b := false) (sh := true) (r1 := 17) (r2 := 19) (r3 := 10) (x := el s c2) (by omega)
        have hN : ((((shft3 false 17 19 10 (el s c2) + el s c7) % 18446744073709551616 + shft3 false 7 18 3 (el s c15)) % 18446744073709551616 + el s c16) % 18446744073709551616) % 4294967296 = N := by
          rw [HN.out]
          simp only [lS0, lS1, wm, cond_true, cond_false]
          omega
        have hV : [.int .u64 (bits .and .u64 (IntKind.u64.wrap (IntKind.u64.wrap (IntKind.u64.wrap (((rmx false true 17 19 10 (el s c2) : Nat) : Int) + (el s c7 : Nat)) + ((rmx false true 7 18 3 (el s c15) : Nat) : Int)) + (el s c16 : Nat))) 4294967295)] = vals .u64 [N] := by
          rw [rmx_shft (b := false) v2 (by decide) (by decide), rmx_shft (b := false) v15 (by decide) (by decide), add_is64, add_is64, add_is64, and_ones32 _ (Nat.mod_lt _ (by decide)), hN]
          rfl
        rw [hV, ← vals_append] at how5
        rw [← HWN.out] at how5
        clear hN hV hgrow5 hcell5 hsl
        go_wp2
        exact ⟨⟨t + 1, by omega, by go_num, how5, hb5⟩, by simp [intOf]; omega⟩
      · obtain rfl : t = 64 := by omega
        have e : wl32 l 64 = sched false l 48 := rfl
        have hun := wl_under32 l 64 hu
        rw [e] at how hun
        have hsl := sched_length false l 48
        go_wp2
        go_ret
        exact ⟨_, rfl, ⟨by rw [hsl]; exact how, fun x hx => Nat.lt_of_lt_of_le (hun x hx) (wm_le false)⟩, hbr⟩
end Go.Proofs.YtogiballdmgcpaaGreatDoor
