/- How a slice of texts that came in is read. -/
import Derived.Test.YtgdcpdbmacmheaaDoorBase
import Derived.Test.YtgdcpdbmacmheaaDoorTex
import Derived.Deep.Slices
import Derived.Test.YtgdcpdbmacmheaaDoorHPlF
import Derived.Test.YtgdcpdbmacmheaaDoorHTop
import Derived.Test.YtgdcpdbmacmheaaDoorHTur64
import Derived.Laws.ShiftsVarLaws
import Derived.BigRegion
namespace Go.Proofs.YtgdcpdbmacmheaaDoor
open Go.ChangeShapes Go.WideShapes Go.ChangeAt Go.RowKit Go.Deep
set_option linter.unusedVariables false

theorem Tryd.cells22 : Tryd.prog.cellsOf 22 = 1 := by kernel_rfl

/-- a text that is read -/
theorem read_text {H : Type} {enc : TypeId × Value → H} {W : World} {fuel : Nat} {v : Value} {x : DataW H × List MemPlace}
    (h : DataW.trod enc Tryd.prog W 0 (fun _ => true) true fuel 22 [v] = some x) : ∃ l, Row .u8 256 W v l ∧ Tidy v := by
  rcases open_ints Tryd.underlying22 Tryd.underlying5 (by kernel_rfl) h with ⟨hcs, _⟩ | ⟨a, len, cap, zs, hcs, _, hl, hm, hz, _, hcell, hwz⟩
  · simp at hcs
    subst hcs
    exact ⟨[], Row.nil _ _ _, fun n c he => by simp at he; omega⟩
  · simp at hcs
    subst hcs
    have hr : IsRow .u8 W (some a) len cap zs := .inr ⟨a, rfl, hl, hm, by simpa using hz, hcell, hwz⟩
    obtain ⟨l, _, hrow⟩ := hr.row wf_u8
    exact ⟨l, hrow, fun n c he => by simp at he⟩

/-- a slice of texts that is read -/
theorem read_texts {H : Type} {enc : TypeId × Value → H} {W : World} {fuel : Nat} {v : Value} {x : DataW H × List MemPlace}
    (h : DataW.trod enc Tryd.prog W 0 (fun _ => true) true fuel 45 [v] = some x) : ∃ ls, Rows2 W v ls := by
  rcases open_slice1 Tryd.underlying45 Tryd.cells22 h with ⟨hcs, _⟩ | ⟨a, len, cap, m, n, V, D, Pl, hcs, _, hl, hm, hmm, _, hx⟩
  · simp at hcs
    subst hcs
    exact ⟨[], none, 0, rfl, Nat.le_refl _, Nat.zero_le _, fun h => by simp at h⟩
  · simp at hcs
    subst hcs
    have hm' : m = cap := by simpa using hmm
    subst hm'
    obtain ⟨L, hL⟩ := choose_lt (α := List Nat) (p := fun i l => Row .u8 256 W (V i) l ∧ Tidy (V i)) (fun i (hi : i < m) => read_text (hx i hi).2)
    refine ⟨(List.range len).map L, some a, m, by simp, by simpa using hl, hm, fun hp => ?_⟩
    have hp' : 0 < len := by simpa using hp
    obtain ⟨b, off, spot⟩ := a
    have h0 := (hx 0 (by omega)).1
    have hspot : spot = none := by simpa [Addr.add] using World.cell?_spot h0
    subst hspot
    refine ⟨b, off, rfl, fun i hi => ?_⟩
    have hi' : i < len := by simpa using hi
    refine ⟨V i, ?_, ?_, (hL i (by omega)).2⟩
    · have := (hx i (by omega)).1
      rw [Addr.add_lit] at this
      exact this
    · have e : tx ((List.range len).map L) i = L i := by unfold tx; simp [hi']
      rw [e]
      exact (hL i (by omega)).1
end Go.Proofs.YtgdcpdbmacmheaaDoor

/- How a sum that goes on, which came in, is read. -/
namespace Go.Proofs.YtgdcpdbmacmheaaDoor
open Go.ChangeShapes Go.WideShapes Go.ChangeAt Go.RowKit Go.Deep
set_option linter.unusedVariables false
set_option linter.unusedSimpArgs false

theorem Tryd.cellsH : Tryd.prog.cellsOf 26 = 11 := by kernel_rfl
theorem Tryd.cellsInt : Tryd.prog.cellsOf 3 = 1 := by kernel_rfl
theorem Tryd.cellsU64 : Tryd.prog.cellsOf 23 = 1 := by kernel_rfl
theorem Tryd.cellsW8 : Tryd.prog.cellsOf 24 = 8 := by kernel_rfl

/-- a sum that goes on, as it came in -/
structure HIs (w : World) (cs : Array Value) (kind : Int) (ws : List Nat) (tv : Value) (tl : List Nat) (size : Nat) : Prop where
  is : cs = hv kind ws tv size
  kmin : -9223372036854775808 ≤ kind
  kmax : kind ≤ 9223372036854775807
  len : ws.length = 8
  under : Under 18446744073709551616 ws
  row : Row .u8 256 w tv tl
  tidy : Tidy tv
  size : size < 18446744073709551616

theorem read_u64 {H : Type} {enc : TypeId × Value → H} {W : World} {fuel : Nat} {v : Value} {x : DataW H × List MemPlace}
    (h : DataW.trod enc Tryd.prog W 0 (fun _ => true) true fuel 23 [v] = some x) : ∃ n : Nat, v = .int .u64 (n : Int) ∧ n < 18446744073709551616 := by
  obtain ⟨t, e0, _, hw⟩ := DataW.trod_int Tryd.underlying23 h
  have hb := wf_u64 t hw
  simp at e0
  exact ⟨t.toNat, by rw [e0, Int.toNat_of_nonneg hb.1], by omega⟩
theorem read_hash {H : Type} {enc : TypeId × Value → H} {W : World} {fuel : Nat} {cs : Array Value} {x : DataW H × List MemPlace}
    (h : DataW.trod enc Tryd.prog W 0 (fun _ => true) true fuel 26 cs.toList = some x) : ∃ kind ws tv tl size, HIs W cs kind ws tv tl size := by
  obtain ⟨l⟩ := cs
  obtain ⟨xs, n, _, _, hcl, hlen, hf⟩ := DataW.trod_struct Tryd.underlying26 h
  rw [Tryd.cellsH] at hcl
  match l, hcl with
  | [c0, c1, c2, c3, c4, c5, c6, c7, c8, c9, c10], _ =>
    have hlen' : xs.length = 4 := hlen
    match xs, hlen' with
    | [y0, y1, y2, y3], _ =>
      have g0 := hf 0 _ rfl
      have g1 := hf 1 _ rfl
      have g2 := hf 2 _ rfl
      have g3 := hf 3 _ rfl
      simp [Tryd.cellsInt, Tryd.cellsW8, Tryd.cells22, Tryd.cellsU64] at g0 g1 g2 g3
      obtain ⟨t, e0, _, hw⟩ := DataW.trod_int Tryd.underlying3 g0
      have hk := wf_i64 t hw
      obtain ⟨tl, hrow, htd⟩ := read_text g2
      obtain ⟨size, hs, hsb⟩ := read_u64 g3
      obtain ⟨zs, m, _, _, _, hzl, hz⟩ := DataW.trod_array Tryd.underlying24 g1
      match zs, hzl with
      | [z0, z1, z2, z3, z4, z5, z6, z7], _ =>
        have k0 := hz 0 (by decide)
        have k1 := hz 1 (by decide)
        have k2 := hz 2 (by decide)
        have k3 := hz 3 (by decide)
        have k4 := hz 4 (by decide)
        have k5 := hz 5 (by decide)
        have k6 := hz 6 (by decide)
        have k7 := hz 7 (by decide)
        simp [Tryd.cellsU64] at k0 k1 k2 k3 k4 k5 k6 k7
        obtain ⟨n0, f0, b0⟩ := read_u64 k0
        obtain ⟨n1, f1, b1⟩ := read_u64 k1
        obtain ⟨n2, f2, b2⟩ := read_u64 k2
        obtain ⟨n3, f3, b3⟩ := read_u64 k3
        obtain ⟨n4, f4, b4⟩ := read_u64 k4
        obtain ⟨n5, f5, b5⟩ := read_u64 k5
        obtain ⟨n6, f6, b6⟩ := read_u64 k6
        obtain ⟨n7, f7, b7⟩ := read_u64 k7
        simp at e0
        refine ⟨t, [n0, n1, n2, n3, n4, n5, n6, n7], c9, tl, size, ?_, hk.1, hk.2, rfl, ?_, hrow, htd, hsb⟩
        · rw [e0, f0, f1, f2, f3, f4, f5, f6, f7, hs]; rfl
        · intro y hy
          simp only [List.mem_cons, List.not_mem_nil, or_false] at hy
          omega
end Go.Proofs.YtgdcpdbmacmheaaDoor

/- Contracts of the document's right, mix; its tables. -/
namespace Go.Proofs.YtgdcpdbmacmheaaDoor
open Go.RowKit
set_option linter.unusedVariables false
set_option linter.unusedSimpArgs false

/-- what right tells, of any number -/
def rgt (b : Bool) (r x : Nat) : Nat := bif b then rot true r x else x / 2 ^ r ||| x * 2 ^ (32 - r) % 18446744073709551616 % 4294967296
theorem rgt_rot {b : Bool} {r x : Nat} (hx : x < wm b) (hr : r ≤ 32) : rgt b r x = rot b r x := by
  cases b with
  | true => rfl
  | false =>
    show x / 2 ^ r ||| x * 2 ^ (32 - r) % 18446744073709551616 % 4294967296 = x / 2 ^ r ||| x * 2 ^ (32 - r) % 4294967296
    congr 1
    rw [Nat.mod_mod_of_dvd _ (by decide)]
theorem rgt_lt {b : Bool} {r x : Nat} (hx : x < 18446744073709551616) : rgt b r x < 18446744073709551616 := by
  cases b with
  | true => exact rot_lt (b := true) hx r
  | false =>
    have h2 : x * 2 ^ (32 - r) % 18446744073709551616 % 4294967296 < 4294967296 := Nat.mod_lt _ (by decide)
    exact Nat.or_lt_two_pow (n := 64) (Nat.lt_of_le_of_lt (Nat.div_le_self _ _) hx) (Nat.lt_of_lt_of_le h2 (by decide))
theorem and_ones32 (x : Nat) (hx : x < 18446744073709551616) : bits .and .u64 (x : Int) 4294967295 = ((x % 4294967296 : Nat) : Int) := by
  rw [show (4294967295 : Int) = ((4294967295 : Nat) : Int) from rfl, u64_and_nat x _ hx (by decide)]
  congr 1
  exact Nat.and_two_pow_sub_one_eq_mod x 32
theorem and_ones64 (x : Nat) (hx : x < 18446744073709551616) : bits .and .u64 (x : Int) 18446744073709551615 = ((x : Nat) : Int) := by
  rw [show (18446744073709551615 : Int) = ((18446744073709551615 : Nat) : Int) from rfl, u64_and_nat x _ hx (by decide)]
  congr 1
  rw [Nat.and_two_pow_sub_one_eq_mod x 64]
  exact Nat.mod_eq_of_lt hx

set_option maxHeartbeats 1000000 in
theorem right_any (b : Bool) (x r : Nat) (w : World) (hx : x < 18446744073709551616) (hr : r < wb b) :
    Calls Tryd.prog 61 #[.int .u64 x, .int .i64 r, .bool b] w fun e w' => e = .returned (.int .u64 (rgt b r x : Nat)) ∧ Below w.heap.size w w' := by
  cases b with
  | true =>
    have hr' : r < 64 := hr
    have m1 : min r 64 = r := by omega
    clear hr
    go_enter Tryd.func61, Tryd.ntmps61
    go_wp2
    go_quiet (fail)
    go_wp2
    go_ret
    exact ⟨ret_int (rot_is64 x r hx hr'), bel_drewN (Below.refl _ _) _⟩
  | false =>
    have hr' : r < 32 := hr
    have m1 : min r 64 = r := by omega
    clear hr
    go_enter Tryd.func61, Tryd.ntmps61
    go_wp2
    go_quiet (fail)
    go_wp2
    go_ret
    refine ⟨ret_int ?_, bel_drewN (Below.refl _ _) _⟩
    have e1 : (x : Int) / 2 ^ r = ((x / 2 ^ r : Nat) : Int) := by simp
    have e2 : IntKind.u64.wrap ((x : Int) * 2 ^ (32 - r)) = ((x * 2 ^ (32 - r) % 18446744073709551616 : Nat) : Int) := by rw [IntKind.wrap_u64]; simp
    rw [e1, e2, and_ones32 _ (Nat.mod_lt _ (by decide)), u64_or_nat _ _ (Nat.lt_of_le_of_lt (Nat.div_le_self _ _) hx) (Nat.lt_of_lt_of_le (Nat.mod_lt _ (by decide)) (by decide))]
    rfl

/-- what mix tells, of any number -/
def rmx (b sh : Bool) (r1 r2 r3 x : Nat) : Nat := rgt b r1 x ^^^ rgt b r2 x ^^^ (bif sh then x / 2 ^ r3 else rgt b r3 x)
theorem rmx_lt {b sh : Bool} {r1 r2 r3 x : Nat} (hx : x < 18446744073709551616) : rmx b sh r1 r2 r3 x < 18446744073709551616 := by
  have h := fun r => rgt_lt (b := b) (r := r) hx
  refine Nat.xor_lt_two_pow (n := 64) (Nat.xor_lt_two_pow (n := 64) (h r1) (h r2)) ?_
  cases sh with
  | true => exact Nat.lt_of_le_of_lt (Nat.div_le_self _ _) hx
  | false => exact h r3
theorem rmx_turn {b : Bool} {r1 r2 r3 x : Nat} (hx : x < wm b) (h1 : r1 < wb b) (h2 : r2 < wb b) (h3 : r3 < wb b) : rmx b false r1 r2 r3 x = turn3 b r1 r2 r3 x := by
  cases b with
  | true => rfl
  | false =>
    have h1' : r1 < 32 := h1
    have h2' : r2 < 32 := h2
    have h3' : r3 < 32 := h3
    unfold rmx turn3
    rw [rgt_rot hx (by omega), rgt_rot hx (by omega), cond_false, rgt_rot hx (by omega)]
theorem rmx_shft {b : Bool} {r1 r2 r3 x : Nat} (hx : x < wm b) (h1 : r1 < wb b) (h2 : r2 < wb b) : rmx b true r1 r2 r3 x = shft3 b r1 r2 r3 x := by
  cases b with
  | true => rfl
  | false =>
    have h1' : r1 < 32 := h1
    have h2' : r2 < 32 := h2
    unfold rmx shft3
    rw [rgt_rot hx (by omega), rgt_rot hx (by omega), cond_true]

set_option maxHeartbeats 1000000 in
theorem rmix_any (b sh : Bool) (x r1 r2 r3 : Nat) (w : World) (hx : x < 18446744073709551616) (h1 : r1 < wb b) (h2 : r2 < wb b) (h3 : r3 < wb b) :
    Calls Tryd.prog 50 #[.int .u64 x, .int .i64 r1, .int .i64 r2, .int .i64 r3, .bool sh, .bool b] w fun e w' => e = .returned (.int .u64 (rmx b sh r1 r2 r3 x : Nat)) ∧ Below w.heap.size w w' := by
  have hle : wb b ≤ 64 := by cases b <;> decide
  have m1 : min r3 64 = r3 := by omega
  have hrg := fun r => rgt_lt (b := b) (r := r) hx
  cases sh with
  | true =>
    go_enter Tryd.func50, Tryd.ntmps50
    go_wp2_with fail
    refine (right_any b x r1 _ hx h1).mono ?_
    rintro e w1 ⟨rfl, hb1⟩
    go_wp2_with fail
    refine (right_any b x r2 _ hx h2).mono ?_
    rintro e w2 ⟨rfl, hb2⟩
    go_wp2
    go_ret
    refine ⟨ret_int ?_, keep_trans hb1 hb2⟩
    have e1 : (x : Int) / 2 ^ r3 = ((x / 2 ^ r3 : Nat) : Int) := by simp
    rw [e1, xor_is64 _ _ (hrg r1) (hrg r2), xor_is64 _ _ (Nat.xor_lt_two_pow (n := 64) (hrg r1) (hrg r2)) (Nat.lt_of_le_of_lt (Nat.div_le_self _ _) hx)]
    rfl
  | false =>
    go_enter Tryd.func50, Tryd.ntmps50
    go_wp2_with fail
    refine (right_any b x r3 _ hx h3).mono ?_
    rintro e w0 ⟨rfl, hb0⟩
    go_wp2_with fail
    refine (right_any b x r1 _ hx h1).mono ?_
    rintro e w1 ⟨rfl, hb1⟩
    go_wp2_with fail
    refine (right_any b x r2 _ hx h2).mono ?_
    rintro e w2 ⟨rfl, hb2⟩
    go_wp2
    go_ret
    refine ⟨ret_int ?_, keep_trans hb0 (keep_trans hb1 hb2)⟩
    rw [xor_is64 _ _ (hrg r1) (hrg r2), xor_is64 _ _ (Nat.xor_lt_two_pow (n := 64) (hrg r1) (hrg r2)) (hrg r3)]
    rfl

end Go.Proofs.YtgdcpdbmacmheaaDoor
