/- Contracts of sha.either, turned, shifted, firstBits at words of 64 bits. -/
import Derived.Test.YtnjiilnkobhibaaHKit
import Derived.Laws.ShiftsVarLaws
import Derived.BigRegion
import Derived.Test.YtnjiilnkobhibaaLcFrm
import Derived.Deep.AppendLies
import Derived.ArgAppend
namespace Go.Proofs.Ytnjiilnkobhibaa
open Go.RowKit
set_option linter.unusedVariables false
set_option linter.unusedSimpArgs false

theorem ones64 : bits BinOp.xor .u64 IntKind.u64.max 0 = 18446744073709551616 - 1 := by decide
theorem sgn64 : IntKind.u64.signed = false := rfl

theorem wrapN64 (n : Nat) : IntKind.u64.wrap (n : Int) = ((n % 18446744073709551616 : Nat) : Int) := by rw [IntKind.wrap_u64]; omega
/-- a word turned, in the walk's spelling -/
theorem rot_is64 (x r : Nat) (hx : x < 18446744073709551616) (hr : r < 64) : bits .or .u64 ((x : Int) / 2 ^ r) (IntKind.u64.wrap ((x : Int) * 2 ^ (64 - r))) = ((rot true r x : Nat) : Int) := by
  have e1 : (x : Int) / 2 ^ r = ((x / 2 ^ r : Nat) : Int) := by simp
  have e2 : (IntKind.u64.wrap ((x : Int) * 2 ^ (64 - r))) = ((x * 2 ^ (64 - r) % 18446744073709551616 : Nat) : Int) := by
    rw [IntKind.wrap_u64]; simp
  rw [e1, e2, u64_or_nat _ _ (Nat.lt_of_le_of_lt (Nat.div_le_self _ _) hx) (Nat.mod_lt _ (by decide))]
  rfl
theorem xor_is64 (x y : Nat) (hx : x < 18446744073709551616) (hy : y < 18446744073709551616) : bits .xor .u64 (x : Int) (y : Int) = ((x ^^^ y : Nat) : Int) := u64_xor_nat x y hx hy
theorem turn_is64 (x a b c : Nat) (hx : x < 18446744073709551616) (ha : a < 64) (hb : b < 64) (hc : c < 64) :
    bits .xor .u64 (bits .xor .u64 (bits .or .u64 ((x : Int) / 2 ^ a) (IntKind.u64.wrap ((x : Int) * 2 ^ (64 - a)))) (bits .or .u64 ((x : Int) / 2 ^ b) (IntKind.u64.wrap ((x : Int) * 2 ^ (64 - b))))) (bits .or .u64 ((x : Int) / 2 ^ c) (IntKind.u64.wrap ((x : Int) * 2 ^ (64 - c)))) = ((turn3 true a b c x : Nat) : Int) := by
  have r := fun r => rot_lt (b := true) hx r
  rw [rot_is64 x a hx ha, rot_is64 x b hx hb, rot_is64 x c hx hc, xor_is64 _ _ (r a) (r b), xor_is64 _ _ (xor_lt (b := true) (r a) (r b)) (r c)]
  rfl
theorem shft_is64 (x a b c : Nat) (hx : x < 18446744073709551616) (ha : a < 64) (hb : b < 64) (hc : c < 64) :
    bits .xor .u64 (bits .xor .u64 (bits .or .u64 ((x : Int) / 2 ^ a) (IntKind.u64.wrap ((x : Int) * 2 ^ (64 - a)))) (bits .or .u64 ((x : Int) / 2 ^ b) (IntKind.u64.wrap ((x : Int) * 2 ^ (64 - b))))) ((x : Int) / 2 ^ c) = ((shft3 true a b c x : Nat) : Int) := by
  have r := fun r => rot_lt (b := true) hx r
  have e1 : (x : Int) / 2 ^ c = ((x / 2 ^ c : Nat) : Int) := by simp
  rw [rot_is64 x a hx ha, rot_is64 x b hx hb, e1, xor_is64 _ _ (r a) (r b), xor_is64 _ _ (xor_lt (b := true) (r a) (r b)) (shr_lt (b := true) hx c)]
  rfl

theorem and_is64 (x y : Nat) (hx : x < 18446744073709551616) (hy : y < 18446744073709551616) : bits .and .u64 (x : Int) (y : Int) = ((x &&& y : Nat) : Int) := u64_and_nat x y hx hy
theorem add_is64 (x y : Nat) : (IntKind.u64.wrap ((x : Int) + (y : Int))) = (((x + y) % 18446744073709551616 : Nat) : Int) := by
  rw [IntKind.wrap_u64]
  omega
theorem not_is64 (e : Nat) (he : e < 18446744073709551616) : bits .xor .u64 IntKind.u64.max (e : Int) = ((18446744073709551616 - 1 - e : Nat) : Int) := by
  rw [show IntKind.u64.max = ((18446744073709551616 - 1 : Nat) : Int) from rfl, xor_is64 _ _ (by decide) he, ← ones_xor 64 e he]
theorem chs_is64 (e f g : Nat) (he : e < 18446744073709551616) (hf : f < 18446744073709551616) (hg : g < 18446744073709551616) : bits .xor .u64 (bits .and .u64 (e : Int) (f : Int)) (bits .and .u64 (bits .xor .u64 IntKind.u64.max (e : Int)) (g : Int)) = ((chs true e f g : Nat) : Int) := by
  rw [not_is64 e he, and_is64 e f he hf, and_is64 _ g (by omega) hg, xor_is64 _ _ (and_lt (b := true) he) (and_lt (b := true) (by show 18446744073709551616 - 1 - e < 18446744073709551616; omega))]
  rfl
theorem maj_is64 (x y z : Nat) (hx : x < 18446744073709551616) (hy : y < 18446744073709551616) (hz : z < 18446744073709551616) : bits .xor .u64 (bits .xor .u64 (bits .and .u64 (x : Int) (y : Int)) (bits .and .u64 (x : Int) (z : Int))) (bits .and .u64 (y : Int) (z : Int)) = ((maj x y z : Nat) : Int) := by
  rw [and_is64 x y hx hy, and_is64 x z hx hz, and_is64 y z hy hz, xor_is64 _ _ (and_lt (b := true) hx) (and_lt (b := true) hx), xor_is64 _ _ (xor_lt (b := true) (and_lt (b := true) hx) (and_lt (b := true) hx)) (and_lt (b := true) hy)]
  rfl
theorem rnd064 (s : List Nat) (k w : Nat) : (((((el s 7 + turn3 true 14 18 41 (el s 4)) % 18446744073709551616 + chs true (el s 4) (el s 5) (el s 6)) % 18446744073709551616 + k) % 18446744073709551616 + w) % 18446744073709551616 + (turn3 true 28 34 39 (el s 0) + maj (el s 0) (el s 1) (el s 2)) % 18446744073709551616) % 18446744073709551616 = el (rnd true k w s) 0 := by
  show _ = (tOne true s k w + tTwo true s) % wm true
  unfold tOne tTwo
  simp only [gS0, gS1, wm, cond_true, cond_false]
  omega
theorem rnd464 (s : List Nat) (k w : Nat) : (el s 3 + ((((el s 7 + turn3 true 14 18 41 (el s 4)) % 18446744073709551616 + chs true (el s 4) (el s 5) (el s 6)) % 18446744073709551616 + k) % 18446744073709551616 + w) % 18446744073709551616) % 18446744073709551616 = el (rnd true k w s) 4 := by
  show _ = (el s 3 + tOne true s k w) % wm true
  unfold tOne
  simp only [gS0, gS1, wm, cond_true, cond_false]
  omega

/-- three turns, as a value -/
def tur64 (a b c : Nat) : Value := .agg #[.int .i64 (a : Int), .int .i64 (b : Int), .int .i64 (c : Int)]

end Go.Proofs.Ytnjiilnkobhibaa

/- Contracts of the document's right, mix; its tables. -/
namespace Go.Proofs.Ytnjiilnkobhibaa
open Go.RowKit
set_option linter.unusedVariables false
set_option linter.unusedSimpArgs false

/-- what right tells, of any number -/
def rgt (b : Bool) (r x : Nat) : Nat := bif b then rot true r x else x / 2 ^ r ||| x * 2 ^ (32 - r) % 18446744073709551616 % 4294967296
theorem rgt_rot {b : Bool} {r x : Nat} (hx : x < wm b) (hr : r ≤ 32) : rgt b r x = rot b r x := by
  cases b with
  | true => rfl
  | false =>
    show x / 2 ^ r ||| x * 2 ^ (32 - r) % 18446744073709551616 % 4294967296 = x / 2 ^ r ||| x * 2 ^ (32 - r) % 4294967296
    congr 1
    rw [Nat.mod_mod_of_dvd _ (by decide)]
theorem rgt_lt {b : Bool} {r x : Nat} (hx : x < 18446744073709551616) : rgt b r x < 18446744073709551616 := by
  cases b with
  | true => exact rot_lt (b := true) hx r
  | false =>
    have h2 : x * 2 ^ (32 - r) % 18446744073709551616 % 4294967296 < 4294967296 := Nat.mod_lt _ (by decide)
    exact Nat.or_lt_two_pow (n := 64) (Nat.lt_of_le_of_lt (Nat.div_le_self _ _) hx) (Nat.lt_of_lt_of_le h2 (by decide))
theorem and_ones32 (x : Nat) (hx : x < 18446744073709551616) : bits .and .u64 (x : Int) 4294967295 = ((x % 4294967296 : Nat) : Int) := by
  rw [show (4294967295 : Int) = ((4294967295 : Nat) : Int) from rfl, u64_and_nat x _ hx (by decide)]
  congr 1
  exact Nat.and_two_pow_sub_one_eq_mod x 32
theorem and_ones64 (x : Nat) (hx : x < 18446744073709551616) : bits .and .u64 (x : Int) 18446744073709551615 = ((x : Nat) : Int) := by
  rw [show (18446744073709551615 : Int) = ((18446744073709551615 : Nat) : Int) from rfl, u64_and_nat x _ hx (by decide)]
  congr 1
  rw [Nat.and_two_pow_sub_one_eq_mod x 64]
  exact Nat.mod_eq_of_lt hx

/-- what mix tells, of any number -/
def rmx (b sh : Bool) (r1 r2 r3 x : Nat) : Nat := rgt b r1 x ^^^ rgt b r2 x ^^^ (bif sh then x / 2 ^ r3 else rgt b r3 x)
theorem rmx_lt {b sh : Bool} {r1 r2 r3 x : Nat} (hx : x < 18446744073709551616) : rmx b sh r1 r2 r3 x < 18446744073709551616 := by
  have h := fun r => rgt_lt (b := b) (r := r) hx
  refine Nat.xor_lt_two_pow (n := 64) (Nat.xor_lt_two_pow (n := 64) (h r1) (h r2)) ?_
  cases sh with
  | true => exact Nat.lt_of_le_of_lt (Nat.div_le_self _ _) hx
  | false => exact h r3
theorem rmx_turn {b : Bool} {r1 r2 r3 x : Nat} (hx : x < wm b) (h1 : r1 < wb b) (h2 : r2 < wb b) (h3 : r3 < wb b) : rmx b false r1 r2 r3 x = turn3 b r1 r2 r3 x := by
  cases b with
  | true => rfl
  | false =>
    have h1' : r1 < 32 := h1
    have h2' : r2 < 32 := h2
    have h3' : r3 < 32 := h3
    unfold rmx turn3
    rw [rgt_rot hx (by omega), rgt_rot hx (by omega), cond_false, rgt_rot hx (by omega)]
theorem rmx_shft {b : Bool} {r1 r2 r3 x : Nat} (hx : x < wm b) (h1 : r1 < wb b) (h2 : r2 < wb b) : rmx b true r1 r2 r3 x = shft3 b r1 r2 r3 x := by
  cases b with
  | true => rfl
  | false =>
    have h1' : r1 < 32 := h1
    have h2' : r2 < 32 := h2
    unfold rmx shft3
    rw [rgt_rot hx (by omega), rgt_rot hx (by omega), cond_true]

end Go.Proofs.Ytnjiilnkobhibaa

/- append onto a row of the call's own: its old cells stay as they were. -/
namespace Go.Proofs.Ytnjiilnkobhibaa
open Go.RowKit
set_option linter.unusedVariables false
set_option linter.unusedSimpArgs false

theorem run_append_keeps {P : Program} (w : World) (t ty : TypeId) (base : Nat) (e : TypeId) (i : TypeInfo) (z : Value) (bytes : Nat) (ht : P.underlying t = some (.slice e)) (hi : P.info? e = some i) (hz : i.zero = some z)
    (hsize : i.size = 1) (hby : i.bytes = bytes) (hzs : z.cells.size = 1)
    (g0 n cap0 : Nat) (xs : List Value) (hown : w.ownsRow base e 1 (.slice (some ⟨g0, 0, none⟩) n cap0) n xs)
    (ad : Addr) (m c : Nat) (news : List Value) (hl : news.length = m) (hnews : ∀ j u, news[j]? = some u → w.cell? (ad.add j) = some u) (h1 : ∀ u ∈ news, u.oneCell' = true)
    (hm : 0 < m) (h63 : n + m ≤ maxLen) (hbytes : (n + m) * bytes ≤ 140737488355328) (hbase : base ≤ w.heap.size) :
    ∃ g cap w', (Builtin.append_ #[t, t] ty #[.slice (some ⟨g0, 0, none⟩) n cap0, .slice (some ad) m c]).run P w = .ok (.slice (some ⟨g, 0, none⟩) (n + m) cap) w' ∧
      w'.ownsRow base e 1 (.slice (some ⟨g, 0, none⟩) (n + m) cap) (n + m) (xs ++ news) ∧ w.grownBy w' (some g0) ∧ ∀ j, j < n → w'.cell? ⟨g0, j, none⟩ = w.cell? ⟨g0, j, none⟩ := by
  obtain ⟨g, cap, w', hr, h2, h3, h4, h5⟩ := run_append_lies (P := P) w t ty base e i z 1 bytes ht hi hz hsize hby hzs (by decide) _ n xs hown ad m c news (by rw [hl, Nat.mul_one]) hnews h1 hm h63 hbytes hbase _ rfl
  refine ⟨g, cap, w', hr, h2, h3, fun j hj => ?_⟩
  have hown' := hown
  obtain ⟨hlen, ⟨he, _⟩ | ⟨q, cq, cur, he, hB, hg, hn, hc, hcs, htk⟩⟩ := hown
  · cases he
  · obtain ⟨rfl, rfl⟩ : g0 = q ∧ cap0 = cq := by simpa using he
    by_cases hroom : n + m ≤ cap0
    · have hrr := run_append_room_cells (P := P) w t ty e i ht hi g0 0 n cap0 ad m c news (by rw [hl, hsize, Nat.mul_one]) hnews h1 hroom
        (fun j hj => by rw [cell_of_row w g0 _ cur e (0, 0) hg, hsize]; simp; omega)
        (fun j hj => by simp [World.frozen?, hg])
      rw [hr] at hrr
      obtain rfl : w' = w.setCells g0 (0 + n * i.size) news := (Result.ok.inj hrr).2
      exact World.cell?_setCells_out g0 news _ w ⟨g0, j, none⟩ (fun _ _ => .inl (by show j < 0 + n * i.size; rw [hsize]; omega))
    · obtain ⟨v2, w2, hr2, _, hg2⟩ := run_append_arg_grows (P := P) w t ty e i z 1 bytes ht hi hz hsize hby hzs (by decide) ⟨g0, 0, none⟩ n cap0 xs hlen
        (fun j u hu => by
          have hjx : j < xs.length := (List.getElem?_eq_some_iff.1 hu).1
          rw [Addr.add_lit, Nat.zero_add, hown'.cellAt j (by omega)]; exact hu) ad m c news (by rw [hl, Nat.mul_one]) hnews (by omega) h63 hbytes
      rw [hr] at hr2
      obtain rfl : w' = w2 := (Result.ok.inj hr2).2
      exact World.cell?_of_block (hg2.block g0 (by rcases Nat.lt_or_ge g0 w.heap.size with h' | h'
                                                   · exact h'
                                                   · rw [Array.getElem?_eq_none h'] at hg; cases hg) (by simp))

theorem step_append_keeps {P : Program} {w : World} {ops : Array Oper} {o : Oper} {a : Act} {K : Act → World → Prop} {Q : Exit → Act → World → Prop} {E : Prop} (hgd : o.guard = none) (s x : Operand) (t : TypeId)
    (ho : o.op = .call { callee := .builtin .append, args := #[s, x], argTypes := #[t, t] })
    (base : Nat) (e : TypeId) (i : TypeInfo) (z : Value) (bytes : Nat) (ht : P.underlying t = some (.slice e)) (hi : P.info? e = some i) (hz : i.zero = some z)
    (hsize : i.size = 1) (hby : i.bytes = bytes) (hzs : z.cells.size = 1)
    (g0 n cap0 : Nat) (xs : List Value) (hs : a.eval s = .slice (some ⟨g0, 0, none⟩) n cap0) (hown : w.ownsRow base e 1 (.slice (some ⟨g0, 0, none⟩) n cap0) n xs)
    (ad : Addr) (m c : Nat) (news : List Value) (hx : a.eval x = .slice (some ad) m c) (hl : news.length = m) (hnews : ∀ j u, news[j]? = some u → w.cell? (ad.add j) = some u) (h1 : ∀ u ∈ news, u.oneCell' = true)
    (hm : 0 < m) (h63 : n + m ≤ maxLen) (hbytes : (n + m) * bytes ≤ 140737488355328) (hbase : base ≤ w.heap.size)
    (h : ∀ g cap w', w'.ownsRow base e 1 (.slice (some ⟨g, 0, none⟩) (n + m) cap) (n + m) (xs ++ news) → w.grownBy w' (some g0) → (∀ j, j < n → w'.cell? ⟨g0, j, none⟩ = w.cell? ⟨g0, j, none⟩) → K (a.put o.dst (.slice (some ⟨g, 0, none⟩) (n + m) cap)) w') :
    if Region.wanted o (yielded ops a.tmps) = true then Oper.wp P o a w K Q else E := by
  have hw : Region.wanted o (yielded ops a.tmps) = true := by simp [Region.wanted, hgd]
  rw [if_pos hw]
  obtain ⟨g, cap, w', hr, h2, h3, h4⟩ := run_append_keeps (P := P) w t o.type base e i z bytes ht hi hz hsize hby hzs g0 n cap0 xs hown ad m c news hl hnews h1 hm h63 hbytes hbase
  unfold Oper.wp execOp
  simp only [ho, resolve, invoke, builtin, Sem.run_bind, Sem.run_pure, Result.andThen_ok, List.map_toArray, List.map_cons, List.map_nil, hs, hx, hr]
  exact h g cap w' h2 h3 h4
end Go.Proofs.Ytnjiilnkobhibaa
