/- Trees of leaves that sign once, the program's own: Verify, whatever comes. -/
import Derived.Test.YtefndnbaifiboaaGreatDoorLsJ
import Derived.Test.YtefndnbaifiboaaGreatDoorLtVT
import Derived.Test.YtefndnbaifiboaaGreatDoorLsE
import Derived.Test.YtefndnbaifiboaaGreatDoorLtC2
import Derived.BigFrame
namespace Go.Proofs.YtefndnbaifiboaaGreatDoor
open Go.RowKit Go.Shelf
set_option linter.unusedVariables false
set_option linter.unusedSimpArgs false

theorem num_be4L {n : Nat} (h : n < 4294967296) : numL (be4 n) = n := by
  have e : be4 n = [n / 16777216 % 256, n / 65536 % 256, n / 256 % 256, n % 256] := by
    unfold be4 leL
    simp [List.range, List.range.loop]
  rw [e]
  show ((((0 * 256 + n / 16777216 % 256) % 18446744073709551616 * 256 + n / 65536 % 256) % 18446744073709551616 * 256 + n / 256 % 256) % 18446744073709551616 * 256 + n % 256) % 18446744073709551616 = n
  omega
theorem num4_inj {l m : List Nat} (hl : l.length = 4) (hm : m.length = 4) (hu : Under 256 l) (hv : Under 256 m) (e : numL l = numL m) : l = m := by
  match l, hl, m, hm with
  | [p, q, r, s], _, [p', q', r', s'], _ =>
    have e1 := num4_is p q r s (hu p (by simp)) (hu q (by simp)) (hu r (by simp)) (hu s (by simp))
    have e2 := num4_is p' q' r' s' (hv p' (by simp)) (hv q' (by simp)) (hv r' (by simp)) (hv s' (by simp))
    have b1 := hu p (by simp)
    have b2 := hu q (by simp)
    have b3 := hu r (by simp)
    have b4 := hu s (by simp)
    have c1 := hv p' (by simp)
    have c2 := hv q' (by simp)
    have c3 := hv r' (by simp)
    have c4 := hv s' (by simp)
    rw [e1, e2] at e
    simp only [List.cons.injEq, and_true]
    omega
theorem under_take {m n : Nat} {l : List Nat} (h : Under m l) : Under m (l.take n) := fun x hx => h x (List.mem_of_mem_take hx)
theorem under_drop {m n : Nat} {l : List Nat} (h : Under m l) : Under m (l.drop n) := fun x hx => h x (List.mem_of_mem_drop hx)
/-- a signature's kind is the key's just when its typecodes are -/
theorem hd_iff {pub sig : List Nat} (h : vKey pub) (hc : ctE sig = 0) (hu : Under 256 pub) (hv : Under 256 sig) : (ctH sig = hgtL (numL (pub.take 4)) ∧ ctW sig = dgtL (numL ((pub.drop 4).take 4))) ↔ hdT sig = pub.take 8 := by
  obtain ⟨h56, hH, hD⟩ := h
  obtain ⟨g8, gw0, _, gH0, _⟩ := ctE_zero hc
  have e8 : pub.take 8 = pub.take 4 ++ (pub.drop 4).take 4 := by rw [← List.take_add]
  have l4 : (pub.take 4).length = 4 := by rw [List.length_take]; omega
  have l8 : ((pub.drop 4).take 4).length = 4 := by rw [List.length_take, List.length_drop]; omega
  have s8 : ((sig.drop 4).take 4).length = 4 := by rw [List.length_take, List.length_drop]; omega
  have hs48 : numL ((sig.drop 4).take 4) < 4294967296 := num4_lt (under_take (under_drop hv)) (by omega)
  have hb : be4 (numL ((sig.drop 4).take 4)) = (sig.drop 4).take 4 := num4_inj (be4_len _) s8 (be4_under _) (under_take (under_drop hv)) (num_be4L hs48)
  unfold hdT
  rw [hb, e8]
  have hcd : ∀ c, hgtL c ≠ 0 → lmCode (hgtL c : Nat) = c := fun c h0 => by
    rcases hgtL_or c with h | ⟨h, _⟩
    · exact absurd h h0
    · exact h
  have hdd : ∀ c, dgtL c ≠ 0 → kdC (dgtL c) = c := fun c h0 => by
    rcases dgtL_or c with h | ⟨n, m, s, h⟩
    · exact absurd h h0
    · have e0 : ∀ {k n m s c : Nat}, Kd k n m s c → kdC k = c := fun hk => by cases hk <;> rfl
      exact e0 h
  constructor
  · rintro ⟨e1, e2⟩
    congr 1
    · rw [e1, hcd _ hH]
      exact num4_inj (be4_len _) l4 (be4_under _) (under_take hu) (num_be4L (num4_lt (under_take hu) (by omega)))
    · refine num4_inj s8 l8 (under_take (under_drop hv)) (under_take (under_drop hu)) ?_
      rw [← hdd _ hD, ← e2]
      exact (hdd _ gw0).symm
  · intro e
    obtain ⟨e1, e2⟩ := List.append_inj e (by rw [be4_len, l4])
    constructor
    · rw [← e1, num_be4L (lmCode_32 _), hgtL_code]
      have := (fit_ct gw0 gH0).1
      exact this
    · rw [← e2]; rfl
theorem cvfT_any (pub text sig : List Nat) (pv tv sv : Value) (w : World) (hT : Roots w) (hp : Row .u8 256 w pv pub) (ht : Row .u8 256 w tv text) (tt : Tidy tv) (htl : text.length ≤ 10000) (hs : Row .u8 256 w sv sig) (hsl : sig.length ≤ 100000) :
    Calls Tryz.prog 19 #[pv, tv, sv] w fun e w' => e = .returned (.int .i64 (vfT pub text sig)) ∧ Below w.heap.size w w' := by
  unfold vfT
  by_cases h1 : vKey pub
  · rw [if_neg (by simp [h1])]
    by_cases h2 : ctE sig = 0
    · rw [if_neg (by simp [h2])]
      by_cases h3 : ctN sig < sig.length
      · rw [if_pos h3]
        exact cver_more pub sig pv tv sv w hp hs hsl h1 h2 h3
      · rw [if_neg h3]
        have hm : sig.length = ctN sig := by have := (ctE_zero h2).2.2.2.2; omega
        have hi := hd_iff h1 h2 hp.under hs.under
        by_cases h4 : hdT sig = pub.take 8
        · rw [if_neg (by simp [h4])]
          by_cases h5 : 2 ^ ctH sig ≤ numL (sig.take 4)
          · rw [if_pos h5]
            exact cver_spent pub sig pv tv sv w hp hs hsl h1 h2 hm (hi.2 h4) h5
          · rw [if_neg h5]
            obtain ⟨n, m, s, hk⟩ : ∃ n m s, Kd (ctW sig) n m s (numL ((sig.drop 4).take 4)) := by
              rcases dgtL_or (numL ((sig.drop 4).take 4)) with hz | hz
              · exact absurd hz (ctE_zero h2).2.1
              · exact hz
            obtain ⟨e1, e2, e3, _⟩ := hk.is
            rw [← e1, ← e2, ← e3]
            exact cver_sums (c := 0) pub text sig pv tv sv w hT hp ht tt htl hs hsl h1 h2 hm (hi.2 h4) (by omega) hk
        · rw [if_pos h4]
          exact cver_kind pub sig pv tv sv w hp hs hsl h1 h2 hm (fun q => h4 (hi.1 q))
    · rw [if_pos h2]
      exact cver_cut pub sig pv tv sv w hp hs h1 h2
  · rw [if_pos h1]
    exact cver_key pub pv tv sv w hp h1
end Go.Proofs.YtefndnbaifiboaaGreatDoor

/- Trees of leaves that sign once: words for the law of verifying. -/
namespace Go.Proofs.YtefndnbaifiboaaGreatDoor
open Go.RowKit
set_option linter.unusedVariables false
set_option linter.unusedSimpArgs false

/-- a struct read behind a guard that is met -/
theorem wpList_load_rowG {ops : Array Oper} {rest : List Oper} {o : Oper} {a : Act} {w : World} {Q : Exit → Act → World → Prop} (hw : Region.wanted o (yielded ops a.tmps) = true) (ty : TypeId) (x : Operand) (ho : o.op = .load ty x)
    (g : Nat) (hx : a.eval x = .pointer (some ⟨g, 0, none⟩)) (t : TypeId) (cs : Array Value) (fr : Nat × Nat) (fs : Array Field) (hg : w.heap[g]? = some (.cells cs t fr))
    (hu : Tryz.prog.underlying ty = some (.struct fs)) (hi : (Tryz.prog.info? ty).map (·.size) = some cs.size)
    (h : wpList Tryz.prog ops Q rest (a.put o.dst (.agg cs)) w) : wpList Tryz.prog ops Q (o :: rest) a w :=
  BigFrame.wpList_want hw fun _ hK => wp_load_row ty x ho g hx t cs fr (.struct fs) hg hu rfl hi (hK _ _ h)
def TellsC (y : World) (X1 X2 : List Nat) (H W c : Int) (e : Ending) (y' : World) : Prop := ∃ v1 v2, e = .returned (.tuple #[v1, .agg #[.int .i64 H, .int .i64 W], v2, .int .i64 c]) ∧ Row .u8 256 y' v1 X1 ∧ Row .u8 256 y' v2 X2 ∧ Below y.heap.size y y'
section
variable {w : World} {sig : List Nat} {ga : Option Addr} {gl gc : Nat}
theorem both_cut (rg : Row .u8 256 w (.slice ga gl gc) sig) (hl : sig.length ≤ 12000) :
    ∃ (X1 X2 : List Nat) (H W c : Int), (∀ y, Below w.heap.size w y → Calls Tryz.prog 17 #[.slice ga gl gc] y (TellsC y X1 X2 H W c)) ∧ (∀ y, Below w.heap.size w y → Calls Tryz.prog 18 #[.slice ga gl gc] y (TellsC y X1 X2 H W c)) := by
  by_cases hc : ctE sig = 0
  · refine ⟨sig.take (ctN sig), sig.drop (ctN sig), (ctH sig : Nat), (ctW sig : Nat), 0, fun y hb => (ccut_ok sig _ y (rg.below hb) hc (by omega)).mono fun e w' q => ?_, fun y hb => (rcut_ok sig _ y (rg.below hb) hc).mono fun e w' q => ?_⟩
    · obtain ⟨v1, v2, h1, h2, h3, h4⟩ := q
      exact ⟨v1, v2, h1, h2.row, h3.row, h4⟩
    · obtain ⟨v1, v2, h1, h2, h3, h4⟩ := q
      exact ⟨v1, v2, h1, h2, h3, h4⟩
  · exact ⟨[], [], 0, 0, (ctE sig : Nat), fun y hb => (ccut_no sig _ y (rg.below hb) hc).mono fun e w' q => ⟨_, _, q.1, Row.nil _ _ _, Row.nil _ _ _, q.2⟩, fun y hb => (rcut_no sig _ y (rg.below hb) hc).mono fun e w' q => ⟨_, _, q.1, Row.nil _ _ _, Row.nil _ _ _, q.2⟩⟩
end
end Go.Proofs.YtefndnbaifiboaaGreatDoor
