/- Trees of leaves that sign once: the document's Verify, whatever comes. -/
import Derived.Test.YtogiballdmgcpaaGreatDoorLtV
import Derived.Test.YtogiballdmgcpaaGreatDoorHkM
import Derived.Test.YtogiballdmgcpaaGreatDoorLsH
import Derived.Laws.StructEq
import Derived.Test.YtogiballdmgcpaaGreatDoorLcC
import Derived.Test.YtogiballdmgcpaaGreatDoorLcD
import Derived.Test.YtogiballdmgcpaaGreatDoorLhA
import Derived.Test.YtogiballdmgcpaaGreatDoorBase
namespace Go.Proofs.YtogiballdmgcpaaGreatDoor
open Go.RowKit
set_option linter.unusedVariables false
set_option linter.unusedSimpArgs false

instance (pub : List Nat) : Decidable (vKey pub) := by unfold vKey; infer_instance
/-- the document's answer: is a tree's signature right? -/
def vfT (pub text sig : List Nat) : Int :=
  if ¬ vKey pub then 10 else if ctE sig ≠ 0 then (ctE sig : Int) else if ctN sig < sig.length then 1 else if ¬ hdT sig = pub.take 8 then 1 else if 2 ^ ctH sig ≤ numL (sig.take 4) then 13 else
  if vTopK (ctW sig) (nK (ctW sig)) (mK (ctW sig)) (sK (ctW sig)) pub text sig = pub.drop 24 then 0 else 11
end Go.Proofs.YtogiballdmgcpaaGreatDoor

/- Trees of trees: the document's Verify. -/
namespace Go.Proofs.YtogiballdmgcpaaGreatDoor
open Go.RowKit
set_option linter.unusedVariables false
set_option linter.unusedSimpArgs false

/-- r signatures, one behind the other, each by the key that the one ahead signs -/
def hvL (text : List Nat) : Nat → List Nat → List Nat → Int
  | 0, _, _ => 1
  | r + 1, key, rest => if ctE rest ≠ 0 then (ctE rest : Int) else
    if r = 0 then (if ctN rest < rest.length then 1 else vfT key text (rest.take (ctN rest))) else
    if (rest.drop (ctN rest)).length < 56 then 1 else
    if vfT key ((rest.drop (ctN rest)).take 56) (rest.take (ctN rest)) ≠ 0 then vfT key ((rest.drop (ctN rest)).take 56) (rest.take (ctN rest)) else
    hvL text r ((rest.drop (ctN rest)).take 56) ((rest.drop (ctN rest)).drop 56)
/-- the document's answer: is a signature of trees in trees right? -/
def vfH (pub text sig : List Nat) : Int :=
  if ¬ (pub.length = 60 ∧ 1 ≤ numL (pub.take 4) ∧ numL (pub.take 4) ≤ 8) then 10 else
  if ¬ (4 ≤ sig.length ∧ numL (sig.take 4) + 1 = numL (pub.take 4)) then 1 else hvL text (numL (pub.take 4)) (pub.drop 4) (sig.drop 4)
end Go.Proofs.YtogiballdmgcpaaGreatDoor

/- Trees of leaves that sign once, the program's own: Verify, where it refuses. -/
namespace Go.Proofs.YtogiballdmgcpaaGreatDoor
open Go.RowKit Go.Shelf
set_option linter.unusedVariables false
set_option linter.unusedSimpArgs false

theorem fields2 : (Tryz.prog.fieldsOf 45).toList.map (fun f => (f.type, f.offset, f.name == "_")) = [(3, 0, false), (3, 1, false)] := by kernel_rfl
theorem two_fields {l : List Field} {a0 a1 : Nat × Nat × Bool} (h : l.map (fun f => (f.type, f.offset, f.name == "_")) = [a0, a1]) : ∃ f0 f1 : Field, l = [f0, f1] ∧ (f0.type, f0.offset, f0.name == "_") = a0 ∧ (f1.type, f1.offset, f1.name == "_") = a1 := by
  match l, h with
  | [f0, f1], h =>
    simp only [List.map_cons, List.map_nil, List.cons.injEq, and_true] at h
    exact ⟨f0, f1, rfl, h.1, h.2⟩
theorem eqTr (a b c d : Int) (w : World) : (Op.equalIn 10000 45 (.agg #[.int .i64 a, .int .i64 b]) (.agg #[.int .i64 c, .int .i64 d])).run Tryz.prog w = .ok (decide (a = c ∧ b = d)) w := by
  have hst := run_equalIn_struct (P := Tryz.prog) w 9999 45 #[.int .i64 a, .int .i64 b] #[.int .i64 c, .int .i64 d] (by kernel_rfl) (by kernel_rfl)
  have hgi : (isAgg 3).run Tryz.prog w = .ok false w := by unfold isAgg; rw [Sem.run_bind, run_underlying Tryz.underlying3 w]; rfl
  have p0 : ∀ x y : Int, (part 3 #[.int .i64 x, .int .i64 y] 0).run Tryz.prog w = .ok (.int .i64 x) w := fun x y => by simp [part, hgi]
  have p1 : ∀ x y : Int, (part 3 #[.int .i64 x, .int .i64 y] 1).run Tryz.prog w = .ok (.int .i64 y) w := fun x y => by simp [part, hgi]
  have ei : ∀ x y : Int, (Op.equalIn 9999 3 (.int .i64 x) (.int .i64 y)).run Tryz.prog w = .ok (x == y) w := fun x y => run_equalIn_int (P := Tryz.prog) w 9998 3 .i64 .i64 x y Tryz.underlying3
  obtain ⟨f0, f1, hf, h0, h1⟩ := two_fields fields2
  simp only [Prod.mk.injEq] at h0 h1
  obtain ⟨t0, o0, n0⟩ := h0
  obtain ⟨t1, o1, n1⟩ := h1
  rw [beq_eq_false_iff_ne] at n0 n1
  rw [hst, hf]
  simp only [Op.eqFields, if_pos n0, if_pos n1, t0, t1, o0, o1, Sem.run_bind, p0, p1, ei, Result.andThen_ok]
  by_cases q1 : a = c
  · by_cases q2 : b = d
    · simp [q1, q2, p0, p1, ei]
    · simp [q1, q2, p0, p1, ei]
  · simp [q1, p0, p1, ei]
set_option maxHeartbeats 4000000 in
set_option maxRecDepth 100000 in
theorem cver_key (pub : List Nat) (pv tv sv : Value) (w : World) (hp : Row .u8 256 w pv pub) (h : ¬ vKey pub) :
    Calls Tryz.prog 35 #[pv, tv, sv] w fun e w' => e = .returned (.int .i64 10) ∧ Below w.heap.size w w' := by
  have hto : ∀ y, Below w.heap.size w y → Calls Tryz.prog 59 #[pv] y fun e w' => e = .returned (.tuple #[.agg #[.int .i64 0, .int .i64 0, .slice none 0 0], .int .i64 10]) ∧ Below y.heap.size y w' := fun y k => (ctree_any pub pv y (hp.below k)).mono fun e w' q => by
    rcases q.1 with ⟨_, _, _, hv, _⟩ | ⟨_, he⟩
    · exact absurd hv h
    · exact ⟨he, q.2⟩
  obtain ⟨pa, pc, rfl, _⟩ := hp.opens rfl
  clear hp h
  generalize pub.length = L at *
  go_enter Tryz.func35, Tryz.ntmps35
  go_wp2_with (first
    | (go_at_call 59; refine (hto _ (Below.refl _ _)).mono ?_; rintro e w1 ⟨rfl, g1⟩)
    | fail)
  go_ret
  exact ⟨rfl, keep_trans g1 (keep_alloc _ _)⟩
set_option maxHeartbeats 4000000 in
set_option maxRecDepth 100000 in
theorem cver_cut (pub sig : List Nat) (pv tv sv : Value) (w : World) (hp : Row .u8 256 w pv pub) (hs : Row .u8 256 w sv sig) (h : vKey pub) (hc : ctE sig ≠ 0) :
    Calls Tryz.prog 35 #[pv, tv, sv] w fun e w' => e = .returned (.int .i64 (ctE sig : Nat)) ∧ Below w.heap.size w w' := by
  have hct := fun y (k : Below w.heap.size w y) => ccut_no sig sv y (hs.below k) hc
  obtain ⟨pa, pc, rfl, lc1, lc2, ho⟩ := hp.opens h.1
  obtain ⟨pb, po, rfl, _⟩ := ho (by decide)
  have hto := fun y (k : Below w.heap.size w y) => ctree_56 pub pb po pc y (hp.below k) h.1 lc1
  unfold TrOf at hto
  rw [if_pos ((fit_hd _ _).2 ⟨h.2.1, h.2.2⟩)] at hto
  have hEi : ¬ ((ctE sig : Nat) : Int) = 0 := by omega
  have hEb : (((ctE sig : Nat) : Int) != 0) = true := by simp [hc]
  generalize hgtL (numL (pub.take 4)) = H at *
  generalize dgtL (numL ((pub.drop 4).take 4)) = D at *
  generalize ctE sig = E at *
  obtain ⟨sa, sc, rfl, _⟩ := hs.opens rfl
  generalize sig.length = SL at *
  clear hp h hc hs ho
  go_enter Tryz.func35, Tryz.ntmps35
  go_wp2_with (first
    | (go_at_call 59; refine (hto _ (Below.refl _ _)).mono ?_; rintro e w1 ⟨rfl, g1⟩)
    | (go_at_call 34; refine (hct _ (keep_trans g1 (keep_alloc _ _))).mono ?_; rintro e w2 ⟨rfl, g2⟩)
    | fail)
  go_ret
  exact ⟨rfl, keep_trans (keep_trans (keep_trans g1 (keep_alloc _ _)) g2) (keep_alloc _ _)⟩
set_option maxHeartbeats 4000000 in
set_option maxRecDepth 100000 in
theorem cver_more (pub sig : List Nat) (pv tv sv : Value) (w : World) (hp : Row .u8 256 w pv pub) (hs : Row .u8 256 w sv sig) (hsl : sig.length ≤ 100000) (h : vKey pub) (hc : ctE sig = 0) (hm : ctN sig < sig.length) :
    Calls Tryz.prog 35 #[pv, tv, sv] w fun e w' => e = .returned (.int .i64 1) ∧ Below w.heap.size w w' := by
  have hct := fun y (k : Below w.heap.size w y) => ccut_ok sig sv y (hs.below k) hc hsl
  obtain ⟨pa, pc, rfl, lc1, lc2, ho⟩ := hp.opens h.1
  obtain ⟨pb, po, rfl, _⟩ := ho (by decide)
  have hto := fun y (k : Below w.heap.size w y) => ctree_56 pub pb po pc y (hp.below k) h.1 lc1
  unfold TrOf at hto
  rw [if_pos ((fit_hd _ _).2 ⟨h.2.1, h.2.2⟩)] at hto
  have hdl : (sig.drop (ctN sig)).length = sig.length - ctN sig := List.length_drop
  obtain ⟨R, hR⟩ : ∃ R, R = sig.length - ctN sig := ⟨_, rfl⟩
  rw [← hR] at hdl
  have hRp : (0 : Int) < (R : Int) := by omega
  generalize hgtL (numL (pub.take 4)) = H at *
  generalize dgtL (numL ((pub.drop 4).take 4)) = D at *
  generalize ctH sig = H2 at *
  generalize ctW sig = D2 at *
  generalize sig.drop (ctN sig) = bd at *
  generalize sig.take (ctN sig) = bt at *
  obtain ⟨sa, sc, rfl, _⟩ := hs.opens rfl
  generalize sig.length = SL at *
  clear hp h hc hs ho hm hR hsl
  go_enter Tryz.func35, Tryz.ntmps35
  go_wp2_with (first
    | (go_at_call 59; refine (hto _ (Below.refl _ _)).mono ?_; rintro e w1 ⟨rfl, g1⟩)
    | (go_at_call 34; refine (hct _ (keep_trans g1 (keep_alloc _ _))).mono ?_; rintro e w2 ⟨v1, v2, rfl, o1, o2, g2⟩; obtain ⟨b1, c1, rfl, _⟩ := o1.row.opens rfl; obtain ⟨b2, c2, rfl, _⟩ := o2.row.opens hdl)
    | fail)
  go_ret
  exact ⟨rfl, keep_trans (keep_trans (keep_trans g1 (keep_alloc _ _)) g2) (keep_alloc _ _)⟩
set_option maxHeartbeats 4000000 in
set_option maxRecDepth 100000 in
theorem cver_kind (pub sig : List Nat) (pv tv sv : Value) (w : World) (hp : Row .u8 256 w pv pub) (hs : Row .u8 256 w sv sig) (hsl : sig.length ≤ 100000) (h : vKey pub) (hc : ctE sig = 0) (hm : sig.length = ctN sig) (hk : ¬ (ctH sig = hgtL (numL (pub.take 4)) ∧ ctW sig = dgtL (numL ((pub.drop 4).take 4)))) :
    Calls Tryz.prog 35 #[pv, tv, sv] w fun e w' => e = .returned (.int .i64 1) ∧ Below w.heap.size w w' := by
  have hct := fun y (k : Below w.heap.size w y) => ccut_ok sig sv y (hs.below k) hc hsl
  obtain ⟨pa, pc, rfl, lc1, lc2, ho⟩ := hp.opens h.1
  obtain ⟨pb, po, rfl, _⟩ := ho (by decide)
  have hto := fun y (k : Below w.heap.size w y) => ctree_56 pub pb po pc y (hp.below k) h.1 lc1
  unfold TrOf at hto
  rw [if_pos ((fit_hd _ _).2 ⟨h.2.1, h.2.2⟩)] at hto
  have hdl : (sig.drop (ctN sig)).length = 0 := by rw [List.length_drop]; omega
  generalize hgtL (numL (pub.take 4)) = H at *
  generalize dgtL (numL ((pub.drop 4).take 4)) = D at *
  generalize ctH sig = H2 at *
  generalize ctW sig = D2 at *
  have heq := fun w => eqTr (H2 : Int) (D2 : Int) (H : Int) (D : Int) w
  have hdf : decide ((H2 : Int) = (H : Int) ∧ (D2 : Int) = (D : Int)) = false := by simp only [decide_eq_false_iff_not]; omega
  simp only [hdf] at heq
  generalize sig.drop (ctN sig) = bd at *
  generalize sig.take (ctN sig) = bt at *
  obtain ⟨sa, sc, rfl, _⟩ := hs.opens rfl
  generalize sig.length = SL at *
  clear hp h hc hs ho hm hsl hdf hk
  go_enter Tryz.func35, Tryz.ntmps35
  go_wp2_with (first
    | (go_at_call 59; refine (hto _ (Below.refl _ _)).mono ?_; rintro e w1 ⟨rfl, g1⟩; have bx := BxD.new w1 (.int .i64 (H : Int)) (.int .i64 (D : Int)) (.slice (some ⟨pb, po + 8, none⟩) 16 (pc - 8)))
    | (go_at_call 34; refine (hct _ (keep_trans g1 (keep_alloc _ _))).mono ?_; rintro e w2 ⟨v1, v2, rfl, o1, o2, g2⟩; obtain ⟨b1, c1, rfl, _⟩ := o1.row.opens rfl; obtain ⟨b2, c2, rfl, _⟩ := o2.row.opens hdl; have bx2 := bx.below g2; have bx3 := bx2.below (keep_alloc w2 (.cells #[.int .i64 (H2 : Int), .int .i64 (D2 : Int)] 45)); have cx0 := bx3.c0; have cx1 := bx3.c1)
    | fail)
  go_ret
  exact ⟨rfl, keep_trans (keep_trans (keep_trans g1 (keep_alloc _ _)) g2) (keep_alloc _ _)⟩
end Go.Proofs.YtogiballdmgcpaaGreatDoor

/- Leaves that sign once: both sides of Public, Sign, Candidate. -/
namespace Go.Proofs.YtogiballdmgcpaaGreatDoor
open Go.RowKit
set_option linter.unusedVariables false
set_option linter.unusedSimpArgs false

theorem num4_is (p q r s : Nat) (hp : p < 256) (hq : q < 256) (hr : r < 256) (hs : s < 256) : numL [p, q, r, s] = p * 16777216 + q * 65536 + r * 256 + s := by
  simp [numL]
  omega
theorem be4_is {c : Nat} (hc : c < 256) {l : List Nat} (hl : l.length = 4) (hu : Under 256 l) : l = be4 c ↔ numL l = c := by
  have hb : numL (be4 c) = c := num_be4 c (by omega)
  have hl2 := be4_len c
  have hu2 := be4_under c
  generalize be4 c = m at *
  match l, hl, m, hl2 with
  | [p, q, r, s], _, [p', q', r', s'], _ =>
    have e1 := num4_is p q r s (hu p (by simp)) (hu q (by simp)) (hu r (by simp)) (hu s (by simp))
    have e2 := num4_is p' q' r' s' (hu2 p' (by simp)) (hu2 q' (by simp)) (hu2 r' (by simp)) (hu2 s' (by simp))
    have b1 := hu p (by simp)
    have b2 := hu q (by simp)
    have b3 := hu r (by simp)
    have b4 := hu s (by simp)
    have c1 := hu2 p' (by simp)
    have c2 := hu2 q' (by simp)
    have c3 := hu2 r' (by simp)
    have c4 := hu2 s' (by simp)
    rw [e1]
    rw [e2] at hb
    simp only [List.cons.injEq, and_true]
    omega
section
variable {w : World} {id seed text sig : List Nat} {ia sa ta ga : Option Addr} {il ic sl sc tl tc gl gc : Nat}
end
end Go.Proofs.YtogiballdmgcpaaGreatDoor
