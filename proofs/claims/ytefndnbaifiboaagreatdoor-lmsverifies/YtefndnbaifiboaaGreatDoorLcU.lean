/- Leaves that sign once: both sides of Public, Sign, Candidate. -/
import Derived.Test.YtefndnbaifiboaaGreatDoorLcC
import Derived.Test.YtefndnbaifiboaaGreatDoorLsH
import Derived.Test.YtefndnbaifiboaaGreatDoorLmK
namespace Go.Proofs.YtefndnbaifiboaaGreatDoor
open Go.RowKit
set_option linter.unusedVariables false
set_option linter.unusedSimpArgs false

def TellsL (y : World) (X : List Nat) (c : Int) (e : Ending) (y' : World) : Prop := ∃ v, e = .returned (.tuple #[v, .int .i64 c]) ∧ Row .u8 256 y' v X ∧ Tidy v ∧ New y.heap.size v ∧ Below y.heap.size y y'
theorem tellsL_own {y y' : World} {X : List Nat} {c : Int} {e : Ending} (h : ∃ v, e = .returned (.tuple #[v, .int .i64 c]) ∧ Own 5 .u8 256 y' y.heap.size v X ∧ Below y.heap.size y y') : TellsL y X c e y' := by
  obtain ⟨v, h1, h2, h3⟩ := h
  exact ⟨v, h1, h2.row, h2.tidy, h2.new, h3⟩
theorem tellsL_new {y y' : World} {X : List Nat} {c : Int} {e : Ending} (hl : 0 < X.length) (h : ∃ v, e = .returned (.tuple #[v, .int .i64 c]) ∧ Row .u8 256 y' v X ∧ New y.heap.size v ∧ Below y.heap.size y y') : TellsL y X c e y' := by
  obtain ⟨v, h1, h2, h3, h4⟩ := h
  exact ⟨v, h1, h2, new_ntidy h2 hl, h3, h4⟩
theorem tellsL_nil {y y' : World} {c : Int} {e : Ending} (h : e = .returned (.tuple #[.slice none 0 0, .int .i64 c]) ∧ Below y.heap.size y y') : TellsL y [] c e y' := ⟨_, h.1, Row.nil _ _ _, (fun n c e => by cases e; exact ⟨rfl, rfl⟩), (fun q hq => by simp [Value.ownBlock] at hq), h.2⟩
theorem tellsL_nilw {y y' : World} {c : Int} {e : Ending} (h : e = .returned (.tuple #[.slice none 0 0, .int .i64 c]) ∧ y' = y) : TellsL y [] c e y' := tellsL_nil ⟨h.1, by rw [h.2]; exact Below.refl _ _⟩
theorem num4_is (p q r s : Nat) (hp : p < 256) (hq : q < 256) (hr : r < 256) (hs : s < 256) : numL [p, q, r, s] = p * 16777216 + q * 65536 + r * 256 + s := by
  simp [numL]
  omega
theorem be4_is {c : Nat} (hc : c < 256) {l : List Nat} (hl : l.length = 4) (hu : Under 256 l) : l = be4 c ↔ numL l = c := by
  have hb : numL (be4 c) = c := num_be4 c (by omega)
  have hl2 := be4_len c
  have hu2 := be4_under c
  generalize be4 c = m at *
  match l, hl, m, hl2 with
  | [p, q, r, s], _, [p', q', r', s'], _ =>
    have e1 := num4_is p q r s (hu p (by simp)) (hu q (by simp)) (hu r (by simp)) (hu s (by simp))
    have e2 := num4_is p' q' r' s' (hu2 p' (by simp)) (hu2 q' (by simp)) (hu2 r' (by simp)) (hu2 s' (by simp))
    have b1 := hu p (by simp)
    have b2 := hu q (by simp)
    have b3 := hu r (by simp)
    have b4 := hu s (by simp)
    have c1 := hu2 p' (by simp)
    have c2 := hu2 q' (by simp)
    have c3 := hu2 r' (by simp)
    have c4 := hu2 s' (by simp)
    rw [e1]
    rw [e2] at hb
    simp only [List.cons.injEq, and_true]
    omega
section
variable {w : World} {id seed text sig : List Nat} {ia sa ta ga : Option Addr} {il ic sl sc tl tc gl gc : Nat}
theorem both_pub (x : Int) (hx : ¬ x = 8) (q : Nat) (hq : q < 4294967296) (hT : Roots w) (ri : Row .u8 256 w (.slice ia il ic) id) (ti : Tidy (.slice ia il ic)) (rs : Row .u8 256 w (.slice sa sl sc) seed) (ts : Tidy (.slice sa sl sc)) :
    ∃ (c : Int) (X : List Nat), (∀ y, Below w.heap.size w y → Calls Tryz.prog 85 #[.int .i64 x, .slice ia il ic, .int .u32 (q : Int), .slice sa sl sc] y (TellsL y X c)) ∧ (∀ y, Below w.heap.size w y → Calls Tryz.prog 59 #[.int .i64 x, .slice ia il ic, .int .u32 (q : Int), .slice sa sl sc] y (TellsL y X c)) := by
  have hil : id.length = il := by obtain ⟨a, c, e, _⟩ := ri; simp only [Value.slice.injEq] at e; exact e.2.1.symm
  have hsl : seed.length = sl := by obtain ⟨a, c, e, _⟩ := rs; simp only [Value.slice.injEq] at e; exact e.2.1.symm
  rcases kd_or x with h | ⟨k, n, m, s, c, rfl, h⟩
  · have hw := wrg_no h id.length seed.length
    exact ⟨9, [], fun y hb => (cpub_no x q ia sa il ic sl sc y h).mono fun e y' h => tellsL_nil h, fun y hb => (rpub_no x id seed q _ _ y (ri.below hb) (rs.below hb) (by rw [hw]; decide)).mono fun e y' h => by rw [hw] at h; exact tellsL_nilw h⟩
  · have hw := wrg_kd h id.length seed.length
    by_cases hl : id.length = 16 ∧ seed.length = 32
    · have hpl : 0 < (pubH shaL (preL id q) (2 ^ k - 1) (n + m) seed).length := by unfold pubH keyH; rw [shaL_len]; decide
      refine ⟨0, pubH shaL (preL id q) (2 ^ k - 1) (n + m) seed, fun y hb => (cpub_ok h rfl q id seed _ _ y (hT.below hb) (ri.below hb) ti (rs.below hb) ts hl.1 hl.2 hq).mono fun e y' h => tellsL_own h, fun y hb => ?_⟩
      cases h
      · exact (rpub_1 id seed q _ _ y (ri.below hb) ti (rs.below hb) ts hq hl.1 hl.2).mono fun e y' h => tellsL_new hpl h
      · exact (rpub_2 id seed q _ _ y (ri.below hb) ti (rs.below hb) ts hq hl.1 hl.2).mono fun e y' h => tellsL_new hpl h
      · exact (rpub_4 id seed q _ _ y (ri.below hb) ti (rs.below hb) ts hq hl.1 hl.2).mono fun e y' h => tellsL_new hpl h
      · exact absurd rfl hx
    · rw [if_neg hl] at hw
      exact ⟨14, [], fun y hb => (cpub_size h rfl q id _ sa sl sc y (ri.below hb) ti hq (by rw [← hsl]; exact hl)).mono fun e y' h => tellsL_nil h, fun y hb => (rpub_no _ id seed q _ _ y (ri.below hb) (rs.below hb) (by rw [hw]; decide)).mono fun e y' h => by rw [hw] at h; exact tellsL_nilw h⟩
theorem both_sgn (x : Int) (hx : ¬ x = 8) (q : Nat) (hq : q < 4294967296) (hT : Roots w) (ri : Row .u8 256 w (.slice ia il ic) id) (ti : Tidy (.slice ia il ic)) (rs : Row .u8 256 w (.slice sa sl sc) seed) (ts : Tidy (.slice sa sl sc)) (rt : Row .u8 256 w (.slice ta tl tc) text) (tt : Tidy (.slice ta tl tc)) (htl : text.length ≤ 300) :
    ∃ (c : Int) (X : List Nat), (∀ y, Below w.heap.size w y → Calls Tryz.prog 30 #[.int .i64 x, .slice ia il ic, .int .u32 (q : Int), .slice sa sl sc, .slice ta tl tc] y (TellsL y X c)) ∧ (∀ y, Below w.heap.size w y → Calls Tryz.prog 34 #[.int .i64 x, .slice ia il ic, .int .u32 (q : Int), .slice sa sl sc, .slice ta tl tc] y (TellsL y X c)) := by
  have hil : id.length = il := by obtain ⟨a, c, e, _⟩ := ri; simp only [Value.slice.injEq] at e; exact e.2.1.symm
  have hsl : seed.length = sl := by obtain ⟨a, c, e, _⟩ := rs; simp only [Value.slice.injEq] at e; exact e.2.1.symm
  rcases kd_or x with h | ⟨k, n, m, s, c, rfl, h⟩
  · have hw := wrg_no h id.length seed.length
    exact ⟨9, [], fun y hb => (csgn_no x q ia sa ta il ic sl sc tl tc y h).mono fun e y' h => tellsL_nil h, fun y hb => (rsgn_no x id seed q _ _ _ y (ri.below hb) (rs.below hb) (by rw [hw]; decide) ta tl tc rfl).mono fun e y' h => by rw [hw] at h; exact tellsL_nilw h⟩
  · have hw := wrg_kd h id.length seed.length
    by_cases hl : id.length = 16 ∧ seed.length = 32
    · have hpl : 0 < (sgnH shaL (preL id q) c (digsL k n m s (digH shaL (preL id q) (lmCn shaL (preL id q) seed) text)) seed).length := by rw [sgnH_len shaL_len]; omega
      refine ⟨0, _, fun y hb => (csgn_ok h rfl q id seed text _ _ _ y (hT.below hb) (ri.below hb) ti (rs.below hb) ts (rt.below hb) tt hl.1 hl.2 (by omega) hq).mono fun e y' h => tellsL_own h, fun y hb => ?_⟩
      cases h
      · exact (rsgn_1 id seed text q _ _ _ y (ri.below hb) ti (rs.below hb) ts (rt.below hb) tt hq hl.1 hl.2 (by omega)).mono fun e y' h => tellsL_new hpl h
      · exact (rsgn_2 id seed text q _ _ _ y (ri.below hb) ti (rs.below hb) ts (rt.below hb) tt hq hl.1 hl.2 (by omega)).mono fun e y' h => tellsL_new hpl h
      · exact (rsgn_4 id seed text q _ _ _ y (ri.below hb) ti (rs.below hb) ts (rt.below hb) tt hq hl.1 hl.2 (by omega)).mono fun e y' h => tellsL_new hpl h
      · exact absurd rfl hx
    · rw [if_neg hl] at hw
      exact ⟨14, [], fun y hb => (csgn_size h rfl q id _ sa ta sl sc tl tc y (ri.below hb) ti hq (by rw [← hsl]; exact hl)).mono fun e y' h => tellsL_nil h, fun y hb => (rsgn_no _ id seed q _ _ _ y (ri.below hb) (rs.below hb) (by rw [hw]; decide) ta tl tc rfl).mono fun e y' h => by rw [hw] at h; exact tellsL_nilw h⟩
theorem both_cnd (x : Int) (hx : ¬ x = 8) (q : Nat) (hq : q < 4294967296) (hT : Roots w) (ri : Row .u8 256 w (.slice ia il ic) id) (ti : Tidy (.slice ia il ic)) (rt : Row .u8 256 w (.slice ta tl tc) text) (tt : Tidy (.slice ta tl tc)) (rg : Row .u8 256 w (.slice ga gl gc) sig) (tg : Tidy (.slice ga gl gc)) (htl : text.length ≤ 300) :
    ∃ (c : Int) (X : List Nat), (∀ y, Below w.heap.size w y → Calls Tryz.prog 46 #[.int .i64 x, .slice ia il ic, .int .u32 (q : Int), .slice ta tl tc, .slice ga gl gc] y (TellsL y X c)) ∧ (∀ y, Below w.heap.size w y → Calls Tryz.prog 50 #[.int .i64 x, .slice ia il ic, .int .u32 (q : Int), .slice ta tl tc, .slice ga gl gc] y (TellsL y X c)) := by
  have hil : id.length = il := by obtain ⟨a, c, e, _⟩ := ri; simp only [Value.slice.injEq] at e; exact e.2.1.symm
  have hgl : sig.length = gl := by obtain ⟨a, c, e, _⟩ := rg; simp only [Value.slice.injEq] at e; exact e.2.1.symm
  rcases kd_or x with h | ⟨k, n, m, s, c, rfl, h⟩
  · exact ⟨9, [], fun y hb => (ccnd_no x q ia ta ga il ic tl tc gl gc y h).mono fun e y' h => tellsL_nil h, fun y hb => (rcnd_no x q ia ta ga il ic tl tc gl gc y h).mono fun e y' h => tellsL_nilw h⟩
  by_cases hl : id.length = 16
  · obtain rfl : il = 16 := by omega
    by_cases hf : sig.length = 36 + 32 * (n + m)
    · have h4l : (sig.take 4).length = 4 := by rw [List.length_take]; omega
      have h4u : Under 256 (sig.take 4) := fun x hx => rg.under x (List.mem_of_mem_take hx)
      have hcc : c < 256 := by have := h.pos; omega
      have hiff := be4_is hcc h4l h4u
      by_cases hc : sig.take 4 = be4 c
      · have hn := hiff.1 hc
        have hpl : 0 < (keyH shaL (preL id q) (endsC shaL (preL id q) (2 ^ k - 1) (digsL k n m s (digH shaL (preL id q) ((sig.drop 4).take 32) text)) sig)).length := by unfold keyH; rw [shaL_len]; decide
        refine ⟨0, _, fun y hb => (ccnd_ok h rfl q id text sig _ _ _ y (hT.below hb) (ri.below hb) ti (rt.below hb) tt (rg.below hb) hl (by omega) hq hf hc).mono fun e y' h => tellsL_own h, fun y hb => ?_⟩
        cases h
        · exact (rcnd_1 id text sig q _ _ _ y (ri.below hb) ti (rt.below hb) tt (rg.below hb) hq hl (by omega) hf hn).mono fun e y' h => tellsL_new hpl h
        · exact (rcnd_2 id text sig q _ _ _ y (ri.below hb) ti (rt.below hb) tt (rg.below hb) hq hl (by omega) hf hn).mono fun e y' h => tellsL_new hpl h
        · exact (rcnd_4 id text sig q _ _ _ y (ri.below hb) ti (rt.below hb) tt (rg.below hb) hq hl (by omega) hf hn).mono fun e y' h => tellsL_new hpl h
        · exact absurd rfl hx
      · exact ⟨1, [], fun y hb => (ccnd_code h rfl q id sig _ _ ta tl tc y (ri.below hb) ti (rg.below hb) hl hq hf hc).mono fun e y' h => tellsL_nil h, fun y hb => (rcnd_code sig q ia ta ic tl tc _ y h (rg.below hb) hf (fun e => hc (hiff.2 e))).mono fun e y' h => tellsL_nilw h⟩
    · exact ⟨1, [], fun y hb => (ccnd_form h rfl q id _ ta ga tl tc gl gc y (ri.below hb) ti hl hq (by omega)).mono fun e y' h => tellsL_nil h, fun y hb => (rcnd_form q ia ta ga ic tl tc gl gc y h (by omega)).mono fun e y' h => tellsL_nilw h⟩
  · exact ⟨14, [], fun y hb => (ccnd_size h rfl q ia ta ga il ic tl tc gl gc y (by omega)).mono fun e y' h => tellsL_nil h, fun y hb => (rcnd_size q ia ta ga il ic tl tc gl gc y h (by omega)).mono fun e y' h => tellsL_nilw h⟩
end
end Go.Proofs.YtefndnbaifiboaaGreatDoor
