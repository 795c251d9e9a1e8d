/- Leaves that sign once: both sides of Digits and Size. -/
import Derived.Test.YtnjiilnkobhibaaLcE
import Derived.Test.YtnjiilnkobhibaaLcFrm
import Derived.Test.YtnjiilnkobhibaaRJoin
import Derived.Test.YtnjiilnkobhibaaFrameT
import Derived.ChangeKeysEq
namespace Go.Proofs.Ytnjiilnkobhibaa
open Go.RowKit
set_option linter.unusedVariables false
set_option linter.unusedSimpArgs false

def TellsD (y : World) (X : List Nat) (c : Int) (e : Ending) (y' : World) : Prop := ∃ v, e = .returned (.tuple #[v, .int .i64 c]) ∧ Row .u32 4294967296 y' v X ∧ Below y.heap.size y y'
theorem tellsD_own {y y' : World} {X : List Nat} {c : Int} {e : Ending} (h : ∃ v, e = .returned (.tuple #[v, .int .i64 c]) ∧ Own 36 .u32 4294967296 y' y.heap.size v X ∧ Below y.heap.size y y') : TellsD y X c e y' := by
  obtain ⟨v, h1, h2, h3⟩ := h
  exact ⟨v, h1, h2.row, h3⟩
theorem tellsD_nil {y y' : World} {c : Int} {e : Ending} (h : e = .returned (.tuple #[.slice none 0 0, .int .i64 c]) ∧ Below y.heap.size y y') : TellsD y [] c e y' := ⟨_, h.1, Row.nil _ _ _, h.2⟩
theorem tellsD_nilw {y y' : World} {c : Int} {e : Ending} (h : e = .returned (.tuple #[.slice none 0 0, .int .i64 c]) ∧ y' = y) : TellsD y [] c e y' := tellsD_nil ⟨h.1, by rw [h.2]; exact Below.refl _ _⟩
theorem both_dig {w : World} {d : List Nat} {da : Option Addr} {dl dc : Nat} (x : Int) (hd : Row .u8 256 w (.slice da dl dc) d) (td : Tidy (.slice da dl dc)) :
    ∃ (c : Int) (X : List Nat), (∀ y, Below w.heap.size w y → Calls Try.prog 7 #[.int .i64 x, .slice da dl dc] y (TellsD y X c)) ∧ (∀ y, Below w.heap.size w y → Calls Try.prog 8 #[.int .i64 x, .slice da dl dc] y (TellsD y X c)) := by
  have hdl : d.length = dl := by obtain ⟨a, c, e, _⟩ := hd; simp only [Value.slice.injEq] at e; exact e.2.1.symm
  rcases kd_or x with h | ⟨k, n, m, s, c, rfl, h⟩
  · exact ⟨9, [], fun y _ => (cdig_no x da dl dc y h).mono fun e y' h => tellsD_nil h, fun y hb => (rdigs_no x d _ y (hd.below hb) h).mono fun e y' h => tellsD_nilw h⟩
  · by_cases hl : d.length = 32
    · refine ⟨0, digsL k n m s d, fun y hb => (cdig_ok h rfl d _ y (hd.below hb) td hl).mono fun e y' h => tellsD_own h, fun y hb => ?_⟩
      cases h
      · exact (rdigs_1 d _ y (hd.below hb) td hl).mono fun e y' h => tellsD_own h
      · exact (rdigs_2 d _ y (hd.below hb) td hl).mono fun e y' h => tellsD_own h
      · exact (rdigs_4 d _ y (hd.below hb) td hl).mono fun e y' h => tellsD_own h
      · exact (rdigs_8 d _ y (hd.below hb) td hl).mono fun e y' h => tellsD_own h
    · exact ⟨14, [], fun y _ => (cdig_size h rfl da dl dc y (by omega)).mono fun e y' h => tellsD_nil h, fun y hb => (rdigs_size d _ y (hd.below hb) h hl).mono fun e y' h => tellsD_nilw h⟩
theorem both_size (x : Int) : ∃ z : Int, (∀ y, Calls Try.prog 10 #[.int .i64 x] y fun e y' => e = .returned (.int .i64 z) ∧ Below y.heap.size y y') ∧ (∀ y, Calls Try.prog 11 #[.int .i64 x] y fun e y' => e = .returned (.int .i64 z) ∧ y' = y) := by
  rcases kd_or x with h | ⟨k, n, m, s, c, rfl, h⟩
  · exact ⟨0, fun y => csize_no x y h, fun y => rsize_no x y h⟩
  · exact ⟨_, fun y => csize_ok h rfl y, fun y => rsize_ok y h⟩
end Go.Proofs.Ytnjiilnkobhibaa

/- Whether two sums that go on are the same: the code's, and the document's. -/
namespace Go.Proofs.Ytnjiilnkobhibaa
open Go.RowKit
set_option linter.unusedVariables false
set_option linter.unusedSimpArgs false

def hsame (ka : Int) (wa la : List Nat) (sa : Nat) (kb : Int) (wb lb : List Nat) (sb : Nat) : Bool := decide (ka = kb ∧ wa = wb ∧ sa = sb ∧ la = lb)
theorem eq8 {a b : List Nat} (ha : a.length = 8) (hb : b.length = 8) : a = b ↔ ∀ j, j < 8 → el a j = el b j := by
  constructor
  · rintro rfl j _; rfl
  · intro h; exact el_ext (by omega) (fun i hi => h i (by omega))
theorem infoU : (Try.prog.info? 39).map (fun i => (i.zero, i.size, i.bytes)) = some (some (.int .u64 0), 1, 8) := by kernel_rfl
theorem run_items_arr {P : Program} (w : World) (d : Nat) {e : TypeId} {k : IntKind} (he : P.underlying e = some (.int k)) (xs ys : List Nat) : ∀ is : List Nat, (∀ i ∈ is, i < xs.length ∧ i < ys.length) →
    (Op.eqItems (d + 1) e 1 (arr k xs) (arr k ys) is).run P w = .ok (is.all (fun i => el xs i == el ys i)) w
  | [], _ => by simp [Op.eqItems]
  | i :: is, h => by
    obtain ⟨h1, h2⟩ := h i (by simp)
    have hag : (isAgg e).run P w = .ok false w := by unfold isAgg; rw [Sem.run_bind, run_underlying he w]; rfl
    have px : (part e (arr k xs) (i * 1)).run P w = .ok (.int k (el xs i)) w := by simp [part, hag, arr_get k xs i h1]
    have py : (part e (arr k ys) (i * 1)).run P w = .ok (.int k (el ys i)) w := by simp [part, hag, arr_get k ys i h2]
    have pe := run_equalIn_int (P := P) w d e k k (el xs i) (el ys i) he
    have ih := run_items_arr w d he xs ys is (fun j hj => h j (by simp [hj]))
    have hc : ((el xs i : Int) == (el ys i : Int)) = (el xs i == el ys i) := by rw [Bool.eq_iff_iff]; simp; omega
    rw [hc] at pe
    simp only [Op.eqItems, Sem.run_bind, px, py, pe, Result.andThen_ok, List.all_cons]
    cases hb : (el xs i == el ys i)
    · simp
    · simpa using ih
theorem run_equalIn_arr {P : Program} (w : World) (t e : TypeId) (k : IntKind) (i : TypeInfo) (hu : P.underlying t = some (.array 8 e)) (hi : P.info? e = some i) (hc : P.cellsOf e = 1) (he : P.underlying e = some (.int k)) (xs ys : List Nat) (hx : xs.length = 8) (hy : ys.length = 8) :
    (Op.equalIn 10000 t (.agg (arr k xs)) (.agg (arr k ys))).run P w = .ok (decide (xs = ys)) w := by
  rw [run_equalIn_array w 9999 (arr k xs) (arr k ys) hu hi, hc, run_items_arr w 9998 he xs ys (List.range 8) (fun i hi => by have := List.mem_range.1 hi; omega)]
  congr 1
  rw [Bool.eq_iff_iff, List.all_eq_true, decide_eq_true_iff, eq8 hx hy]
  simp only [List.mem_range, beq_iff_eq]
end Go.Proofs.Ytnjiilnkobhibaa
