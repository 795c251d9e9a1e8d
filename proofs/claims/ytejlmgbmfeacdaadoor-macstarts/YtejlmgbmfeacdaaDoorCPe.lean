/- Contract of keccak.Permute. -/
import Derived.Test.YtejlmgbmfeacdaaDoorCRg4
import Derived.Deep.MidRow
import Derived.Test.YtejlmgbmfeacdaaDoorGEn32
import Derived.Test.YtejlmgbmfeacdaaDoorPlan
namespace Go.Proofs.YtejlmgbmfeacdaaDoor
open Go.RowKit
set_option linter.unusedVariables false
set_option linter.unusedSimpArgs false

/-- the table of constants, as the row lists it -/
def Csts (w : World) : Prop := w.rangeAt 3 0 (vals .u64 csts)
theorem range_kept {w w' : World} {b o : Nat} {cs : List Value} (h : w.rangeAt b o cs) (hb : Below w.heap.size w w') : w'.rangeAt b o cs := fun j v hv => keep_cell (h j v hv) hb
theorem Csts.below {w w' : World} (h : Csts w) (hb : Below w.heap.size w w') : Csts w' := range_kept h hb
theorem rds_next (a : List Nat) (r : Nat) (h : W25 a) : rdsK a (r + 1) = (roundK (rdsK a r)).set 0 (el (roundK (rdsK a r)) 0 ^^^ el csts r) := rndK_is _ _ (rdsK_w h r).1
theorem roundK_w {a : List Nat} (h : W25 a) : W25 (roundK a) := by
  rw [← roundK_is a h.1]
  exact chiN_w h (moveK_w (spreadK_w h)) 25
/-- where the loop of rounds stands -/
def CPer (w : World) (a : List Nat) (i : Value) (wr : World) : Prop := ∃ r : Nat, r ≤ 24 ∧ i = .int .i64 r ∧ Lies .u64 53 wr w.heap.size (rdsK a r) ∧ Lies .u64 53 wr (w.heap.size + 1) (zs 25) ∧ Below w.heap.size w wr
set_option maxHeartbeats 4000000 in
set_option maxRecDepth 100000 in
theorem perm_any (a : List Nat) (w : World) (hT : Csts w) (hw : W25 a) :
    Calls Tryd.prog 59 #[.agg (arr .u64 a)] w fun e w' => e = .returned (.agg (arr .u64 (perm a))) ∧ Below w.heap.size w w' := by
  have hz := zero25
  have hA0 : Lies .u64 53 ((w.alloc (.cells (arr .u64 a) 53)).alloc (.cells (arr .u64 (zs 25)) 53)) w.heap.size a := (Lies.new .u64 53 w a).alloc _
  have hR0 : Lies .u64 53 ((w.alloc (.cells (arr .u64 a) 53)).alloc (.cells (arr .u64 (zs 25)) 53)) (w.heap.size + 1) (zs 25) := by
    have := Lies.new .u64 53 (w.alloc (.cells (arr .u64 a) 53)) (zs 25)
    rw [World.size_alloc] at this
    exact this
  have hb0 := keep_trans (keep_alloc w (.cells (arr .u64 a) 53)) (keep_alloc _ (.cells (arr .u64 (zs 25)) 53))
  have hT0 : World.rangeAt ((w.alloc (.cells (arr .u64 a) 53)).alloc (.cells (arr .u64 (zs 25)) 53)) 3 0 (vals .u64 csts) := hT.below hb0
  have hcl : (vals .u64 csts).length = 24 := by rw [vals_length, csts_length]
  have hpm : perm a = rdsK a 24 := rfl
  have HPM := hide hpm
  clear hpm
  generalize perm a = PM at *
  go_enter Tryd.func59, Tryd.ntmps59
  go_wp2_with (first
    | (refine wpList_load_mid rfl 102 _ (by rfl) 3 0 (by rfl) (vals .u64 csts) (.array 24 37) hT0 (by kernel_rfl) rfl (by rw [hcl]; kernel_rfl) ?_)
    | fail)
  clear hz hT0 hcl
  generalize (w.alloc (.cells (arr .u64 a) 53)).alloc (.cells (arr .u64 (zs 25)) 53) = x1 at *
  go_loopw [6] (fun i wr => CPer w a i wr) (fun i _ => 24 - (intOf i).toNat)
  case atStart => exact ⟨0, Nat.zero_le _, rfl, hA0, hR0, hb0⟩
  case round =>
    clear hA0 hR0 hb0
    obtain ⟨r, hr, rfl, hA, hR, hb⟩ := hrel
    have hrw := rdsK_w hw r
    by_cases hlt : r < 24
    · have hix : ∀ w : World, (Instr.index 102 (.agg (vals .u64 csts).toArray) (.int .i64 (r : Int))).run Tryd.prog w = .ok (.int .u64 (el csts r)) w := fun w =>
        index_arr _ 37 24 .u64 csts (by kernel_rfl) (by kernel_rfl) (by kernel_rfl) csts_length r hlt w
      have hcu : el csts r < 18446744073709551616 := el_lt csts_under (by decide) r
      have hnx := rds_next a r hw
      have HNX := hide hnx
      clear hnx
      generalize el csts r = c at *
      generalize rdsK a r = A at *
      have hrd := fun w' => round_any A w' hrw
      have hrk := roundK_w hrw
      have hal := hrw.1
      have hrl := hrk.1
      have ir0 : (0 : Int) ≤ (r : Int) := Int.natCast_nonneg _
      have ir1 : (r : Int) < 24 := by omega
      generalize roundK A = B at *
      go_wp2_with (first
        | (refine wpList_load_row rfl 53 _ (by rfl) w.heap.size (by rfl) _ _ _ (.array 25 37) hA (by kernel_rfl) rfl (by rw [arr_size, hal]; kernel_rfl) ?_)
        | (go_at_call 71; refine (hrd _).mono ?_; rintro e w2 ⟨rfl, hb2⟩; have hA2 := hA.below hb2)
        | (refine wpList_store_row rfl 53 _ _ (by rfl) w.heap.size (arr .u64 B) (by rfl) (by rfl) _ _ hA2 (by rw [arr_size, hrl]; kernel_rfl) (by rw [arr_size, arr_size, hrl, hal]) (arr_one _ _) ?_; have hA3 : Lies .u64 53 (w2.setRow w.heap.size (arr .u64 B)) w.heap.size B := hA2.row; have hB3 : But w.heap.size w2 (w2.setRow w.heap.size (arr .u64 B)) := But.setRow (But.refl _ _) _; have c0 := hA3.cell (i := 0) (by omega); have f0 := hA3.frozen 0; have hv := xor_k (el B 0) c (hrk.el 0) hcu)
        | fail)
      have hst := hA3.set 0 (el B 0 ^^^ c)
      rw [← HNX.out] at hst
      have hB4 := hB3.setCell 0 (.int .u64 ((el B 0 ^^^ c : Nat) : Int))
      have hR4 := (hR.below hb2).but hB4 (by omega)
      have hb4 := (keep_trans hb hb2).trans (hB4.below (Nat.le_refl _) (keep_trans hb hb2).size)
      exact ⟨⟨r + 1, by omega, by go_num, hst, hR4, hb4⟩, by simp [intOf]; omega⟩
    · obtain rfl : r = 24 := by omega
      rw [← HPM.out] at hA hrw
      have hsl := hrw.1
      have hOf : Lies .u64 53 (wr.setRow (w.heap.size + 1) (arr .u64 PM)) (w.heap.size + 1) PM := hR.row
      have hbf := hb.trans ((But.setRow (But.refl (w.heap.size + 1) _) (arr .u64 PM)).below (by omega) hb.size)
      go_wp2_with (first
        | (refine wpList_load_row rfl 53 _ (by rfl) w.heap.size (by rfl) _ _ _ (.array 25 37) hA (by kernel_rfl) rfl (by rw [arr_size, hsl]; kernel_rfl) ?_)
        | (refine wpList_store_row rfl 53 _ _ (by rfl) (w.heap.size + 1) (arr .u64 PM) (by rfl) (by rfl) _ _ hR (by rw [arr_size, hsl]; kernel_rfl) (by rw [arr_size, arr_size, hsl, zs_len]) (arr_one _ _) ?_)
        | fail)
      refine bodyPost_ret (v := .agg (arr .u64 PM)) ?_ rfl ⟨rfl, hbf⟩
      exact results_cell_row Tryd.results59 _ _ (w.heap.size + 1) _ _ _ (.array 25 37) (by rfl) hOf (by kernel_rfl) rfl (by rw [arr_size, hsl]; kernel_rfl)
end Go.Proofs.YtejlmgbmfeacdaaDoor

/- Plain facts: bytes in and out of a sponge, a block's part at once. No walk. -/
namespace Go.Proofs.YtejlmgbmfeacdaaDoor
set_option linter.unusedVariables false
set_option linter.unusedSimpArgs false

/-- bytes into the words, from a place on -/
def xorL (a : List Nat) (p : Nat) : List Nat → List Nat
  | [] => a
  | c :: l => xorL (putK a p c) (p + 1) l
theorem xorL_w : ∀ (l : List Nat) {a : List Nat} (p : Nat), W25 a → W25 (xorL a p l)
  | [], _, _, h => h
  | c :: l, _, p, h => xorL_w l (p + 1) (putK_w h p c)
theorem xorL_snoc : ∀ (l : List Nat) (a : List Nat) (p c : Nat), xorL a p (l ++ [c]) = putK (xorL a p l) (p + l.length) c
  | [], a, p, c => rfl
  | d :: l, a, p, c => by
    show xorL (putK a p d) (p + 1) (l ++ [c]) = putK (xorL (putK a p d) (p + 1) l) (p + (l.length + 1)) c
    rw [xorL_snoc l, show p + (l.length + 1) = p + 1 + l.length by omega]
theorem take_elN (b : List Nat) (n : Nat) (h : n < b.length) : b.take (n + 1) = b.take n ++ [el b n] := by
  rw [List.take_add_one, List.getElem?_eq_getElem h]
  congr 1
  simp [el, List.getElem?_eq_getElem h]
theorem xorL_next (a : List Nat) (p : Nat) (l : List Nat) (i : Nat) (h : i < l.length) : xorL a p (l.take (i + 1)) = putK (xorL a p (l.take i)) (p + i) (el l i) := by
  rw [take_elN l i h, xorL_snoc, List.length_take, Nat.min_eq_left (Nat.le_of_lt h)]
/-- a part of a block -/
theorem absK_part (rate : Nat) : ∀ (l : List Nat) (ws : List Nat) (p : Nat), p + l.length < rate → absK rate (ws, p) l = (xorL ws p l, p + l.length)
  | [], ws, p, _ => rfl
  | c :: l, ws, p, h => by
    have h' : p + (l.length + 1) < rate := h
    show absK rate (inK rate (ws, p) c) l = (xorL (putK ws p c) (p + 1) l, p + (l.length + 1))
    have e : inK rate (ws, p) c = (putK ws p c, p + 1) := by unfold inK; rw [if_neg (by show ¬ p + 1 = rate; omega)]
    rw [e, absK_part rate l _ _ (by omega), show p + 1 + l.length = p + (l.length + 1) by omega]
/-- all that is left of it -/
theorem absK_full (rate : Nat) (l : List Nat) (ws : List Nat) (p : Nat) (hl : 0 < l.length) (h : p + l.length = rate) : absK rate (ws, p) l = (perm (xorL ws p l), 0) := by
  obtain ⟨l', c, rfl⟩ : ∃ l' c, l = l' ++ [c] := ⟨l.dropLast, l.getLast (by intro e; rw [e] at hl; cases hl), (List.dropLast_concat_getLast _).symm⟩
  rw [List.length_append] at h
  have h' : p + (l'.length + 1) = rate := h
  rw [absK_snoc, absK_part rate l' ws p (by omega), xorL_snoc]
  unfold inK
  rw [if_pos (by show p + l'.length + 1 = rate; omega)]
/-- out of a part of a block -/
theorem sqz_run {rate : Nat} (s : List Nat × Nat) : ∀ i, (fresh rate s).2 + i < rate → fresh rate (sqzS rate s i) = ((fresh rate s).1, (fresh rate s).2 + i)
  | 0, _ => rfl
  | i + 1, h => by
    have h' : (fresh rate s).2 + (i + 1) < rate := h
    have e := sqz_run (rate := rate) s i (by omega)
    have e2 : sqzS rate s (i + 1) = ((fresh rate s).1, (fresh rate s).2 + i + 1) := by
      show ((fresh rate (sqzS rate s i)).1, (fresh rate (sqzS rate s i)).2 + 1) = _
      rw [e]
    rw [e2]
    unfold fresh
    rw [if_neg]
    · rfl
    · show ¬ (fresh rate s).2 + i + 1 = rate; omega
theorem sqzS_run {rate : Nat} (s : List Nat × Nat) (n : Nat) (hn : 0 < n) (h : (fresh rate s).2 + n ≤ rate) : sqzS rate s n = ((fresh rate s).1, (fresh rate s).2 + n) := by
  obtain ⟨i, rfl⟩ : ∃ i, n = i + 1 := ⟨n - 1, by omega⟩
  show ((fresh rate (sqzS rate s i)).1, (fresh rate (sqzS rate s i)).2 + 1) = _
  rw [sqz_run s i (by omega)]
  rfl
end Go.Proofs.YtejlmgbmfeacdaaDoor

/- A drawn region step by step: what has come up is a number; an operation is taken first, or each that may come up is run. -/
namespace Go.Proofs.YtejlmgbmfeacdaaDoor
open Go.RowKit
set_option linter.unusedVariables false
set_option linter.unusedSimpArgs false

def lsd (n m : Nat) : Array Bool := Array.ofFn (n := n) fun i => m.testBit i.val
theorem lsd_is {n m : Nat} (h : m < 2 ^ n) : Lsd n m (lsd n m) := ⟨by simp [lsd], fun j hj => by simp [lsd], h⟩
theorem lsd_set {n m i : Nat} (hi : i < n) : (lsd n m).setIfInBounds i true = lsd n (m ||| 2 ^ i) := by
  apply Array.ext
  · simp [lsd]
  · intro j h1 h2
    have hj : j < (lsd n m).size := by simpa using h1
    rw [Array.getElem_setIfInBounds hj]
    simp only [lsd, Array.getElem_ofFn, Nat.testBit_or, Nat.testBit_two_pow]
    by_cases hij : i = j <;> simp [hij]
theorem lsd_zero (n : Nat) : Array.replicate n false = lsd n 0 := by
  apply Array.ext
  · simp [lsd]
  · intro j h1 h2; simp [lsd]
/-- a region's operations, as numbers -/
structure Reg (ops : Array Oper) (lt : List Lt) : Prop where
  lt : ltOf ops = lt
  sel : Region.noSelect ops = true
def takeL (lt : List Lt) (i m : Nat) : Bool :=
  decide (m < 2 ^ lt.length) && match lt[i]? with
    | none => false
    | some x => rdL x i m && lt.zipIdx.all (fun y => y.2 == i || m.testBit y.2 || y.1.1.testBit i || apL x y.1)
def someL (lt : List Lt) (rs : List Nat) (m : Nat) : Bool :=
  decide (m < 2 ^ lt.length) && !rs.isEmpty && lt.zipIdx.all (fun y => rs.contains y.2 == rdL y.1 y.2 m) && rs.all (fun i => decide (i < lt.length))
section
variable {P : Program} {ops : Array Oper} {lt : List Lt} {Q : Exit → Act → World → Prop} {S : World → Prop}
theorem Reg.len (R : Reg ops lt) : lt.length = ops.size := by rw [← R.lt]; simp [ltOf]
/-- what is left of a region, where the operations of m have come up -/
def At (P : Program) (ops : Array Oper) (Q : Exit → Act → World → Prop) (S : World → Prop) (fuel m : Nat) (a : Act) (w : World) : Prop := wpAnyH P .any ops (NoPanic Q) S fuel (lsd ops.size m) a w
theorem at_begin {id n : Nat} {a : Act} {w : World} (S : World → Prop) (hm : P.follows .mixedOrders = true) (hn : ops.size = n) (h : At P ops Q S n 0 a w.drew) : (Code.region id ops true).wp P Q a w := by
  refine wp_region_noPanic (wp_region_held (S := S) hm ?_)
  subst hn
  unfold At at h
  rw [← lsd_zero] at h
  exact h
theorem at_done (R : Reg ops lt) {m fuel : Nat} {a : Act} {w : World} (hm : (m == 2 ^ lt.length - 1) = true) (h : Q .normal a w) : At P ops Q S fuel m a w := by
  have hm' : m = 2 ^ ops.size - 1 := by rw [← R.len]; simpa using hm
  have hL := lsd_is (n := ops.size) (m := m) (by rw [hm']; have := Nat.two_pow_pos ops.size; omega)
  refine wpAnyH_done ?_ (NoPanic.normal h) _
  rw [List.eq_nil_iff_forall_not_mem]
  intro j hj
  obtain ⟨h1, o, ho, _⟩ := mem_ready.1 hj
  have hj' : j < ops.size := (Array.getElem?_eq_some_iff.1 ho).1
  rw [hL.tru hj', hm', Nat.testBit_two_pow_sub_one] at h1
  simp [hj'] at h1
theorem at_take (R : Reg ops lt) {m m' i fuel : Nat} {a : Act} {w : World} {o : Oper} {v : Value} (hi : ops[i]? = some o) (hc : takeL lt i m = true) (he : m ||| 2 ^ i = m') (hy : YieldsIf P ops S o v a) (hS : S w)
    (h : At P ops Q S fuel m' (a.put o.dst v) w) : At P ops Q S (fuel + 1) m a w := by
  unfold takeL at hc
  rw [Bool.and_eq_true, decide_eq_true_iff, R.len] at hc
  obtain ⟨hlt, hc⟩ := hc
  rw [at_lt R.lt hi] at hc
  simp only [Bool.and_eq_true] at hc
  have hL := lsd_is hlt
  have hio : i < ops.size := (Array.getElem?_eq_some_iff.1 hi).1
  have hrd := (ready_of hL hi).2 hc.1
  refine wpAnyH_first hi (Region.noSelect_spec R.sel) (fun c a w hh => hh) _ _ a w ?_ hrd hy hS ?_
  · intro j oj hj hne hun hno
    have hj' : j < ops.size := (Array.getElem?_eq_some_iff.1 hj).1
    have hmem : ((aftM oj, oj.dst, oj.looksAt ops), j) ∈ lt.zipIdx := List.mem_zipIdx_iff_getElem?.2 (at_lt R.lt hj)
    have := List.all_eq_true.1 hc.2 _ hmem
    rw [hL.tru hj'] at hun
    simp only [hun, Bool.or_false] at this
    rw [show (j == i) = false from by rw [beq_eq_false_iff_ne]; exact hne, Bool.false_or, Bool.or_eq_true] at this
    rcases this with h1 | h1
    · obtain ⟨e, he, hb, hk⟩ := (aftM_bit oj i).1 h1
      exact absurd hk (hno e he hb)
    · exact h1
  · unfold At at h
    rw [lsd_set hio, he]
    exact h
theorem at_some (R : Reg ops lt) {m fuel : Nat} {a : Act} {w : World} (rs : List Nat) (hc : someL lt rs m = true)
    (h : ∀ i ∈ rs, wpOp P ops (NoPanic Q) i (fun a' w' => S w' ∧ At P ops Q S fuel (m ||| 2 ^ i) a' w') a w) : At P ops Q S (fuel + 1) m a w := by
  unfold someL at hc
  simp only [Bool.and_eq_true, decide_eq_true_iff, Bool.not_eq_true'] at hc
  obtain ⟨⟨⟨hlt, hne⟩, hall⟩, hin⟩ := hc
  rw [R.len] at hlt
  have hL := lsd_is hlt
  have hmem : ∀ j oj, ops[j]? = some oj → (j ∈ Region.ready .any ops (lsd ops.size m) ↔ j ∈ rs) := fun j oj hj => by
    rw [ready_of hL hj]
    have hz : ((aftM oj, oj.dst, oj.looksAt ops), j) ∈ lt.zipIdx := List.mem_zipIdx_iff_getElem?.2 (at_lt R.lt hj)
    have := List.all_eq_true.1 hall _ hz
    rw [beq_iff_eq] at this
    rw [← this]
    simp
  refine ⟨fun h0 => ?_, fun j hj => ?_⟩
  · cases rs with
    | nil => simp at hne
    | cons i r =>
      have hi : i < ops.size := by rw [← R.len]; simpa using List.all_eq_true.1 hin i (by simp)
      have := (hmem i ops[i] (Array.getElem?_eq_getElem hi)).2 (by simp)
      rw [h0] at this
      cases this
  · obtain ⟨_, oj, hoj, _⟩ := mem_ready.1 hj
    have hjo : j < ops.size := (Array.getElem?_eq_some_iff.1 hoj).1
    rw [lsd_set hjo]
    exact h j ((hmem j oj hoj).1 hj)
/-- but one may come up -/
theorem at_one (R : Reg ops lt) {m m' i fuel : Nat} {a : Act} {w : World} (hc : someL lt [i] m = true) (he : m ||| 2 ^ i = m')
    (h : wpOp P ops (NoPanic Q) i (fun a' w' => S w' ∧ At P ops Q S fuel m' a' w') a w) : At P ops Q S (fuel + 1) m a w :=
  at_some R [i] hc fun j hj => by
    obtain rfl : j = i := by simpa using hj
    rw [he]
    exact h
/-- one of two -/
theorem at_two (R : Reg ops lt) {m m1 m2 i j fuel : Nat} {a : Act} {w : World} (hc : someL lt [i, j] m = true) (e1 : m ||| 2 ^ i = m1) (e2 : m ||| 2 ^ j = m2)
    (h1 : wpOp P ops (NoPanic Q) i (fun a' w' => S w' ∧ At P ops Q S fuel m1 a' w') a w) (h2 : wpOp P ops (NoPanic Q) j (fun a' w' => S w' ∧ At P ops Q S fuel m2 a' w') a w) : At P ops Q S (fuel + 1) m a w :=
  at_some R [i, j] hc fun k hk => by
    simp only [List.mem_cons, List.not_mem_nil, or_false] at hk
    rcases hk with rfl | rfl
    · rw [e1]; exact h1
    · rw [e2]; exact h2
/-- the frame's size, and that nothing is deferred -/
def Fz (n : Nat) (a : Act) : Prop := a.tmps.size = n ∧ a.defers = []
theorem Fz.put {n : Nat} {a : Act} (h : Fz n a) (d : Option Nat) (v : Value) : Fz n (a.put d v) := ⟨put_size.trans h.1, by cases d <;> exact h.2⟩
/-- what a frame says behind a put -/
theorem put_all {n k : Nat} {a : Act} {v : Value} (F : Fz n a) (hk : k < n) {C : Act → Prop} (h : ∀ a' : Act, Fz n a' → a'.eval (.tmp k) = v → (∀ j, k ≠ j → a'.eval (.tmp j) = a.eval (.tmp j)) → C a') : C (a.put (some k) v) :=
  h _ (F.put _ _) (put_same (by rw [F.1]; exact hk)) (fun j hj => put_else hj)
theorem y_load_row {o : Oper} {a : Act} {x : Operand} {t : TypeId} {b c : Nat} {cs : List Value} {d : TypeDesc} (hg : o.guard = none) (ho : o.op = .load t x) (hx : a.eval x = .pointer (some ⟨b, c, none⟩))
    (hu : P.underlying t = some d) (hd : d.isRow = true) (hi : (P.info? t).map (·.size) = some cs.length) (hc : ∀ w, S w → w.rangeAt b c cs) : YieldsIf P ops S o (.agg cs.toArray) a := by
  refine y_of hg fun w hw => ?_
  unfold execOp
  simp only [ho, hx]
  simp [run_loadAt_mid w b c t cs d (hc w hw) hu hd hi, Sem.run_bind]
end
end Go.Proofs.YtejlmgbmfeacdaaDoor

/- Contract of keccak.xored. -/
namespace Go.Proofs.YtejlmgbmfeacdaaDoor
open Go.RowKit
set_option linter.unusedVariables false
set_option linter.unusedSimpArgs false

/-- where the loop of bytes stands -/
def CXor (w : World) (a : List Nat) (p : Nat) (b : List Nat) (i : Value) (wr : World) : Prop := ∃ n : Nat, n ≤ b.length ∧ i = .int .i64 n ∧ Lies .u64 53 wr w.heap.size (xorL a p (b.take n)) ∧ Lies .u64 53 wr (w.heap.size + 1) (zs 25) ∧ Below w.heap.size w wr
set_option maxHeartbeats 4000000 in
set_option maxRecDepth 100000 in
theorem xored_any (a : List Nat) (p : Nat) (bv : Value) (b : List Nat) (w : World) (hw : W25 a) (hRb : Row .u8 256 w bv b) (hp : p + b.length ≤ 200) :
    Calls Tryd.prog 58 #[.agg (arr .u64 a), .int .i64 p, bv] w fun e w' => e = .returned (.agg (arr .u64 (xorL a p b))) ∧ Below w.heap.size w w' := by
  have hz := zero25
  have hA0 : Lies .u64 53 ((w.alloc (.cells (arr .u64 a) 53)).alloc (.cells (arr .u64 (zs 25)) 53)) w.heap.size a := (Lies.new .u64 53 w a).alloc _
  have hR0 : Lies .u64 53 ((w.alloc (.cells (arr .u64 a) 53)).alloc (.cells (arr .u64 (zs 25)) 53)) (w.heap.size + 1) (zs 25) := by
    have := Lies.new .u64 53 (w.alloc (.cells (arr .u64 a) 53)) (zs 25)
    rw [World.size_alloc] at this
    exact this
  have hb0 := keep_trans (keep_alloc w (.cells (arr .u64 a) 53)) (keep_alloc _ (.cells (arr .u64 (zs 25)) 53))
  have hub := hRb.under
  obtain ⟨ba, bc, rfl, g1, g2, g3, g4⟩ := hRb
  go_enter Tryd.func58, Tryd.ntmps58
  go_wp2
  clear hz
  generalize (w.alloc (.cells (arr .u64 a) 53)).alloc (.cells (arr .u64 (zs 25)) 53) = x1 at *
  go_loopw [11] (fun i wr => CXor w a p b i wr) (fun i _ => b.length - (intOf i).toNat)
  case atStart => exact ⟨0, Nat.zero_le _, rfl, hA0, hR0, hb0⟩
  case round =>
    clear hA0 hR0 hb0
    obtain ⟨n, hn, rfl, hA, hR, hb⟩ := hrel
    have hxw : W25 (xorL a p (b.take n)) := xorL_w _ p hw
    by_cases hlt : n < b.length
    · have hnx := xorL_next a p b n hlt
      obtain ⟨bb, off, rfl, hc⟩ := g3 (by omega)
      have cb := keep_cell (hc n hlt) hb
      have hcl : el b n < 256 := el_lt hub (by decide) n
      obtain ⟨P, hP⟩ : ∃ x : Nat, x = p + n := ⟨_, rfl⟩
      rw [← hP] at hnx
      generalize xorL a p (b.take n) = A at *
      generalize el b n = c at *
      obtain ⟨j, hj⟩ : ∃ x : Nat, x = P / 8 := ⟨_, rfl⟩
      obtain ⟨m, hm⟩ : ∃ x : Nat, x = P % 8 := ⟨_, rfl⟩
      obtain ⟨m8, hm8⟩ : ∃ x : Nat, x = 8 * m := ⟨_, rfl⟩
      obtain ⟨n1, hn1⟩ : ∃ x : Nat, x = n + 1 := ⟨_, rfl⟩
      have e_n : (n : Int) + 1 = (n1 : Int) := by omega
      have r_n : IntKind.i64.wrap (n1 : Int) = (n1 : Int) := by rw [IntKind.wrap_i64]; omega
      have e_P : (p : Int) + (n : Int) = (P : Int) := by omega
      have r_P : IntKind.i64.wrap (P : Int) = (P : Int) := by rw [IntKind.wrap_i64]; omega
      have e_j : (P : Int) / 8 = (j : Int) := by omega
      have t_j : (P : Int).tdiv 8 = (j : Int) := by rw [Int.tdiv_eq_ediv_of_nonneg (by omega)]; exact e_j
      have r_j : IntKind.i64.wrap (j : Int) = (j : Int) := by rw [IntKind.wrap_i64]; omega
      have e_m : (P : Int) % 8 = (m : Int) := by omega
      have t_m : (P : Int).tmod 8 = (m : Int) := by rw [Int.tmod_eq_emod_of_nonneg (by omega)]; exact e_m
      have r_m : IntKind.i64.wrap (m : Int) = (m : Int) := by rw [IntKind.wrap_i64]; omega
      have e_8 : 8 * (m : Int) = (m8 : Int) := by omega
      have r_8 : IntKind.i64.wrap (m8 : Int) = (m8 : Int) := by rw [IntKind.wrap_i64]; omega
      have mn : min m8 64 = m8 := by omega
      have r_c : IntKind.u64.wrap (c : Int) = (c : Int) := by rw [IntKind.wrap_u64]; omega
      have i0 : (0 : Int) ≤ (j : Int) := Int.natCast_nonneg _
      have i1 : (j : Int) < 25 := by omega
      have i2 : (0 : Int) ≤ (m8 : Int) := Int.natCast_nonneg _
      have i3 : (0 : Int) ≤ (n : Int) := Int.natCast_nonneg _
      have i4 : (n : Int) < (b.length : Int) := by omega
      have hpk : putK A P c = A.set j (el A j ^^^ c * 2 ^ m8 % 18446744073709551616) := by unfold putK; rw [← hj, ← hm, ← hm8]
      have c0 := hA.cell (i := j) (by rw [hxw.1]; omega)
      have f0 := hA.frozen j
      have h1 := hxw.el j
      have hv := xor_k (el A j) (c * 2 ^ m8 % 18446744073709551616) h1 (Nat.mod_lt _ (by decide))
      have HPK := hide hpk
      have HNX := hide hnx
      have HN1 := hide hn1
      clear hj hm hm8 hpk hnx hn1 hP
      have hv2 : bits .xor .u64 (el A j : Int) ((c : Int) * 2 ^ m8 % 18446744073709551616) = ((el A j ^^^ c * 2 ^ m8 % 18446744073709551616 : Nat) : Int) := by
        rw [show (c : Int) * 2 ^ m8 % 18446744073709551616 = ((c * 2 ^ m8 % 18446744073709551616 : Nat) : Int) by simp]; exact hv
      have hst : ∀ (y : World), Lies .u64 53 y w.heap.size A → Lies .u64 53 (y.setCell ⟨w.heap.size, j, none⟩ (.int .u64 (bits .xor .u64 (el A j : Int) ((c : Int) * 2 ^ m8 % 18446744073709551616)))) w.heap.size (xorL a p (b.take n1)) := fun y hy => by
        rw [hv2, HN1.out, HNX.out, HPK.out]
        exact hy.set j _
      have HST := hide hst
      clear hv hv2 hst
      go_wp2
      go_region
      go_wp2
      exact ⟨⟨n1, by have := HN1.out; omega, rfl, HST.out _ hA, hR.but ((But.refl w.heap.size wr).setCell j _).drew (by omega), hb.trans (((But.refl w.heap.size wr).setCell j _).drew.below (Nat.le_refl _) hb.size)⟩, by have := HN1.out; simp [intOf]; omega⟩
    · rw [List.take_of_length_le (by omega)] at hA hxw
      have hsl := hxw.1
      generalize hX : xorL a p b = X at hA hsl hxw
      have HX := hide hX
      clear hX
      have hOf : Lies .u64 53 (wr.setRow (w.heap.size + 1) (arr .u64 X)) (w.heap.size + 1) X := hR.row
      have hbf := hb.trans ((But.setRow (But.refl (w.heap.size + 1) _) (arr .u64 X)).below (by omega) hb.size)
      have hnn : n = b.length := by omega
      subst hnn
      go_wp2_with (first
        | (refine wpList_load_row rfl 53 _ (by rfl) w.heap.size (by rfl) _ _ _ (.array 25 37) hA (by kernel_rfl) rfl (by rw [arr_size, hsl]; kernel_rfl) ?_)
        | (refine wpList_store_row rfl 53 _ _ (by rfl) (w.heap.size + 1) (arr .u64 X) (by rfl) (by rfl) _ _ hR (by rw [arr_size, hsl]; kernel_rfl) (by rw [arr_size, arr_size, hsl, zs_len]) (arr_one _ _) ?_)
        | fail)
      refine bodyPost_ret (v := .agg (arr .u64 X)) ?_ rfl ⟨by rw [HX.out], hbf⟩
      exact results_cell_row Tryd.results58 _ _ (w.heap.size + 1) _ _ _ (.array 25 37) (by rfl) hOf (by kernel_rfl) rfl (by rw [arr_size, hsl]; kernel_rfl)
end Go.Proofs.YtejlmgbmfeacdaaDoor
