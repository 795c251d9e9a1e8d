import Derived.Test.YtpmobjfhhkglbaaGreatDoorLmM
import Derived.Deep.Slices
import Derived.Test.YtpmobjfhhkglbaaGreatDoorHaM
import Derived.Test.YtpmobjfhhkglbaaGreatDoorBase
import Derived.OrdersHeld
import Derived.Deep.RegionHeld3
namespace Go.Proofs.YtpmobjfhhkglbaaGreatDoor
open Go.RowKit Go.Deep
set_option linter.unusedVariables false
theorem Tryz.infoT : (Tryz.prog.info? 27).map (fun i => (i.zero, i.size, i.bytes)) = some (some (.slice none 0 0), 1, 24) := by kernel_rfl
theorem info_text : ∃ i, Tryz.prog.info? 27 = some i ∧ i.zero = some (.slice none 0 0) ∧ i.size = 1 ∧ i.bytes = 24 := by
  have h := Tryz.infoT
  obtain ⟨i, hi, he⟩ := Option.map_eq_some_iff.1 h
  simp only [Prod.mk.injEq] at he
  exact ⟨i, hi, he.1, he.2.1, he.2.2⟩
theorem info_byte : ∃ i, Tryz.prog.info? 5 = some i ∧ i.zero = some (.int .u8 0) ∧ i.size = 1 ∧ i.bytes = 1 := by
  have h := Tryz.info5
  obtain ⟨i, hi, he⟩ := Option.map_eq_some_iff.1 h
  simp only [Prod.mk.injEq] at he
  exact ⟨i, hi, he.1, he.2.1, he.2.2⟩
def Texts (w : World) (us : List Value) (l : List (List Nat)) : Prop := us.length = l.length ∧ ∀ i, i < l.length → ∃ u, us[i]? = some u ∧ Row .u8 256 w u (tx l i) ∧ Tidy u
theorem Texts.nil (w : World) : Texts w [] [] := ⟨rfl, fun i hi => by simp at hi⟩
theorem Texts.append {w : World} {us vs : List Value} {l m : List (List Nat)} (h : Texts w us l) (k : Texts w vs m) : Texts w (us ++ vs) (l ++ m) := by
  refine ⟨by rw [List.length_append, List.length_append, h.1, k.1], fun i hi => ?_⟩
  rw [List.length_append] at hi
  by_cases hl : i < l.length
  · obtain ⟨u, hu, hr⟩ := h.2 i hl
    refine ⟨u, by rw [List.getElem?_append_left (by rw [h.1]; exact hl)]; exact hu, ?_⟩
    have e : tx (l ++ m) i = tx l i := by unfold tx; rw [List.getElem?_append_left hl]
    rw [e]; exact hr
  · obtain ⟨u, hu, hr⟩ := k.2 (i - l.length) (by omega)
    refine ⟨u, by rw [List.getElem?_append_right (by rw [h.1]; omega), h.1]; exact hu, ?_⟩
    have e : tx (l ++ m) i = tx m (i - l.length) := by unfold tx; rw [List.getElem?_append_right (by omega)]
    rw [e]; exact hr
theorem Texts.one {w : World} {u : Value} {x : List Nat} (h : Row .u8 256 w u x) (ht : Tidy u) : Texts w [u] [x] := by
  refine ⟨rfl, fun i hi => ?_⟩
  have : i = 0 := by simp at hi; omega
  subst this
  exact ⟨u, rfl, h, ht⟩
theorem Texts.below {w w' : World} {us : List Value} {l : List (List Nat)} (h : Texts w us l) (hb : Below w.heap.size w w') : Texts w' us l :=
  ⟨h.1, fun i hi => by obtain ⟨u, hu, hr, ht⟩ := h.2 i hi; exact ⟨u, hu, hr.below hb, ht⟩⟩
theorem Row.one {k : IntKind} {m : Nat} {w : World} {u : Value} {l : List Nat} (h : Row k m w u l) : u.oneCell' = true := by
  obtain ⟨a, c, rfl, _⟩ := h
  rfl
theorem Texts.cells {w : World} {us : List Value} {l : List (List Nat)} (h : Texts w us l) : ∀ u ∈ us, u.oneCell' = true := by
  intro u hu
  obtain ⟨i, hi, rfl⟩ := List.getElem_of_mem hu
  obtain ⟨u', hu', hr, _⟩ := h.2 i (by rw [← h.1]; exact hi)
  rw [List.getElem?_eq_getElem hi] at hu'
  obtain rfl := Option.some.inj hu'
  exact hr.one
theorem Texts.rows2 {w : World} {B : Nat} {v : Value} {us : List Value} {l : List (List Nat)} (h : Texts w us l) (ho : w.ownsRow B 27 1 v l.length us) : Rows2 w v l := by
  have ho' := ho
  obtain ⟨h1, ⟨rfl, h2⟩ | ⟨g, cap, cur, rfl, h3, h4, h5, h6, h7, h8⟩⟩ := ho
  · exact ⟨none, 0, by rw [h2], by omega, Nat.zero_le _, fun hl => by omega⟩
  · refine ⟨_, cap, rfl, h5, h6, fun hl => ⟨g, 0, rfl, fun i hi => ?_⟩⟩
    obtain ⟨u, hu, hr⟩ := h.2 i hi
    refine ⟨u, ?_, hr⟩
    rw [Nat.zero_add, ho'.cellAt i (by omega)]
    exact hu
end Go.Proofs.YtpmobjfhhkglbaaGreatDoor

namespace Go.Proofs.YtpmobjfhhkglbaaGreatDoor
open Go.RowKit
set_option linter.unusedVariables false
set_option linter.unusedSimpArgs false
theorem own_tidyG {e : TypeId} {k : IntKind} {m : Nat} {w : World} {B : Nat} {v : Value} {l : List Nat} (h : Own e k m w B v l) : Tidy v := by
  rcases h.1.2 with ⟨rfl, _⟩ | ⟨g, cap, cur, rfl, _⟩
  · intro n c e; cases e; exact ⟨rfl, rfl⟩
  · intro n c e; cases e
theorem el_lay {a b : List Nat} {p i : Nat} (hp : p + b.length ≤ a.length) : el (layLW a p b) i = if p ≤ i ∧ i < p + b.length then el b (i - p) else el a i := by
  unfold layLW el
  by_cases h1 : i < p
  · rw [List.getElem?_append_left (by rw [List.length_take]; omega), List.getElem?_take, if_pos h1, if_neg (by omega)]
  · rw [List.getElem?_append_right (by rw [List.length_take]; omega), List.length_take, Nat.min_eq_left (by omega)]
    by_cases h2 : i < p + b.length
    · rw [List.getElem?_append_left (by omega), if_pos ⟨by omega, h2⟩]
    · rw [List.getElem?_append_right (by omega), List.getElem?_drop, if_neg (by omega), show p + b.length + (i - p - b.length) = i by omega]
theorem ext_elW {a b : List Nat} (hl : a.length = b.length) (h : ∀ i, i < a.length → el a i = el b i) : a = b := by
  apply List.ext_getElem hl
  intro i h1 h2
  have := h i h1
  rw [el_at h1, el_at h2] at this
  exact this
theorem el_setW (l : List Nat) (k x i : Nat) : el (l.set k x) i = if k = i ∧ k < l.length then x else el l i := by
  unfold el
  rw [List.getElem?_set]
  by_cases h : k = i
  · subst h
    by_cases h2 : k < l.length
    · simp [h2]
    · simp [h2, List.getElem?_eq_none (Nat.le_of_not_lt h2)]
  · simp [h]
theorem lay_set {a b : List Nat} {p k : Nat} (hp : p + b.length ≤ a.length) (hk : k < b.length) : (layLW a p (b.take k)).set (p + k) (el b k) = layLW a p (b.take (k + 1)) := by
  have l1 : (b.take k).length = k := by rw [List.length_take]; omega
  have l2 : (b.take (k + 1)).length = k + 1 := by rw [List.length_take]; omega
  have e1 := layL_len (a := a) (p := p) (b := b.take k) (by omega)
  have e2 := layL_len (a := a) (p := p) (b := b.take (k + 1)) (by omega)
  refine ext_elW (by rw [List.length_set, e1, e2]) fun i hi => ?_
  rw [List.length_set, e1] at hi
  rw [el_setW, e1, el_lay (by omega), el_lay (by omega), l1, l2]
  have et : ∀ m j, j < m → el (b.take m) j = el b j := fun m j hj => by unfold el; rw [List.getElem?_take, if_pos hj]
  by_cases h1 : p + k = i
  · rw [if_pos ⟨h1, by omega⟩, if_pos ⟨by omega, by omega⟩, et _ _ (by omega), show i - p = k by omega]
  · rw [if_neg (fun h => h1 h.1)]
    by_cases h2 : p ≤ i ∧ i < p + k
    · rw [if_pos h2, if_pos ⟨h2.1, by omega⟩, et _ _ (by omega), et _ _ (by omega)]
    · rw [if_neg h2, if_neg (by omega)]
theorem lay_none (a : List Nat) (p : Nat) : layLW a p [] = a := by
  unfold layLW
  rw [List.nil_append, List.length_nil, Nat.add_zero, List.take_append_drop]
def zP : List Nat := List.replicate 32 0
theorem zeroAd : ∀ w, (zeroValue 25).run Tryz.prog w = .ok (.agg (arr .u8 zP)) w := zero_arr (by kernel_rfl)
def LyL (w : World) (G : Nat) (a b : List Nat) (p : Nat) (vi : Value) (wr : World) : Prop := ∃ k : Nat, k ≤ b.length ∧ vi = .int .i64 (k : Int) ∧ Lies .u8 25 wr G (layLW a p (b.take k)) ∧ But G w wr
set_option maxHeartbeats 4000000 in
set_option maxRecDepth 100000 in
theorem rlay_anyW (a b : List Nat) (p : Nat) (bv : Value) (w : World) (ha : Pl a) (hb : Row .u8 256 w bv b) (hp : p + b.length ≤ 32) :
    Calls Tryz.prog 29 #[.agg (arr .u8 a), .int .i64 (p : Int), bv] w fun e w' => e = .returned (.agg (arr .u8 (layLW a p b))) ∧ Below w.heap.size w w' := by
  obtain ⟨LL, hLL⟩ : ∃ x, layLW a p b = x := ⟨_, rfl⟩
  rw [hLL]
  have HLL := hide hLL
  clear hLL
  obtain ⟨B, hB⟩ : ∃ B, b.length = B := ⟨_, rfl⟩
  have hb' := hb
  obtain ⟨ba, bc, rfl, _, _, hbc⟩ := hb'.opens hB
  clear hb'
  have hz := zeroAd
  have L0 := Lies.new .u8 25 w a
  have k0 := keep_alloc w (.cells (arr .u8 a) 25)
  go_enter Tryz.func29, Tryz.ntmps29
  go_wp2
  have L1 := L0.alloc (.cells (arr .u8 zP) 25)
  have R1 := Lies.new .u8 25 (w.alloc (.cells (arr .u8 a) 25)) zP
  rw [World.size_alloc] at R1
  have k1 := keep_trans k0 (keep_alloc _ (.cells (arr .u8 zP) 25))
  clear L0 k0
  generalize (w.alloc (.cells (arr .u8 a) 25)).alloc (.cells (arr .u8 zP) 25) = x at *
  have h0 : LyL x w.heap.size a b p (.int .i64 0) x := ⟨0, Nat.zero_le _, rfl, by rw [List.take_zero, lay_none]; exact L1, But.refl _ _⟩
  have H0 := hide h0
  have HR := hide (And.intro R1 k1)
  have hpl := ha.1
  clear h0 L1 R1 k1
  go_loopw [7] (fun vi wr => LyL x w.heap.size a b p vi wr) (fun vi _ => B - (intOf vi).toNat)
  case atStart => exact H0.out
  case round =>
    obtain ⟨k, hk, rfl, hL, hbt⟩ := hrel
    clear H0
    obtain ⟨R1, k1⟩ := HR.out
    by_cases hlt : k < B
    · have hli : (k : Int) < (B : Int) := by omega
      obtain ⟨bb, bo, rfl, hcell⟩ := hbc (by omega)
      have hc0 := hcell k hlt
      have hbb : bb < w.heap.size := World.block_lt_of_cell? _ _ hc0
      have c1 : wr.cell? ⟨bb, bo + k, none⟩ = some (.int .u8 (el b k)) := But.cell (keep_cell hc0 k1) hbt (by show bb ≠ w.heap.size; omega)
      have ck := el_lt hb.under (by decide) k
      have hlen := layL_len (a := a) (p := p) (b := b.take k) (by rw [List.length_take]; omega)
      have c3 := hL.cell (i := p + k) (by rw [hlen]; omega)
      have c4 := hL.frozen (p + k)
      have hst := hL.set (p + k) (el b k)
      rw [lay_set (by omega) (by omega)] at hst
      have hbt2 : But w.heap.size x (wr.setCell ⟨w.heap.size, p + k, none⟩ (.int .u8 (el b k : Nat))) := hbt.setCell _ _
      obtain ⟨P, hP⟩ : ∃ P, p + k = P := ⟨_, rfl⟩
      rw [hP] at c3 c4 hst hbt2
      have e_P : (p : Int) + (k : Int) = (P : Int) := by omega
      have s_P : IntKind.i64.wrap (P : Int) = (P : Int) := by rw [IntKind.wrap_i64]; omega
      have hP32 : P < 32 := by omega
      have hP32' : (P : Int) < 32 := by omega
      obtain ⟨Q, hQ⟩ : ∃ Q : Nat, k + 1 = Q := ⟨_, rfl⟩
      have e_Q : (k : Int) + 1 = (Q : Int) := by omega
      have s_Q : IntKind.i64.wrap (Q : Int) = (Q : Int) := by rw [IntKind.wrap_i64]; omega
      rw [hQ] at hst
      generalize el b k = E at *
      generalize el (layLW a p (b.take k)) P = E0 at *
      have HST := hide (And.intro hst (And.intro hbt2 hQ))
      clear hst hbt2 hL hbt hc0 hcell hP hQ R1 k1
      go_wp2
      obtain ⟨hst, hbt2, hQ⟩ := HST.out
      exact ⟨⟨Q, by omega, rfl, hst, hbt2⟩, by simp [intOf]; omega⟩
    · obtain rfl : k = B := by omega
      have hge : ¬ ((k : Int) < (k : Int)) := by omega
      have ht : b.take k = b := List.take_of_length_le (by omega)
      rw [ht] at hL
      have hlen := (layL_len (a := a) (p := p) (b := b) (by omega)).trans hpl
      have hRr := R1.but hbt (by omega)
      have hRl : zP.length = 32 := by decide
      have kw := k1.trans (hbt.below (Nat.le_refl _) k1.size)
      have HK := hide (And.intro hRr kw)
      clear R1 k1 ht
      rw [HLL.out] at hL hlen
      go_wp2_with (first
        | (refine wpList_load_row rfl 25 _ (by rfl) w.heap.size (by rfl) _ _ _ (.array 32 5) hL (by kernel_rfl) rfl (by rw [arr_size, hlen]; kernel_rfl) ?_)
        | (refine wpList_store_row rfl 25 _ _ (by rfl) (w.heap.size + 1) (arr .u8 LL) (by rfl) (by rfl) _ _ hRr (by rw [arr_size, hlen]; kernel_rfl) (by rw [arr_size, arr_size, hlen, hRl]) (arr_one _ _) ?_)
        | fail)
      have hO : Lies .u8 25 (wr.setRow (w.heap.size + 1) (arr .u8 LL)) (w.heap.size + 1) LL := HK.out.1.row
      have hbf := HK.out.2.trans (((But.refl (w.heap.size + 1) wr).setRow (arr .u8 LL)).below (by omega) HK.out.2.size)
      refine bodyPost_ret (v := .agg (arr .u8 LL)) ?_ rfl ⟨rfl, hbf⟩
      exact results_cell_row Tryz.results29 _ _ (w.heap.size + 1) _ _ _ (.array 32 5) (by rfl) hO (by kernel_rfl) rfl (by rw [arr_size, hlen]; kernel_rfl)
abbrev Lt := Nat × Option Nat × List Nat
def aftM (o : Oper) : Nat := o.after.toList.foldl (fun s e => if Region.binds .any e then s ||| 2 ^ e.on else s) 0
def ltOf (ops : Array Oper) : List Lt := ops.toList.map fun o => (aftM o, o.dst, o.looksAt ops)
def apL (x y : Lt) : Bool :=
  (match x.2.1 with
   | some d => !y.2.2.contains d && y.2.1 != some d
   | none => true) &&
  (match y.2.1 with
   | some d => !x.2.2.contains d
   | none => true)
def rdL (x : Lt) (i m : Nat) : Bool := !m.testBit i && (x.1 &&& m == x.1)
def goL (n : Nat) (lt : List Lt) : List (Nat × Bool) → Nat → Bool
  | [], m => m == 2 ^ n - 1
  | (i, t) :: r, m =>
    match lt[i]? with
    | none => false
    | some x => rdL x i m && lt.zipIdx.all (fun y => y.2 == i || m.testBit y.2 || bif t then y.1.1.testBit i || apL x y.1 else !(y.1.1 &&& m == y.1.1)) && goL n lt r (m ||| 2 ^ i)
theorem aft_bits (l : List Edge) (k : Nat) : ∀ s : Nat, (l.foldl (fun s e => if Region.binds .any e then s ||| 2 ^ e.on else s) s).testBit k = (s.testBit k || l.any (fun e => Region.binds .any e && e.on == k)) := by
  induction l with
  | nil => intro s; simp
  | cons e l ih =>
    intro s
    rw [List.foldl_cons, ih, List.any_cons]
    cases hb : Region.binds .any e
    · simp
    · simp only [if_true, Nat.testBit_or, Nat.testBit_two_pow, Bool.true_and, Bool.or_assoc]
      congr 2
theorem aftM_bit (o : Oper) (k : Nat) : (aftM o).testBit k = true ↔ ∃ e ∈ o.after, Region.binds .any e = true ∧ e.on = k := by
  unfold aftM
  rw [aft_bits]
  simp only [Nat.zero_testBit, Bool.false_or, List.any_eq_true, Bool.and_eq_true, beq_iff_eq, Array.mem_toList_iff]
theorem sub_bits (x m : Nat) : x &&& m = x ↔ ∀ k, x.testBit k = true → m.testBit k = true := by
  constructor
  · intro h k hk
    rw [← h, Nat.testBit_and, Bool.and_eq_true] at hk
    exact hk.2
  · intro h
    apply Nat.eq_of_testBit_eq
    intro k
    rw [Nat.testBit_and]
    cases hk : x.testBit k
    · rfl
    · rw [h k hk]; rfl
structure Lsd (n m : Nat) (listed : Array Bool) : Prop where
  size : listed.size = n
  bit : ∀ j (h : j < listed.size), listed[j] = m.testBit j
  lt : m < 2 ^ n
theorem Lsd.tru {n m : Nat} {listed : Array Bool} (h : Lsd n m listed) {j : Nat} (hj : j < n) : listed.getD j true = m.testBit j := by
  have hs : j < listed.size := by rw [h.size]; exact hj
  simp [Array.getD, hs, h.bit j hs]
theorem Lsd.fls {n m : Nat} {listed : Array Bool} (h : Lsd n m listed) (j : Nat) : listed.getD j false = m.testBit j := by
  by_cases hj : j < n
  · have hs : j < listed.size := by rw [h.size]; exact hj
    simp [Array.getD, hs, h.bit j hs]
  · have hs : ¬ j < listed.size := by rw [h.size]; exact hj
    rw [Nat.testBit_lt_two_pow (Nat.lt_of_lt_of_le h.lt (Nat.pow_le_pow_right (by decide) (by omega)))]
    simp [Array.getD, hs]
theorem Lsd.set {n m : Nat} {listed : Array Bool} (h : Lsd n m listed) {i : Nat} (hi : i < n) : Lsd n (m ||| 2 ^ i) (listed.setIfInBounds i true) := by
  refine ⟨by simp [h.size], fun j hj => ?_, Nat.or_lt_two_pow h.lt (Nat.pow_lt_pow_right (by decide) hi)⟩
  have hj' : j < listed.size := by simpa using hj
  rw [Nat.testBit_or, Nat.testBit_two_pow, Array.getElem_setIfInBounds]
  by_cases hij : i = j
  · simp [hij]
  · simp [hij, h.bit j hj']
  exact hj'
theorem Lsd.zero (n : Nat) : Lsd n 0 (Array.replicate n false) := ⟨by simp, fun j hj => by simp, Nat.two_pow_pos n⟩
section
variable {P : Program} {ops : Array Oper} {Q : Exit → Act → World → Prop} {S : World → Prop}
theorem lt_at {lt : List Lt} (hlt : ltOf ops = lt) {i : Nat} {x : Lt} (h : lt[i]? = some x) : ∃ o, ops[i]? = some o ∧ x = (aftM o, o.dst, o.looksAt ops) := by
  rw [← hlt] at h
  unfold ltOf at h
  rw [List.getElem?_map] at h
  cases ho : ops.toList[i]? with
  | none => rw [ho] at h; cases h
  | some o => rw [ho] at h; exact ⟨o, by simpa using ho, (Option.some.inj h).symm⟩
theorem at_lt {lt : List Lt} (hlt : ltOf ops = lt) {i : Nat} {o : Oper} (h : ops[i]? = some o) : lt[i]? = some (aftM o, o.dst, o.looksAt ops) := by
  rw [← hlt]
  unfold ltOf
  rw [List.getElem?_map, show ops.toList[i]? = some o by simpa using h]
  rfl
theorem ready_of {m : Nat} {listed : Array Bool} (h : Lsd ops.size m listed) {i : Nat} {o : Oper} (ho : ops[i]? = some o) : i ∈ Region.ready .any ops listed ↔ rdL (aftM o, o.dst, o.looksAt ops) i m = true := by
  have hi : i < ops.size := (Array.getElem?_eq_some_iff.1 ho).1
  rw [mem_ready, h.tru hi]
  unfold rdL
  simp only [Bool.and_eq_true, Bool.not_eq_true', beq_iff_eq]
  rw [sub_bits]
  constructor
  · rintro ⟨h1, o', ho', h2⟩
    obtain rfl := Option.some.inj (ho.symm.trans ho')
    refine ⟨h1, fun k hk => ?_⟩
    obtain ⟨e, he, hb, rfl⟩ := (aftM_bit o k).1 hk
    rw [← h.fls]
    exact h2 e he hb
  · rintro ⟨h1, h2⟩
    exact ⟨h1, o, ho, fun e he hb => by rw [h.fls]; exact h2 e.on ((aftM_bit o e.on).2 ⟨e, he, hb, rfl⟩)⟩
def wpPlan (P : Program) (ops : Array Oper) (Q : Exit → Act → World → Prop) (S : World → Prop) : List (Nat × Bool) → Act → World → Prop
  | [], a, w => Q .normal a w
  | (i, true) :: r, a, w => ∃ o v, ops[i]? = some o ∧ YieldsIf P ops S o v a ∧ wpPlan P ops Q S r (a.put o.dst v) w
  | (i, false) :: r, a, w => wpOp P ops Q i (fun a' w' => S w' ∧ wpPlan P ops Q S r a' w') a w
theorem plan_any {lt : List Lt} (hlt : ltOf ops = lt) (hs : Region.noSelect ops = true) (hQ : ∀ c a b w, Q (.panic c) a w → Q (.panic c) b w) :
    ∀ (plan : List (Nat × Bool)) (m : Nat) (listed : Array Bool) (a : Act) (w : World), Lsd ops.size m listed → goL ops.size lt plan m = true → S w → wpPlan P ops Q S plan a w → wpAnyH P .any ops Q S plan.length listed a w
  | [], m, listed, a, w, hL, hg, hS, h => by
    have hm : m = 2 ^ ops.size - 1 := by simpa [goL] using hg
    refine wpAnyH_done ?_ h _
    rw [List.eq_nil_iff_forall_not_mem]
    intro j hj
    obtain ⟨h1, o, ho, _⟩ := mem_ready.1 hj
    have hj' : j < ops.size := (Array.getElem?_eq_some_iff.1 ho).1
    rw [hL.tru hj', hm, Nat.testBit_two_pow_sub_one] at h1
    simp [hj'] at h1
  | (i, t) :: r, m, listed, a, w, hL, hg, hS, h => by
    unfold goL at hg
    split at hg
    · cases hg
    · rename_i x hx
      obtain ⟨o, ho, rfl⟩ := lt_at hlt hx
      simp only [Bool.and_eq_true] at hg
      obtain ⟨⟨hr, hall⟩, hgo⟩ := hg
      have hi : i < ops.size := (Array.getElem?_eq_some_iff.1 ho).1
      have hrd := (ready_of hL ho).2 hr
      have hall' : ∀ (j : Nat) (oj : Oper), ops[j]? = some oj → j ≠ i → listed.getD j true = false → (bif t then (aftM oj).testBit i || apL (aftM o, o.dst, o.looksAt ops) (aftM oj, oj.dst, oj.looksAt ops) else !(aftM oj &&& m == aftM oj)) = true := fun j oj hj hne hun => by
        have hj' : j < ops.size := (Array.getElem?_eq_some_iff.1 hj).1
        have hmem : ((aftM oj, oj.dst, oj.looksAt ops), j) ∈ lt.zipIdx := List.mem_zipIdx_iff_getElem?.2 (at_lt hlt hj)
        have := List.all_eq_true.1 hall _ hmem
        rw [hL.tru hj'] at hun
        simp only [hun, Bool.or_false] at this
        rw [show (j == i) = false from by rw [beq_eq_false_iff_ne]; exact hne, Bool.false_or] at this
        exact this
      cases t with
      | true =>
        obtain ⟨o', v, ho', hy, hrest⟩ := h
        obtain rfl := Option.some.inj (ho.symm.trans ho')
        refine wpAnyH_first ho (Region.noSelect_spec hs) (fun c a w => hQ c _ _ w) _ listed a w ?_ hrd hy hS (plan_any hlt hs hQ r _ _ _ w (hL.set hi) hgo hS hrest)
        intro j oj hj hne hun hno
        have := hall' j oj hj hne hun
        rw [cond_true, Bool.or_eq_true] at this
        rcases this with h1 | h1
        · obtain ⟨e, he, hb, hk⟩ := (aftM_bit oj i).1 h1
          exact absurd hk (hno e he hb)
        · exact h1
      | false =>
        show wpAnyH P .any ops Q S (r.length + 1) listed a w
        refine ⟨fun h0 => (by rw [h0] at hrd; cases hrd), fun j hj => ?_⟩
        obtain ⟨hun, oj, hoj, _⟩ := mem_ready.1 hj
        have hji : j = i := by
          rcases Decidable.em (j = i) with he | hne
          · exact he
          · have h1 := hall' j oj hoj hne hun
            have h2 := (ready_of hL hoj).1 hj
            unfold rdL at h2
            simp only [Bool.and_eq_true] at h2
            rw [cond_false, h2.2] at h1
            cases h1
        subst hji
        exact wpOp_mono (fun a' w' hh => ⟨hh.1, plan_any hlt hs hQ r _ _ _ w' (hL.set hi) hgo hh.1 hh.2⟩) h
theorem wp_region_plan {id : Nat} {a : Act} {w : World} (S : World → Prop) (lt : List Lt) (plan : List (Nat × Bool)) (hm : P.follows .mixedOrders = true) (hlt : ltOf ops = lt) (hn : plan.length = ops.size) (hs : Region.noSelect ops = true)
    (hp : goL ops.size lt plan 0 = true) (hS : S w.drew) (h : wpPlan P ops (NoPanic Q) S plan a w.drew) : (Code.region id ops true).wp P Q a w := by
  refine wp_region_noPanic (wp_region_held (S := S) hm ?_)
  have := plan_any (Q := NoPanic Q) hlt hs (fun c a b w hh => hh) plan 0 (Array.replicate ops.size false) a w.drew (Lsd.zero _) hp hS h
  rw [hn] at this
  exact this
theorem put_same {a : Act} {k : Nat} {v : Value} (h : k < a.tmps.size) : (a.put (some k) v).eval (.tmp k) = v := by simp [Act.put, Act.eval, h]
theorem put_else {a : Act} {k j : Nat} {v : Value} (h : k ≠ j) : (a.put (some k) v).eval (.tmp j) = a.eval (.tmp j) := by simp [Act.put, Act.eval, Array.getD_eq_getD_getElem?, Array.getElem?_setIfInBounds, h]
theorem put_size {a : Act} {d : Option Nat} {v : Value} : (a.put d v).tmps.size = a.tmps.size := by cases d <;> simp [Act.put]
theorem ev_const {a : Act} {v : Value} : a.eval (.const v) = v := rfl
theorem wanted_free {o : Oper} (hg : o.guard = none) {f : Nat → Option Bool} : Region.wanted o f = true := by simp [Region.wanted, hg]
theorem y_of {o : Oper} {v : Value} {a : Act} (hg : o.guard = none) (h : ∀ w, S w → (execOp a.eval o).run P w = .ok (.value v) w) : YieldsIf P ops S o v a := .inl ⟨wanted_free hg, h⟩
theorem y_move {o : Oper} {v : Value} {a : Act} {x : Operand} (hg : o.guard = none) (ho : o.op = .move x) (hx : a.eval x = v) : YieldsIf P ops S o v a :=
  y_of hg fun w _ => by unfold execOp; simp only [ho, hx]; rfl
theorem y_extract {o : Oper} {v : Value} {a : Act} {x : Operand} {k : Nat} {vs : Array Value} (hg : o.guard = none) (ho : o.op = .extract x k) (hx : a.eval x = .tuple vs) (hk : vs[k]? = some v) : YieldsIf P ops S o v a :=
  y_of hg fun w _ => by unfold execOp; simp only [ho, hx, Instr.extract, hk]; rfl
theorem y_index {o : Oper} {a : Act} {x : Operand} {t e : TypeId} {n q i : Nat} (hg : o.guard = none) (ho : o.op = .indexAddr t x (.const (.int .i64 (i : Int)))) (hx : a.eval x = .pointer (some ⟨q, 0, none⟩)) (hu : P.underlying t = some (.array n e)) (hs : (P.info? e).map (·.size) = some 1) (hi : i < n) : YieldsIf P ops S o (.pointer (some ⟨q, i, none⟩)) a := by
  cases hq : P.info? e with
  | none => simp [hq] at hs
  | some y =>
    have hy : y.size = 1 := by simpa [hq] using hs
    refine y_of hg fun w _ => ?_
    unfold execOp
    simp only [ho, hx, ev_const]
    simp [Instr.indexAt, asIntOf, Sem.run_bind, run_underlying hu w, sizeOf, typeInfo, hq, hy, hi, Addr.add, go_sem]
    omega
theorem y_load {o : Oper} {v : Value} {a : Act} {x : Operand} {t : TypeId} {p : Addr} {k : IntKind} (hg : o.guard = none) (ho : o.op = .load t x) (hx : a.eval x = .pointer (some p)) (hu : P.underlying t = some (.int k)) (hc : ∀ w, S w → w.cell? p = some v) : YieldsIf P ops S o v a := by
  refine y_of hg fun w hw => ?_
  have c := hc w hw
  have hag : (isAgg t).run P w = .ok false w := by unfold isAgg; rw [Sem.run_bind, run_underlying hu w]; rfl
  unfold execOp
  simp only [ho, hx]
  simp [Instr.loadAt, Instr.sureAddr, Sem.run_bind, run_underlying hu w, hag, c, go_sem]
end
theorem wF {o : Oper} (hg : o.guard = none) {f : Nat → Option Bool} : Region.wanted o f = true := wanted_free hg
section
variable {P : Program} {ops : Array Oper} {Q : Exit → Act → World → Prop} {K : Act → World → Prop}
theorem p_call {i : Nat} {o : Oper} {a : Act} {w : World} {f : FuncId} {xs : Array Operand} {ts : Array TypeId} {args : Array Value} (hi : ops[i]? = some o) (hg : o.guard = none)
    (ho : o.op = .call { callee := .value (.func f), args := xs, argTypes := ts }) (ha : xs.map a.eval = args) (hf : ∀ (args : Array Value) (w : World), (callFunc f args).run P w = .ok (.enter f args) w)
    (h : Calls P f args w fun e w' => ∃ v, e = .returned v ∧ K (a.put o.dst v) w') : wpOp P ops Q i K a w := by
  have hr : (execOp a.eval o).run P w = .ok (.enter f args) w := by
    unfold execOp
    simp only [ho]
    simp [resolve, ha, go_sem, hf]
  unfold wpOp
  simp only [hi]
  rw [if_pos (wanted_free hg)]
  left
  unfold Oper.wp
  rw [hr]
  refine h.mono ?_
  rintro e w' ⟨v, rfl, hk⟩
  exact hk
theorem p_store {i : Nat} {o : Oper} {a : Act} {w : World} {t : TypeId} {x y : Operand} {p : Addr} {k : IntKind} {z : Int} (hi : ops[i]? = some o) (hg : o.guard = none)
    (ho : o.op = .store t x y) (hd : o.dst = none) (hx : a.eval x = .pointer (some p)) (hy : a.eval y = .int k z) (hu : P.underlying t = some (.int k)) (hs : (P.info? t).map (·.size) = some 1) (hc : (w.cell? p).isSome = true) (hz : w.frozen? p = false)
    (h : K a (w.setCell p (.int k z))) : wpOp P ops Q i K a w := by
  obtain ⟨u, hc'⟩ := Option.isSome_iff_exists.1 hc
  have hr : (execOp a.eval o).run P w = .ok .skip (w.setCell p (.int k z)) := by
    have hag : (isAgg t).run P w = .ok false w := by unfold isAgg; rw [Sem.run_bind, run_underlying hu w]; rfl
    cases hq : P.info? t with
    | none => simp [hq] at hs
    | some m =>
      have hm : m.size = 1 := by simpa [hq] using hs
      unfold execOp
      simp only [ho, hx, hy]
      simp [Instr.storeAt, Instr.sureAddr, Sem.run_bind, hag, hc', hz, sizeOf, typeInfo, hq, hm, go_sem]
  unfold wpOp
  simp only [hi]
  rw [if_pos (wanted_free hg)]
  left
  unfold Oper.wp
  rw [hr]
  show K (a.put o.dst undef) _
  rw [hd]
  exact h
end
def lsd (n m : Nat) : Array Bool := Array.ofFn (n := n) fun i => m.testBit i.val
theorem lsd_is {n m : Nat} (h : m < 2 ^ n) : Lsd n m (lsd n m) := ⟨by simp [lsd], fun j hj => by simp [lsd], h⟩
theorem lsd_set {n m i : Nat} (hi : i < n) : (lsd n m).setIfInBounds i true = lsd n (m ||| 2 ^ i) := by
  apply Array.ext
  · simp [lsd]
  · intro j h1 h2
    have hj : j < (lsd n m).size := by simpa using h1
    rw [Array.getElem_setIfInBounds hj]
    simp only [lsd, Array.getElem_ofFn, Nat.testBit_or, Nat.testBit_two_pow]
    by_cases hij : i = j <;> simp [hij]
theorem lsd_zero (n : Nat) : Array.replicate n false = lsd n 0 := by
  apply Array.ext
  · simp [lsd]
  · intro j h1 h2; simp [lsd]
structure Reg (ops : Array Oper) (lt : List Lt) : Prop where
  lt : ltOf ops = lt
  sel : Region.noSelect ops = true
def takeL (lt : List Lt) (i m : Nat) : Bool :=
  decide (m < 2 ^ lt.length) && match lt[i]? with
    | none => false
    | some x => rdL x i m && lt.zipIdx.all (fun y => y.2 == i || m.testBit y.2 || y.1.1.testBit i || apL x y.1)
def someL (lt : List Lt) (rs : List Nat) (m : Nat) : Bool :=
  decide (m < 2 ^ lt.length) && !rs.isEmpty && lt.zipIdx.all (fun y => rs.contains y.2 == rdL y.1 y.2 m) && rs.all (fun i => decide (i < lt.length))
section
variable {P : Program} {ops : Array Oper} {lt : List Lt} {Q : Exit → Act → World → Prop} {S : World → Prop}
theorem Reg.len (R : Reg ops lt) : lt.length = ops.size := by rw [← R.lt]; simp [ltOf]
def At (P : Program) (ops : Array Oper) (Q : Exit → Act → World → Prop) (S : World → Prop) (fuel m : Nat) (a : Act) (w : World) : Prop := wpAnyH P .any ops (NoPanic Q) S fuel (lsd ops.size m) a w
theorem at_begin {id n : Nat} {a : Act} {w : World} (S : World → Prop) (hm : P.follows .mixedOrders = true) (hn : ops.size = n) (h : At P ops Q S n 0 a w.drew) : (Code.region id ops true).wp P Q a w := by
  refine wp_region_noPanic (wp_region_held (S := S) hm ?_)
  subst hn
  unfold At at h
  rw [← lsd_zero] at h
  exact h
theorem at_done (R : Reg ops lt) {m fuel : Nat} {a : Act} {w : World} (hm : (m == 2 ^ lt.length - 1) = true) (h : Q .normal a w) : At P ops Q S fuel m a w := by
  have hm' : m = 2 ^ ops.size - 1 := by rw [← R.len]; simpa using hm
  have hL := lsd_is (n := ops.size) (m := m) (by rw [hm']; have := Nat.two_pow_pos ops.size; omega)
  refine wpAnyH_done ?_ (NoPanic.normal h) _
  rw [List.eq_nil_iff_forall_not_mem]
  intro j hj
  obtain ⟨h1, o, ho, _⟩ := mem_ready.1 hj
  have hj' : j < ops.size := (Array.getElem?_eq_some_iff.1 ho).1
  rw [hL.tru hj', hm', Nat.testBit_two_pow_sub_one] at h1
  simp [hj'] at h1
theorem at_take (R : Reg ops lt) {m m' i fuel : Nat} {a : Act} {w : World} {o : Oper} {v : Value} (hi : ops[i]? = some o) (hc : takeL lt i m = true) (he : m ||| 2 ^ i = m') (hy : YieldsIf P ops S o v a) (hS : S w)
    (h : At P ops Q S fuel m' (a.put o.dst v) w) : At P ops Q S (fuel + 1) m a w := by
  unfold takeL at hc
  rw [Bool.and_eq_true, decide_eq_true_iff, R.len] at hc
  obtain ⟨hlt, hc⟩ := hc
  rw [at_lt R.lt hi] at hc
  simp only [Bool.and_eq_true] at hc
  have hL := lsd_is hlt
  have hio : i < ops.size := (Array.getElem?_eq_some_iff.1 hi).1
  have hrd := (ready_of hL hi).2 hc.1
  refine wpAnyH_first hi (Region.noSelect_spec R.sel) (fun c a w hh => hh) _ _ a w ?_ hrd hy hS ?_
  · intro j oj hj hne hun hno
    have hj' : j < ops.size := (Array.getElem?_eq_some_iff.1 hj).1
    have hmem : ((aftM oj, oj.dst, oj.looksAt ops), j) ∈ lt.zipIdx := List.mem_zipIdx_iff_getElem?.2 (at_lt R.lt hj)
    have := List.all_eq_true.1 hc.2 _ hmem
    rw [hL.tru hj'] at hun
    simp only [hun, Bool.or_false] at this
    rw [show (j == i) = false from by rw [beq_eq_false_iff_ne]; exact hne, Bool.false_or, Bool.or_eq_true] at this
    rcases this with h1 | h1
    · obtain ⟨e, he, hb, hk⟩ := (aftM_bit oj i).1 h1
      exact absurd hk (hno e he hb)
    · exact h1
  · unfold At at h
    rw [lsd_set hio, he]
    exact h
theorem at_some (R : Reg ops lt) {m fuel : Nat} {a : Act} {w : World} (rs : List Nat) (hc : someL lt rs m = true)
    (h : ∀ i ∈ rs, wpOp P ops (NoPanic Q) i (fun a' w' => S w' ∧ At P ops Q S fuel (m ||| 2 ^ i) a' w') a w) : At P ops Q S (fuel + 1) m a w := by
  unfold someL at hc
  simp only [Bool.and_eq_true, decide_eq_true_iff, Bool.not_eq_true'] at hc
  obtain ⟨⟨⟨hlt, hne⟩, hall⟩, hin⟩ := hc
  rw [R.len] at hlt
  have hL := lsd_is hlt
  have hmem : ∀ j oj, ops[j]? = some oj → (j ∈ Region.ready .any ops (lsd ops.size m) ↔ j ∈ rs) := fun j oj hj => by
    rw [ready_of hL hj]
    have hz : ((aftM oj, oj.dst, oj.looksAt ops), j) ∈ lt.zipIdx := List.mem_zipIdx_iff_getElem?.2 (at_lt R.lt hj)
    have := List.all_eq_true.1 hall _ hz
    rw [beq_iff_eq] at this
    rw [← this]
    simp
  refine ⟨fun h0 => ?_, fun j hj => ?_⟩
  · cases rs with
    | nil => simp at hne
    | cons i r =>
      have hi : i < ops.size := by rw [← R.len]; simpa using List.all_eq_true.1 hin i (by simp)
      have := (hmem i ops[i] (Array.getElem?_eq_getElem hi)).2 (by simp)
      rw [h0] at this
      cases this
  · obtain ⟨_, oj, hoj, _⟩ := mem_ready.1 hj
    have hjo : j < ops.size := (Array.getElem?_eq_some_iff.1 hoj).1
    rw [lsd_set hjo]
    exact h j ((hmem j oj hoj).1 hj)
theorem at_one (R : Reg ops lt) {m m' i fuel : Nat} {a : Act} {w : World} (hc : someL lt [i] m = true) (he : m ||| 2 ^ i = m')
    (h : wpOp P ops (NoPanic Q) i (fun a' w' => S w' ∧ At P ops Q S fuel m' a' w') a w) : At P ops Q S (fuel + 1) m a w :=
  at_some R [i] hc fun j hj => by
    obtain rfl : j = i := by simpa using hj
    rw [he]
    exact h
theorem at_two (R : Reg ops lt) {m m1 m2 i j fuel : Nat} {a : Act} {w : World} (hc : someL lt [i, j] m = true) (e1 : m ||| 2 ^ i = m1) (e2 : m ||| 2 ^ j = m2)
    (h1 : wpOp P ops (NoPanic Q) i (fun a' w' => S w' ∧ At P ops Q S fuel m1 a' w') a w) (h2 : wpOp P ops (NoPanic Q) j (fun a' w' => S w' ∧ At P ops Q S fuel m2 a' w') a w) : At P ops Q S (fuel + 1) m a w :=
  at_some R [i, j] hc fun k hk => by
    simp only [List.mem_cons, List.not_mem_nil, or_false] at hk
    rcases hk with rfl | rfl
    · rw [e1]; exact h1
    · rw [e2]; exact h2
def Fz (n : Nat) (a : Act) : Prop := a.tmps.size = n ∧ a.defers = []
theorem Fz.put {n : Nat} {a : Act} (h : Fz n a) (d : Option Nat) (v : Value) : Fz n (a.put d v) := ⟨put_size.trans h.1, by cases d <;> exact h.2⟩
theorem y_load_row {o : Oper} {a : Act} {x : Operand} {t : TypeId} {b c : Nat} {cs : List Value} {d : TypeDesc} (hg : o.guard = none) (ho : o.op = .load t x) (hx : a.eval x = .pointer (some ⟨b, c, none⟩))
    (hu : P.underlying t = some d) (hd : d.isRow = true) (hi : (P.info? t).map (·.size) = some cs.length) (hc : ∀ w, S w → w.rangeAt b c cs) : YieldsIf P ops S o (.agg cs.toArray) a := by
  refine y_of hg fun w hw => ?_
  unfold execOp
  simp only [ho, hx]
  simp [run_loadAt_mid w b c t cs d (hc w hw) hu hd hi, Sem.run_bind]
end
end Go.Proofs.YtpmobjfhhkglbaaGreatDoor
