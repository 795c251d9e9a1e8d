/- The document's Parts. -/
import Derived.Test.YtiedkpfpaeecfaaTpR
import Derived.Test.YtiedkpfpaeecfaaPApp
import Derived.Test.YtiedkpfpaeecfaaPlIn
namespace Go.Proofs.Ytiedkpfpaeecfaa
open Go.RowKit
set_option linter.unusedVariables false
set_option linter.unusedSimpArgs false

theorem Bx2.range {W : World} {B : Nat} {v0 v1 : Value} (h : Bx2 W B v0 v1) : W.rangeAt B 0 [v0, v1] := fun j v hv => by
  match j, hv with
  | 0, hv => simp at hv; subst hv; exact h.c0
  | 1, hv => simp at hv; subst hv; exact h.c1
theorem Bx2.row {W : World} {B : Nat} {v0 v1 u0 u1 : Value} (h : Bx2 W B v0 v1) : Bx2 (W.setRow B #[u0, u1]) B u0 u1 := ⟨setRow_heap W B _ _ _ _ h.here⟩
def ptlt : List Lt := [(0, some 21, [7]), (0, some 22, [1]), (0, some 23, [9]), (6, some 24, [22, 23]), (8, some 25, [24]), (17, some 26, [21, 25]), (32, some 20, [26]), (64, some 27, [20]), (64, some 28, [20]), (64, some 29, [20]), (0, some 10, []), (1279, none, [10, 27]), (3583, some 11, [28]), (8191, some 12, [29])]
theorem ptreg : Reg (opsA (cLA (cBA (cLA (cRA (cLpA (cBA (cRA (cLA (cRA (cRA (cRA (Try.f9.body.getD .skip))))))))))))) ptlt := ⟨by kernel_rfl, by kernel_rfl⟩
theorem at_beginR {P : Program} {ops : Array Oper} {id k : Nat} {a : Act} {w : World} {Q : Exit → Act → World → Prop} {R : Act → World → Prop} (S : World → Prop) (hm : P.follows .mixedOrders = true) (hn : ops.size = k) (h : At P ops (onlyN R) S k 0 a w.drew) (hQ : ∀ a w, R a w → Q .normal a w) : (Code.region id ops true).wp P Q a w := by
  refine Code.wp_mono ?_ (at_begin S hm hn h)
  intro e a w hh
  cases e <;> first | exact hQ _ _ hh | exact (hh : False).elim
/-- an int read off a slice of ints -/
theorem y_index_at {P : Program} {ops : Array Oper} {S : World → Prop} {o : Oper} {a : Act} {x y : Operand} {t e : TypeId} {g f n c i : Nat} (hg : o.guard = none) (ho : o.op = .indexAddr t x y) (hx : a.eval x = .slice (some ⟨g, f, none⟩) n c) (hy : a.eval y = .int .i64 (i : Int)) (hu : P.underlying t = some (.slice e)) (hs : (P.info? e).map (·.size) = some 1) (hi : i < n) : YieldsIf P ops S o (.pointer (some ⟨g, f + i, none⟩)) a := by
  cases hq : P.info? e with
  | none => simp [hq] at hs
  | some z =>
    have hz : z.size = 1 := by simpa [hq] using hs
    refine y_of hg fun w _ => ?_
    unfold execOp
    simp only [ho, hx, hy]
    simp [Instr.indexAt, asIntOf, Sem.run_bind, run_underlying hu w, sizeOf, typeInfo, hq, hz, hi, Addr.add, go_sem]
    try omega
theorem p_alloc2 {P : Program} {ops : Array Oper} {K : Act → World → Prop} {Q : Exit → Act → World → Prop} {i : Nat} {o : Oper} {a : Act} {w : World} {t : TypeId} {d : Option Nat} {z : TypeInfo} {v0 v1 : Value} (hi : ops[i]? = some o) (hg : o.guard = none) (ho : o.op = .alloc t) (hd : o.dst = d) (hz : P.info? t = some z) (hz0 : z.zero = some (.agg #[v0, v1]))
    (h : K (a.put d (.pointer (some ⟨w.heap.size, 0, none⟩))) (w.alloc (.cells #[v0, v1] t))) : wpOp P ops Q i K a w := by
  have hr : (execOp a.eval o).run P w = .ok (.value (.pointer (some ⟨w.heap.size, 0, none⟩))) (w.alloc (.cells #[v0, v1] t)) := by
    unfold execOp
    simp only [ho]
    simp [Sem.run_bind, Instr.alloc, zeroValue, typeInfo, hz, hz0, go_sem]
  unfold wpOp
  simp only [hi]
  rw [if_pos (wanted_free hg)]
  left
  unfold Oper.wp
  rw [hr]
  show K (a.put o.dst _) _
  rw [hd]
  exact h
/-- Take, whatever comes -/
def tkY (n : Nat) (x k : Int) : Int := if tkC n x k = 0 then x + k else x
theorem rtake_any (l : List Nat) (v : Value) (x k : Int) (w : World) (hv : Row .u8 256 w v l) (tv : Tidy v) :
    Calls Try.prog 7 #[.agg #[v, .int .i64 x], .int .i64 k] w fun e w' => ∃ u, e = .returned (.tuple #[.agg #[v, .int .i64 (tkY l.length x k)], u, .int .i64 (tkC l.length x k)]) ∧ (tkC l.length x k = 0 → Part v x k u) ∧ (tkC l.length x k ≠ 0 → u = .slice none 0 0) ∧ Below w.heap.size w w' := by
  by_cases h : tkC l.length x k = 0
  · refine (rtake_ok l v x k w hv tv h).mono ?_
    rintro e w' ⟨u, rfl, hp, hb⟩
    exact ⟨u, by unfold tkY; rw [if_pos h, h], fun _ => hp, fun hh => absurd h hh, hb⟩
  · obtain ⟨a, c, rfl, _⟩ := hv.opens rfl
    refine (rtake_no a l.length c x k w h).mono ?_
    rintro e w' ⟨rfl, hb⟩
    exact ⟨_, by unfold tkY; rw [if_neg h], fun hh => absurd hh h, fun _ => rfl, hb⟩
theorem keep_row {x y : World} {B : Nat} {c : Array Value} (h : Below x.heap.size x y) (hB : x.heap.size ≤ B) : Below x.heap.size x (y.setRow B c) := h.trans (((But.refl B y).setRow c).below hB h.size)
theorem Bx2.grown {W W' : World} {B : Nat} {v0 v1 : Value} {row : Option Nat} (h : Bx2 W B v0 v1) (hg : W.grownBy W' row) (hn : some B ≠ row) : Bx2 W' B v0 v1 := ⟨(hg.block B h.lt hn).trans h.here⟩
theorem own_set2 {W : World} {base B n : Nat} {e : TypeId} {v u0 u1 : Value} {xs : List Value} (h : W.ownsRow base e 1 v n xs) (hB : B < base) : ((W.setCell ⟨B, 0, none⟩ u0).setCell ⟨B, 1, none⟩ u1).ownsRow base e 1 v n xs := by
  have hb := but_set2 W B u0 u1
  refine h.kept (row := some B) ⟨hb.os, hb.tape, hb.output, hb.size, fun k hk hne => hb.block k hk fun e => hne (by rw [e])⟩ ?_
  cases hvo : v.ownBlock with
  | none => exact .inl rfl
  | some q => exact .inr fun e => by have := (h.lt q hvo).1; cases e; omega
theorem own_after {W : World} {base n : Nat} {e : TypeId} {v : Value} {xs : List Value} (h : W.ownsRow base e 1 v n xs) (W0 : World) (B : Nat) (u0 u1 : Value) (hB : B < base) (o : Obj) : (((W.setCell ⟨B, 0, none⟩ u0).setCell ⟨B, 1, none⟩ u1).alloc o).ownsRow base e 1 v n xs := (own_set2 h hB).alloc o
/-- where the loop stands -/
structure PtI (w : World) (l : List Nat) (v : Value) (x : Int) (ks : List Int) (i : Nat) (us : List Value) (vo : Value) (wr : World) : Prop where
  le : i ≤ ks.length
  good : ptC l.length x (ks.take i) = 0
  b2 : Bx2 wr w.heap.size v (.int .i64 x)
  b4 : Bx2 wr (w.heap.size + 1) (.slice none 0 0) (.int .i64 0)
  b7 : Bx2 wr (w.heap.size + 1 + 1) v (.int .i64 (ptA x (ks.take i)))
  own : wr.ownsRow (w.heap.size + 3) 22 1 vo i us
  txt : Texts w us (ptL l x (ks.take i))
  bel : Below w.heap.size w wr
theorem PtI.below {w wr w' : World} {l : List Nat} {v vo : Value} {x : Int} {ks : List Int} {i : Nat} {us : List Value} (h : PtI w l v x ks i us vo wr) (hb : Below wr.heap.size wr w') : PtI w l v x ks i us vo w' :=
  ⟨h.le, h.good, h.b2.below hb, h.b4.below hb, h.b7.below hb, h.own.kept (row := none) ⟨hb.os, hb.tape, hb.output, hb.size, fun k hk _ => hb.block k hk⟩ (by cases hvo : vo.ownBlock with | none => exact .inl rfl | some q => exact .inr (by simp)), h.txt, h.bel.trans (hb.mono h.bel.size)⟩
def PtL (w : World) (l : List Nat) (v : Value) (x : Int) (ks : List Int) (vo vi : Value) (wr : World) : Prop := ∃ (i : Nat) (us : List Value), vi = .int .i64 (i : Int) ∧ PtI w l v x ks i us vo wr
set_option maxHeartbeats 4000000 in
set_option maxRecDepth 100000 in
theorem rparts_any (l : List Nat) (v kv : Value) (x : Int) (ks : List Int) (w : World) (hv : Row .u8 256 w v l) (tv : Tidy v) (hk : RowI w kv ks) (hn : ks.length ≤ 100000) :
    Calls Try.prog 9 #[.agg #[v, .int .i64 x], kv] w fun e w' => (ptC l.length x ks ≠ 0 ∧ e = .returned (.tuple #[.agg #[v, .int .i64 x], .slice none 0 0, .int .i64 (ptC l.length x ks)]) ∧ Below w.heap.size w w') ∨
      (ptC l.length x ks = 0 ∧ ∃ u, e = .returned (.tuple #[.agg #[v, .int .i64 (ptA x ks)], u, .int .i64 0]) ∧ Rows2 w' u (ptL l x ks) ∧ Below w.heap.size w w') := by
  obtain ⟨a, c, rfl, lc1, lc2, _⟩ := hv.opens rfl
  obtain ⟨ka, kc, hke, kl1, kl2, kcell, kr⟩ := hk
  subst hke
  generalize hN : ks.length = N at *
  have h0 : PtL w l (.slice a l.length c) x ks (.slice none 0 0) (.int .i64 0) (((w.alloc (.cells #[.slice a l.length c, .int .i64 x] 24)).alloc (.cells #[.slice none 0 0, .int .i64 0] 24)).alloc (.cells #[.slice a l.length c, .int .i64 x] 24)) := by
    obtain ⟨e2, e4, e5⟩ := two_bx w (.slice a l.length c) (.int .i64 x) (.slice none 0 0) (.int .i64 0)
    have e7 := Bx2.new ((w.alloc (.cells #[.slice a l.length c, .int .i64 x] 24)).alloc (.cells #[.slice none 0 0, .int .i64 0] 24)) (.slice a l.length c) (.int .i64 x)
    rw [World.size_alloc, World.size_alloc] at e7
    exact ⟨0, [], rfl, Nat.zero_le _, rfl, e2.below (keep_alloc _ _), e4.below (keep_alloc _ _), e7, World.ownsRow_nil _ _ _ _, Texts.nil _, keep_trans e5 (keep_alloc _ _)⟩
  have H0 := hide h0
  have HV := hide (And.intro hv (And.intro tv (And.intro kcell (And.intro kr hN))))
  clear h0 hv tv kcell kr
  generalize hn1 : l.length = n at *
  go_enter Try.func9, Try.ntmps9
  go_wp2
  go_loopw [8, 9] (fun vo vi wr => PtL w l (.slice a n c) x ks vo vi wr) (fun _ vi _ => N - (intOf vi).toNat)
  case atStart => exact H0.out
  case round =>
    obtain ⟨i, us, rfl, P⟩ := hrel
    obtain ⟨oa, oc, rfl⟩ : ∃ oa oc, u8 = .slice oa i oc := by
      rcases P.own.2 with ⟨rfl, h0⟩ | ⟨g, cap, cur, rfl, _⟩
      · exact ⟨none, 0, by rw [h0]⟩
      · exact ⟨_, _, rfl⟩
    clear H0
    obtain ⟨hv, tv, kcell, kr, hN⟩ := HV.out
    by_cases hlt : i < N
    · obtain ⟨kb, ko, rfl, hkc⟩ := kcell (by omega)
      obtain ⟨k, hkk⟩ : ∃ k, k = ks.getD i 0 := ⟨_, rfl⟩
      have ck := hkc i hlt
      rw [← hkk] at ck
      obtain ⟨y, hy⟩ : ∃ y, y = ptA x (ks.take i) := ⟨_, rfl⟩
      have b7 := P.b7
      rw [← hy] at b7
      have hpb := P.bel
      have htk := fun z (hb : Below wr.heap.size wr z) => rtake_any l (.slice a n c) y k z (hv.below (hpb.trans (hb.mono hpb.size))) tv
      rw [hn1] at htk
      obtain ⟨y2, hy2⟩ : ∃ y2, y2 = tkY n y k := ⟨_, rfl⟩
      obtain ⟨cd, hcd⟩ : ∃ cd, cd = tkC n y k := ⟨_, rfl⟩
      rw [← hy2, ← hcd] at htk
      have htake : ks.take (i + 1) = ks.take i ++ [k] := by
        rw [hkk, List.take_succ_eq_append_getElem (by omega)]
        simp [List.getD, List.getElem?_eq_getElem (show i < ks.length by omega)]
      have hks : ks = ks.take i ++ k :: ks.drop (i + 1) := by
        rw [hkk]
        conv => lhs; rw [← List.take_append_drop i ks, List.drop_eq_getElem_cons (by omega)]
        simp [List.getD, List.getElem?_eq_getElem (show i < ks.length by omega)]
      have ckr : wr.cell? ⟨kb, ko + i, none⟩ = some (.int .i64 k) := by rw [hpb.cell (p := ⟨kb, ko + i, none⟩) (World.block_lt_of_cell? _ _ ck)]; exact ck
      have hli : (i : Int) < (N : Int) := by omega
      have hSf : ∀ z, Below wr.heap.size wr z → z.rangeAt (w.heap.size + 1 + 1) 0 [.slice a n c, .int .i64 y] ∧ z.cell? ⟨kb, ko + i, none⟩ = some (.int .i64 k) := fun z hb => ⟨(b7.below hb).range, keep_cell ckr hb⟩
      have hbd : Below wr.heap.size wr wr.drew := (Below.refl _ _).drew
      have hS0 := hSf _ hbd
      obtain ⟨ti, hti, htz⟩ : ∃ z, Try.prog.info? 24 = some z ∧ z.zero = some (.agg #[.slice none 0 0, .int .i64 0]) := by
        have : (Try.prog.info? 24).map (·.zero) = some (some (.agg #[.slice none 0 0, .int .i64 0])) := by kernel_rfl
        cases h : Try.prog.info? 24 with
        | none => rw [h] at this; cases this
        | some i => rw [h] at this; exact ⟨i, rfl, Option.some.inj this⟩
      have hsl : ∀ u : Value, (cd = 0 → Part (.slice a n c) y k u) → (cd ≠ 0 → u = .slice none 0 0) → ∃ ua um uc, u = .slice ua um uc := fun u h1 h2 => by
        by_cases h : cd = 0
        · obtain ⟨_, _, _, _, _, _, _, _, _, rfl, _⟩ := h1 h
          exact ⟨_, _, _, rfl⟩
        · exact ⟨_, _, _, h2 h⟩
      have HQ := hide (And.intro hkk (And.intro hy (And.intro hy2 (And.intro hcd (And.intro htake (And.intro hks (And.intro hN hn1)))))))
      have HP := hide (And.intro P (And.intro hv (And.intro tv (And.intro b7 ckr))))
      have sz0 := hpb.size
      have s7 := b7.lt
      clear hkk hy hy2 hcd htake hks hN hn1 P hv tv kcell kr hkc ck b7 ckr
      go_wp2
      refine at_beginR (ops := opsA (cLA (cBA (cLA (cRA (cLpA (cBA (cRA (cLA (cRA (cRA (cRA (Try.f9.body.getD .skip))))))))))))) (k := 14) (R := fun a' W' => ∃ (B10 : Nat) (ua : Option Addr) (um uc : Nat) (u : Value), u = .slice ua um uc ∧ a' = { tmps := #[.agg #[.slice a n c, .int .i64 x], .slice (some ⟨kb, ko, none⟩) N kc, .pointer (some ⟨w.heap.size, 0, none⟩), undef, .pointer (some ⟨w.heap.size + 1, 0, none⟩), u5, u6, .pointer (some ⟨w.heap.size + 1 + 1, 0, none⟩), .slice oa i oc, .int .i64 (i : Int), .pointer (some ⟨B10, 0, none⟩), u, .int .i64 cd, .agg #[.slice a n c, .int .i64 x], .int .i64 (i : Int), .slice (some ⟨kb, ko, none⟩) N kc, .int .i64 (N : Int), .bool true, u18, u19, .tuple #[.agg #[.slice a n c, .int .i64 y2], u, .int .i64 cd], .agg #[.slice a n c, .int .i64 y], .slice (some ⟨kb, ko, none⟩) N kc, .int .i64 (i : Int), .pointer (some ⟨kb, ko + i, none⟩), .int .i64 k, .tuple #[.agg #[.slice a n c, .int .i64 y2], u, .int .i64 cd], .agg #[.slice a n c, .int .i64 y2], u, .int .i64 cd, u30, u31, u32, u33, u34, u35, u36, u37, u38, undef, undef], defers := [] } ∧ wr.heap.size ≤ B10 ∧ Bx2 W' B10 (.slice a n c) (.int .i64 y2) ∧ (cd = 0 → Part (.slice a n c) y k u) ∧ (cd ≠ 0 → u = .slice none 0 0) ∧ Below wr.heap.size wr W') (fun yy => yy.rangeAt (w.heap.size + 1 + 1) 0 [.slice a n c, .int .i64 y] ∧ yy.cell? ⟨kb, ko + i, none⟩ = some (.int .i64 k)) (by kernel_rfl) (by kernel_rfl) ?reg ?cont
      case reg =>
        refine at_takeD (i := 0) (m' := 1) (d := some 21) (v := .agg #[.slice a n c, .int .i64 y]) ptreg rfl (by decide) rfl rfl (y_load_row (cs := [.slice a n c, .int .i64 y]) rfl rfl rfl Try.underlying24 rfl (by kernel_rfl) (fun _ h => h.1)) hS0 ?_
        simp only [Act.put, List.setIfInBounds_toArray, List.set_cons_zero, List.set_cons_succ]
        refine at_takeD (i := 1) (m' := 3) (d := some 22) (v := .slice (some ⟨kb, ko, none⟩) N kc) ptreg rfl (by decide) rfl rfl (y_move rfl rfl rfl) hS0 ?_
        simp only [Act.put, List.setIfInBounds_toArray, List.set_cons_zero, List.set_cons_succ]
        refine at_takeD (i := 2) (m' := 7) (d := some 23) (v := .int .i64 (i : Int)) ptreg rfl (by decide) rfl rfl (y_move rfl rfl rfl) hS0 ?_
        simp only [Act.put, List.setIfInBounds_toArray, List.set_cons_zero, List.set_cons_succ]
        refine at_takeD (i := 3) (m' := 15) (d := some 24) (v := .pointer (some ⟨kb, ko + i, none⟩)) ptreg rfl (by decide) rfl rfl (y_index_at rfl rfl rfl rfl Try.underlying25 (by kernel_rfl) hlt) hS0 ?_
        simp only [Act.put, List.setIfInBounds_toArray, List.set_cons_zero, List.set_cons_succ]
        refine at_takeD (i := 4) (m' := 31) (d := some 25) (v := .int .i64 k) ptreg rfl (by decide) rfl rfl (y_load rfl rfl rfl Try.underlying3 (fun _ h => h.2)) hS0 ?_
        simp only [Act.put, List.setIfInBounds_toArray, List.set_cons_zero, List.set_cons_succ]
        refine at_two (i := 5) (j := 10) (m1 := 63) (m2 := 1055) ptreg (by decide) rfl rfl ?_ ?_
        · refine p_call2 (u := .agg #[.slice a n c, .int .i64 y]) (v := .int .i64 k) (d := some 26) rfl rfl rfl rfl rfl rfl Try.call7 ((htk _ hbd).mono ?_)
          rintro e z1 ⟨u, rfl, hu1, hu2, hb1⟩
          obtain ⟨ua, um, uc, rfl⟩ := hsl u hu1 hu2
          have hbz := keep_trans hbd hb1
          refine ⟨_, rfl, hSf _ hbz, ?_⟩
          simp only [Act.put, List.setIfInBounds_toArray, List.set_cons_zero, List.set_cons_succ]
          have hS2 := hSf _ hbz
          refine at_takeD (i := 6) (m' := 127) (d := some 20) (v := .tuple #[.agg #[.slice a n c, .int .i64 y2], .slice ua um uc, .int .i64 cd]) ptreg rfl (by decide) rfl rfl (y_move rfl rfl rfl) hS2 ?_
          simp only [Act.put, List.setIfInBounds_toArray, List.set_cons_zero, List.set_cons_succ]
          refine at_takeD (i := 7) (m' := 255) (d := some 27) (v := .agg #[.slice a n c, .int .i64 y2]) ptreg rfl (by decide) rfl rfl (y_extract rfl rfl rfl rfl) hS2 ?_
          simp only [Act.put, List.setIfInBounds_toArray, List.set_cons_zero, List.set_cons_succ]
          refine at_takeD (i := 8) (m' := 511) (d := some 28) (v := .slice ua um uc) ptreg rfl (by decide) rfl rfl (y_extract rfl rfl rfl rfl) hS2 ?_
          simp only [Act.put, List.setIfInBounds_toArray, List.set_cons_zero, List.set_cons_succ]
          refine at_takeD (i := 9) (m' := 1023) (d := some 29) (v := .int .i64 cd) ptreg rfl (by decide) rfl rfl (y_extract rfl rfl rfl rfl) hS2 ?_
          simp only [Act.put, List.setIfInBounds_toArray, List.set_cons_zero, List.set_cons_succ]
          refine at_one (i := 10) (m' := 2047) ptreg (by decide) rfl ?_
          refine p_alloc2 (d := some 10) rfl rfl rfl rfl hti htz ⟨hSf _ (keep_trans hbz (keep_alloc _ _)), ?_⟩
          simp only [Act.put, List.setIfInBounds_toArray, List.set_cons_zero, List.set_cons_succ]
          have bz := Bx2.new z1 (.slice none 0 0) (.int .i64 0)
          have hB10 := hbz.size
          replace hbz := keep_trans hbz (keep_alloc z1 (.cells #[.slice none 0 0, .int .i64 0] 24))
          refine at_one (i := 11) (m' := 4095) ptreg (by decide) rfl ?_
          refine p_rowA (cells := #[.slice a n c, .int .i64 y2]) rfl rfl rfl rfl rfl rfl bz.here (by kernel_rfl) rfl (by simp [Value.oneCell']) ⟨?_, ?_⟩
          · exact hSf _ (keep_row hbz hB10)
          have bF := bz.row (u0 := .slice a n c) (u1 := .int .i64 y2)
          have hbF := keep_row (c := #[.slice a n c, .int .i64 y2]) hbz hB10
          refine at_takeD (i := 12) (m' := 8191) (d := some 11) (v := .slice ua um uc) ptreg rfl (by decide) rfl rfl (y_assignA rfl rfl rfl) (hSf _ hbF) ?_
          simp only [Act.put, List.setIfInBounds_toArray, List.set_cons_zero, List.set_cons_succ]
          refine at_takeD (i := 13) (m' := 16383) (d := some 12) (v := .int .i64 cd) ptreg rfl (by decide) rfl rfl (y_assignA rfl rfl rfl) (hSf _ hbF) ?_
          simp only [Act.put, List.setIfInBounds_toArray, List.set_cons_zero, List.set_cons_succ]
          refine at_done ptreg (by decide) ?_
          exact ⟨_, ua, um, uc, _, rfl, rfl, hB10, bF, hu1, hu2, hbF⟩
        · have hbA := keep_trans hbd (keep_alloc wr.drew (.cells #[.slice none 0 0, .int .i64 0] 24))
          refine p_alloc2 (d := some 10) rfl rfl rfl rfl hti htz ⟨hSf _ hbA, ?_⟩
          simp only [Act.put, List.setIfInBounds_toArray, List.set_cons_zero, List.set_cons_succ]
          refine at_one (i := 5) (m' := 1087) ptreg (by decide) rfl ?_
          refine p_call2 (u := .agg #[.slice a n c, .int .i64 y]) (v := .int .i64 k) (d := some 26) rfl rfl rfl rfl rfl rfl Try.call7 ((htk _ hbA).mono ?_)
          rintro e z1 ⟨u, rfl, hu1, hu2, hb1⟩
          obtain ⟨ua, um, uc, rfl⟩ := hsl u hu1 hu2
          have hbz := keep_trans hbA hb1
          refine ⟨_, rfl, hSf _ hbz, ?_⟩
          simp only [Act.put, List.setIfInBounds_toArray, List.set_cons_zero, List.set_cons_succ]
          have hS2 := hSf _ hbz
          refine at_takeD (i := 6) (m' := 1151) (d := some 20) (v := .tuple #[.agg #[.slice a n c, .int .i64 y2], .slice ua um uc, .int .i64 cd]) ptreg rfl (by decide) rfl rfl (y_move rfl rfl rfl) hS2 ?_
          simp only [Act.put, List.setIfInBounds_toArray, List.set_cons_zero, List.set_cons_succ]
          refine at_takeD (i := 7) (m' := 1279) (d := some 27) (v := .agg #[.slice a n c, .int .i64 y2]) ptreg rfl (by decide) rfl rfl (y_extract rfl rfl rfl rfl) hS2 ?_
          simp only [Act.put, List.setIfInBounds_toArray, List.set_cons_zero, List.set_cons_succ]
          refine at_takeD (i := 8) (m' := 1535) (d := some 28) (v := .slice ua um uc) ptreg rfl (by decide) rfl rfl (y_extract rfl rfl rfl rfl) hS2 ?_
          simp only [Act.put, List.setIfInBounds_toArray, List.set_cons_zero, List.set_cons_succ]
          refine at_takeD (i := 9) (m' := 2047) (d := some 29) (v := .int .i64 cd) ptreg rfl (by decide) rfl rfl (y_extract rfl rfl rfl rfl) hS2 ?_
          simp only [Act.put, List.setIfInBounds_toArray, List.set_cons_zero, List.set_cons_succ]
          have bz := (Bx2.new wr.drew (.slice none 0 0) (.int .i64 0)).below hb1
          have hB10 : wr.heap.size ≤ wr.drew.heap.size := hbd.size
          refine at_one (i := 11) (m' := 4095) ptreg (by decide) rfl ?_
          refine p_rowA (cells := #[.slice a n c, .int .i64 y2]) rfl rfl rfl rfl rfl rfl bz.here (by kernel_rfl) rfl (by simp [Value.oneCell']) ⟨?_, ?_⟩
          · exact hSf _ (keep_row hbz hB10)
          have bF := bz.row (u0 := .slice a n c) (u1 := .int .i64 y2)
          have hbF := keep_row (c := #[.slice a n c, .int .i64 y2]) hbz hB10
          refine at_takeD (i := 12) (m' := 8191) (d := some 11) (v := .slice ua um uc) ptreg rfl (by decide) rfl rfl (y_assignA rfl rfl rfl) (hSf _ hbF) ?_
          simp only [Act.put, List.setIfInBounds_toArray, List.set_cons_zero, List.set_cons_succ]
          refine at_takeD (i := 13) (m' := 16383) (d := some 12) (v := .int .i64 cd) ptreg rfl (by decide) rfl rfl (y_assignA rfl rfl rfl) (hSf _ hbF) ?_
          simp only [Act.put, List.setIfInBounds_toArray, List.set_cons_zero, List.set_cons_succ]
          refine at_done ptreg (by decide) ?_
          exact ⟨_, ua, um, uc, _, rfl, rfl, hB10, bF, hu1, hu2, hbF⟩
      case cont =>
        rintro a' W1 ⟨B10, ua, um, uc, u, rfl, rfl, hB10, bx, hu1, hu2, hb1⟩
        obtain ⟨P, hv, tv, b7, ckr⟩ := HP.out
        have P1 := P.below hb1
        have q0 := bx.c0
        have q1 := bx.c1
        have k20 := P1.b2.c0
        have k21 := P1.b2.c1
        have k40 := P1.b4.c0
        have k41 := P1.b4.c1
        have f40 := P1.b4.f0
        have f41 := P1.b4.f1
        have k70 := P1.b7.c0
        have k71 := P1.b7.c1
        have f70 := P1.b7.f0
        have f71 := P1.b7.f1
        have HP1 := hide (And.intro P1 (And.intro bx (And.intro hB10 hb1)))
        clear P P1 hv tv b7 ckr bx hB10 hSf hS0 htk hsl
        by_cases hc0 : cd = 0
        · subst hc0
          obtain ⟨i0, hi, hz0, hz1, hz2⟩ := info_text
          obtain ⟨Q, hQ⟩ : ∃ x : Nat, x = i + 1 := ⟨_, rfl⟩
          have e_Q : (i : Int) + 1 = (Q : Int) := by omega
          have s_Q : IntKind.i64.wrap (Q : Int) = (Q : Int) := by rw [IntKind.wrap_i64]; omega
          have HQ2 := hide hQ
          clear hQ
          go_wp2_with (first
            | (refine wpList_append_rows _ rfl _ _ 32 32 22 rfl Try.underlying32 (w.heap.size + 3) 22 i0 (.slice none 0 0) 24 Try.underlying32 hi hz0 hz1 hz2 rfl _ i us rfl (own_after HP1.out.1.own W1 (w.heap.size + 1 + 1) _ _ (by omega) _) (some ⟨W1.heap.size, 0, none⟩) 1 1 [.slice ua um uc] rfl rfl (fun _ => ⟨_, _, rfl, fun jj uu h => by
                have : jj = 0 := by have := (List.getElem?_eq_some_iff.1 h).1; simp at this; exact this
                subst this
                rw [World.cell?_alloc_at _ _ _ _ (by simp)]; simpa using h⟩) (fun uu hu => by simp at hu; rw [hu]; rfl) (by unfold maxLen; omega) (by omega) (by rw [World.size_alloc, World.size_setCell, World.size_setCell]; have := HP1.out.2.2.2.size; omega) ?_; intro v7 w7 how7 hg7)
            | fail)
          obtain ⟨P1, bx, hB10, hb1⟩ := HP1.out
          obtain ⟨hkk, hy, hy2, hcd, htake, hks, hN, hn1⟩ := HQ.out
          obtain ⟨P0, hv, tv, _, _⟩ := HP.out
          have hQ := HQ2.out
          have hlw : ∀ q, (Value.slice oa i oc).ownBlock = some q → w.heap.size + 3 ≤ q := fun q hq => (P1.own.lt q hq).1
          have hb7 := but_set2 W1 (w.heap.size + 1 + 1) (.slice a n c) (.int .i64 y2)
          have c2 := P1.b2.but hb7 (by omega)
          have c4 := P1.b4.but hb7 (by omega)
          have c7 := P1.b7.set (.slice a n c) (.int .i64 y2)
          have c8 := P1.bel.trans (hb7.below (by omega) P1.bel.size)
          generalize (W1.setCell ⟨w.heap.size + 1 + 1, 0, none⟩ (.slice a n c)).setCell ⟨w.heap.size + 1 + 1, 1, none⟩ (.int .i64 y2) = W2 at *
          have g2 := Bx2.grown (c2.below (keep_alloc W2 (.cells #[.slice ua um uc] 22))) hg7 (fun e => by have := hlw _ e.symm; omega)
          have g4 := Bx2.grown (c4.below (keep_alloc W2 (.cells #[.slice ua um uc] 22))) hg7 (fun e => by have := hlw _ e.symm; omega)
          have g7 := Bx2.grown (c7.below (keep_alloc W2 (.cells #[.slice ua um uc] 22))) hg7 (fun e => by have := hlw _ e.symm; omega)
          have hk0 : tkC l.length y k = 0 := by rw [hn1, ← hcd]
          have hyy : y2 = ptA x (ks.take i ++ [k]) := by
            rw [ptA_snoc, ← hy, hy2]
            unfold tkY
            rw [if_pos hcd.symm]
          obtain ⟨rU, tU⟩ := (hu1 rfl).row hv tv hk0
          refine ⟨⟨Q, us ++ [.slice ua um uc], rfl, ?_⟩, by simp [intOf]; omega⟩
          rw [hQ]
          refine ⟨by omega, ?_, g2, g4, ?_, how7, ?_, ?_⟩
          · rw [htake, ptC_snoc _ _ _ _ P0.good, ← hy]; exact hk0
          · rw [htake, ← hyy]; exact g7
          · rw [htake, ptL_snoc, ← hy]; exact P0.txt.append (Texts.one rU tU)
          · exact (c8.trans ((keep_alloc W2 _).mono c8.size)).grown hg7 (Nat.le_trans c8.size (keep_alloc W2 (.cells #[.slice ua um uc] 22)).size) (fun q hq => by have := hlw q hq; omega)
        · have hcb : (cd != 0) = true := by simp [hc0]
          go_wp2
          obtain ⟨P1, bx, hB10, hb1⟩ := HP1.out
          obtain ⟨hkk, hy, hy2, hcd, htake, hks, hN, hn1⟩ := HQ.out
          have hfin : ptC n x ks = cd := by
            rw [hks, ← hn1, ptC_bad l.length (ks.take i) x k (ks.drop (i + 1)) P1.good (by rw [hn1, ← hy, ← hcd]; exact hc0), hn1, ← hy, ← hcd]
          refine bodyPost_ret ((P1.b4.set (.slice a n c) (.int .i64 x)).load rfl rfl _ rfl) rfl ?_
          exact .inl ⟨by rw [hfin]; exact hc0, by rw [hfin]; rfl, P1.bel.trans ((but_set2 _ _ _ _).below (by omega) P1.bel.size)⟩
    · obtain rfl : i = N := by have := P.le; omega
      have hge : ¬ ((i : Int) < (i : Int)) := by omega
      have k70 := P.b7.c0
      have k71 := P.b7.c1
      have k40 := P.b4.c0
      have k41 := P.b4.c1
      have f40 := P.b4.f0
      have f41 := P.b4.f1
      have ht : ks.take i = ks := List.take_of_length_le (by omega)
      rw [ht] at k71
      have HP := hide (And.intro P (And.intro ht (And.intro hN hn1)))
      clear P ht hN hn1 hv tv kcell kr
      go_wp2
      obtain ⟨P, ht, hN, hn1⟩ := HP.out
      have hg := P.good
      have hp := P.txt
      rw [ht] at hg hp
      refine bodyPost_ret ((P.b4.set (.slice a n c) (.int .i64 (ptA x ks))).load rfl rfl _ rfl) rfl ?_
      have hbF := P.bel.trans ((but_set2 wr (w.heap.size + 1) (.slice a n c) (.int .i64 (ptA x ks))).below (by omega) P.bel.size)
      refine .inr ⟨by rw [← hn1]; exact hg, _, rfl, ?_, hbF⟩
      refine (hp.below hbF).rows2 (B := w.heap.size + 3) ?_
      rw [ptL_len, hN]
      exact own_set2 P.own (by omega)
end Go.Proofs.Ytiedkpfpaeecfaa
