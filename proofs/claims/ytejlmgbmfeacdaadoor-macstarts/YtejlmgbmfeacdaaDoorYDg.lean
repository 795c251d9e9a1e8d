/- What digests texts, as a value: a function with what it has caught. -/
import Derived.Test.YtejlmgbmfeacdaaDoorYAdd
import Derived.Test.YtejlmgbmfeacdaaDoorCSq
namespace Go.Proofs.YtejlmgbmfeacdaaDoor
open Go.RowKit
set_option linter.unusedVariables false
set_option linter.unusedSimpArgs false

/-- a function that digests texts behind the bytes P -/
structure Dg (D : List Nat → List Nat) (fn : FuncId) (cap : Array Value) (P : List Nat) (w : World) : Prop where
  enters : ∀ (args : Array Value) (x : World), (callFunc fn args).run Tryd.prog x = .ok (.enter fn args) x
  calls : ∀ (x : World) (lv : Value) (ls : List (List Nat)), Below w.heap.size w x → Rows2 x lv ls → ls.flatten.length ≤ 100000 →
    Calls Tryd.prog fn (#[lv] ++ cap) x fun e x' => ∃ v, e = .returned v ∧ Own 5 .u8 256 x' x.heap.size v (D (P ++ ls.flatten)) ∧ Below x.heap.size x x'
theorem Dg.below {D : List Nat → List Nat} {fn : FuncId} {cap : Array Value} {P : List Nat} {w w' : World} (h : Dg D fn cap P w) (hb : Below w.heap.size w w') : Dg D fn cap P w' :=
  ⟨h.enters, fun x lv ls hx => h.calls x lv ls (keep_trans hb hx)⟩

set_option maxHeartbeats 2000000 in
set_option maxRecDepth 100000 in
theorem clo1_any (kind : Int) (hk : kind = 1 ∨ kind = 2 ∨ kind = 3) (P : List Nat) (q : Nat) (tv lv : Value) (ls : List (List Nat)) (w : World) (hT : Roots w) (hB : Hb w q kind (wsH kind P) tv P.length) (hRt : Row .u8 256 w tv (tlH kind P)) (tT : Tidy tv) (hL : Rows2 w lv ls) (hP : P.length ≤ 1000000) (hls : ls.flatten.length ≤ 100000) :
    Calls Tryd.prog 27 #[lv, .pointer (some ⟨q, 0, none⟩)] w fun e w' => ∃ v, e = .returned v ∧ Own 5 .u8 256 w' w.heap.size v (digD kind (P ++ ls.flatten)) ∧ Below w.heap.size w w' := by
  have hadd := added_any kind hk P tv lv ls w hT hRt tT hL hP hls
  have hend := fun (x : World) (v : Value) (hb : Below w.heap.size w x) (hR : Row .u8 256 x v (tlH kind (P ++ ls.flatten))) (t : Tidy v) => sEnd_any kind (wsH kind (P ++ ls.flatten)) v (tlH kind (P ++ ls.flatten)) (P ++ ls.flatten).length x (hT.below hb) (wsH_8 _ _) (wsH_u64 hk _) hR t (hfit_at hk _ (by rw [List.length_append]; omega)) (by rw [List.length_append]; omega)
  rw [endS_at hk] at hend
  have hBu : w.heap[q]? = some (.cells (hvP kind P tv) 48 (0, 0)) := hB
  generalize digD kind (P ++ ls.flatten) = O at *
  obtain ⟨la, lc, rfl, _⟩ := hL
  change ∀ x v, _ → _ → _ → Calls Tryd.prog 28 #[.agg (hvP kind (P ++ ls.flatten) v)] x _ at hend
  generalize P ++ ls.flatten = Pn at *
  clear hB hRt
  go_enter Tryd.func27, Tryd.ntmps27
  go_wp2_with (first
    | (refine wpList_load_row rfl 48 _ (by rfl) q (by rfl) _ _ _ _ hBu Tryd.underlying48 rfl (by kernel_rfl) ?_)
    | (go_at_call 26; refine hadd.mono ?_; rintro e w1 ⟨v1, rfl, hR1, hT1, _, hb1⟩)
    | (go_at_call 28; refine (hend _ _ hb1 hR1 hT1).mono ?_; rintro e w2 ⟨v2, rfl, hO2, hb2⟩)
    | fail)
  go_ret
  exact ⟨_, rfl, hO2.mono hb1.size, keep_trans hb1 hb2⟩
end Go.Proofs.YtejlmgbmfeacdaaDoor

/- mac.Digest, over what behind tells. -/
namespace Go.Proofs.YtejlmgbmfeacdaaDoor
open Go.RowKit
set_option linter.unusedVariables false
set_option linter.unusedSimpArgs false

theorem rows_lit1 {w : World} {u : Value} {a : List Nat} (hu : Row .u8 256 w u a) (tu : Tidy u) :
    Rows2 (w.alloc (.cells #[u] 22)) (.slice (some ⟨w.heap.size, 0, none⟩) 1 1) [a] := by
  refine ⟨_, 1, rfl, Nat.le_refl _, by unfold maxLen; decide, fun _ => ⟨_, _, rfl, fun i hi => ?_⟩⟩
  have hb := keep_alloc w (.cells #[u] 22)
  obtain rfl : i = 0 := by simp at hi; omega
  exact ⟨u, by rw [World.cell?_alloc_at _ _ _ _ rfl]; rfl, hu.below hb, tu⟩
theorem rows_nil (w : World) : Rows2 w (.slice none 0 0) [] := ⟨none, 0, rfl, Nat.le_refl _, Nat.zero_le _, fun h => by simp at h⟩
/-- what behind tells -/
def BehE (kind : Int) (w : World) : Prop := ∀ (x : World) (lv : Value) (ls : List (List Nat)), Below w.heap.size w x → Rows2 x lv ls → ls.flatten.length ≤ 100000 →
  Calls Tryd.prog 17 #[.int .i64 kind, lv] x fun e x' => ∃ fn cap, e = .returned (.func (.func fn) #[] cap) ∧ Dg (digD kind) fn cap ls.flatten x' ∧ Below x.heap.size x x'

set_option maxHeartbeats 2000000 in
set_option maxRecDepth 100000 in
theorem cdig_of (kind : Int) (bv : Value) (b : List Nat) (w : World) (h : 0 < sizeD kind) (hB : BehE kind w) (hR : Row .u8 256 w bv b) (tB : Tidy bv) (hbl : b.length ≤ 100000) :
    Calls Tryd.prog 10 #[.int .i64 kind, bv] w fun e w' => ∃ v', e = .returned (.tuple #[v', .int .i64 0]) ∧ Own 5 .u8 256 w' w.heap.size v' (digD kind b) ∧ Below w.heap.size w w' := by
  have hs := fun x => csize_any kind x
  have hbe := hB w (.slice none 0 0) [] (Below.refl _ _) (rows_nil _) (by simp)
  have z0 : (((sizeD kind : Nat) : Int) == 0) = false := by rw [beq_eq_false_iff_ne]; omega
  generalize sizeD kind = Z at *
  have eb : [] ++ [b].flatten = b := by simp
  obtain ⟨ba, bc, rfl⟩ := hR.form
  go_enter Tryd.func10, Tryd.ntmps10
  go_wp2_with (first
    | (go_at_call 11; refine (hs _).mono ?_; rintro e x1 ⟨rfl, hx⟩; obtain rfl := hx.symm)
    | (go_at_call 17; refine hbe.mono ?_; rintro e x1 ⟨fn, cap, rfl, hD, hb1⟩; have hen := hD.enters)
    | fail)
  refine (hD.calls _ _ [b] (keep_alloc _ _) (rows_lit1 (hR.below hb1) tB) (by simpa using hbl)).mono ?_
  rintro e x2 ⟨v2, rfl, hO, hb2⟩
  rw [List.flatten_nil, eb] at hO
  go_wp2_with fail
  go_ret2
  exact ⟨_, rfl, hO.mono (keep_trans hb1 (keep_alloc _ _)).size, keep_trans (keep_trans hb1 (keep_alloc _ _)) hb2⟩
end Go.Proofs.YtejlmgbmfeacdaaDoor

/- Steps of drawn regions: functions as values, slices in boxes; what digests with a key. -/
namespace Go.Proofs.YtejlmgbmfeacdaaDoor
open Go.RowKit
set_option linter.unusedVariables false
set_option linter.unusedSimpArgs false
section
variable {ops : Array Oper} {Q : Exit → Act → World → Prop} {S : World → Prop} {K : Act → World → Prop}
theorem y_loadF {o : Oper} {v : Value} {a : Act} {x : Operand} {t : TypeId} {p : Addr} {ps rs : Array TypeId} {va : Bool} (hg : o.guard = none) (ho : o.op = .load t x) (hx : a.eval x = .pointer (some p)) (hu : Tryd.prog.underlying t = some (.func ps rs va)) (hc : ∀ w, S w → w.cell? p = some v) : YieldsIf Tryd.prog ops S o v a := by
  refine y_of hg fun w hw => ?_
  have c := hc w hw
  have hag : (isAgg t).run Tryd.prog w = .ok false w := by unfold isAgg; rw [Sem.run_bind, run_underlying hu w]; rfl
  unfold execOp
  simp only [ho, hx]
  simp [Instr.loadAt, Instr.sureAddr, Sem.run_bind, run_underlying hu w, hag, c, go_sem]
theorem y_loadS {o : Oper} {v : Value} {a : Act} {x : Operand} {t e : TypeId} {p : Addr} (hg : o.guard = none) (ho : o.op = .load t x) (hx : a.eval x = .pointer (some p)) (hu : Tryd.prog.underlying t = some (.slice e)) (hc : ∀ w, S w → w.cell? p = some v) : YieldsIf Tryd.prog ops S o v a := by
  refine y_of hg fun w hw => ?_
  have c := hc w hw
  have hag : (isAgg t).run Tryd.prog w = .ok false w := by unfold isAgg; rw [Sem.run_bind, run_underlying hu w]; rfl
  unfold execOp
  simp only [ho, hx]
  simp [Instr.loadAt, Instr.sureAddr, Sem.run_bind, run_underlying hu w, hag, c, go_sem]
/-- a call of a function that is a value -/
theorem p_dyn {i : Nat} {o : Oper} {a : Act} {w : World} {f : FuncId} {y x : Operand} {ts : Array TypeId} {lv : Value} {cap : Array Value} (hi : ops[i]? = some o) (hg : o.guard = none)
    (ho : o.op = .call { callee := .value y, args := #[x], argTypes := ts }) (hy : a.eval y = .func (.func f) #[] cap) (hx : a.eval x = lv) (hf : ∀ (args : Array Value) (w : World), (callFunc f args).run Tryd.prog w = .ok (.enter f args) w)
    (h : Calls Tryd.prog f (#[lv] ++ cap) w fun e w' => ∃ v, e = .returned v ∧ K (a.put o.dst v) w') : wpOp Tryd.prog ops Q i K a w := by
  have hr : (execOp a.eval o).run Tryd.prog w = .ok (.enter f (#[lv] ++ cap)) w := by
    unfold execOp
    simp only [ho, resolve, List.map_toArray, List.map_cons, List.map_nil, hy, hx, Deferred.ofValue, Sem.run_bind, Sem.run_pure, Result.andThen_ok, invoke, Array.empty_append, hf]
  unfold wpOp
  simp only [hi]
  rw [if_pos (wanted_free hg)]
  left
  unfold Oper.wp
  rw [hr]
  refine h.mono ?_
  rintro e w' ⟨v, rfl, hk⟩
  exact hk
theorem p_rows1 {i : Nat} {o : Oper} {a : Act} {x : World} {y : Operand} {u : Value} {la : List Nat} (hi : ops[i]? = some o) (hg : o.guard = none) (ho : o.op = .buildSlice 44 1 #[(0, y)]) (hy : a.eval y = u)
    (ru : Row .u8 256 x u la) (tu : Tidy u) (h : ∀ jl x', Rows2 x' jl [la] → Below x.heap.size x x' → K (a.put o.dst jl) x') : wpOp Tryd.prog ops Q i K a x := by
  have hh := h _ _ (rows_lit1 ru tu) (keep_alloc _ _)
  obtain ⟨a1, c1, rfl⟩ := ru.form
  refine p_op hi hg ?_ hh
  unfold execOp
  simp only [ho, List.map_toArray, List.map_cons, List.map_nil, hy]
  simp [go_sem]
theorem p_rows3 {i : Nat} {o : Oper} {a : Act} {x : World} {y1 y2 y3 : Operand} {u1 u2 u3 : Value} {l1 l2 l3 : List Nat} (hi : ops[i]? = some o) (hg : o.guard = none) (ho : o.op = .buildSlice 44 3 #[(0, y1), (1, y2), (2, y3)]) (hy1 : a.eval y1 = u1) (hy2 : a.eval y2 = u2) (hy3 : a.eval y3 = u3)
    (r1 : Row .u8 256 x u1 l1) (r2 : Row .u8 256 x u2 l2) (r3 : Row .u8 256 x u3 l3) (t1 : Tidy u1) (t2 : Tidy u2) (t3 : Tidy u3) (h : ∀ jl x', Rows2 x' jl [l1, l2, l3] → Below x.heap.size x x' → K (a.put o.dst jl) x') : wpOp Tryd.prog ops Q i K a x := by
  have hh := h _ _ (rows_lit3 r1 r2 r3 t1 t2 t3) (keep_alloc _ _)
  obtain ⟨a1, c1, rfl⟩ := r1.form
  obtain ⟨a2, c2, rfl⟩ := r2.form
  obtain ⟨a3, c3, rfl⟩ := r3.form
  refine p_op hi hg ?_ hh
  unfold execOp
  simp only [ho, List.map_toArray, List.map_cons, List.map_nil, hy1, hy2, hy3]
  simp [go_sem]
/-- a slice stored in a box -/
theorem p_putS {i : Nat} {o : Oper} {a : Act} {w : World} {t e : TypeId} {x y : Operand} {p : Addr} {v : Value} (hi : ops[i]? = some o) (hg : o.guard = none)
    (ho : o.op = .store t x y) (hd : o.dst = none) (hx : a.eval x = .pointer (some p)) (hy : a.eval y = v) (hv : ∃ aa n cc, v = .slice aa n cc) (hu : Tryd.prog.underlying t = some (.slice e)) (hs : (Tryd.prog.info? t).map (·.size) = some 1) (hc : (w.cell? p).isSome = true) (hz : w.frozen? p = false)
    (h : K a (w.setCell p v)) : wpOp Tryd.prog ops Q i K a w := by
  obtain ⟨aa, n, cc, rfl⟩ := hv
  obtain ⟨u, hc'⟩ := Option.isSome_iff_exists.1 hc
  have hr : (execOp a.eval o).run Tryd.prog w = .ok .skip (w.setCell p (.slice aa n cc)) := by
    have hag : (isAgg t).run Tryd.prog w = .ok false w := by unfold isAgg; rw [Sem.run_bind, run_underlying hu w]; rfl
    cases hq : Tryd.prog.info? t with
    | none => simp [hq] at hs
    | some m =>
      have hm : m.size = 1 := by simpa [hq] using hs
      unfold execOp
      simp only [ho, hx, hy]
      simp [Instr.storeAt, Instr.sureAddr, Sem.run_bind, hag, hc', hz, sizeOf, typeInfo, hq, hm, go_sem]
  unfold wpOp
  simp only [hi]
  rw [if_pos (wanted_free hg)]
  left
  unfold Oper.wp
  rw [hr]
  show K (a.put o.dst undef) _
  rw [hd]
  exact h
end
def kclt : List Lt := [(0, some 5, [1]), (0, some 6, [2]), (0, some 7, [0]), (6, some 8, [6, 7]), (8, some 9, [8]), (25, some 10, [5, 9]), (63, some 4, [10])]
theorem kcreg : Reg (opsOf (cL (cR (Tryd.f22.body.getD .skip)))) kclt := ⟨by kernel_rfl, by kernel_rfl⟩
theorem kcis : (cL (cR (Tryd.f22.body.getD .skip))) = .region 1 (opsOf (cL (cR (Tryd.f22.body.getD .skip)))) true := by kernel_rfl
/-- the frame -/
structure KCF (lv : Value) (q r : Nat) (a : Act) : Prop where
  fz : Fz 11 a
  t0 : a.eval (.tmp 0) = lv
  t1 : a.eval (.tmp 1) = .pointer (some ⟨q, 0, none⟩)
  t2 : a.eval (.tmp 2) = .pointer (some ⟨r, 0, none⟩)
/-- what stays -/
structure KCS (w : World) (q r : Nat) (fo fi : Value) (y : World) : Prop where
  o : y.cell? ⟨q, 0, none⟩ = some fo
  i : y.cell? ⟨r, 0, none⟩ = some fi
  bel : Below w.heap.size w y
section
variable {w : World} {q r : Nat} {fo fi : FuncId} {co ci : Array Value} {lv : Value} {ls : List (List Nat)} {Q : Exit → Act → World → Prop} {D : List Nat → List Nat} {Po Pi : List Nat}
theorem KCS.keep {fo fi : Value} {y y' : World} (h : KCS w q r fo fi y) (hb : Below y.heap.size y y') : KCS w q r fo fi y' := ⟨keep_cell h.o hb, keep_cell h.i hb, keep_trans h.bel hb⟩
theorem KCF.step {a : Act} {x : World} (h : KCF lv q r a) {k fuel m : Nat} {v : Value} {d : Option Nat} {ops : Array Oper} {S : World → Prop} (hd : d = some k) (h3 : 3 ≤ k) (hk : k < 11)
    (hc : ∀ a' : Act, KCF lv q r a' → a'.eval (.tmp k) = v → (∀ j, k ≠ j → a'.eval (.tmp j) = a.eval (.tmp j)) → At Tryd.prog ops Q S fuel m a' x) : At Tryd.prog ops Q S fuel m (a.put d v) x := by
  subst hd
  exact hc _ ⟨h.fz.put _ _, (put_else (by omega)).trans h.t0, (put_else (by omega)).trans h.t1, (put_else (by omega)).trans h.t2⟩ (put_same (by rw [h.fz.1]; exact hk)) (fun j hj => put_else hj)
set_option maxRecDepth 100000 in
theorem kc_1 (hO : Dg D fo co Po w) (hI : Dg D fi ci Pi w) (hL : Rows2 w lv ls) (hls : ls.flatten.length ≤ 100000) (hDl : ∀ l, (D l).length ≤ 1000)
    (hQ : ∀ (a : Act) (x : World) (v : Value), Fz 11 a → a.eval (.tmp 4) = v → Own 5 .u8 256 x w.heap.size v (D (Po ++ D (Pi ++ ls.flatten))) → Below w.heap.size w x → Q .normal a x)
    {a : Act} {x : World} (F : KCF lv q r a) (hS0 : KCS w q r (.func (.func fo) #[] co) (.func (.func fi) #[] ci) x) : Code.wp Tryd.prog (cL (cR (Tryd.f22.body.getD .skip))) Q a x := by
  rw [kcis]
  have hS := hS0.keep (Below.refl _ _).drew
  refine at_begin (n := 7) (KCS w q r (.func (.func fo) #[] co) (.func (.func fi) #[] ci)) (by kernel_rfl) (by kernel_rfl) ?_
  refine at_take (i := 0) (m' := 1) kcreg rfl (by decide) rfl (y_loadF rfl rfl F.t1 Tryd.underlying34 (fun _ h => h.o)) hS ?_
  refine F.step (k := 5) rfl (by decide) (by decide) ?_
  intro a1 F1 s5 e1
  refine at_take (i := 1) (m' := 3) kcreg rfl (by decide) rfl (y_loadF rfl rfl F1.t2 Tryd.underlying34 (fun _ h => h.i)) hS ?_
  refine F1.step (k := 6) rfl (by decide) (by decide) ?_
  intro a2 F2 s6 e2
  replace s5 := (e2 5 (by decide)).trans s5
  refine at_take (i := 2) (m' := 7) kcreg rfl (by decide) rfl (y_move rfl rfl F2.t0) hS ?_
  refine F2.step (k := 7) rfl (by decide) (by decide) ?_
  intro a3 F3 s7 e3
  replace s5 := (e3 5 (by decide)).trans s5
  replace s6 := (e3 6 (by decide)).trans s6
  refine at_one (i := 3) (m' := 15) kcreg (by decide) rfl ?_
  refine p_dyn rfl rfl rfl s6 s7 hI.enters ((hI.calls _ lv ls hS.bel (hL.below hS.bel) hls).mono ?_)
  rintro e x1 ⟨v1, rfl, hO1, hb1⟩
  have hS1 := hS.keep hb1
  refine ⟨_, rfl, hS1, ?_⟩
  refine F3.step (k := 8) rfl (by decide) (by decide) ?_
  intro a4 F4 s8 e4
  replace s5 := (e4 5 (by decide)).trans s5
  have hl1 := hDl (Pi ++ ls.flatten)
  generalize D (Pi ++ ls.flatten) = O1 at *
  refine at_one (i := 4) (m' := 31) kcreg (by decide) rfl ?_
  refine p_rows1 rfl rfl rfl s8 hO1.row hO1.tidy fun jl x2 hJ hb2 => ?_
  have hS2 := hS1.keep hb2
  refine ⟨hS2, ?_⟩
  refine F4.step (k := 9) rfl (by decide) (by decide) ?_
  intro a5 F5 s9 e5
  replace s5 := (e5 5 (by decide)).trans s5
  refine at_one (i := 5) (m' := 63) kcreg (by decide) rfl ?_
  refine p_dyn rfl rfl rfl s5 s9 hO.enters ((hO.calls _ jl [O1] hS2.bel hJ (by simp; omega)).mono ?_)
  rintro e x3 ⟨v3, rfl, hO3, hb3⟩
  have hS3 := hS2.keep hb3
  refine ⟨_, rfl, hS3, ?_⟩
  refine F5.step (k := 10) rfl (by decide) (by decide) ?_
  intro a6 F6 s10 e6
  refine at_take (i := 6) (m' := 127) kcreg rfl (by decide) rfl (y_assign (wanted_free rfl) rfl s10) hS3 ?_
  refine F6.step (k := 4) rfl (by decide) (by decide) ?_
  intro a7 F7 s4 e7
  have ef : [O1].flatten = O1 := by simp
  rw [ef] at hO3
  exact at_done kcreg (by decide) (hQ _ _ _ F7.fz s4 (hO3.mono hS2.bel.size) hS3.bel)
end
set_option maxHeartbeats 2000000 in
set_option maxRecDepth 100000 in
theorem kc_any (D : List Nat → List Nat) (hDl : ∀ l, (D l).length ≤ 1000) (fo fi : FuncId) (co ci : Array Value) (Po Pi : List Nat) (q r : Nat) (lv : Value) (ls : List (List Nat)) (w : World) (hO : Dg D fo co Po w) (hI : Dg D fi ci Pi w)
    (co' : w.cell? ⟨q, 0, none⟩ = some (.func (.func fo) #[] co)) (ci' : w.cell? ⟨r, 0, none⟩ = some (.func (.func fi) #[] ci)) (hL : Rows2 w lv ls) (hls : ls.flatten.length ≤ 100000) :
    Calls Tryd.prog 22 #[lv, .pointer (some ⟨q, 0, none⟩), .pointer (some ⟨r, 0, none⟩)] w fun e w' => ∃ v, e = .returned v ∧ Own 5 .u8 256 w' w.heap.size v (D (Po ++ D (Pi ++ ls.flatten))) ∧ Below w.heap.size w w' := by
  go_enter Tryd.func22, Tryd.ntmps22
  go_wp2
  refine kc_1 (w := w) (q := q) (r := r) (lv := lv) (ls := ls) hO hI hL hls hDl ?_ ⟨⟨rfl, rfl⟩, rfl, rfl, rfl⟩ ⟨co', ci', Below.refl _ _⟩
  rename_i Q' K hK'
  intro a x v F t4 hOw hb
  refine hK' _ _ (wp_ret ?_)
  exact bodyPost_ret (results_is Tryd.results22 t4 x) F.2 ⟨v, rfl, hOw, hb⟩
theorem dgk {D : List Nat → List Nat} (hDl : ∀ l, (D l).length ≤ 1000) {fo fi : FuncId} {co ci : Array Value} {Po Pi : List Nat} {q r : Nat} {w : World} (hO : Dg D fo co Po w) (hI : Dg D fi ci Pi w)
    (co' : w.cell? ⟨q, 0, none⟩ = some (.func (.func fo) #[] co)) (ci' : w.cell? ⟨r, 0, none⟩ = some (.func (.func fi) #[] ci)) :
    Dg (fun l => D (Po ++ D (Pi ++ l))) 22 #[.pointer (some ⟨q, 0, none⟩), .pointer (some ⟨r, 0, none⟩)] [] w :=
  ⟨Tryd.call22, fun x lv ls hb hL hl => kc_any D hDl fo fi co ci Po Pi q r lv ls x (hO.below hb) (hI.below hb) (keep_cell co' hb) (keep_cell ci' hb) hL hl⟩
end Go.Proofs.YtejlmgbmfeacdaaDoor
