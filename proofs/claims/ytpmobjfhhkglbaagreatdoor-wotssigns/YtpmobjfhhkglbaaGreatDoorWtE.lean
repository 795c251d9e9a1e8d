import Derived.Test.YtpmobjfhhkglbaaGreatDoorRDig
import Derived.Test.YtpmobjfhhkglbaaGreatDoorWyFrm
set_option maxHeartbeats 8000000
set_option maxRecDepth 100000
namespace Go.Proofs.YtpmobjfhhkglbaaGreatDoor
open Go.RowKit
set_option linter.unusedVariables false
set_option linter.unusedSimpArgs false
theorem p_build1G {ops : Array Oper} {Q : Exit → Act → World → Prop} {K : Act → World → Prop} {i : Nat} {o : Oper} {a : Act} {w : World} {t e : TypeId} {p : Operand} {adp : Option Addr} {np cp : Nat} {d : Option Nat} {z : TypeInfo} (hi : ops[i]? = some o) (hw : Region.wanted o (yielded ops a.tmps) = true) (ho : o.op = .buildSlice t 1 #[(0, p)]) (hp : a.eval p = .slice adp np cp) (hd : o.dst = d)
    (hu : Tryz.prog.underlying t = some (.slice e)) (hz : Tryz.prog.info? e = some z) (hsz : z.size = 1) (hz0 : z.zero = some (.slice none 0 0)) (h : K (a.put d (.slice (some ⟨w.heap.size, 0, none⟩) 1 1)) (w.alloc (.cells #[.slice adp np cp] e))) : wpOp Tryz.prog ops Q i K a w := by
  have hr : (execOp a.eval o).run Tryz.prog w = .ok (.value (.slice (some ⟨w.heap.size, 0, none⟩) 1 1)) (w.alloc (.cells #[.slice adp np cp] e)) := by
    unfold execOp
    simp only [ho, List.map_toArray, List.map_cons, List.map_nil, hp]
    simp [Sem.run_bind, run_underlying hu, sizeOf, typeInfo, zeroValue, hz, hsz, hz0, go_sem]
  unfold wpOp
  simp only [hi]
  rw [if_pos hw]
  left
  unfold Oper.wp
  rw [hr]
  show K (a.put o.dst _) _
  rw [hd]
  exact h
theorem p_pushT {ops : Array Oper} {Q : Exit → Act → World → Prop} {K : Act → World → Prop} {i_ : Nat} {o : Oper} {a : Act} {w : World} {d : Option Nat} {B g1 : Nat} {vo u : Value} {ls : List (List Nat)} {x : List Nat} {s y : Operand} (hi : ops[i_]? = some o) (hw : Region.wanted o (yielded ops a.tmps) = true)
    (ho : o.op = .call { callee := .builtin .append, args := #[s, y], argTypes := #[41, 41] }) (hd : o.dst = d) (hs : a.eval s = vo) (hG : GrT w B vo ls) (hx : a.eval y = .slice (some ⟨g1, 0, none⟩) 1 1) (hc : ∀ j z, [u][j]? = some z → w.cell? ((⟨g1, 0, none⟩ : Addr).add j) = some z) (ru : Row .u8 256 w u x) (tu : Tidy u) (au : Apart1 w vo u) (hB : B ≤ w.heap.size) (hn : ls.length ≤ 100000)
    (h : ∀ g cap w', GrT w' B (.slice (some ⟨g, 0, none⟩) (ls.length + 1) cap) (ls ++ [x]) → w.grownBy w' vo.ownBlock → K (a.put d (.slice (some ⟨g, 0, none⟩) (ls.length + 1) cap)) w') : wpOp Tryz.prog ops Q i_ K a w := by
  obtain ⟨us, hown, htx, hap⟩ := hG.ex
  obtain ⟨i0, hi0, hz0, hz1, hz2⟩ := info_text
  unfold wpOp
  simp only [hi]
  rw [if_pos hw]
  left
  refine wp_append_lies w s y 41 ho B 27 i0 (.slice none 0 0) 1 24 Tryz.underlying41 hi0 hz0 hz1 hz2 rfl (by decide) vo ls.length us hs hown ⟨g1, 0, none⟩ 1 1 [u] hx rfl hc (fun z hz => by have hzu : z = u := (by simpa using hz); rw [hzu]; exact ru.one) (by decide) (by unfold maxLen; omega) (by omega) hB _ rfl ?_
  intro g7 cap7 w7 how7 hg7 hl7 hs7
  rw [hd]
  exact h g7 cap7 w7 (GrT.push htx hap ru tu au how7 hg7 hl7) hg7
theorem cell_row1 (w : World) (u : Value) (t : TypeId) : ∀ j x, [u][j]? = some x → (w.alloc (.cells #[u] t)).cell? ((⟨w.heap.size, 0, none⟩ : Addr).add j) = some x := fun j x h => by
  have hj : j = 0 := by have := (List.getElem?_eq_some_iff.1 h).1; simp at this; exact this
  subst hj
  have h0 : (w.alloc (.cells #[u] t)).cell? ⟨w.heap.size, 0, none⟩ = some u := by rw [World.cell?_alloc_at _ _ _ _ rfl]; rfl
  have : u = x := by simpa using h
  rw [← this]
  exact h0
section
variable {ops : Array Oper} {S : World → Prop}
theorem y_ixW {o : Oper} {a : Act} {x y : Operand} {t e : TypeId} {g f n c i : Nat} (hw : Region.wanted o (yielded ops a.tmps) = true) (ho : o.op = .indexAddr t x y) (hx : a.eval x = .slice (some ⟨g, f, none⟩) n c) (hy : a.eval y = .int .i64 (i : Int)) (hu : Tryz.prog.underlying t = some (.slice e)) (hs : (Tryz.prog.info? e).map (·.size) = some 1) (hi : i < n) : YieldsIf Tryz.prog ops S o (.pointer (some ⟨g, f + i, none⟩)) a := by
  have := y_indexG (ops := ops) (S := S) hw ho hx hy hu hs hi
  rw [Nat.mul_one] at this
  exact this
theorem y_midW {o : Oper} {a : Act} {x y z : Operand} {u : Value} {aa : Option Addr} {n c F G : Nat} (hw : Region.wanted o (yielded ops a.tmps) = true) (ho : o.op = .slice 27 x (some y) (some z) none) (hx : a.eval x = .slice aa n c) (hy : a.eval y = .int .i64 (F : Int)) (hz : a.eval z = .int .i64 (G : Int)) (hr : ∀ w : World, (Instr.slice 27 (.slice aa n c) (some (.int .i64 (F : Int))) (some (.int .i64 (G : Int))) none).run Tryz.prog w = .ok u w) : YieldsIf Tryz.prog ops S o u a := by
  refine y_ofG hw fun w _ => ?_
  have h := hr w
  unfold execOp
  simp only [ho, hx, Option.map_none, Option.map_some, hy, hz]
  simp [Instr.sliceAt, Sem.run_bind, h, run_underlying Tryz.underlying27, go_sem]
end
theorem mid_runW {b o n c F G L : Nat} (hF : F < c) (hG : G ≤ c) (hL : F + L = G) (w : World) : (Instr.slice 27 (.slice (some ⟨b, o, none⟩) n c) (some (.int .i64 (F : Int))) (some (.int .i64 (G : Int))) none).run Tryz.prog w = .ok (.slice (some ⟨b, o + F, none⟩) L (c - F)) w := by
  obtain ⟨A, h1, h2⟩ := slice_mid (some ⟨b, o, none⟩) n c F G (by omega) hG
  rcases h2 with ⟨_, h2⟩ | rfl
  · omega
  · rw [h1 w, show G - F = L by omega]; simp only [Option.map_some, Addr.add]; by_cases h0 : F = 0 <;> simp [h0]
theorem map_takeW (f : Nat → List Nat) {P i : Nat} (h : i < P) : ((List.range P).map f).take (i + 1) = ((List.range P).map f).take i ++ [f i] := by
  rw [List.take_succ_eq_append_getElem (by simpa using h)]
  simp
theorem map_lenW (f : Nat → List Nat) (P i : Nat) (h : i ≤ P) : (((List.range P).map f).take i).length = i := by rw [List.length_take, List.length_map, List.length_range]; omega
def WpLW (W1 : World) (M : Nat) (f : Nat → List Nat) (vo vi : Value) (wr : World) : Prop := ∃ i : Nat, i ≤ M ∧ vi = .int .i64 (i : Int) ∧ GrT wr W1.heap.size vo (((List.range M).map f).take i) ∧ Below W1.heap.size W1 wr
section
variable {N : Nat} {H D A K : Int}
theorem rwrongW_ok (sh : Bool) (sa pa : Option Addr) (sc pc : Nat) (w : World) (hF : FitX (N : Int) H D A K) :
    Calls Tryz.prog 45 #[slV (N : Int) H D A K sh, .slice sa N sc, .slice pa N pc] w fun e w' => e = .returned (.bool false) ∧ Below w.heap.size w w' := by
  have := rwrongW_any (N : Int) H D A K sh sa pa N sc N pc w
  rw [decide_eq_true ⟨hF, rfl, rfl⟩] at this
  exact this
theorem rwrongW_no (M : Int) (sh : Bool) (sa pa : Option Addr) (sl sc pl pc : Nat) (w : World) (h : ¬ (FitX M H D A K ∧ (sl : Int) = M ∧ (pl : Int) = M)) :
    Calls Tryz.prog 45 #[slV M H D A K sh, .slice sa sl sc, .slice pa pl pc] w fun e w' => e = .returned (.bool true) ∧ Below w.heap.size w w' := by
  have := rwrongW_any M H D A K sh sa pa sl sc pl pc w
  rw [decide_eq_false h] at this
  exact this
theorem rdgW_ok (d : List Nat) (dv : Value) (w : World) (hN : N = 16 ∨ N = 24 ∨ N = 32) (hd : Row .u8 256 w dv d) (td : Tidy dv) (hl : d.length = N) :
    Calls Tryz.prog 13 #[.int .i64 (N : Int), dv] w fun e w' => ∃ v, e = .returned v ∧ Own 42 .u32 4294967296 w' w.heap.size v (dgW N d) ∧ Below w.heap.size w w' := by
  rcases hN with rfl | rfl | rfl
  · exact rdgW_16 d dv w hd td hl
  · exact rdgW_24 d dv w hd td hl
  · exact rdgW_32 d dv w hd td hl
theorem fit3 (hF : FitX (N : Int) H D A K) : N = 16 ∨ N = 24 ∨ N = 32 := by have := hF.1; omega
def pu7lt : List Lt := [(0, some 23, [9]), (0, some 24, [4]), (0, some 25, [4]), (0, some 26, [1]), (0, some 27, [2]), (0, some 28, [7]), (0, some 29, [10]), (124, some 30, [25, 26, 27, 28, 29]), (0, some 31, [2]), (0, some 32, [7]), (0, some 33, [10]), (1024, some 34, [33]), (2688, some 35, [32, 34]), (4482, some 36, [24, 30, 31, 35]), (8192, some 37, [36]), (24577, some 38, [23, 37]), (65535, some 9, [38])]
theorem pu7reg : Reg (opsA (cBA (cLA (cRA (cLpA (cBA (cRA (cLA (cRA (cRA (cRA (Tryz.f20.body.getD .skip)))))))))))) pu7lt := ⟨by kernel_rfl, by kernel_rfl⟩
theorem rpubW_ok (sh : Bool) (pub a secret : List Nat) (pv sv : Value) (w : World) (hF : FitX (N : Int) H D A K) (ha : Pl a) (hp : Row .u8 256 w pv pub) (tp : Tidy pv) (hs : Row .u8 256 w sv secret) (ts : Tidy sv) (hpl : pub.length = N) (hsl : secret.length = N) :
    Calls Tryz.prog 20 #[slV (N : Int) H D A K sh, sv, pv, .agg (arr .u8 a)] w fun e w' => ∃ v, e = .returned v ∧ Row .u8 256 w' v (wpb (fun p x => sumW N sh pub p x) a N secret) ∧ New w.heap.size v ∧ Below w.heap.size w w' := by
  have hN := fitN hF
  obtain ⟨bx0, La0, k0⟩ := boxW (N := N) (H := H) (D := D) (A := A) (K := K) w sh (a := a)
  obtain ⟨pa, pc, rfl, _⟩ := hp.opens hpl
  obtain ⟨sa, sc, rfl, _⟩ := hs.opens hsl
  obtain ⟨Fs, hFs⟩ : ∃ Fs : List Nat → List Nat → List Nat, Fs = fun p x => sumW N sh pub p x := ⟨_, rfl⟩
  have hFl : ∀ p x, (Fs p x).length = N := fun p x => by rw [hFs]; exact sumW_len hN.2 _ _ _ _
  have hwr := fun y => rwrongW_ok sh sa pa sc pc y hF
  have hB := fun (i : Nat) (hi : i < 65536) y (rp : Row .u8 256 y (.slice pa N pc) pub) (rs : Row .u8 256 y (.slice sa N sc) secret) => rbeginW_any sh pub a secret i _ _ y hF ha rp tp rs ts hpl hsl hi
  have hC := fun (i : Nat) (z : List Nat) (hz : z.length = N) y zv (rp : Row .u8 256 y (.slice pa N pc) pub) (rz : Row .u8 256 y zv z) (tz : Tidy zv) => rchainW_any sh pub (putA a 4 i) z 0 15 _ zv y hF (ha.put 4 i) rp tp rz tz hpl hz (by decide)
  have hPt := fun (i : Nat) (hi : i < 65536) y => rput_any a 4 i y ha (by omega)
  have hK := fun y ends ev (rp : Row .u8 256 y (.slice pa N pc) pub) (re : Rows2 y ev ends) (hel : ends.flatten.length ≤ 50000) => rkeyW_any sh pub a ends _ ev y hF ha rp tp re hpl hel
  rw [← hFs] at hB hC hK ⊢
  unfold slV at hwr hB hC hK ⊢
  unfold wpb
  obtain ⟨f, hf⟩ : ∃ f : Nat → List Nat, f = fun i => wch Fs (putA a 4 i) 0 15 (wbg Fs a secret i) := ⟨_, rfl⟩
  have hfi : ∀ i, wch Fs (putA a 4 i) 0 15 (wbg Fs a secret i) = f i := fun i => by rw [hf]
  have hbl : ∀ i, (wbg Fs a secret i).length = N := fun i => hFl _ _
  have hfl : ∀ i, (f i).length = N := fun i => by rw [← hfi]; exact wch_len hFl 0 _ (hbl i) 15
  obtain ⟨M, hM⟩ : ∃ M, M = 2 * N + 3 := ⟨_, rfl⟩
  have hE : wpE Fs a N secret = (List.range M).map f := by unfold wpE; rw [hf, hM]
  have hel : ((List.range M).map f).flatten.length ≤ 50000 := by
    rw [flat_N_len (N := N) _ (fun p hp => by obtain ⟨i, _, rfl⟩ := List.mem_map.1 hp; exact hfl i), List.length_map, List.length_range, hM]
    calc N * (2 * N + 3) ≤ 32 * (2 * 32 + 3) := Nat.mul_le_mul hN.2 (by omega)
      _ ≤ 50000 := by decide
  rw [hE]
  obtain ⟨N2, hN2⟩ : ∃ x, x = 2 * N := ⟨_, rfl⟩
  have e_2 : (2 : Int) * (N : Int) = (N2 : Int) := by omega
  have s_2 : IntKind.i64.wrap (N2 : Int) = (N2 : Int) := by rw [IntKind.wrap_i64]; omega
  have e_3 : (N2 : Int) + 3 = (M : Int) := by omega
  have s_3 : IntKind.i64.wrap (M : Int) = (M : Int) := by rw [IntKind.wrap_i64]; omega
  obtain ⟨i0, hi0, hz0, hz1, hz2⟩ := info_text
  have HX := hide (And.intro hfi (And.intro hbl (And.intro hfl (And.intro hel (And.intro hM hN)))))
  have HB := hide hB
  have HC := hide hC
  have HPt := hide hPt
  have HK := hide hK
  have HS := hide (And.intro hp (And.intro hs ha))
  clear hfi hbl hfl hel hM hN hB hC hPt hK hp hs ha hf hE hFs hFl hF hpl hsl hN2
  go_enter Tryz.func20, Tryz.ntmps20
  go_wp2_with (first
    | (refine wpList_load_rowS (by rfl) 23 _ (by rfl) w.heap.size (by rfl) _ _ _ _ bx0.here Tryz.underlying23 (by kernel_rfl) ?_)
    | (go_at_call 45; refine (hwr _).mono ?_; rintro e W1 ⟨rfl, g1⟩)
    | fail)
  have bx1 := bx0.below g1
  have La1 := La0.below g1
  have k1 := keep_trans k0 g1
  have H0 := hide (show WpLW W1 M f (.slice none 0 0) (.int .i64 0) W1 from ⟨0, Nat.zero_le _, rfl, by rw [List.take_zero]; exact GrT.nil _ _, Below.refl _ _⟩)
  have HA := hide (And.intro bx1 (And.intro La1 k1))
  clear bx0 La0 k0 g1 bx1 La1 k1 hwr
  go_loopw [9, 10] (fun vo vi wr => WpLW W1 M f vo vi wr) (fun _ vi _ => M - (intOf vi).toNat)
  case atStart => exact H0.out
  case round =>
    obtain ⟨i, hi', rfl, hG, hbr⟩ := hrel
    clear H0
    rename World => wr
    obtain ⟨hfi, hbl0, hfl0, hel, hM, hN⟩ := HX.out
    obtain ⟨bx1, La1, k1⟩ := HA.out
    obtain ⟨hp, hs, ha⟩ := HS.out
    obtain ⟨oa, oc, rfl⟩ := hG.slice
    have hLn := map_lenW f M i hi'
    rw [hLn] at hG ⊢
    have bx := bx1.below hbr
    have La := La1.below hbr
    have kw := keep_trans k1 hbr
    have cN := bx.c0
    by_cases hlt : i < M
    · have hii : (i : Int) < (M : Int) := by omega
      obtain ⟨I, hI⟩ : ∃ I : Nat, I = i + 1 := ⟨_, rfl⟩
      have e_I : (i : Int) + 1 = (I : Int) := by omega
      have s_I : IntKind.i64.wrap (I : Int) = (I : Int) := by rw [IntKind.wrap_i64]; omega
      have rp := hp.below k1
      have rs := hs.below k1
      have bx := bx1
      have La := La1
      have hbl := hbl0 i
      have hfl := hfl0 i
      have hbg := HB.out i (by omega)
      have hput := HPt.out i (by omega)
      have hch := HC.out i (wbg Fs a secret i) hbl
      rw [hfi i] at hch
      generalize putA a 4 i = P4 at *
      generalize wbg Fs a secret i = BG at *
      obtain ⟨us, hown, _, _⟩ := hG.ex
      rw [hLn] at hown
      have kb : Below wr.heap.size wr wr.drew := (Below.refl _ _).drew
      have hbd : Below W1.heap.size W1 wr.drew := hbr.drew
      have HKk := hide (And.intro hI hlt)
      have hi6 : i < 65536 := by omega
      have hN0 : 0 < N := by omega
      clear hI hlt hfi hbl0 hfl0 hel hM hp hs kw hi'
      go_wp2
      refine at_begin (ops := opsA (cBA (cLA (cRA (cLpA (cBA (cRA (cLA (cRA (cRA (cRA (Tryz.f20.body.getD .skip)))))))))))) (n := 17) (fun y => Below W1.heap.size W1 y) (by kernel_rfl) (by kernel_rfl) ?_
      refine tkP 0 1 23 (.slice oa i oc) pu7reg rfl (by decide) rfl rfl (y_moveG (wF rfl) rfl rfl) hbd ?_
      simp only [Act.put, plI, plZ, plS]
      refine tkP 1 3 24 (.agg #[.int .i64 (N : Int), .int .i64 H, .int .i64 D, .int .i64 A, .int .i64 K, .bool sh]) pu7reg rfl (by decide) rfl rfl (y_rowG (cs := [.int .i64 (N : Int), .int .i64 H, .int .i64 D, .int .i64 A, .int .i64 K, .bool sh]) (wF rfl) rfl rfl Tryz.underlying23 rfl (by kernel_rfl) (fun _ h => (bx.below h).range)) hbd ?_
      simp only [Act.put, plI, plZ, plS]
      refine tkP 2 7 25 (.agg #[.int .i64 (N : Int), .int .i64 H, .int .i64 D, .int .i64 A, .int .i64 K, .bool sh]) pu7reg rfl (by decide) rfl rfl (y_rowG (cs := [.int .i64 (N : Int), .int .i64 H, .int .i64 D, .int .i64 A, .int .i64 K, .bool sh]) (wF rfl) rfl rfl Tryz.underlying23 rfl (by kernel_rfl) (fun _ h => (bx.below h).range)) hbd ?_
      simp only [Act.put, plI, plZ, plS]
      refine tkP 3 15 26 (.slice sa N sc) pu7reg rfl (by decide) rfl rfl (y_moveG (wF rfl) rfl rfl) hbd ?_
      simp only [Act.put, plI, plZ, plS]
      refine tkP 4 31 27 (.slice pa N pc) pu7reg rfl (by decide) rfl rfl (y_moveG (wF rfl) rfl rfl) hbd ?_
      simp only [Act.put, plI, plZ, plS]
      refine tkP 5 63 28 (.agg (arr .u8 a)) pu7reg rfl (by decide) rfl rfl (y_rowG (cs := vals .u8 a) (wF rfl) rfl rfl Tryz.underlying25 rfl (by rw [vals_length, ha.1]; kernel_rfl) (fun _ h => lies_rangeW (La.below h))) hbd ?_
      simp only [Act.put, plI, plZ, plS]
      refine tkP 6 127 29 (.int .i64 (i : Int)) pu7reg rfl (by decide) rfl rfl (y_moveG (wF rfl) rfl rfl) hbd ?_
      simp only [Act.put, plI, plZ, plS]
      refine tkP 8 383 31 (.slice pa N pc) pu7reg rfl (by decide) rfl rfl (y_moveG (wF rfl) rfl rfl) hbd ?_
      simp only [Act.put, plI, plZ, plS]
      refine tkP 9 895 32 (.agg (arr .u8 a)) pu7reg rfl (by decide) rfl rfl (y_rowG (cs := vals .u8 a) (wF rfl) rfl rfl Tryz.underlying25 rfl (by rw [vals_length, ha.1]; kernel_rfl) (fun _ h => lies_rangeW (La.below h))) hbd ?_
      simp only [Act.put, plI, plZ, plS]
      refine tkP 10 1919 33 (.int .i64 (i : Int)) pu7reg rfl (by decide) rfl rfl (y_moveG (wF rfl) rfl rfl) hbd ?_
      simp only [Act.put, plI, plZ, plS]
      refine tkP 11 3967 34 (.int .u64 (i : Int)) pu7reg rfl (by decide) rfl rfl (y_convI (wF rfl) rfl rfl (conv_i64u64W i (by omega))) hbd ?_
      simp only [Act.put, plI, plZ, plS]
      refine at_one (i := 7) (m' := 4095) pu7reg (by decide) rfl ?_
      refine p_callG (args := #[.agg #[.int .i64 (N : Int), .int .i64 H, .int .i64 D, .int .i64 A, .int .i64 K, .bool sh], .slice sa N sc, .slice pa N pc, .agg (arr .u8 a), .int .i64 (i : Int)]) (d := some 30) rfl (wF rfl) rfl (by simp only [List.map_toArray, List.map_cons, List.map_nil]; rfl) rfl Tryz.call47 ((hbg wr.drew (rp.below hbd) (rs.below hbd)).mono ?_)
      rintro e y12 ⟨bv, rfl, rb, nb, g12⟩
      have tb := new_ntidy rb (by rw [hbl]; omega)
      have kb0 := kb
      replace kb := keep_trans kb g12
      obtain ⟨ba, bc, rfl, _⟩ := rb.opens hbl
      have hb12 := keep_trans hbd g12
      refine ⟨_, rfl, hb12, ?_⟩
      simp only [Act.put, plI, plZ, plS]
      refine at_one (i := 12) (m' := 8191) pu7reg (by decide) rfl ?_
      refine p_callG (args := #[.agg (arr .u8 a), .int .i64 4, .int .u64 (i : Int)]) (d := some 35) rfl (wF rfl) rfl (by simp only [List.map_toArray, List.map_cons, List.map_nil]; rfl) rfl Tryz.call10 ((hput y12).mono ?_)
      rintro e y13 ⟨rfl, g13⟩
      replace kb := keep_trans kb g13
      replace rb := rb.below g13
      have hb13 := keep_trans hb12 g13
      refine ⟨_, rfl, hb13, ?_⟩
      simp only [Act.put, plI, plZ, plS]
      refine at_one (i := 13) (m' := 16383) pu7reg (by decide) rfl ?_
      refine p_callG (args := #[.agg #[.int .i64 (N : Int), .int .i64 H, .int .i64 D, .int .i64 A, .int .i64 K, .bool sh], .slice ba N bc, .int .u32 0, .int .u32 15, .slice pa N pc, .agg (arr .u8 P4)]) (d := some 36) rfl (wF rfl) rfl (by simp only [List.map_toArray, List.map_cons, List.map_nil]; rfl) rfl Tryz.call46 ((hch y13 _ (rp.below hb13) rb tb).mono ?_)
      rintro e y14 ⟨cv, rfl, rc, tc, nc, g14⟩
      have kc := kb
      replace kb := keep_trans kb g14
      obtain ⟨ca, cc, rfl, _⟩ := rc.opens hfl
      have hb14 := keep_trans hb13 g14
      refine ⟨_, rfl, hb14, ?_⟩
      simp only [Act.put, plI, plZ, plS]
      refine at_one (i := 14) (m' := 32767) pu7reg (by decide) rfl ?_
      refine p_build1G (d := some 37) rfl (wF rfl) rfl rfl rfl Tryz.underlying41 hi0 hz1 hz0 ?_
      have hb15 := keep_trans hb14 (keep_alloc y14 (.cells #[.slice ca N cc] 27))
      have kd := keep_trans kb (keep_alloc y14 (.cells #[.slice ca N cc] 27))
      have rcd := rc.below (keep_alloc y14 (.cells #[.slice ca N cc] 27))
      have hcell := cell_row1 y14 (.slice ca N cc) 27
      obtain ⟨G1, hG1⟩ : ∃ q : Nat, y14.heap.size = q := ⟨_, rfl⟩
      obtain ⟨zb, hzb⟩ : ∃ z : World, z = y14.alloc (.cells #[.slice ca N cc] 27) := ⟨_, rfl⟩
      rw [← hzb] at hb15 kd rcd hcell ⊢
      rw [hG1] at hcell ⊢
      clear hzb hG1
      refine ⟨hb15, ?_⟩
      simp only [Act.put, plI, plZ, plS]
      refine at_one (i := 15) (m' := 65535) pu7reg (by decide) rfl ?_
      have hnewc : New wr.heap.size (.slice ca N cc) := by
        rcases nc with h | h
        · exact h.mono kc.size
        · rw [h]; exact nb
      have aU := apart_new hown rcd (by rw [hfl]; omega) hnewc
      refine p_pushT (d := some 38) rfl (wF rfl) rfl rfl rfl (hG.below kd) rfl hcell rcd tc aU (hb15).size (by rw [hLn]; omega) ?_
      intro g7 cap7 w7 hgr hg7
      have hb16 := (hb15).grown hg7 (hb15).size (fun k hk => (hown.lt k hk).1)
      rw [hLn] at hgr ⊢
      refine ⟨hb16, ?_⟩
      simp only [Act.put, plI, plZ, plS]
      refine tkP 16 131071 9 (.slice (some ⟨g7, 0, none⟩) (i + 1) cap7) pu7reg rfl (by decide) rfl rfl (y_assignG (wF rfl) rfl rfl) hb16 ?_
      simp only [Act.put, plI, plZ, plS]
      refine at_done pu7reg (by decide) ?_
      go_wp2
      obtain ⟨hI, hlt⟩ := HKk.out
      rw [← map_takeW f hlt] at hgr
      exact ⟨⟨i + 1, by omega, vint (by omega), hgr, hb16⟩, by simp [intOf]; omega⟩
    · obtain rfl : i = M := by omega
      have hge : ¬ ((i : Int) < (i : Int)) := by omega
      rw [List.take_of_length_le (by simp)] at hG
      have hky := HK.out wr _ _ (hp.below kw) hG.rows hel
      have hal := ha.1
      have HKk := hide kw
      clear hG hbr hfi hbl0 hfl0 hel hM hN hp hs kw hi' hlt bx1 La1 k1
      go_wp2_with (first
        | (refine wpList_load_rowS (by rfl) 23 _ (by rfl) w.heap.size (by rfl) _ _ _ _ bx.here Tryz.underlying23 (by kernel_rfl) ?_)
        | (refine wpList_load_row rfl 25 _ (by rfl) (w.heap.size + 1) (by rfl) _ _ _ (.array 32 5) La (by kernel_rfl) rfl (by rw [arr_size, hal]; kernel_rfl) ?_)
        | (go_at_call 48; refine hky.mono ?_; rintro e w9 ⟨v9, rfl, r9, n9, g9⟩)
        | fail)
      go_ret
      exact ⟨_, rfl, r9, n9.mono HKk.out.size, keep_trans HKk.out g9⟩
def sg8lt : List Lt := [(0, some 35, [12]), (0, some 36, [5]), (0, some 37, [5]), (0, some 38, [2]), (0, some 39, [3]), (0, some 40, [9]), (0, some 41, [13]), (124, some 42, [37, 38, 39, 40, 41]), (0, some 43, [11]), (0, some 44, [13]), (768, some 45, [43, 44]), (1024, some 46, [45]), (0, some 47, [3]), (0, some 48, [9]), (0, some 49, [13]), (16384, some 50, [49]), (41088, some 51, [48, 50]), (71810, some 52, [36, 42, 46, 47, 51]), (131072, some 53, [52]), (393217, some 54, [35, 53]), (1048575, some 12, [54])]
theorem sg8reg : Reg (opsA (cBA (cLA (cRA (cLpA (cBA (cRA (cLA (cRA (cRA (cRA (cRA (Tryz.f22.body.getD .skip))))))))))))) sg8lt := ⟨by kernel_rfl, by kernel_rfl⟩
theorem rsgnW_ok (sh : Bool) (pub a secret text : List Nat) (pv sv tv : Value) (w : World) (hF : FitX (N : Int) H D A K) (ha : Pl a) (hp : Row .u8 256 w pv pub) (tp : Tidy pv) (hs : Row .u8 256 w sv secret) (ts : Tidy sv) (ht : Row .u8 256 w tv text) (tt : Tidy tv) (htl : text.length = N) (hpl : pub.length = N) (hsl : secret.length = N) :
    Calls Tryz.prog 22 #[slV (N : Int) H D A K sh, tv, sv, pv, .agg (arr .u8 a)] w fun e w' => ∃ v, e = .returned v ∧ Row .u8 256 w' v (wsP (fun p x => sumW N sh pub p x) a (dgW N text) secret).flatten ∧ New w.heap.size v ∧ Below w.heap.size w w' := by
  have hN := fitN hF
  obtain ⟨bx0, La0, k0⟩ := boxW (N := N) (H := H) (D := D) (A := A) (K := K) w sh (a := a)
  obtain ⟨pa, pc, rfl, _⟩ := hp.opens hpl
  obtain ⟨sa, sc, rfl, _⟩ := hs.opens hsl
  have hdg := fun y (r : Row .u8 256 y tv text) => rdgW_ok text tv y (fit3 hF) r tt htl
  obtain ⟨ta, tc, rfl, _⟩ := ht.opens htl
  obtain ⟨Fs, hFs⟩ : ∃ Fs : List Nat → List Nat → List Nat, Fs = fun p x => sumW N sh pub p x := ⟨_, rfl⟩
  have hFl : ∀ p x, (Fs p x).length = N := fun p x => by rw [hFs]; exact sumW_len hN.2 _ _ _ _
  have hwr := fun y => rwrongW_ok sh sa pa sc pc y hF
  have hB := fun (i : Nat) (hi : i < 65536) y (rp : Row .u8 256 y (.slice pa N pc) pub) (rs : Row .u8 256 y (.slice sa N sc) secret) => rbeginW_any sh pub a secret i _ _ y hF ha rp tp rs ts hpl hsl hi
  have hC : ∀ (i E : Nat) (hE : E ≤ 15) (z : List Nat) (hz : z.length = N) y zv (rp : Row .u8 256 y (.slice pa N pc) pub) (rz : Row .u8 256 y zv z) (tz : Tidy zv), Calls Tryz.prog 46 #[slV (N : Int) H D A K sh, zv, .int .u32 0, .int .u32 (E : Int), .slice pa N pc, .agg (arr .u8 (putA a 4 i))] y fun e w' => ∃ v, e = .returned v ∧ Row .u8 256 w' v (wch (fun p x => sumW N sh pub p x) (putA a 4 i) 0 E z) ∧ Tidy v ∧ (New y.heap.size v ∨ v = zv) ∧ Below y.heap.size y w' := fun i E hE z hz y zv rp rz tz => by
    have := rchainW_any sh pub (putA a 4 i) z 0 E _ zv y hF (ha.put 4 i) rp tp rz tz hpl hz (by omega)
    rw [Nat.zero_add] at this
    exact this
  have hds15 : ∀ i, el (dgW N text) i ≤ 15 := fun i => by have := el_le_ofW (K := 4) (dgW_lt N text) i; omega
  have hdsl := dgW_len N text
  obtain ⟨ds, hds⟩ : ∃ x, x = dgW N text := ⟨_, rfl⟩
  rw [← hds] at hdg hds15 hdsl ⊢
  have hPt := fun (i : Nat) (hi : i < 65536) y => rput_any a 4 i y ha (by omega)
  have hK := fun y ends ev (re : Rows2 y ev ends) (hel : ends.flatten.length ≤ 50000) => rjoin_any ev ends y re (by omega)
  rw [← hFs] at hB hC ⊢
  unfold slV at hwr hB hC ⊢
  obtain ⟨f, hf⟩ : ∃ f : Nat → List Nat, f = fun i => wch Fs (putA a 4 i) 0 (el ds i) (wbg Fs a secret i) := ⟨_, rfl⟩
  have hfi : ∀ i, wch Fs (putA a 4 i) 0 (el ds i) (wbg Fs a secret i) = f i := fun i => by rw [hf]
  have hbl : ∀ i, (wbg Fs a secret i).length = N := fun i => hFl _ _
  have hfl : ∀ i, (f i).length = N := fun i => by rw [← hfi]; exact wch_len hFl 0 _ (hbl i) _
  obtain ⟨M, hM⟩ : ∃ M, M = 2 * N + 3 := ⟨_, rfl⟩
  have hE : wsP Fs a ds secret = (List.range M).map f := by unfold wsP; rw [hf, hdsl, hM]
  have hel : ((List.range M).map f).flatten.length ≤ 50000 := by
    rw [flat_N_len (N := N) _ (fun p hp => by obtain ⟨i, _, rfl⟩ := List.mem_map.1 hp; exact hfl i), List.length_map, List.length_range, hM]
    calc N * (2 * N + 3) ≤ 32 * (2 * 32 + 3) := Nat.mul_le_mul hN.2 (by omega)
      _ ≤ 50000 := by decide
  rw [hE]
  rw [← hM] at hdsl
  obtain ⟨i0, hi0, hz0, hz1, hz2⟩ := info_text
  have HX := hide (And.intro hfi (And.intro hbl (And.intro hfl (And.intro hel (And.intro hM (And.intro hN (And.intro hds15 hdsl)))))))
  have HB := hide hB
  have HC := hide hC
  have HPt := hide hPt
  have HK := hide hK
  have HS := hide (And.intro hp (And.intro hs (And.intro ha ht)))
  clear hfi hbl hfl hel hM hN hB hC hPt hK hp hs ha hf hE hFs hFl hF hpl hsl hds15 hdsl hds ht htl
  go_enter Tryz.func22, Tryz.ntmps22
  go_wp2_with (first
    | (refine wpList_load_rowS (by rfl) 23 _ (by rfl) w.heap.size (by rfl) _ _ _ _ bx0.here Tryz.underlying23 (by kernel_rfl) ?_)
    | (go_at_call 45; refine (hwr _).mono ?_; rintro e w1 ⟨rfl, g1⟩; have bx1 := bx0.below g1; have d0 := bx1.c0)
    | (go_at_call 13; refine (hdg _ (HS.out.2.2.2.below (keep_trans k0 g1))).mono ?_; rintro e W1 ⟨v3, rfl, o3, g3⟩; obtain ⟨a3, c3, rfl, _, _, ho3⟩ := o3.row.opens HX.out.2.2.2.2.2.2.2)
    | fail)
  obtain ⟨b3, f3, rfl, hc3⟩ := ho3 (by have := HX.out.2.2.2.2.1; omega)
  replace bx1 := bx1.below g3
  have La1 := (La0.below g1).below g3
  have k1 := keep_trans (keep_trans k0 g1) g3
  have H0 := hide (show WpLW W1 M f (.slice none 0 0) (.int .i64 0) W1 from ⟨0, Nat.zero_le _, rfl, by rw [List.take_zero]; exact GrT.nil _ _, Below.refl _ _⟩)
  have HA := hide (And.intro bx1 (And.intro La1 (And.intro k1 hc3)))
  clear bx0 La0 k0 g1 bx1 La1 k1 hwr g3 o3 ho3 hc3 hdg d0
  go_loopw [12, 13] (fun vo vi wr => WpLW W1 M f vo vi wr) (fun _ vi _ => M - (intOf vi).toNat)
  case atStart => exact H0.out
  case round =>
    obtain ⟨i, hi', rfl, hG, hbr⟩ := hrel
    clear H0
    rename World => wr
    obtain ⟨hfi, hbl0, hfl0, hel, hM, hN, hds15, hdsl⟩ := HX.out
    obtain ⟨bx1, La1, k1, hc3⟩ := HA.out
    obtain ⟨hp, hs, ha, ht⟩ := HS.out
    obtain ⟨oa, oc, rfl⟩ := hG.slice
    have hLn := map_lenW f M i hi'
    rw [hLn] at hG ⊢
    have bx := bx1.below hbr
    have La := La1.below hbr
    have kw := keep_trans k1 hbr
    have cN := bx.c0
    by_cases hlt : i < M
    · have hii : (i : Int) < (M : Int) := by omega
      obtain ⟨I, hI⟩ : ∃ I : Nat, I = i + 1 := ⟨_, rfl⟩
      have e_I : (i : Int) + 1 = (I : Int) := by omega
      have s_I : IntKind.i64.wrap (I : Int) = (I : Int) := by rw [IntKind.wrap_i64]; omega
      have rp := hp.below k1
      have rs := hs.below k1
      have bx := bx1
      have La := La1
      have hbl := hbl0 i
      have hfl := hfl0 i
      have hbg := HB.out i (by omega)
      have hput := HPt.out i (by omega)
      obtain ⟨E, hE⟩ : ∃ E, E = el ds i := ⟨_, rfl⟩
      have hcE : W1.cell? ⟨b3, f3 + i, none⟩ = some (.int .u32 (E : Int)) := by rw [hE]; exact hc3 i hlt
      have hE15 : E ≤ 15 := by rw [hE]; exact hds15 i
      have hch := HC.out i E hE15 (wbg Fs a secret i) hbl
      rw [show wch Fs (putA a 4 i) 0 E (wbg Fs a secret i) = f i by rw [hE]; exact hfi i] at hch
      generalize putA a 4 i = P4 at *
      generalize wbg Fs a secret i = BG at *
      obtain ⟨us, hown, _, _⟩ := hG.ex
      rw [hLn] at hown
      have kb : Below wr.heap.size wr wr.drew := (Below.refl _ _).drew
      have hbd : Below W1.heap.size W1 wr.drew := hbr.drew
      have HKk := hide (And.intro hI hlt)
      have hi6 : i < 65536 := by omega
      have hN0 : 0 < N := by omega
      clear hI hfi hbl0 hfl0 hel hM hp hs kw hi' hds15 hdsl ht hc3 hE hE15
      go_wp2
      refine at_begin (ops := opsA (cBA (cLA (cRA (cLpA (cBA (cRA (cLA (cRA (cRA (cRA (cRA (Tryz.f22.body.getD .skip))))))))))))) (n := 21) (fun y => Below W1.heap.size W1 y) (by kernel_rfl) (by kernel_rfl) ?_
      refine tkP 0 1 35 (.slice oa i oc) sg8reg rfl (by decide) rfl rfl (y_moveG (wF rfl) rfl rfl) hbd ?_
      simp only [Act.put, plI, plZ, plS]
      refine tkP 1 3 36 (.agg #[.int .i64 (N : Int), .int .i64 H, .int .i64 D, .int .i64 A, .int .i64 K, .bool sh]) sg8reg rfl (by decide) rfl rfl (y_rowG (cs := [.int .i64 (N : Int), .int .i64 H, .int .i64 D, .int .i64 A, .int .i64 K, .bool sh]) (wF rfl) rfl rfl Tryz.underlying23 rfl (by kernel_rfl) (fun _ h => (bx.below h).range)) hbd ?_
      simp only [Act.put, plI, plZ, plS]
      refine tkP 2 7 37 (.agg #[.int .i64 (N : Int), .int .i64 H, .int .i64 D, .int .i64 A, .int .i64 K, .bool sh]) sg8reg rfl (by decide) rfl rfl (y_rowG (cs := [.int .i64 (N : Int), .int .i64 H, .int .i64 D, .int .i64 A, .int .i64 K, .bool sh]) (wF rfl) rfl rfl Tryz.underlying23 rfl (by kernel_rfl) (fun _ h => (bx.below h).range)) hbd ?_
      simp only [Act.put, plI, plZ, plS]
      refine tkP 3 15 38 (.slice sa N sc) sg8reg rfl (by decide) rfl rfl (y_moveG (wF rfl) rfl rfl) hbd ?_
      simp only [Act.put, plI, plZ, plS]
      refine tkP 4 31 39 (.slice pa N pc) sg8reg rfl (by decide) rfl rfl (y_moveG (wF rfl) rfl rfl) hbd ?_
      simp only [Act.put, plI, plZ, plS]
      refine tkP 5 63 40 (.agg (arr .u8 a)) sg8reg rfl (by decide) rfl rfl (y_rowG (cs := vals .u8 a) (wF rfl) rfl rfl Tryz.underlying25 rfl (by rw [vals_length, ha.1]; kernel_rfl) (fun _ h => lies_rangeW (La.below h))) hbd ?_
      simp only [Act.put, plI, plZ, plS]
      refine tkP 6 127 41 (.int .i64 (i : Int)) sg8reg rfl (by decide) rfl rfl (y_moveG (wF rfl) rfl rfl) hbd ?_
      simp only [Act.put, plI, plZ, plS]
      refine tkP 8 383 43 (.slice (some ⟨b3, f3, none⟩) M c3) sg8reg rfl (by decide) rfl rfl (y_moveG (wF rfl) rfl rfl) hbd ?_
      simp only [Act.put, plI, plZ, plS]
      refine tkP 9 895 44 (.int .i64 (i : Int)) sg8reg rfl (by decide) rfl rfl (y_moveG (wF rfl) rfl rfl) hbd ?_
      simp only [Act.put, plI, plZ, plS]
      refine tkP 10 1919 45 (.pointer (some ⟨b3, f3 + i, none⟩)) sg8reg rfl (by decide) rfl rfl (y_ixW (wF rfl) rfl rfl rfl Tryz.underlying33 (by kernel_rfl) hlt) hbd ?_
      simp only [Act.put, plI, plZ, plS]
      refine tkP 11 3967 46 (.int .u32 (E : Int)) sg8reg rfl (by decide) rfl rfl (y_plainG (wF rfl) rfl rfl Tryz.underlying42 rfl (fun _ h => keep_cell hcE h)) hbd ?_
      simp only [Act.put, plI, plZ, plS]
      refine tkP 12 8063 47 (.slice pa N pc) sg8reg rfl (by decide) rfl rfl (y_moveG (wF rfl) rfl rfl) hbd ?_
      simp only [Act.put, plI, plZ, plS]
      refine tkP 13 16255 48 (.agg (arr .u8 a)) sg8reg rfl (by decide) rfl rfl (y_rowG (cs := vals .u8 a) (wF rfl) rfl rfl Tryz.underlying25 rfl (by rw [vals_length, ha.1]; kernel_rfl) (fun _ h => lies_rangeW (La.below h))) hbd ?_
      simp only [Act.put, plI, plZ, plS]
      refine tkP 14 32639 49 (.int .i64 (i : Int)) sg8reg rfl (by decide) rfl rfl (y_moveG (wF rfl) rfl rfl) hbd ?_
      simp only [Act.put, plI, plZ, plS]
      refine tkP 15 65407 50 (.int .u64 (i : Int)) sg8reg rfl (by decide) rfl rfl (y_convI (wF rfl) rfl rfl (conv_i64u64W i (by omega))) hbd ?_
      simp only [Act.put, plI, plZ, plS]
      refine at_one (i := 7) (m' := 65535) sg8reg (by decide) rfl ?_
      refine p_callG (args := #[.agg #[.int .i64 (N : Int), .int .i64 H, .int .i64 D, .int .i64 A, .int .i64 K, .bool sh], .slice sa N sc, .slice pa N pc, .agg (arr .u8 a), .int .i64 (i : Int)]) (d := some 42) rfl (wF rfl) rfl (by simp only [List.map_toArray, List.map_cons, List.map_nil]; rfl) rfl Tryz.call47 ((hbg wr.drew (rp.below hbd) (rs.below hbd)).mono ?_)
      rintro e y16 ⟨bv, rfl, rb, nb, g16⟩
      have tb := new_ntidy rb (by rw [hbl]; omega)
      have kb0 := kb
      replace kb := keep_trans kb g16
      obtain ⟨ba, bc, rfl, _⟩ := rb.opens hbl
      have hb16 := keep_trans hbd g16
      refine ⟨_, rfl, hb16, ?_⟩
      simp only [Act.put, plI, plZ, plS]
      refine at_one (i := 16) (m' := 131071) sg8reg (by decide) rfl ?_
      refine p_callG (args := #[.agg (arr .u8 a), .int .i64 4, .int .u64 (i : Int)]) (d := some 51) rfl (wF rfl) rfl (by simp only [List.map_toArray, List.map_cons, List.map_nil]; rfl) rfl Tryz.call10 ((hput y16).mono ?_)
      rintro e y17 ⟨rfl, g17⟩
      replace kb := keep_trans kb g17
      replace rb := rb.below g17
      have hb17 := keep_trans hb16 g17
      refine ⟨_, rfl, hb17, ?_⟩
      simp only [Act.put, plI, plZ, plS]
      refine at_one (i := 17) (m' := 262143) sg8reg (by decide) rfl ?_
      refine p_callG (args := #[.agg #[.int .i64 (N : Int), .int .i64 H, .int .i64 D, .int .i64 A, .int .i64 K, .bool sh], .slice ba N bc, .int .u32 0, .int .u32 (E : Int), .slice pa N pc, .agg (arr .u8 P4)]) (d := some 52) rfl (wF rfl) rfl (by simp only [List.map_toArray, List.map_cons, List.map_nil]; rfl) rfl Tryz.call46 ((hch y17 _ (rp.below hb17) rb tb).mono ?_)
      rintro e y18 ⟨cv, rfl, rc, tc, nc, g18⟩
      have kc := kb
      replace kb := keep_trans kb g18
      obtain ⟨ca, cc, rfl, _⟩ := rc.opens hfl
      have hb18 := keep_trans hb17 g18
      refine ⟨_, rfl, hb18, ?_⟩
      simp only [Act.put, plI, plZ, plS]
      refine at_one (i := 18) (m' := 524287) sg8reg (by decide) rfl ?_
      refine p_build1G (d := some 53) rfl (wF rfl) rfl rfl rfl Tryz.underlying41 hi0 hz1 hz0 ?_
      have hb19 := keep_trans hb18 (keep_alloc y18 (.cells #[.slice ca N cc] 27))
      have kd := keep_trans kb (keep_alloc y18 (.cells #[.slice ca N cc] 27))
      have rcd := rc.below (keep_alloc y18 (.cells #[.slice ca N cc] 27))
      have hcell := cell_row1 y18 (.slice ca N cc) 27
      obtain ⟨G1, hG1⟩ : ∃ q : Nat, y18.heap.size = q := ⟨_, rfl⟩
      obtain ⟨zb, hzb⟩ : ∃ z : World, z = y18.alloc (.cells #[.slice ca N cc] 27) := ⟨_, rfl⟩
      rw [← hzb] at hb19 kd rcd hcell ⊢
      rw [hG1] at hcell ⊢
      clear hzb hG1
      refine ⟨hb19, ?_⟩
      simp only [Act.put, plI, plZ, plS]
      refine at_one (i := 19) (m' := 1048575) sg8reg (by decide) rfl ?_
      have hnewc : New wr.heap.size (.slice ca N cc) := by
        rcases nc with h | h
        · exact h.mono kc.size
        · rw [h]; exact nb
      have aU := apart_new hown rcd (by rw [hfl]; omega) hnewc
      refine p_pushT (d := some 54) rfl (wF rfl) rfl rfl rfl (hG.below kd) rfl hcell rcd tc aU (hb19).size (by rw [hLn]; omega) ?_
      intro g7 cap7 w7 hgr hg7
      have hb20 := (hb19).grown hg7 (hb19).size (fun k hk => (hown.lt k hk).1)
      rw [hLn] at hgr ⊢
      refine ⟨hb20, ?_⟩
      simp only [Act.put, plI, plZ, plS]
      refine tkP 20 2097151 12 (.slice (some ⟨g7, 0, none⟩) (i + 1) cap7) sg8reg rfl (by decide) rfl rfl (y_assignG (wF rfl) rfl rfl) hb20 ?_
      simp only [Act.put, plI, plZ, plS]
      refine at_done sg8reg (by decide) ?_
      go_wp2
      obtain ⟨hI, hlt⟩ := HKk.out
      rw [← map_takeW f hlt] at hgr
      exact ⟨⟨i + 1, by omega, vint (by omega), hgr, hb20⟩, by simp [intOf]; omega⟩
    · obtain rfl : i = M := by omega
      have hge : ¬ ((i : Int) < (i : Int)) := by omega
      rw [List.take_of_length_le (by simp)] at hG
      have hky := HK.out wr _ _ hG.rows hel
      have HKk := hide kw
      clear hG hbr hfi hbl0 hfl0 hel hM hN hp hs kw hi' hlt bx1 La1 k1 hds15 hdsl ht hc3
      go_wp2_with (first
        | (go_at_call 37; refine hky.mono ?_; rintro e w9 ⟨v9, rfl, o9, g9⟩)
        | fail)
      go_ret
      exact ⟨_, rfl, o9.row, o9.new.mono HKk.out.size, keep_trans HKk.out g9⟩
def cn8ltW : List Lt := [(0, some 40, [12]), (0, some 41, [5]), (0, some 42, [1]), (0, some 43, [5]), (8, some 44, [43]), (0, some 45, [13]), (48, some 46, [44, 45]), (0, some 47, [5]), (128, some 48, [47]), (0, some 49, [13]), (768, some 50, [48, 49]), (0, some 51, [5]), (2048, some 52, [51]), (5120, some 53, [50, 52]), (8260, some 54, [42, 46, 53]), (0, some 55, [11]), (0, some 56, [13]), (98304, some 57, [55, 56]), (131072, some 58, [57]), (0, some 59, [3]), (0, some 60, [9]), (0, some 61, [13]), (2097152, some 62, [61]), (5242880, some 63, [60, 62]), (9191426, some 64, [41, 54, 58, 59, 63]), (16777216, some 65, [64]), (50331649, some 66, [40, 65]), (134217727, some 12, [66])]
theorem cn8regW : Reg (opsA (cBA (cLA (cRA (cLpA (cBA (cRA (cLA (cRA (cRA (cRA (cRA (Tryz.f24.body.getD .skip))))))))))))) cn8ltW := ⟨by kernel_rfl, by kernel_rfl⟩
theorem rcndW_ok (sh : Bool) (pub a text sig : List Nat) (pv tv gv : Value) (w : World) (hF : FitX (N : Int) H D A K) (ha : Pl a) (hp : Row .u8 256 w pv pub) (tp : Tidy pv) (ht : Row .u8 256 w tv text) (tt : Tidy tv) (hg : Row .u8 256 w gv sig) (htl : text.length = N) (hgl : sig.length = N * (2 * N + 3)) (hpl : pub.length = N) :
    Calls Tryz.prog 24 #[slV (N : Int) H D A K sh, gv, tv, pv, .agg (arr .u8 a)] w fun e w' => ∃ v, e = .returned v ∧ Row .u8 256 w' v (wky (fun p x => sumW N sh pub p x) a (wcE (fun p x => sumW N sh pub p x) a N (dgW N text) sig)) ∧ New w.heap.size v ∧ Below w.heap.size w w' := by
  have hN := fitN hF
  obtain ⟨bx0, La0, k0⟩ := boxW (N := N) (H := H) (D := D) (A := A) (K := K) w sh (a := a)
  obtain ⟨pa, pc, rfl, _⟩ := hp.opens hpl
  have hdg := fun y (r : Row .u8 256 y tv text) => rdgW_ok text tv y (fit3 hF) r tt htl
  obtain ⟨ta, tc, rfl, _⟩ := ht.opens htl
  obtain ⟨M, hM⟩ : ∃ M, M = 2 * N + 3 := ⟨_, rfl⟩
  obtain ⟨Z, hZ⟩ : ∃ Z, Z = N * M := ⟨_, rfl⟩
  rw [← hM, ← hZ] at hgl
  have hZ0 : 0 < Z := by rw [hZ]; exact Nat.mul_pos (by omega) (by omega)
  have hZb : Z ≤ 50000 := by
    rw [hZ, hM]
    calc N * (2 * N + 3) ≤ 32 * (2 * 32 + 3) := Nat.mul_le_mul hN.2 (by omega)
      _ ≤ 50000 := by decide
  obtain ⟨ga, gc, rfl, lg1, lg2, hog⟩ := hg.opens hgl
  obtain ⟨gb, go, rfl, _⟩ := hog hZ0
  obtain ⟨Fs, hFs⟩ : ∃ Fs : List Nat → List Nat → List Nat, Fs = fun p x => sumW N sh pub p x := ⟨_, rfl⟩
  have hFl : ∀ p x, (Fs p x).length = N := fun p x => by rw [hFs]; exact sumW_len hN.2 _ _ _ _
  have hwr := fun y => rwrongW_ok sh ta pa tc pc y hF
  have hC : ∀ (i E : Nat) (hE : E ≤ 15) (z : List Nat) (hz : z.length = N) y zv (rp : Row .u8 256 y (.slice pa N pc) pub) (rz : Row .u8 256 y zv z) (tz : Tidy zv), Calls Tryz.prog 46 #[slV (N : Int) H D A K sh, zv, .int .u32 (E : Int), .int .u32 15, .slice pa N pc, .agg (arr .u8 (putA a 4 i))] y fun e w' => ∃ v, e = .returned v ∧ Row .u8 256 w' v (wch (fun p x => sumW N sh pub p x) (putA a 4 i) E (15 - E) z) ∧ Tidy v ∧ (New y.heap.size v ∨ v = zv) ∧ Below y.heap.size y w' := fun i E hE z hz y zv rp rz tz => by
    have := rchainW_any sh pub (putA a 4 i) z E (15 - E) _ zv y hF (ha.put 4 i) rp tp rz tz hpl hz (by omega)
    rw [show E + (15 - E) = 15 by omega] at this
    exact this
  have hds15 : ∀ i, el (dgW N text) i ≤ 15 := fun i => by have := el_le_ofW (K := 4) (dgW_lt N text) i; omega
  have hdsl := dgW_len N text
  obtain ⟨ds, hds⟩ : ∃ x, x = dgW N text := ⟨_, rfl⟩
  rw [← hds] at hdg hds15 hdsl ⊢
  have hPt := fun (i : Nat) (hi : i < 65536) y => rput_any a 4 i y ha (by omega)
  have hK := fun y ends ev (rp : Row .u8 256 y (.slice pa N pc) pub) (re : Rows2 y ev ends) (hel : ends.flatten.length ≤ 50000) => rkeyW_any sh pub a ends _ ev y hF ha rp tp re hpl hel
  rw [← hFs] at hC hK ⊢
  unfold slV at hwr hC hK ⊢
  obtain ⟨f, hf⟩ : ∃ f : Nat → List Nat, f = fun i => wch Fs (putA a 4 i) (el ds i) (15 - el ds i) ((sig.drop (N * i)).take N) := ⟨_, rfl⟩
  have hfi : ∀ i, wch Fs (putA a 4 i) (el ds i) (15 - el ds i) ((sig.drop (N * i)).take N) = f i := fun i => by rw [hf]
  have hmul : ∀ i, i < M → N * i + N ≤ Z := fun i hi => by rw [hZ]; calc N * i + N = N * (i + 1) := by rw [Nat.mul_add, Nat.mul_one]
      _ ≤ N * M := Nat.mul_le_mul_left _ hi
  have hbl : ∀ i, i < M → ((sig.drop (N * i)).take N).length = N := fun i hi => by have := hmul i hi; rw [List.length_take, List.length_drop]; omega
  have hfl : ∀ i, i < M → (f i).length = N := fun i hi => by rw [← hfi]; exact wch_len hFl _ _ (hbl i hi) _
  have hE : wcE Fs a N ds sig = (List.range M).map f := by unfold wcE; rw [hf, hdsl, hM]
  have hcut : ∀ i F G, i < M → F = N * i → G = F + N → ∀ w, (Instr.slice 27 (.slice (some ⟨gb, go, none⟩) Z gc) (some (.int .i64 (F : Int))) (some (.int .i64 (G : Int))) none).run Tryz.prog w = .ok (.slice (some ⟨gb, go + F, none⟩) N (gc - F)) w := fun i F G hi hF hG w => by have := hmul i hi; exact mid_runW (by omega) (by omega) (by omega) w
  have rP : ∀ i F, i < M → F = N * i → Row .u8 256 w (.slice (some ⟨gb, go + F, none⟩) N (gc - F)) ((sig.drop (N * i)).take N) := fun i F hi hF => by
    have h0 := hmul i hi
    have := hg.mid (i := N * i) (j := N * i + N) (by omega) (by omega)
    rw [show N * i + N - N * i = N by omega] at this
    rw [hF]
    exact this
  have hel : ((List.range M).map f).flatten.length ≤ 50000 := by
    rw [flat_N_len (N := N) _ (fun p hp => by obtain ⟨i, hi, rfl⟩ := List.mem_map.1 hp; exact hfl i (by simpa using hi)), List.length_map, List.length_range, ← hZ]
    exact hZb
  rw [hE]
  obtain ⟨N2, hN2⟩ : ∃ x, x = 2 * N := ⟨_, rfl⟩
  have e_2 : (2 : Int) * (N : Int) = (N2 : Int) := by omega
  have s_2 : IntKind.i64.wrap (N2 : Int) = (N2 : Int) := by rw [IntKind.wrap_i64]; omega
  have e_3 : (N2 : Int) + 3 = (M : Int) := by omega
  have s_3 : IntKind.i64.wrap (M : Int) = (M : Int) := by rw [IntKind.wrap_i64]; omega
  have e_Z : (N : Int) * (M : Int) = (Z : Int) := by rw [hZ]; norm_cast
  have s_Z : IntKind.i64.wrap (Z : Int) = (Z : Int) := by rw [IntKind.wrap_i64]; omega
  rw [← hM] at hdsl
  obtain ⟨i0, hi0, hz0, hz1, hz2⟩ := info_text
  have HX := hide (And.intro hfi (And.intro hbl (And.intro hfl (And.intro hel (And.intro hM (And.intro hN (And.intro hds15 (And.intro hdsl (And.intro hcut (And.intro rP (And.intro hmul hZb)))))))))))
  have HC := hide hC
  have HPt := hide hPt
  have HK := hide hK
  have HS := hide (And.intro hp (And.intro ha ht))
  clear hfi hbl hfl hel hM hN hC hPt hK hp ha hf hE hFs hFl hF hpl hds15 hdsl hds ht htl hcut rP hmul hZb hZ hZ0 hgl hog hg lg1 lg2 hN2
  go_enter Tryz.func24, Tryz.ntmps24
  go_wp2_with (first
    | (refine wpList_load_rowS (by rfl) 23 _ (by rfl) w.heap.size (by rfl) _ _ _ _ bx0.here Tryz.underlying23 (by kernel_rfl) ?_)
    | (go_at_call 45; refine (hwr _).mono ?_; rintro e w1 ⟨rfl, g1⟩; have bx1 := bx0.below g1; have d0 := bx1.c0)
    | (go_at_call 13; refine (hdg _ (HS.out.2.2.below (keep_trans k0 g1))).mono ?_; rintro e W1 ⟨v3, rfl, o3, g3⟩; obtain ⟨a3, c3, rfl, _, _, ho3⟩ := o3.row.opens HX.out.2.2.2.2.2.2.2.1)
    | fail)
  obtain ⟨b3, f3, rfl, hc3⟩ := ho3 (by have := HX.out.2.2.2.2.1; omega)
  replace bx1 := bx1.below g3
  have La1 := (La0.below g1).below g3
  have k1 := keep_trans (keep_trans k0 g1) g3
  have H0 := hide (show WpLW W1 M f (.slice none 0 0) (.int .i64 0) W1 from ⟨0, Nat.zero_le _, rfl, by rw [List.take_zero]; exact GrT.nil _ _, Below.refl _ _⟩)
  have HA := hide (And.intro bx1 (And.intro La1 (And.intro k1 hc3)))
  clear bx0 La0 k0 g1 bx1 La1 k1 hwr g3 o3 ho3 hc3 hdg d0
  go_loopw [12, 13] (fun vo vi wr => WpLW W1 M f vo vi wr) (fun _ vi _ => M - (intOf vi).toNat)
  case atStart => exact H0.out
  case round =>
    obtain ⟨i, hi', rfl, hG, hbr⟩ := hrel
    clear H0
    rename World => wr
    obtain ⟨hfi, hbl0, hfl0, hel, hM, hN, hds15, hdsl, hcut, rP, hmul, hZb⟩ := HX.out
    obtain ⟨bx1, La1, k1, hc3⟩ := HA.out
    obtain ⟨hp, ha, ht⟩ := HS.out
    obtain ⟨oa, oc, rfl⟩ := hG.slice
    have hLn := map_lenW f M i hi'
    rw [hLn] at hG ⊢
    have bx := bx1.below hbr
    have La := La1.below hbr
    have kw := keep_trans k1 hbr
    have cN := bx.c0
    by_cases hlt : i < M
    · have hii : (i : Int) < (M : Int) := by omega
      obtain ⟨I, hI⟩ : ∃ I : Nat, I = i + 1 := ⟨_, rfl⟩
      have e_I : (i : Int) + 1 = (I : Int) := by omega
      have s_I : IntKind.i64.wrap (I : Int) = (I : Int) := by rw [IntKind.wrap_i64]; omega
      have rp := hp.below k1
      have bx := bx1
      have La := La1
      have hsgl := hbl0 i hlt
      have hfl := hfl0 i hlt
      obtain ⟨F, hF⟩ : ∃ F, F = N * i := ⟨_, rfl⟩
      obtain ⟨G, hG0⟩ : ∃ G, G = F + N := ⟨_, rfl⟩
      have hFb := hmul i hlt
      have e_F : (N : Int) * (i : Int) = (F : Int) := by rw [hF]; norm_cast
      have u_F : IntKind.i64.wrap ((N : Int) * (i : Int)) = (F : Int) := by rw [e_F, IntKind.wrap_i64]; omega
      have u_G : IntKind.i64.wrap ((F : Int) + (N : Int)) = (G : Int) := by rw [show (F : Int) + (N : Int) = (G : Int) by omega, IntKind.wrap_i64]; omega
      have hcutw := hcut i F G hlt hF hG0
      have rsg := (rP i F hlt hF).below k1
      have tsg : Tidy (.slice (some ⟨gb, go + F, none⟩) N (gc - F)) := tidy_someW
      have hbrS := hbr.size
      have hput := HPt.out i (by omega)
      obtain ⟨E, hE⟩ : ∃ E, E = el ds i := ⟨_, rfl⟩
      have hcE : W1.cell? ⟨b3, f3 + i, none⟩ = some (.int .u32 (E : Int)) := by rw [hE]; exact hc3 i hlt
      have hE15 : E ≤ 15 := by rw [hE]; exact hds15 i
      have hch := HC.out i E hE15 _ hsgl
      rw [show wch Fs (putA a 4 i) E (15 - E) ((sig.drop (N * i)).take N) = f i by rw [hE]; exact hfi i] at hch
      generalize putA a 4 i = P4 at *
      generalize (sig.drop (N * i)).take N = BG at *
      obtain ⟨us, hown, _, _⟩ := hG.ex
      rw [hLn] at hown
      have kb : Below wr.heap.size wr wr.drew := (Below.refl _ _).drew
      have hbd : Below W1.heap.size W1 wr.drew := hbr.drew
      have HKk := hide (And.intro hI hlt)
      have hi6 : i < 65536 := by omega
      have hN0 : 0 < N := by omega
      clear hI hfi hbl0 hfl0 hel hM hp kw hi' hds15 hdsl ht hc3 hE hE15 hcut rP hmul hZb hF hG0 hFb e_F
      go_wp2
      refine at_begin (ops := opsA (cBA (cLA (cRA (cLpA (cBA (cRA (cLA (cRA (cRA (cRA (cRA (Tryz.f24.body.getD .skip))))))))))))) (n := 28) (fun y => Below W1.heap.size W1 y) (by kernel_rfl) (by kernel_rfl) ?_
      refine tkP 0 1 40 (.slice oa i oc) cn8regW rfl (by decide) rfl rfl (y_moveG (wF rfl) rfl rfl) hbd ?_
      simp only [Act.put, plI, plZ, plS]
      refine tkP 1 3 41 (.agg #[.int .i64 (N : Int), .int .i64 H, .int .i64 D, .int .i64 A, .int .i64 K, .bool sh]) cn8regW rfl (by decide) rfl rfl (y_rowG (cs := [.int .i64 (N : Int), .int .i64 H, .int .i64 D, .int .i64 A, .int .i64 K, .bool sh]) (wF rfl) rfl rfl Tryz.underlying23 rfl (by kernel_rfl) (fun _ h => (bx.below h).range)) hbd ?_
      simp only [Act.put, plI, plZ, plS]
      refine tkP 2 7 42 (.slice (some ⟨gb, go, none⟩) Z gc) cn8regW rfl (by decide) rfl rfl (y_moveG (wF rfl) rfl rfl) hbd ?_
      simp only [Act.put, plI, plZ, plS]
      refine tkP 3 15 43 (.pointer (some ⟨w.heap.size, 0, none⟩)) cn8regW rfl (by decide) rfl rfl (y_fieldG (wF rfl) rfl rfl (fun w => by simp [go_sem])) hbd ?_
      simp only [Act.put, plI, plZ, plS]
      refine tkP 4 31 44 (.int .i64 (N : Int)) cn8regW rfl (by decide) rfl rfl (y_plainG (wF rfl) rfl rfl Tryz.underlying3 rfl (fun _ h => (bx.below h).c0)) hbd ?_
      simp only [Act.put, plI, plZ, plS]
      refine tkP 5 63 45 (.int .i64 (i : Int)) cn8regW rfl (by decide) rfl rfl (y_moveG (wF rfl) rfl rfl) hbd ?_
      simp only [Act.put, plI, plZ, plS]
      refine tkP 6 127 46 (.int .i64 (F : Int)) cn8regW rfl (by decide) rfl rfl (y_mulI (wF rfl) rfl rfl rfl Tryz.underlying3 u_F) hbd ?_
      simp only [Act.put, plI, plZ, plS]
      refine tkP 7 255 47 (.pointer (some ⟨w.heap.size, 0, none⟩)) cn8regW rfl (by decide) rfl rfl (y_fieldG (wF rfl) rfl rfl (fun w => by simp [go_sem])) hbd ?_
      simp only [Act.put, plI, plZ, plS]
      refine tkP 8 511 48 (.int .i64 (N : Int)) cn8regW rfl (by decide) rfl rfl (y_plainG (wF rfl) rfl rfl Tryz.underlying3 rfl (fun _ h => (bx.below h).c0)) hbd ?_
      simp only [Act.put, plI, plZ, plS]
      refine tkP 9 1023 49 (.int .i64 (i : Int)) cn8regW rfl (by decide) rfl rfl (y_moveG (wF rfl) rfl rfl) hbd ?_
      simp only [Act.put, plI, plZ, plS]
      refine tkP 10 2047 50 (.int .i64 (F : Int)) cn8regW rfl (by decide) rfl rfl (y_mulI (wF rfl) rfl rfl rfl Tryz.underlying3 u_F) hbd ?_
      simp only [Act.put, plI, plZ, plS]
      refine tkP 11 4095 51 (.pointer (some ⟨w.heap.size, 0, none⟩)) cn8regW rfl (by decide) rfl rfl (y_fieldG (wF rfl) rfl rfl (fun w => by simp [go_sem])) hbd ?_
      simp only [Act.put, plI, plZ, plS]
      refine tkP 12 8191 52 (.int .i64 (N : Int)) cn8regW rfl (by decide) rfl rfl (y_plainG (wF rfl) rfl rfl Tryz.underlying3 rfl (fun _ h => (bx.below h).c0)) hbd ?_
      simp only [Act.put, plI, plZ, plS]
      refine tkP 13 16383 53 (.int .i64 (G : Int)) cn8regW rfl (by decide) rfl rfl (y_addI (wF rfl) rfl rfl rfl Tryz.underlying3 u_G) hbd ?_
      simp only [Act.put, plI, plZ, plS]
      refine tkP 14 32767 54 (.slice (some ⟨gb, go + F, none⟩) N (gc - F)) cn8regW rfl (by decide) rfl rfl (y_midW (wF rfl) rfl rfl rfl rfl hcutw) hbd ?_
      simp only [Act.put, plI, plZ, plS]
      refine tkP 15 65535 55 (.slice (some ⟨b3, f3, none⟩) M c3) cn8regW rfl (by decide) rfl rfl (y_moveG (wF rfl) rfl rfl) hbd ?_
      simp only [Act.put, plI, plZ, plS]
      refine tkP 16 131071 56 (.int .i64 (i : Int)) cn8regW rfl (by decide) rfl rfl (y_moveG (wF rfl) rfl rfl) hbd ?_
      simp only [Act.put, plI, plZ, plS]
      refine tkP 17 262143 57 (.pointer (some ⟨b3, f3 + i, none⟩)) cn8regW rfl (by decide) rfl rfl (y_ixW (wF rfl) rfl rfl rfl Tryz.underlying33 (by kernel_rfl) hlt) hbd ?_
      simp only [Act.put, plI, plZ, plS]
      refine tkP 18 524287 58 (.int .u32 (E : Int)) cn8regW rfl (by decide) rfl rfl (y_plainG (wF rfl) rfl rfl Tryz.underlying42 rfl (fun _ h => keep_cell hcE h)) hbd ?_
      simp only [Act.put, plI, plZ, plS]
      refine tkP 19 1048575 59 (.slice pa N pc) cn8regW rfl (by decide) rfl rfl (y_moveG (wF rfl) rfl rfl) hbd ?_
      simp only [Act.put, plI, plZ, plS]
      refine tkP 20 2097151 60 (.agg (arr .u8 a)) cn8regW rfl (by decide) rfl rfl (y_rowG (cs := vals .u8 a) (wF rfl) rfl rfl Tryz.underlying25 rfl (by rw [vals_length, ha.1]; kernel_rfl) (fun _ h => lies_rangeW (La.below h))) hbd ?_
      simp only [Act.put, plI, plZ, plS]
      refine tkP 21 4194303 61 (.int .i64 (i : Int)) cn8regW rfl (by decide) rfl rfl (y_moveG (wF rfl) rfl rfl) hbd ?_
      simp only [Act.put, plI, plZ, plS]
      refine tkP 22 8388607 62 (.int .u64 (i : Int)) cn8regW rfl (by decide) rfl rfl (y_convI (wF rfl) rfl rfl (conv_i64u64W i (by omega))) hbd ?_
      simp only [Act.put, plI, plZ, plS]
      refine at_one (i := 23) (m' := 16777215) cn8regW (by decide) rfl ?_
      refine p_callG (args := #[.agg (arr .u8 a), .int .i64 4, .int .u64 (i : Int)]) (d := some 63) rfl (wF rfl) rfl (by simp only [List.map_toArray, List.map_cons, List.map_nil]; rfl) rfl Tryz.call10 ((hput wr.drew).mono ?_)
      rintro e y24 ⟨rfl, g24⟩
      replace kb := keep_trans kb g24
      have hb24 := keep_trans hbd g24
      refine ⟨_, rfl, hb24, ?_⟩
      simp only [Act.put, plI, plZ, plS]
      refine at_one (i := 24) (m' := 33554431) cn8regW (by decide) rfl ?_
      refine p_callG (args := #[.agg #[.int .i64 (N : Int), .int .i64 H, .int .i64 D, .int .i64 A, .int .i64 K, .bool sh], .slice (some ⟨gb, go + F, none⟩) N (gc - F), .int .u32 (E : Int), .int .u32 15, .slice pa N pc, .agg (arr .u8 P4)]) (d := some 64) rfl (wF rfl) rfl (by simp only [List.map_toArray, List.map_cons, List.map_nil]; rfl) rfl Tryz.call46 ((hch y24 _ (rp.below hb24) (rsg.below hb24) tsg).mono ?_)
      rintro e y25 ⟨cv, rfl, rc, tc, nc, g25⟩
      have kc := kb
      replace kb := keep_trans kb g25
      obtain ⟨ca, cc, rfl, _⟩ := rc.opens hfl
      have hb25 := keep_trans hb24 g25
      refine ⟨_, rfl, hb25, ?_⟩
      simp only [Act.put, plI, plZ, plS]
      refine at_one (i := 25) (m' := 67108863) cn8regW (by decide) rfl ?_
      refine p_build1G (d := some 65) rfl (wF rfl) rfl rfl rfl Tryz.underlying41 hi0 hz1 hz0 ?_
      have hb26 := keep_trans hb25 (keep_alloc y25 (.cells #[.slice ca N cc] 27))
      have kd := keep_trans kb (keep_alloc y25 (.cells #[.slice ca N cc] 27))
      have rcd := rc.below (keep_alloc y25 (.cells #[.slice ca N cc] 27))
      have hcell := cell_row1 y25 (.slice ca N cc) 27
      obtain ⟨G1, hG1⟩ : ∃ q : Nat, y25.heap.size = q := ⟨_, rfl⟩
      obtain ⟨zb, hzb⟩ : ∃ z : World, z = y25.alloc (.cells #[.slice ca N cc] 27) := ⟨_, rfl⟩
      rw [← hzb] at hb26 kd rcd hcell ⊢
      rw [hG1] at hcell ⊢
      clear hzb hG1
      refine ⟨hb26, ?_⟩
      simp only [Act.put, plI, plZ, plS]
      refine at_one (i := 26) (m' := 134217727) cn8regW (by decide) rfl ?_
      have aU : Apart1 zb (.slice oa i oc) (.slice ca N cc) := by
        rcases nc with h | h
        · exact apart_new hown rcd (by rw [hfl]; omega) (h.mono kc.size)
        · rw [h]; exact (apart_old hown rsg (by rw [hsgl]; omega) (Nat.le_refl _) hbrS).below kd.size
      refine p_pushT (d := some 66) rfl (wF rfl) rfl rfl rfl (hG.below kd) rfl hcell rcd tc aU (hb26).size (by rw [hLn]; omega) ?_
      intro g7 cap7 w7 hgr hg7
      have hb27 := (hb26).grown hg7 (hb26).size (fun k hk => (hown.lt k hk).1)
      rw [hLn] at hgr ⊢
      refine ⟨hb27, ?_⟩
      simp only [Act.put, plI, plZ, plS]
      refine tkP 27 268435455 12 (.slice (some ⟨g7, 0, none⟩) (i + 1) cap7) cn8regW rfl (by decide) rfl rfl (y_assignG (wF rfl) rfl rfl) hb27 ?_
      simp only [Act.put, plI, plZ, plS]
      refine at_done cn8regW (by decide) ?_
      go_wp2
      obtain ⟨hI, hlt⟩ := HKk.out
      rw [← map_takeW f hlt] at hgr
      exact ⟨⟨i + 1, by omega, vint (by omega), hgr, hb27⟩, by simp [intOf]; omega⟩
    · obtain rfl : i = M := by omega
      have hge : ¬ ((i : Int) < (i : Int)) := by omega
      rw [List.take_of_length_le (by simp)] at hG
      have hky := HK.out wr _ _ (hp.below kw) hG.rows hel
      have hal := ha.1
      have HKk := hide kw
      clear hG hbr hfi hbl0 hfl0 hel hM hN hp kw hi' hlt bx1 La1 k1 hds15 hdsl ht hc3 hcut rP hmul hZb
      go_wp2_with (first
        | (refine wpList_load_rowS (by rfl) 23 _ (by rfl) w.heap.size (by rfl) _ _ _ _ bx.here Tryz.underlying23 (by kernel_rfl) ?_)
        | (refine wpList_load_row rfl 25 _ (by rfl) (w.heap.size + 1) (by rfl) _ _ _ (.array 32 5) La (by kernel_rfl) rfl (by rw [arr_size, hal]; kernel_rfl) ?_)
        | (go_at_call 48; refine hky.mono ?_; rintro e w9 ⟨v9, rfl, r9, n9, g9⟩)
        | fail)
      go_ret
      exact ⟨_, rfl, r9, n9.mono HKk.out.size, keep_trans HKk.out g9⟩
end
end Go.Proofs.YtpmobjfhhkglbaaGreatDoor
