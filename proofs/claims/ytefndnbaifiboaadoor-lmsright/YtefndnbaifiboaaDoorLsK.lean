/- Trees of leaves that sign once, the program's own: Verify, whatever comes. -/
import Derived.Test.YtefndnbaifiboaaDoorLsJ
import Derived.Test.YtefndnbaifiboaaDoorLtC2
namespace Go.Proofs.YtefndnbaifiboaaDoor
open Go.RowKit Go.Shelf
set_option linter.unusedVariables false
set_option linter.unusedSimpArgs false

theorem num_be4L {n : Nat} (h : n < 4294967296) : numL (be4 n) = n := by
  have e : be4 n = [n / 16777216 % 256, n / 65536 % 256, n / 256 % 256, n % 256] := by
    unfold be4 leL
    simp [List.range, List.range.loop]
  rw [e]
  show ((((0 * 256 + n / 16777216 % 256) % 18446744073709551616 * 256 + n / 65536 % 256) % 18446744073709551616 * 256 + n / 256 % 256) % 18446744073709551616 * 256 + n % 256) % 18446744073709551616 = n
  omega
theorem num4_inj {l m : List Nat} (hl : l.length = 4) (hm : m.length = 4) (hu : Under 256 l) (hv : Under 256 m) (e : numL l = numL m) : l = m := by
  match l, hl, m, hm with
  | [p, q, r, s], _, [p', q', r', s'], _ =>
    have e1 := num4_is p q r s (hu p (by simp)) (hu q (by simp)) (hu r (by simp)) (hu s (by simp))
    have e2 := num4_is p' q' r' s' (hv p' (by simp)) (hv q' (by simp)) (hv r' (by simp)) (hv s' (by simp))
    have b1 := hu p (by simp)
    have b2 := hu q (by simp)
    have b3 := hu r (by simp)
    have b4 := hu s (by simp)
    have c1 := hv p' (by simp)
    have c2 := hv q' (by simp)
    have c3 := hv r' (by simp)
    have c4 := hv s' (by simp)
    rw [e1, e2] at e
    simp only [List.cons.injEq, and_true]
    omega
theorem under_take {m n : Nat} {l : List Nat} (h : Under m l) : Under m (l.take n) := fun x hx => h x (List.mem_of_mem_take hx)
theorem under_drop {m n : Nat} {l : List Nat} (h : Under m l) : Under m (l.drop n) := fun x hx => h x (List.mem_of_mem_drop hx)
/-- a signature's kind is the key's just when its typecodes are -/
theorem hd_iff {pub sig : List Nat} (h : vKey pub) (hc : ctE sig = 0) (hu : Under 256 pub) (hv : Under 256 sig) : (ctH sig = hgtL (numL (pub.take 4)) ∧ ctW sig = dgtL (numL ((pub.drop 4).take 4))) ↔ hdT sig = pub.take 8 := by
  obtain ⟨h56, hH, hD⟩ := h
  obtain ⟨g8, gw0, _, gH0, _⟩ := ctE_zero hc
  have e8 : pub.take 8 = pub.take 4 ++ (pub.drop 4).take 4 := by rw [← List.take_add]
  have l4 : (pub.take 4).length = 4 := by rw [List.length_take]; omega
  have l8 : ((pub.drop 4).take 4).length = 4 := by rw [List.length_take, List.length_drop]; omega
  have s8 : ((sig.drop 4).take 4).length = 4 := by rw [List.length_take, List.length_drop]; omega
  have hs48 : numL ((sig.drop 4).take 4) < 4294967296 := num4_lt (under_take (under_drop hv)) (by omega)
  have hb : be4 (numL ((sig.drop 4).take 4)) = (sig.drop 4).take 4 := num4_inj (be4_len _) s8 (be4_under _) (under_take (under_drop hv)) (num_be4L hs48)
  unfold hdT
  rw [hb, e8]
  have hcd : ∀ c, hgtL c ≠ 0 → lmCode (hgtL c : Nat) = c := fun c h0 => by
    rcases hgtL_or c with h | ⟨h, _⟩
    · exact absurd h h0
    · exact h
  have hdd : ∀ c, dgtL c ≠ 0 → kdC (dgtL c) = c := fun c h0 => by
    rcases dgtL_or c with h | ⟨n, m, s, h⟩
    · exact absurd h h0
    · have e0 : ∀ {k n m s c : Nat}, Kd k n m s c → kdC k = c := fun hk => by cases hk <;> rfl
      exact e0 h
  constructor
  · rintro ⟨e1, e2⟩
    congr 1
    · rw [e1, hcd _ hH]
      exact num4_inj (be4_len _) l4 (be4_under _) (under_take hu) (num_be4L (num4_lt (under_take hu) (by omega)))
    · refine num4_inj s8 l8 (under_take (under_drop hv)) (under_take (under_drop hu)) ?_
      rw [← hdd _ hD, ← e2]
      exact (hdd _ gw0).symm
  · intro e
    obtain ⟨e1, e2⟩ := List.append_inj e (by rw [be4_len, l4])
    constructor
    · rw [← e1, num_be4L (lmCode_32 _), hgtL_code]
      have := (fit_ct gw0 gH0).1
      exact this
    · rw [← e2]; rfl
theorem cvfT_any (pub text sig : List Nat) (pv tv sv : Value) (w : World) (hT : Roots w) (hp : Row .u8 256 w pv pub) (ht : Row .u8 256 w tv text) (tt : Tidy tv) (htl : text.length ≤ 10000) (hs : Row .u8 256 w sv sig) (hsl : sig.length ≤ 100000) :
    Calls Tryd.prog 10 #[pv, tv, sv] w fun e w' => e = .returned (.int .i64 (vfT pub text sig)) ∧ Below w.heap.size w w' := by
  unfold vfT
  by_cases h1 : vKey pub
  · rw [if_neg (by simp [h1])]
    by_cases h2 : ctE sig = 0
    · rw [if_neg (by simp [h2])]
      by_cases h3 : ctN sig < sig.length
      · rw [if_pos h3]
        exact cver_more pub sig pv tv sv w hp hs hsl h1 h2 h3
      · rw [if_neg h3]
        have hm : sig.length = ctN sig := by have := (ctE_zero h2).2.2.2.2; omega
        have hi := hd_iff h1 h2 hp.under hs.under
        by_cases h4 : hdT sig = pub.take 8
        · rw [if_neg (by simp [h4])]
          by_cases h5 : 2 ^ ctH sig ≤ numL (sig.take 4)
          · rw [if_pos h5]
            exact cver_spent pub sig pv tv sv w hp hs hsl h1 h2 hm (hi.2 h4) h5
          · rw [if_neg h5]
            obtain ⟨n, m, s, hk⟩ : ∃ n m s, Kd (ctW sig) n m s (numL ((sig.drop 4).take 4)) := by
              rcases dgtL_or (numL ((sig.drop 4).take 4)) with hz | hz
              · exact absurd hz (ctE_zero h2).2.1
              · exact hz
            obtain ⟨e1, e2, e3, _⟩ := hk.is
            rw [← e1, ← e2, ← e3]
            exact cver_sums (c := 0) pub text sig pv tv sv w hT hp ht tt htl hs hsl h1 h2 hm (hi.2 h4) (by omega) hk
        · rw [if_pos h4]
          exact cver_kind pub sig pv tv sv w hp hs hsl h1 h2 hm (fun q => h4 (hi.1 q))
    · rw [if_pos h2]
      exact cver_cut pub sig pv tv sv w hp hs h1 h2
  · rw [if_pos h1]
    exact cver_key pub pv tv sv w hp h1
end Go.Proofs.YtefndnbaifiboaaDoor

/- Trees of leaves that sign once: the document's Sign where it answers. -/
namespace Go.Proofs.YtefndnbaifiboaaDoor
open Go.RowKit
set_option linter.unusedVariables false
set_option linter.unusedSimpArgs false

theorem xor1_i64 (n : Nat) (hn : n < 1048576) : bits .xor .i64 (n : Int) 1 = ((n ^^^ 1 : Nat) : Int) := by
  show IntKind.i64.wrap ((BitVec.ofInt 64 (n : Int) ^^^ BitVec.ofInt 64 ((1 : Nat) : Int)).toNat : Int) = _
  rw [BitVec.toNat_xor, ofInt_u64 _ (by omega), ofInt_u64 _ (by omega), IntKind.wrap_i64]
  have : n ^^^ 1 < 2 ^ 20 := Nat.xor_lt_two_pow (by omega) (by decide)
  omega
theorem row_tidyT {k : IntKind} {m : Nat} {w : World} {v : Value} {l : List Nat} (h : Row k m w v l) (hl : 0 < l.length) : Tidy v := by
  obtain ⟨a, c, rfl, _, _, h3, _⟩ := h
  obtain ⟨b, off, rfl, _⟩ := h3 hl
  exact fun n c he => by simp at he
theorem GrT.monoT {w : World} {B B' : Nat} {vo : Value} {ls : List (List Nat)} (h : GrT w B vo ls) (hB : B' ≤ B) : GrT w B' vo ls := by
  obtain ⟨us, h1, h2, h3⟩ := h
  refine ⟨us, ⟨h1.1, ?_⟩, h2, h3⟩
  rcases h1.2 with h4 | ⟨g, cap, cur, e1, e2, e3⟩
  · exact .inl h4
  · exact .inr ⟨g, cap, cur, e1, Nat.le_trans hB e2, e3⟩
theorem pthA_len {f : Nat → List Nat} : ∀ k n, (pthA f k n).length = k
  | 0, n => rfl
  | k + 1, n => by rw [pthA_snoc, List.length_append, pthA_len k n]; rfl
theorem pthA_flat {f : Nat → List Nat} (hf : ∀ i, (f i).length = 32) : ∀ k n, (pthA f k n).flatten.length = 32 * k
  | 0, n => rfl
  | k + 1, n => by rw [pthA_snoc, List.flatten_append, List.length_append, pthA_flat hf k n]; simp [hf]; omega
/-- a text more, from among the knots -/
theorem sgl_next {w wD wr w6 : World} {gO h n i g cap : Nat} {pf : List (List Nat)} {f : Nat → List Nat} {vo u : Value} {us : List Value} (hi : i < h)
    (hown : wr.ownsRow w.heap.size 25 1 vo (pf ++ pthA f i n).length us) (ht : Texts wr us (pf ++ pthA f i n)) (hap : ∀ u ∈ us, Apart1 wr vo u) (hB : But gO wD wr) (hvo : ∀ g, vo.ownBlock = some g → g = gO ∨ wD.heap.size ≤ g) (hb : Below w.heap.size w wr)
    (ru : Row .u8 256 wD u (f ((n / 2 ^ i) ^^^ 1))) (hul : 0 < (f ((n / 2 ^ i) ^^^ 1)).length) (tu : Tidy u) (hu : ∀ q, u.ownBlock = some q → gO < q) (hgO : w.heap.size ≤ gO) (hDs : w.heap.size ≤ wD.heap.size)
    (hown6 : w6.ownsRow w.heap.size 25 1 (.slice (some ⟨g, 0, none⟩) ((pf ++ pthA f i n).length + 1) cap) ((pf ++ pthA f i n).length + 1) (us ++ [u])) (hg6 : (wr.alloc (.cells #[u] 25)).grownBy w6 vo.ownBlock) (hl6 : vo.ownBlock = some g ∨ g = (wr.alloc (.cells #[u] 25)).heap.size) :
    SgL w wD gO h n pf f (.slice (some ⟨g, 0, none⟩) ((pf ++ pthA f i n).length + 1) cap) (.int .i64 ((n / 2 ^ (i + 1) : Nat) : Int)) w6 := by
  have hba := keep_alloc wr (.cells #[u] 25)
  have ruw : Row .u8 256 wr u (f ((n / 2 ^ i) ^^^ 1)) := ru.but (fun _ q hq => by have := hu q hq; omega) hB
  have au : Apart1 wr vo u := fun q hq => by
    have h1 := ru.old hul hq
    have h2 := hu q hq
    refine ⟨Nat.lt_of_lt_of_le h1 hB.size, fun e => ?_⟩
    rcases hvo q e with h | h <;> omega
  have hgr := GrT.push (ht.below hba) (fun u hu => (hap u hu).below hba.size) (ruw.below hba) tu (au.below hba.size) hown6 hg6 hl6
  have hgs := hg6.size
  rw [World.size_alloc] at hgs
  refine ⟨i + 1, by omega, rfl, ?_, ?_, ?_, ?_⟩
  · rw [pthA_snoc, ← List.append_assoc]
    exact hgr
  · refine ⟨hg6.os.trans hB.os, hg6.tape.trans hB.tape, hg6.output.trans hB.output, by have := hB.size; omega, fun k hk hn => ?_⟩
    have hkr : k < wr.heap.size := Nat.lt_of_lt_of_le hk hB.size
    refine (hg6.block k (by rw [World.size_alloc]; omega) fun e => ?_).trans ((hba.block k hkr).trans (hB.block k hk hn))
    rcases hvo k e.symm with h | h
    · exact hn h
    · omega
  · intro g' hg'
    have : g = g' := by simpa [Value.ownBlock] using hg'
    subst this
    rcases hl6 with h | h
    · exact hvo g h
    · rw [World.size_alloc] at h; have := hB.size; omega
  · refine (hb.trans (hba.mono hb.size)).grown hg6 (Nat.le_trans hb.size hba.size) fun j ej => ?_
    rcases hvo j ej with h | h <;> omega
end Go.Proofs.YtefndnbaifiboaaDoor

/- Trees of leaves that sign once: what a tree signs is right by its key, and nothing else like it. Plain. -/
namespace Go.Proofs.YtefndnbaifiboaaDoor
open Go.RowKit
set_option linter.unusedVariables false
set_option linter.unusedSimpArgs false

theorem vChk_ofS : ∀ (ps : List (List Nat)), (∀ p ∈ ps, p.length = 32) → vChk ps.flatten ps.length = ps
  | [], _ => rfl
  | p :: ps, h => by
    have h1 := h p (by simp)
    show (p ++ ps.flatten).take 32 :: vChk ((p ++ ps.flatten).drop 32) ps.length = p :: ps
    rw [List.take_append_of_le_length (by omega), List.take_of_length_le (by omega), List.drop_append_of_le_length (by omega), List.drop_of_length_le (by omega), List.nil_append, vChk_ofS ps (fun q hq => h q (List.mem_cons_of_mem _ hq))]
theorem pthA_32S {f : Nat → List Nat} (hf : ∀ i, (f i).length = 32) : ∀ (k n : Nat), ∀ p ∈ pthA f k n, p.length = 32
  | 0, n, p, hp => by cases hp
  | k + 1, n, p, hp => by
    rw [pthA_snoc] at hp
    rcases List.mem_append.1 hp with h | h
    · exact pthA_32S hf k n p h
    · rw [List.mem_singleton.1 h]; exact hf _
/-- the key that a leaf's own signature leads to -/
theorem cnd_sgS {k n m s c : Nat} (hk : Kd k n m s c) (id seed text : List Nat) (q : Nat) : cndT k n m s id text (sgT k n m s c id seed text q) q = pkT k n m id seed q := by
  have hl : ∀ x, (shaL x).length = 32 := fun x => shaL_len x
  unfold cndT sgT pkT pubH
  generalize shaL = H at *
  rw [sgnH_c hl]
  obtain ⟨ds, hds⟩ : ∃ ds, digsL k n m s (digH H (preL id q) (lmCn H (preL id q) seed) text) = ds := ⟨_, rfl⟩
  have hd : ds.length = n + m := by rw [← hds]; exact digs_len _
  have hb : ∀ i, i < ds.length → el ds i ≤ 2 ^ k - 1 := fun i hi => by
    have := digs_lt (w := k) (n := n) (m := m) (s := s) (digH H (preL id q) (lmCn H (preL id q) seed) text) (el ds i) (by rw [hds, el_at hi]; exact List.getElem_mem hi)
    omega
  rw [hds, ends_is hl _ _ _ _ hb, hd]
theorem cut_aS (a b : List Nat) {n : Nat} (h : a.length = n) : (a ++ b).take n = a ∧ (a ++ b).drop n = b := by
  subst h
  exact ⟨List.take_left, List.drop_left⟩
theorem Kd.code_ltS {k n m s c : Nat} (h : Kd k n m s c) : c < 4294967296 ∧ c ≠ 0 := by cases h <;> decide
/-- P15.5: what a tree signs is right by its key -/
theorem vfT_sigS {k n m s c : Nat} (kd : Kd k n m s c) (h : Nat) (hL : FitL (h : Int) (k : Int)) (h10 : h ≤ 10) (id seed text : List Nat) (q : Nat) (hid : id.length = 16) (hq : q < 2 ^ h) :
    vfT ((be4 (lmCode (h : Int)) ++ be4 c) ++ (id ++ knT k n m h id seed 1)) text ([be4 q, sgT k n m s c id seed text q, be4 (lmCode (h : Int))] ++ pthA (knT k n m h id seed) h (2 ^ h + q)).flatten = 0 ∧
    ctE ([be4 q, sgT k n m s c id seed text q, be4 (lmCode (h : Int))] ++ pthA (knT k n m h id seed) h (2 ^ h + q)).flatten = 0 ∧
    ctN ([be4 q, sgT k n m s c id seed text q, be4 (lmCode (h : Int))] ++ pthA (knT k n m h id seed) h (2 ^ h + q)).flatten = ([be4 q, sgT k n m s c id seed text q, be4 (lmCode (h : Int))] ++ pthA (knT k n m h id seed) h (2 ^ h + q)).flatten.length ∧
    ctH ([be4 q, sgT k n m s c id seed text q, be4 (lmCode (h : Int))] ++ pthA (knT k n m h id seed) h (2 ^ h + q)).flatten = h ∧
    ctW ([be4 q, sgT k n m s c id seed text q, be4 (lmCode (h : Int))] ++ pthA (knT k n m h id seed) h (2 ^ h + q)).flatten = k := by
  have kdo := kd
  obtain ⟨rfl, rfl, rfl, rfl⟩ := kd.is
  have hp := hL.pos
  have hcode0 : lmCode (h : Int) ≠ 0 := hL.1
  have hcode := lmCode_32 (h : Int)
  have hc := kd.code_ltS
  have hsz := kd.size
  have hq32 : q < 4294967296 := Nat.lt_of_lt_of_le hq (Nat.le_trans (Nat.pow_le_pow_right (by decide) (show h ≤ 10 by omega)) (by decide))
  obtain ⟨SG, hSG⟩ : ∃ S, sgT k (nK k) (mK k) (sK k) (cK k) id seed text q = S := ⟨_, rfl⟩
  have hSGl : SG.length = szW (k : Int) := by rw [← hSG, sgT_len, hsz]
  have hSG4 : SG.take 4 = be4 (cK k) := by rw [← hSG]; exact sgnH_code _ _ _
  obtain ⟨PT, hPT⟩ : ∃ P, pthA (knT k (nK k) (mK k) h id seed) h (2 ^ h + q) = P := ⟨_, rfl⟩
  have hPTl : PT.length = h := by rw [← hPT]; exact pthA_len h _
  have hPT32 : ∀ p ∈ PT, p.length = 32 := by rw [← hPT]; exact pthA_32S (fun i => knT_len _ _ _ _ _ _ i) h _
  have hPTf : PT.flatten.length = 32 * h := by rw [← hPT]; exact pthA_flat (fun i => knT_len _ _ _ _ _ _ i) h _
  obtain ⟨TP, hTP⟩ : ∃ T, knT k (nK k) (mK k) h id seed 1 = T := ⟨_, rfl⟩
  have hTPl : TP.length = 32 := by rw [← hTP]; exact knT_len _ _ _ _ _ _ _
  rw [hSG, hPT, hTP]
  obtain ⟨sig, hsig⟩ : ∃ s, ([be4 q, SG, be4 (lmCode (h : Int))] ++ PT).flatten = s := ⟨_, rfl⟩
  have es : sig = be4 q ++ (SG ++ (be4 (lmCode (h : Int)) ++ PT.flatten)) := by rw [← hsig]; simp
  obtain ⟨pub, hpub⟩ : ∃ p, (be4 (lmCode (h : Int)) ++ be4 (cK k)) ++ (id ++ TP) = p := ⟨_, rfl⟩
  rw [hsig, hpub]
  have ep : pub = be4 (lmCode (h : Int)) ++ (be4 (cK k) ++ (id ++ TP)) := by rw [← hpub, List.append_assoc]
  have z4 : 4 ≤ szW (k : Int) := by omega
  have s0 := cut_aS (be4 q) (SG ++ (be4 (lmCode (h : Int)) ++ PT.flatten)) (be4_len q)
  rw [← es] at s0
  have s1 : (sig.drop 4).take 4 = be4 (cK k) := by rw [s0.2, List.take_append_of_le_length (by omega), hSG4]
  have s2 := cut_aS SG (be4 (lmCode (h : Int)) ++ PT.flatten) hSGl
  have s3 : sig.drop (4 + szW (k : Int)) = be4 (lmCode (h : Int)) ++ PT.flatten := by rw [← List.drop_drop, s0.2, s2.2]
  have s4 := cut_aS (be4 (lmCode (h : Int))) PT.flatten (be4_len _)
  have s5 : sig.drop (8 + szW (k : Int)) = PT.flatten := by rw [show 8 + szW (k : Int) = 4 + szW (k : Int) + 4 by omega, ← List.drop_drop, s3, s4.2]
  have sl : sig.length = 8 + szW (k : Int) + 32 * h := by rw [es, List.length_append, List.length_append, List.length_append, be4_len, be4_len, hSGl, hPTf]; omega
  have p0 := cut_aS (be4 (lmCode (h : Int))) (be4 (cK k) ++ (id ++ TP)) (be4_len _)
  rw [← ep] at p0
  have p1 := cut_aS (be4 (cK k)) (id ++ TP) (be4_len _)
  have p2 := cut_aS id TP hid
  have p8 : pub.drop 8 = id ++ TP := by rw [show 8 = 4 + 4 from rfl, ← List.drop_drop, p0.2, p1.2]
  have p24 : pub.drop 24 = TP := by rw [show 24 = 8 + 16 from rfl, ← List.drop_drop, p8, p2.2]
  have pt8 : pub.take 8 = be4 (lmCode (h : Int)) ++ be4 (cK k) := by
    have := cut_aS (be4 (lmCode (h : Int)) ++ be4 (cK k)) (id ++ TP) (n := 8) (by rw [List.length_append, be4_len, be4_len])
    rw [hpub] at this
    exact this.1
  have hW : ctW sig = k := by unfold ctW; rw [s1, num_be4L hc.1]; exact dgtL_code kd
  have hA : ctA sig = 4 + szW (k : Int) := by unfold ctA; rw [hW]
  have hH : ctH sig = h := by unfold ctH; rw [hA, s3, s4.1, num_be4L hcode]; exact hgtL_code hcode0
  have hN : ctN sig = sig.length := by unfold ctN; rw [hA, hH, sl]; omega
  have hE : ctE sig = 0 := by
    unfold ctE
    rw [if_neg (by omega), if_neg (by rw [hW]; intro e; subst e; cases kd), if_neg (by rw [hA]; omega), if_neg (by rw [hH]; omega), if_neg (by omega)]
  have hKy : vKey pub := ⟨by rw [ep, List.length_append, List.length_append, List.length_append, be4_len, be4_len, hid, hTPl], by rw [p0.1, num_be4L hcode, hgtL_code hcode0]; omega, by rw [p0.2, p1.1, num_be4L hc.1, dgtL_code kd]; intro e; subst e; cases kd⟩
  have hHd : hdT sig = pub.take 8 := by unfold hdT; rw [hH, s1, num_be4L hc.1, pt8]
  have hQ : numL (sig.take 4) = q := by rw [s0.1]; exact num_be4L hq32
  have hV : vTopK (ctW sig) (nK (ctW sig)) (mK (ctW sig)) (sK (ctW sig)) pub text sig = pub.drop 24 := by
    rw [hW]
    unfold vTopK
    rw [hH, hQ, s5, p8, p2.1, p24, s0.2, s2.1]
    have hv := vChk_ofS PT hPT32
    rw [hPTl] at hv
    rw [hv, ← hSG, cnd_sgS kd, ← hPT, ← hTP]
    have := climb_top (ov := ovL id) (lf := fun i => lfS id i (pkT k (nK k) (mK k) id seed (i - 2 ^ h))) hq
    simp only [Nat.add_sub_cancel_left] at this
    exact this
  refine ⟨?_, hE, hN, hH, hW⟩
  unfold vfT
  rw [if_neg (by simp [hKy]), if_neg (by simp [hE]), if_neg (by omega), if_neg (by simp [hHd]), if_neg (by rw [hH, hQ]; omega), if_pos hV]
/-- what is behind a signature changes nothing of how it is cut off -/
theorem cut_moreS {b : List Nat} (h : ctE b = 0) (hn : ctN b = b.length) (more : List Nat) : ctE (b ++ more) = 0 ∧ ctN (b ++ more) = b.length ∧ ctH (b ++ more) = ctH b ∧ ctW (b ++ more) = ctW b := by
  obtain ⟨h8, hw0, hL1, hH0, hL2⟩ := ctE_zero h
  have hA4 : 4 ≤ ctA b := by unfold ctA; omega
  have hW : ctW (b ++ more) = ctW b := by
    unfold ctW
    rw [List.drop_append_of_le_length (by omega), List.take_append_of_le_length (by rw [List.length_drop]; omega)]
  have hA : ctA (b ++ more) = ctA b := by unfold ctA; rw [hW]
  have hH : ctH (b ++ more) = ctH b := by
    unfold ctH
    rw [hA, List.drop_append_of_le_length (by omega), List.take_append_of_le_length (by rw [List.length_drop]; omega)]
  have hN : ctN (b ++ more) = b.length := by unfold ctN; rw [hA, hH, ← hn]; rfl
  refine ⟨?_, hN, hH, hW⟩
  unfold ctE
  rw [if_neg (by rw [List.length_append]; omega), if_neg (by rw [hW]; exact hw0), if_neg (by rw [hA, List.length_append]; omega), if_neg (by rw [hH]; exact hH0), if_neg (by rw [hN, List.length_append]; omega)]
/-- a signature that is right is cut off whole -/
theorem vfT_wholeS {pub text sig : List Nat} (h : vfT pub text sig = 0) : vKey pub ∧ ctE sig = 0 ∧ ctN sig = sig.length ∧ hdT sig = pub.take 8 ∧ numL (sig.take 4) < 2 ^ ctH sig := by
  unfold vfT at h
  by_cases h1 : vKey pub
  · rw [if_neg (by simp [h1])] at h
    by_cases h2 : ctE sig = 0
    · rw [if_neg (by simp [h2])] at h
      by_cases h3 : ctN sig < sig.length
      · rw [if_pos h3] at h; cases h
      · rw [if_neg h3] at h
        by_cases h4 : hdT sig = pub.take 8
        · rw [if_neg (by simp [h4])] at h
          by_cases h5 : 2 ^ ctH sig ≤ numL (sig.take 4)
          · rw [if_pos h5] at h; cases h
          · have := (ctE_zero h2).2.2.2.2
            exact ⟨h1, h2, by omega, h4, by omega⟩
        · rw [if_pos h4] at h; cases h
    · rw [if_pos h2] at h
      exact absurd (by exact_mod_cast h) h2
  · rw [if_pos h1] at h; cases h
theorem vfT_moreS {pub text sig : List Nat} (h : vfT pub text sig = 0) (x : Nat) (text2 : List Nat) : vfT pub text2 (sig ++ [x]) = 1 := by
  obtain ⟨h1, h2, h3, _, _⟩ := vfT_wholeS h
  obtain ⟨c1, c2, _, _⟩ := cut_moreS h2 h3 [x]
  unfold vfT
  rw [if_neg (by simp [h1]), if_neg (by simp [c1]), if_pos (by rw [c2, List.length_append]; simp)]
theorem ct_congr {a b : List Nat} (hl : a.length = b.length) (hd : a.drop 4 = b.drop 4) : ctE a = ctE b ∧ ctN a = ctN b ∧ ctH a = ctH b ∧ ctW a = ctW b := by
  have hW : ctW a = ctW b := by unfold ctW; rw [hd]
  have hA : ctA a = ctA b := by unfold ctA; rw [hW]
  have h4 : 4 ≤ ctA b := by unfold ctA; omega
  have hH : ctH a = ctH b := by
    unfold ctH
    rw [hA]
    have e : ∀ l : List Nat, l.drop (ctA b) = (l.drop 4).drop (ctA b - 4) := fun l => by rw [List.drop_drop]; congr 1; omega
    rw [e a, e b, hd]
  have hN : ctN a = ctN b := by unfold ctN; rw [hA, hH]
  exact ⟨by unfold ctE; rw [hl, hW, hA, hH, hN], hN, hH, hW⟩
/-- by a leaf that there is not, a signature is none -/
theorem vfT_flip {pub text sig sig2 : List Nat} (h : vfT pub text sig = 0) (hl : sig2.length = sig.length) (hd : sig2.drop 4 = sig.drop 4) (hq : 2 ^ ctH sig ≤ numL (sig2.take 4)) (text2 : List Nat) : vfT pub text2 sig2 = 13 := by
  obtain ⟨h1, h2, h3, h4, _⟩ := vfT_wholeS h
  obtain ⟨c1, c2, c3, c4⟩ := ct_congr hl hd
  have h5 : hdT sig2 = hdT sig := by unfold hdT; rw [c3, hd]
  unfold vfT
  rw [if_neg (by simp [h1]), if_neg (by rw [c1]; simp [h2]), if_neg (by rw [c2, hl]; omega), if_neg (by rw [h5]; simp [h4]), if_pos (by rw [c3]; exact hq)]
theorem be4_small {q : Nat} (hq : q < 256) : be4 q = [0, 0, 0, q] := by
  have e : be4 q = [q / 16777216 % 256, q / 65536 % 256, q / 256 % 256, q % 256] := by
    unfold be4 leL
    simp [List.range, List.range.loop]
  rw [e]
  simp
  omega
end Go.Proofs.YtefndnbaifiboaaDoor
