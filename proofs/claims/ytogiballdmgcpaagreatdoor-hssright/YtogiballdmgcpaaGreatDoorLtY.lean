/- Trees of leaves that sign once: what a tree signs is right by its key. Plain. -/
import Derived.Test.YtogiballdmgcpaaGreatDoorLtV8
import Derived.Test.YtogiballdmgcpaaGreatDoorLtV
import Derived.Test.YtogiballdmgcpaaGreatDoorLsK
import Derived.Test.YtogiballdmgcpaaGreatDoorLhA
import Derived.Test.YtogiballdmgcpaaGreatDoorLsQ
import Derived.Test.YtogiballdmgcpaaGreatDoorLhV
import Derived.Test.YtogiballdmgcpaaGreatDoorLcD
import Derived.Test.YtogiballdmgcpaaGreatDoorPlan3
namespace Go.Proofs.YtogiballdmgcpaaGreatDoor
open Go.RowKit
set_option linter.unusedVariables false
set_option linter.unusedSimpArgs false

theorem nbe4 {n : Nat} (h : n < 4294967296) : numL (be4 n) = n := by
  have e : be4 n = [n / 16777216 % 256, n / 65536 % 256, n / 256 % 256, n % 256] := by
    unfold be4 leL
    simp [List.range, List.range.loop]
  rw [e]
  show ((((0 * 256 + n / 16777216 % 256) % 18446744073709551616 * 256 + n / 65536 % 256) % 18446744073709551616 * 256 + n / 256 % 256) % 18446744073709551616 * 256 + n % 256) % 18446744073709551616 = n
  omega
theorem vChk_of : ∀ (ps : List (List Nat)), (∀ p ∈ ps, p.length = 32) → vChk ps.flatten ps.length = ps
  | [], _ => rfl
  | p :: ps, h => by
    have h1 := h p (by simp)
    show (p ++ ps.flatten).take 32 :: vChk ((p ++ ps.flatten).drop 32) ps.length = p :: ps
    rw [List.take_append_of_le_length (by omega), List.take_of_length_le (by omega), List.drop_append_of_le_length (by omega), List.drop_of_length_le (by omega), List.nil_append, vChk_of ps (fun q hq => h q (List.mem_cons_of_mem _ hq))]
theorem pthA_32 {f : Nat → List Nat} (hf : ∀ i, (f i).length = 32) : ∀ (k n : Nat), ∀ p ∈ pthA f k n, p.length = 32
  | 0, n, p, hp => by cases hp
  | k + 1, n, p, hp => by
    rw [pthA_snoc] at hp
    rcases List.mem_append.1 hp with h | h
    · exact pthA_32 hf k n p h
    · rw [List.mem_singleton.1 h]; exact hf _
/-- the key that a leaf's own signature leads to -/
theorem cnd_sg {k n m s c : Nat} (hk : Kd k n m s c) (id seed text : List Nat) (q : Nat) : cndT k n m s id text (sgT k n m s c id seed text q) q = pkT k n m id seed q := by
  have hl : ∀ x, (shaL x).length = 32 := fun x => shaL_len x
  unfold cndT sgT pkT pubH
  generalize shaL = H at *
  rw [sgnH_c hl]
  obtain ⟨ds, hds⟩ : ∃ ds, digsL k n m s (digH H (preL id q) (lmCn H (preL id q) seed) text) = ds := ⟨_, rfl⟩
  have hd : ds.length = n + m := by rw [← hds]; exact digs_len _
  have hb : ∀ i, i < ds.length → el ds i ≤ 2 ^ k - 1 := fun i hi => by
    have := digs_lt (w := k) (n := n) (m := m) (s := s) (digH H (preL id q) (lmCn H (preL id q) seed) text) (el ds i) (by rw [hds, el_at hi]; exact List.getElem_mem hi)
    omega
  rw [hds, ends_is hl _ _ _ _ hb, hd]
theorem cut_a (a b : List Nat) {n : Nat} (h : a.length = n) : (a ++ b).take n = a ∧ (a ++ b).drop n = b := by
  subst h
  exact ⟨List.take_left, List.drop_left⟩
theorem Kd.code_lt {k n m s c : Nat} (h : Kd k n m s c) : c < 4294967296 ∧ c ≠ 0 := by cases h <;> decide
/-- P15.5: what a tree signs is right by its key -/
theorem vfT_sig {t : Int × Int} (hg : FitG t) (id seed text : List Nat) (q : Nat) (hid : id.length = 16) (hq : q < 2 ^ t.1.toNat) : vfT (pubG t id seed) text (sigG t id seed q text) = 0 := by
  obtain ⟨k, hk, kd⟩ := hg.kd
  have hp := hg.pos
  have hL := hg.1
  obtain ⟨hh, x⟩ := t
  simp only at hk hp hL hq
  subst hk
  obtain ⟨h, rfl⟩ : ∃ H : Nat, hh = (H : Int) := ⟨hh.toNat, by omega⟩
  unfold pubG sigG
  simp only [Int.toNat_natCast] at hq ⊢
  have hcode0 : lmCode (h : Int) ≠ 0 := hL.1
  have hcode := lmCode_32 (h : Int)
  have hc := kd.code_lt
  have hsz := kd.size
  have hq32 : q < 4294967296 := Nat.lt_of_lt_of_le hq (Nat.le_trans (Nat.pow_le_pow_right (by decide) (show h ≤ 10 by omega)) (by decide))
  obtain ⟨SG, hSG⟩ : ∃ S, sgT k (nK k) (mK k) (sK k) (cK k) id seed text q = S := ⟨_, rfl⟩
  have hSGl : SG.length = szW (k : Int) := by rw [← hSG, sgT_len, hsz]
  have hSG4 : SG.take 4 = be4 (cK k) := by rw [← hSG]; exact sgnH_code _ _ _
  obtain ⟨PT, hPT⟩ : ∃ P, pthA (knT k (nK k) (mK k) h id seed) h (2 ^ h + q) = P := ⟨_, rfl⟩
  have hPTl : PT.length = h := by rw [← hPT]; exact pthA_len h _
  have hPT32 : ∀ p ∈ PT, p.length = 32 := by rw [← hPT]; exact pthA_32 (fun i => knT_len _ _ _ _ _ _ i) h _
  have hPTf : PT.flatten.length = 32 * h := by rw [← hPT]; exact pthA_flat (fun i => knT_len _ _ _ _ _ _ i) h _
  obtain ⟨TP, hTP⟩ : ∃ T, knT k (nK k) (mK k) h id seed 1 = T := ⟨_, rfl⟩
  have hTPl : TP.length = 32 := by rw [← hTP]; exact knT_len _ _ _ _ _ _ _
  rw [hSG, hPT, hTP]
  obtain ⟨sig, hsig⟩ : ∃ s, ([be4 q, SG, be4 (lmCode (h : Int))] ++ PT).flatten = s := ⟨_, rfl⟩
  have es : sig = be4 q ++ (SG ++ (be4 (lmCode (h : Int)) ++ PT.flatten)) := by rw [← hsig]; simp
  obtain ⟨pub, hpub⟩ : ∃ p, (be4 (lmCode (h : Int)) ++ be4 (cK k)) ++ (id ++ TP) = p := ⟨_, rfl⟩
  rw [hsig, hpub]
  have ep : pub = be4 (lmCode (h : Int)) ++ (be4 (cK k) ++ (id ++ TP)) := by rw [← hpub, List.append_assoc]
  have z4 : 4 ≤ szW (k : Int) := by omega
  have s0 := cut_a (be4 q) (SG ++ (be4 (lmCode (h : Int)) ++ PT.flatten)) (be4_len q)
  rw [← es] at s0
  have s1 : (sig.drop 4).take 4 = be4 (cK k) := by rw [s0.2, List.take_append_of_le_length (by omega), hSG4]
  have s2 := cut_a SG (be4 (lmCode (h : Int)) ++ PT.flatten) hSGl
  have s3 : sig.drop (4 + szW (k : Int)) = be4 (lmCode (h : Int)) ++ PT.flatten := by rw [← List.drop_drop, s0.2, s2.2]
  have s4 := cut_a (be4 (lmCode (h : Int))) PT.flatten (be4_len _)
  have s5 : sig.drop (8 + szW (k : Int)) = PT.flatten := by rw [show 8 + szW (k : Int) = 4 + szW (k : Int) + 4 by omega, ← List.drop_drop, s3, s4.2]
  have sl : sig.length = 8 + szW (k : Int) + 32 * h := by rw [es, List.length_append, List.length_append, List.length_append, be4_len, be4_len, hSGl, hPTf]; omega
  have p0 := cut_a (be4 (lmCode (h : Int))) (be4 (cK k) ++ (id ++ TP)) (be4_len _)
  rw [← ep] at p0
  have p1 := cut_a (be4 (cK k)) (id ++ TP) (be4_len _)
  have p2 := cut_a id TP hid
  have p8 : pub.drop 8 = id ++ TP := by rw [show 8 = 4 + 4 from rfl, ← List.drop_drop, p0.2, p1.2]
  have p24 : pub.drop 24 = TP := by rw [show 24 = 8 + 16 from rfl, ← List.drop_drop, p8, p2.2]
  have pt8 : pub.take 8 = be4 (lmCode (h : Int)) ++ be4 (cK k) := by
    have := cut_a (be4 (lmCode (h : Int)) ++ be4 (cK k)) (id ++ TP) (n := 8) (by rw [List.length_append, be4_len, be4_len])
    rw [hpub] at this
    exact this.1
  have hW : ctW sig = k := by unfold ctW; rw [s1, nbe4 hc.1]; exact dgtL_code kd
  have hA : ctA sig = 4 + szW (k : Int) := by unfold ctA; rw [hW]
  have hH : ctH sig = h := by unfold ctH; rw [hA, s3, s4.1, nbe4 hcode]; exact hgtL_code hcode0
  have hN : ctN sig = sig.length := by unfold ctN; rw [hA, hH, sl]; omega
  have hE : ctE sig = 0 := by
    unfold ctE
    rw [if_neg (by omega), if_neg (by rw [hW]; intro e; subst e; cases kd), if_neg (by rw [hA]; omega), if_neg (by rw [hH]; omega), if_neg (by omega)]
  have hKy : vKey pub := ⟨by rw [ep, List.length_append, List.length_append, List.length_append, be4_len, be4_len, hid, hTPl], by rw [p0.1, nbe4 hcode, hgtL_code hcode0]; omega, by rw [p0.2, p1.1, nbe4 hc.1, dgtL_code kd]; intro e; subst e; cases kd⟩
  have hHd : hdT sig = pub.take 8 := by unfold hdT; rw [hH, s1, nbe4 hc.1, pt8]
  have hQ : numL (sig.take 4) = q := by rw [s0.1]; exact nbe4 hq32
  have hV : vTopK (ctW sig) (nK (ctW sig)) (mK (ctW sig)) (sK (ctW sig)) pub text sig = pub.drop 24 := by
    rw [hW]
    unfold vTopK
    rw [hH, hQ, s5, p8, p2.1, p24, s0.2, s2.1]
    have hv := vChk_of PT hPT32
    rw [hPTl] at hv
    rw [hv, ← hSG, cnd_sg kd, ← hPT, ← hTP]
    have := climb_top (ov := ovL id) (lf := fun i => lfS id i (pkT k (nK k) (mK k) id seed (i - 2 ^ h))) hq
    simp only [Nat.add_sub_cancel_left] at this
    exact this
  unfold vfT
  rw [if_neg (by simp [hKy]), if_neg (by simp [hE]), if_neg (by omega), if_neg (by simp [hHd]), if_neg (by rw [hH, hQ]; omega), if_pos hV]
/-- what is behind a signature changes nothing of how it is cut off -/
theorem cut_more {b : List Nat} (h : ctE b = 0) (hn : ctN b = b.length) (more : List Nat) : ctE (b ++ more) = 0 ∧ ctN (b ++ more) = b.length ∧ ctH (b ++ more) = ctH b ∧ ctW (b ++ more) = ctW b := by
  obtain ⟨h8, hw0, hL1, hH0, hL2⟩ := ctE_zero h
  have hA4 : 4 ≤ ctA b := by unfold ctA; omega
  have hW : ctW (b ++ more) = ctW b := by
    unfold ctW
    rw [List.drop_append_of_le_length (by omega), List.take_append_of_le_length (by rw [List.length_drop]; omega)]
  have hA : ctA (b ++ more) = ctA b := by unfold ctA; rw [hW]
  have hH : ctH (b ++ more) = ctH b := by
    unfold ctH
    rw [hA, List.drop_append_of_le_length (by omega), List.take_append_of_le_length (by rw [List.length_drop]; omega)]
  have hN : ctN (b ++ more) = b.length := by unfold ctN; rw [hA, hH, ← hn]; rfl
  refine ⟨?_, hN, hH, hW⟩
  unfold ctE
  rw [if_neg (by rw [List.length_append]; omega), if_neg (by rw [hW]; exact hw0), if_neg (by rw [hA, List.length_append]; omega), if_neg (by rw [hH]; exact hH0), if_neg (by rw [hN, List.length_append]; omega)]
/-- a signature that is right is cut off whole -/
theorem vfT_whole {pub text sig : List Nat} (h : vfT pub text sig = 0) : vKey pub ∧ ctE sig = 0 ∧ ctN sig = sig.length ∧ hdT sig = pub.take 8 ∧ numL (sig.take 4) < 2 ^ ctH sig := by
  unfold vfT at h
  by_cases h1 : vKey pub
  · rw [if_neg (by simp [h1])] at h
    by_cases h2 : ctE sig = 0
    · rw [if_neg (by simp [h2])] at h
      by_cases h3 : ctN sig < sig.length
      · rw [if_pos h3] at h; cases h
      · rw [if_neg h3] at h
        by_cases h4 : hdT sig = pub.take 8
        · rw [if_neg (by simp [h4])] at h
          by_cases h5 : 2 ^ ctH sig ≤ numL (sig.take 4)
          · rw [if_pos h5] at h; cases h
          · have := (ctE_zero h2).2.2.2.2
            exact ⟨h1, h2, by omega, h4, by omega⟩
        · rw [if_pos h4] at h; cases h
    · rw [if_pos h2] at h
      exact absurd (by exact_mod_cast h) h2
  · rw [if_pos h1] at h; cases h
end Go.Proofs.YtogiballdmgcpaaGreatDoor

/- Trees of trees: what is signed is right. Plain. -/
namespace Go.Proofs.YtogiballdmgcpaaGreatDoor
open Go.RowKit
set_option linter.unusedVariables false
set_option linter.unusedSimpArgs false

section
variable (ts : List (Int × Int)) (vs id seed text : List Nat)
/-- a signature from tree i on, with r trees below it -/
def hsR : Nat → Nat → List Nat
  | 0, i => sigG (trA ts i) (stH vs id seed i).1 (stH vs id seed i).2 (el vs i) text
  | r + 1, i => sigG (trA ts i) (stH vs id seed i).1 (stH vs id seed i).2 (el vs i) (pubG (trA ts (i + 1)) (stH vs id seed (i + 1)).1 (stH vs id seed (i + 1)).2) ++ (pubG (trA ts (i + 1)) (stH vs id seed (i + 1)).1 (stH vs id seed (i + 1)).2 ++ hsR r (i + 1))
theorem hsR_all : ∀ r i, i + r = ts.length - 1 → (hsO ts vs id seed i).flatten ++ hsR ts vs id seed text r i = hsSig ts vs id seed text
  | 0, i, h => by
    unfold hsSig
    rw [← show i = ts.length - 1 by omega]
    simp only [List.flatten_append, List.flatten_cons, List.flatten_nil, List.append_nil]
    rfl
  | r + 1, i, h => by
    rw [← hsR_all r (i + 1) (by omega)]
    show _ = (hsO ts vs id seed i ++ _).flatten ++ _
    simp only [List.flatten_append, List.flatten_cons, List.flatten_nil, List.append_nil, List.append_assoc]
    rfl
end
theorem hvL_succ (text : List Nat) (r : Nat) (key rest : List Nat) : hvL text (r + 1) key rest = if ctE rest ≠ 0 then (ctE rest : Int) else
    if r = 0 then (if ctN rest < rest.length then 1 else vfT key text (rest.take (ctN rest))) else
    if (rest.drop (ctN rest)).length < 56 then 1 else
    if vfT key ((rest.drop (ctN rest)).take 56) (rest.take (ctN rest)) ≠ 0 then vfT key ((rest.drop (ctN rest)).take 56) (rest.take (ctN rest)) else
    hvL text r ((rest.drop (ctN rest)).take 56) ((rest.drop (ctN rest)).drop 56) := rfl
theorem hv_last {text key sig : List Nat} (h : vfT key text sig = 0) : hvL text 1 key sig = 0 := by
  obtain ⟨_, e1, e2, _, _⟩ := vfT_whole h
  rw [hvL_succ, if_neg (by simp [e1]), if_pos rfl, if_neg (by omega), e2, List.take_of_length_le (Nat.le_refl _)]
  exact h
theorem hv_last_more {text key sig : List Nat} (h : vfT key text sig = 0) (x : Nat) : hvL text 1 key (sig ++ [x]) = 1 := by
  obtain ⟨_, e1, e2, _, _⟩ := vfT_whole h
  obtain ⟨c1, c2, _, _⟩ := cut_more e1 e2 [x]
  rw [hvL_succ, if_neg (by simp [c1]), if_pos rfl, if_pos (by rw [c2, List.length_append]; simp)]
theorem hv_step {text key sig pk RR : List Nat} {r : Nat} (h : vfT key pk sig = 0) (hp : pk.length = 56) : hvL text (r + 2) key (sig ++ (pk ++ RR)) = hvL text (r + 1) pk RR := by
  obtain ⟨_, e1, e2, _, _⟩ := vfT_whole h
  obtain ⟨c1, c2, _, _⟩ := cut_more e1 e2 (pk ++ RR)
  rw [hvL_succ, if_neg (by simp [c1]), if_neg (by omega), c2, List.drop_left, List.take_left, if_neg (by rw [List.length_append]; omega)]
  have q := cut_a pk RR hp
  rw [q.1, q.2, if_neg (by simp [h])]
theorem hsR_zero (ts : List (Int × Int)) (vs id seed text : List Nat) (i : Nat) : hsR ts vs id seed text 0 i = sigG (trA ts i) (stH vs id seed i).1 (stH vs id seed i).2 (el vs i) text := rfl
theorem hsR_succ (ts : List (Int × Int)) (vs id seed text : List Nat) (r i : Nat) : hsR ts vs id seed text (r + 1) i = sigG (trA ts i) (stH vs id seed i).1 (stH vs id seed i).2 (el vs i) (pubG (trA ts (i + 1)) (stH vs id seed (i + 1)).1 (stH vs id seed (i + 1)).2) ++ (pubG (trA ts (i + 1)) (stH vs id seed (i + 1)).1 (stH vs id seed (i + 1)).2 ++ hsR ts vs id seed text r (i + 1)) := rfl
theorem hv_right {ts : List (Int × Int)} (hK : ∀ t ∈ ts, FitG t) {vs id seed : List Nat} (h1 : id.length = 16) (h2 : seed.length = 32) (hv : ∀ i, i < ts.length → el vs i < 2 ^ (trA ts i).1.toNat) (text : List Nat) (r : Nat) :
    ∀ i, i + r < ts.length → hvL text (r + 1) (pubG (trA ts i) (stH vs id seed i).1 (stH vs id seed i).2) (hsR ts vs id seed text r i) = 0 ∧ ∀ x, hvL text (r + 1) (pubG (trA ts i) (stH vs id seed i).1 (stH vs id seed i).2) (hsR ts vs id seed text r i ++ [x]) = 1 := by
  induction r with
  | zero =>
    intro i hi
    have hs := vfT_sig (hK _ (trA_mem (ts := ts) (i := i) (by omega))) (stH vs id seed i).1 (stH vs id seed i).2 text (el vs i) (stH_len h1 h2 i).1 (hv i (by omega))
    rw [hsR_zero]
    generalize sigG (trA ts i) (stH vs id seed i).1 (stH vs id seed i).2 (el vs i) text = SS at *
    generalize pubG (trA ts i) (stH vs id seed i).1 (stH vs id seed i).2 = PP at *
    exact ⟨hv_last hs, hv_last_more hs⟩
  | succ r ih =>
    intro i hi
    have hs := vfT_sig (hK _ (trA_mem (ts := ts) (i := i) (by omega))) (stH vs id seed i).1 (stH vs id seed i).2 (pubG (trA ts (i + 1)) (stH vs id seed (i + 1)).1 (stH vs id seed (i + 1)).2) (el vs i) (stH_len h1 h2 i).1 (hv i (by omega))
    have hr := ih (i + 1) (by omega)
    have hp := pubG_len (trA ts (i + 1)) (stH vs id seed (i + 1)).1 (stH vs id seed (i + 1)).2 (stH_len (vs := vs) h1 h2 (i + 1)).1
    rw [hsR_succ]
    generalize hsR ts vs id seed text r (i + 1) = RR at *
    generalize pubG (trA ts (i + 1)) (stH vs id seed (i + 1)).1 (stH vs id seed (i + 1)).2 = PK at *
    generalize sigG (trA ts i) (stH vs id seed i).1 (stH vs id seed i).2 (el vs i) PK = SS at *
    generalize pubG (trA ts i) (stH vs id seed i).1 (stH vs id seed i).2 = PP at *
    refine ⟨(hv_step hs hp).trans hr.1, fun x => ?_⟩
    rw [List.append_assoc, List.append_assoc]
    exact (hv_step hs hp).trans (hr.2 x)
/-- P16.4: what is signed is right by the key; with something behind it, it is none -/
theorem vfH_right {ts : List (Int × Int)} {id seed : List Nat} (hK : FitK ts id.length seed.length) (n : Nat) (text : List Nat) :
    vfH (be4 ts.length ++ pubG (trA ts 0) id seed) text (hsSig ts (vecF ts n) id seed text) = 0 ∧ ∀ x, vfH (be4 ts.length ++ pubG (trA ts 0) id seed) text (hsSig ts (vecF ts n) id seed text ++ [x]) = 1 := by
  obtain ⟨hN1, hN8, hG, _, h1, h2⟩ := hK
  have hr := hv_right hG h1 h2 (fun i hi => vecF_el n hi) text (ts.length - 1) 0 (by omega)
  have ha := hsR_all ts (vecF ts n) id seed text (ts.length - 1) 0 (by omega)
  have hp := pubG_len (trA ts 0) id seed h1
  have e0 : (hsO ts (vecF ts n) id seed 0).flatten = be4 (ts.length - 1) := by show ([be4 (ts.length - 1)] : List (List Nat)).flatten = _; simp
  have est : stH (vecF ts n) id seed 0 = (id, seed) := rfl
  rw [est] at hr
  rw [show ts.length - 1 + 1 = ts.length by omega] at hr
  rw [e0] at ha
  rw [← ha]
  generalize hsR ts (vecF ts n) id seed text (ts.length - 1) 0 = RR at *
  simp only at hr
  generalize pubG (trA ts 0) id seed = PK at *
  have q1 := cut_a (be4 ts.length) PK (be4_len _)
  have q2 := cut_a (be4 (ts.length - 1)) RR (be4_len _)
  have q3 := fun x : Nat => cut_a (be4 (ts.length - 1)) (RR ++ [x]) (be4_len _)
  have n1 := nbe4 (n := ts.length) (by omega)
  have n2 := nbe4 (n := ts.length - 1) (by omega)
  constructor
  · unfold vfH
    rw [q1.1, q1.2, q2.1, q2.2, n1, n2, if_neg (by rw [List.length_append, be4_len, hp]; omega), if_neg (by rw [List.length_append, be4_len]; omega)]
    exact hr.1
  · intro x
    unfold vfH
    rw [List.append_assoc, q1.1, q1.2, (q3 x).1, (q3 x).2, n1, n2, if_neg (by rw [List.length_append, be4_len, hp]; omega), if_neg (by rw [List.length_append, be4_len]; omega)]
    exact hr.2 x
end Go.Proofs.YtogiballdmgcpaaGreatDoor

/- Trees of leaves that sign once: IT IS RIGHT. -/
namespace Go.Proofs.YtogiballdmgcpaaGreatDoor
open Go.RowKit
set_option linter.unusedVariables false
set_option linter.unusedSimpArgs false

/-- the world with an id and a seed in boxes -/
def boxM (w : World) (a b : List Nat) : World := (w.alloc (.cells (arr .u8 a) 42)).alloc (.cells (arr .u8 b) 43)
theorem boxM_all (w : World) {a b : List Nat} (ha : a.length = 16) (hb : b.length = 32) (ua : Under 256 a) (ub : Under 256 b) :
    Row .u8 256 (boxM w a b) (.slice (some ⟨w.heap.size, 0, none⟩) 16 16) a ∧ Row .u8 256 (boxM w a b) (.slice (some ⟨w.heap.size + 1, 0, none⟩) 32 32) b ∧ Below w.heap.size w (boxM w a b) ∧ (boxM w a b).heap.size = w.heap.size + 1 + 1 := by
  have h1 : (boxM w a b).heap[w.heap.size]? = some (.cells (arr .u8 a) 42 (0, 0)) := by
    unfold boxM
    have h0 := heap_alloc_new w (.cells (arr .u8 a) 42)
    exact ((keep_alloc (w.alloc (.cells (arr .u8 a) 42)) (.cells (arr .u8 b) 43)).block _ (by rw [World.size_alloc]; exact Nat.lt_succ_self _)).trans h0
  have h2 : (boxM w a b).heap[w.heap.size + 1]? = some (.cells (arr .u8 b) 43 (0, 0)) := by
    unfold boxM
    have h0 := heap_alloc_new (w.alloc (.cells (arr .u8 a) 42)) (.cells (arr .u8 b) 43)
    rw [World.size_alloc] at h0
    exact h0
  have r1 := row_boxL h1 ua (by omega)
  have r2 := row_boxL h2 ub (by omega)
  rw [ha] at r1
  rw [hb] at r2
  exact ⟨r1, r2, keep_trans (keep_alloc _ _) (keep_alloc _ _), by unfold boxM; simp⟩
end Go.Proofs.YtogiballdmgcpaaGreatDoor
