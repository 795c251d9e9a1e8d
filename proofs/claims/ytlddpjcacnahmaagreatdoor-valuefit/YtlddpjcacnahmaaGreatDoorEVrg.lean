/- Regions of utf8.Valid: how a character's further bytes are looked at. -/
import Derived.Test.YtlddpjcacnahmaaGreatDoorEUtM
import Derived.Test.YtlddpjcacnahmaaGreatDoorPCmp
import Derived.Deep.QuietTactic
namespace Go.Proofs.YtlddpjcacnahmaaGreatDoor
open Go.RowKit
set_option linter.unusedVariables false

/-- parts of a code -/
def cL : Code → Code
  | .seq a _ => a
  | c => c
def cR : Code → Code
  | .seq _ b => b
  | c => c
def cBlk : Code → Code
  | .block _ c => c
  | c => c
def cLoop : Code → Code
  | .loop c => c
  | c => c
def cT : Code → Code
  | .cond _ a _ => a
  | c => c
def cF : Code → Code
  | .cond _ _ b => b
  | c => c
theorem wp_reg {P : Program} {c : Code} {k : Nat} {ops : Array Oper} {d : Bool} {Q : Exit → Act → World → Prop} {a : Act} {w : World} (h : c = .region k ops d) (hw : (Code.region k ops d).wp P Q a w) : c.wp P Q a w := by
  rw [h]; exact hw

theorem quiet_args {P : Program} {f : FuncId} {args args' : Array Value} {w : World} {n : Nat} {v : Value}
    (h : Calls P f args' (w.drewN n) fun e w' => e = .returned v ∧ ∃ m, w' = (w.drewN n).drewN m) (he : args' = args) : Calls P f args (w.drewN n) fun e w'' => e = .returned v ∧ ∃ m, w'' = w.drewN m := by
  subst he
  exact Calls.quiet_of h

set_option maxHeartbeats 16000000 in
set_option maxRecDepth 1000000 in
theorem reg_2 {bl off n q LO HI x1 : Nat} {u1 u2 u3 u4 u5 u7 u8 u9 u10 u11 u12 u13 u14 u15 u16 u17 u18 u19 u20 u21 u22 u23 u24 u25 u26 u27 u28 u29 u30 u31 u32 u33 u34 u35 u36 u37 u38 u39 u40 u41 u42 u43 u44 u45 u46 u47 u48 u49 u50 u51 u52 u53 u54 u55 u56 u57 u58 u59 u60 u61 u62 u63 u64 u65 u66 u67 u68 u69 u70 u71 u72 u73 u74 u75 u76 u77 u78 u79 u80 u81 u82 u83 u84 u85 u86 u87 u88 u89 u90 u91 u92 u93 u94 u95 u96 u97 u98 u99 u100 u101 u102 u103 u104 u105 u106 u107 u108 u109 u110 u111 u112 u113 u114 u115 u116 u117 u118 u119 u120 u121 u122 u123 u124 u125 u126 u127 u128 u129 u130 u131 u132 u133 u134 u135 u136 u137 u138 u139 u140 u141 u142 u143 u144 u145 u146 u147 u148 u149 u150 u151 u152 u153 u154 u155 u156 u157 u158 u159 u160 u161 u162 u163 u164 u165 u166 u167 u168 u169 u170 u171 u172 u173 u174 u175 u176 u177 u178 u179 u180 u181 u182 u183 u184 u185 u186 u187 : Value} {W : World} {Q : Exit → Act → World → Prop} (h0 : 0 < n) (hA : W.cell? ⟨q, 0, none⟩ = some (.int .u8 (LO : Nat))) (hB : W.cell? ⟨q, 1, none⟩ = some (.int .u8 (HI : Nat))) (hc1 : 1 < n → W.cell? ⟨bl, off + 1, none⟩ = some (.int .u8 (x1 : Nat))) (hl1 : x1 < 256)
    (hQ : ∀ (v85 v86 v87 v88 v89 v90 v91 v92 v93 v94 v95 v96 v97 v98 v99 v100 v101 v102 : Value) (nq : Nat), Q .normal { tmps := ((Value.slice (some ⟨bl, off, none⟩) n n) :: u1 :: u2 :: u3 :: u4 :: u5 :: (Value.pointer (some ⟨q, 0, none⟩)) :: u7 :: u8 :: u9 :: u10 :: u11 :: u12 :: u13 :: u14 :: u15 :: u16 :: u17 :: u18 :: u19 :: u20 :: u21 :: u22 :: u23 :: u24 :: u25 :: u26 :: u27 :: u28 :: u29 :: u30 :: u31 :: u32 :: u33 :: u34 :: u35 :: u36 :: u37 :: u38 :: u39 :: u40 :: u41 :: u42 :: u43 :: u44 :: u45 :: u46 :: u47 :: u48 :: u49 :: u50 :: u51 :: u52 :: u53 :: u54 :: u55 :: u56 :: u57 :: u58 :: u59 :: u60 :: u61 :: u62 :: u63 :: u64 :: u65 :: u66 :: u67 :: u68 :: u69 :: u70 :: u71 :: u72 :: u73 :: u74 :: u75 :: u76 :: u77 :: u78 :: u79 :: u80 :: u81 :: u82 :: u83 :: u84 :: v85 :: v86 :: v87 :: v88 :: v89 :: v90 :: v91 :: v92 :: v93 :: v94 :: v95 :: v96 :: v97 :: v98 :: v99 :: v100 :: v101 :: v102 :: (Value.bool (decide (n < 2 ∨ x1 < LO ∨ HI < x1))) :: u104 :: u105 :: u106 :: u107 :: u108 :: u109 :: u110 :: u111 :: u112 :: u113 :: u114 :: u115 :: u116 :: u117 :: u118 :: u119 :: u120 :: u121 :: u122 :: u123 :: u124 :: u125 :: u126 :: u127 :: u128 :: u129 :: u130 :: u131 :: u132 :: u133 :: u134 :: u135 :: u136 :: u137 :: u138 :: u139 :: u140 :: u141 :: u142 :: u143 :: u144 :: u145 :: u146 :: u147 :: u148 :: u149 :: u150 :: u151 :: u152 :: u153 :: u154 :: u155 :: u156 :: u157 :: u158 :: u159 :: u160 :: u161 :: u162 :: u163 :: u164 :: u165 :: u166 :: u167 :: u168 :: u169 :: u170 :: u171 :: u172 :: u173 :: u174 :: u175 :: u176 :: u177 :: u178 :: u179 :: u180 :: u181 :: u182 :: u183 :: u184 :: u185 :: u186 :: u187 :: ([] : List Value)).toArray, defers := [] } (W.drewN nq)) :
    Code.wp Tryz.prog (cL (cL (cT (cR (cBlk (cR (cR (cR (cR (cR (cR (cBlk (cR (cLoop (cBlk (cL (cR (cR (Tryz.f159.body.getD .skip))))))))))))))))))) Q { tmps := ((Value.slice (some ⟨bl, off, none⟩) n n) :: u1 :: u2 :: u3 :: u4 :: u5 :: (Value.pointer (some ⟨q, 0, none⟩)) :: u7 :: u8 :: u9 :: u10 :: u11 :: u12 :: u13 :: u14 :: u15 :: u16 :: u17 :: u18 :: u19 :: u20 :: u21 :: u22 :: u23 :: u24 :: u25 :: u26 :: u27 :: u28 :: u29 :: u30 :: u31 :: u32 :: u33 :: u34 :: u35 :: u36 :: u37 :: u38 :: u39 :: u40 :: u41 :: u42 :: u43 :: u44 :: u45 :: u46 :: u47 :: u48 :: u49 :: u50 :: u51 :: u52 :: u53 :: u54 :: u55 :: u56 :: u57 :: u58 :: u59 :: u60 :: u61 :: u62 :: u63 :: u64 :: u65 :: u66 :: u67 :: u68 :: u69 :: u70 :: u71 :: u72 :: u73 :: u74 :: u75 :: u76 :: u77 :: u78 :: u79 :: u80 :: u81 :: u82 :: u83 :: u84 :: u85 :: u86 :: u87 :: u88 :: u89 :: u90 :: u91 :: u92 :: u93 :: u94 :: u95 :: u96 :: u97 :: u98 :: u99 :: u100 :: u101 :: u102 :: u103 :: u104 :: u105 :: u106 :: u107 :: u108 :: u109 :: u110 :: u111 :: u112 :: u113 :: u114 :: u115 :: u116 :: u117 :: u118 :: u119 :: u120 :: u121 :: u122 :: u123 :: u124 :: u125 :: u126 :: u127 :: u128 :: u129 :: u130 :: u131 :: u132 :: u133 :: u134 :: u135 :: u136 :: u137 :: u138 :: u139 :: u140 :: u141 :: u142 :: u143 :: u144 :: u145 :: u146 :: u147 :: u148 :: u149 :: u150 :: u151 :: u152 :: u153 :: u154 :: u155 :: u156 :: u157 :: u158 :: u159 :: u160 :: u161 :: u162 :: u163 :: u164 :: u165 :: u166 :: u167 :: u168 :: u169 :: u170 :: u171 :: u172 :: u173 :: u174 :: u175 :: u176 :: u177 :: u178 :: u179 :: u180 :: u181 :: u182 :: u183 :: u184 :: u185 :: u186 :: u187 :: ([] : List Value)).toArray, defers := [] } W := by
  refine wp_reg rfl ?_
  by_cases q0 : n < 2
  · have q0z : (n : Int) < (2 : Int) := by omega
    go_big_quiet (fail)
    have hd : decide (n < 2 ∨ x1 < LO ∨ HI < x1) = true := decide_eq_true (by omega)
    rw [hd] at hQ
    exact hQ _ _ _ _ _ _ _ _ _ _ _ _ _ _ _ _ _ _ nq
  · have q0z : ¬ ((n : Int) < (2 : Int)) := by omega
    have q0d : decide ((n : Int) < (2 : Int)) = false := decide_eq_false q0z
    have hz1 : (1 : Int) < (n : Int) := by omega
    have hp1 : 1 < n := by omega
    have cx1 := hc1 (by omega)
    by_cases q1 : x1 < LO
    · have q1z : (x1 : Int) < (LO : Int) := by omega
      go_big_quiet (fail)
      have hd : decide (n < 2 ∨ x1 < LO ∨ HI < x1) = true := decide_eq_true (by omega)
      rw [hd] at hQ
      exact hQ _ _ _ _ _ _ _ _ _ _ _ _ _ _ _ _ _ _ nq
    · have q1z : ¬ ((x1 : Int) < (LO : Int)) := by omega
      have q1d : decide ((x1 : Int) < (LO : Int)) = false := decide_eq_false q1z
      by_cases q2 : HI < x1
      · have q2z : (HI : Int) < (x1 : Int) := by omega
        go_big_quiet (fail)
        have hd : decide (n < 2 ∨ x1 < LO ∨ HI < x1) = true := decide_eq_true (by omega)
        rw [hd] at hQ
        exact hQ _ _ _ _ _ _ _ _ _ _ _ _ _ _ _ _ _ _ nq
      · have q2z : ¬ ((HI : Int) < (x1 : Int)) := by omega
        have q2d : decide ((HI : Int) < (x1 : Int)) = false := decide_eq_false q2z
        go_big_quiet (fail)
        have hd : decide (n < 2 ∨ x1 < LO ∨ HI < x1) = false := decide_eq_false (by omega)
        rw [hd] at hQ
        exact hQ _ _ _ _ _ _ _ _ _ _ _ _ _ _ _ _ _ _ nq

set_option maxHeartbeats 16000000 in
set_option maxRecDepth 1000000 in
theorem reg_3 {bl off n q LO HI x1 x2 : Nat} {u1 u2 u3 u4 u5 u7 u8 u9 u10 u11 u12 u13 u14 u15 u16 u17 u18 u19 u20 u21 u22 u23 u24 u25 u26 u27 u28 u29 u30 u31 u32 u33 u34 u35 u36 u37 u38 u39 u40 u41 u42 u43 u44 u45 u46 u47 u48 u49 u50 u51 u52 u53 u54 u55 u56 u57 u58 u59 u60 u61 u62 u63 u64 u65 u66 u67 u68 u69 u70 u71 u72 u73 u74 u75 u76 u77 u78 u79 u80 u81 u82 u83 u84 u85 u86 u87 u88 u89 u90 u91 u92 u93 u94 u95 u96 u97 u98 u99 u100 u101 u102 u103 u104 u105 u106 u107 u108 u109 u110 u111 u112 u113 u114 u115 u116 u117 u118 u119 u120 u121 u122 u123 u124 u125 u126 u127 u128 u129 u130 u131 u132 u133 u134 u135 u136 u137 u138 u139 u140 u141 u142 u143 u144 u145 u146 u147 u148 u149 u150 u151 u152 u153 u154 u155 u156 u157 u158 u159 u160 u161 u162 u163 u164 u165 u166 u167 u168 u169 u170 u171 u172 u173 u174 u175 u176 u177 u178 u179 u180 u181 u182 u183 u184 u185 u186 u187 : Value} {W : World} {Q : Exit → Act → World → Prop} (h0 : 0 < n) (hA : W.cell? ⟨q, 0, none⟩ = some (.int .u8 (LO : Nat))) (hB : W.cell? ⟨q, 1, none⟩ = some (.int .u8 (HI : Nat))) (hc1 : 1 < n → W.cell? ⟨bl, off + 1, none⟩ = some (.int .u8 (x1 : Nat))) (hl1 : x1 < 256) (hc2 : 2 < n → W.cell? ⟨bl, off + 2, none⟩ = some (.int .u8 (x2 : Nat))) (hl2 : x2 < 256)
    (hQ : ∀ (v108 v109 v110 v111 v112 v113 v114 v115 v116 v117 v118 v119 v120 v121 v122 v123 v124 v125 v126 v127 v128 v129 v130 v131 v132 v133 v134 v135 v136 v137 : Value) (nq : Nat), Q .normal { tmps := ((Value.slice (some ⟨bl, off, none⟩) n n) :: u1 :: u2 :: u3 :: u4 :: u5 :: (Value.pointer (some ⟨q, 0, none⟩)) :: u7 :: u8 :: u9 :: u10 :: u11 :: u12 :: u13 :: u14 :: u15 :: u16 :: u17 :: u18 :: u19 :: u20 :: u21 :: u22 :: u23 :: u24 :: u25 :: u26 :: u27 :: u28 :: u29 :: u30 :: u31 :: u32 :: u33 :: u34 :: u35 :: u36 :: u37 :: u38 :: u39 :: u40 :: u41 :: u42 :: u43 :: u44 :: u45 :: u46 :: u47 :: u48 :: u49 :: u50 :: u51 :: u52 :: u53 :: u54 :: u55 :: u56 :: u57 :: u58 :: u59 :: u60 :: u61 :: u62 :: u63 :: u64 :: u65 :: u66 :: u67 :: u68 :: u69 :: u70 :: u71 :: u72 :: u73 :: u74 :: u75 :: u76 :: u77 :: u78 :: u79 :: u80 :: u81 :: u82 :: u83 :: u84 :: u85 :: u86 :: u87 :: u88 :: u89 :: u90 :: u91 :: u92 :: u93 :: u94 :: u95 :: u96 :: u97 :: u98 :: u99 :: u100 :: u101 :: u102 :: u103 :: u104 :: u105 :: u106 :: u107 :: v108 :: v109 :: v110 :: v111 :: v112 :: v113 :: v114 :: v115 :: v116 :: v117 :: v118 :: v119 :: v120 :: v121 :: v122 :: v123 :: v124 :: v125 :: v126 :: v127 :: v128 :: v129 :: v130 :: v131 :: v132 :: v133 :: v134 :: v135 :: v136 :: v137 :: (Value.bool (decide (n < 3 ∨ x1 < LO ∨ HI < x1 ∨ x2 < 128 ∨ 191 < x2))) :: u139 :: u140 :: u141 :: u142 :: u143 :: u144 :: u145 :: u146 :: u147 :: u148 :: u149 :: u150 :: u151 :: u152 :: u153 :: u154 :: u155 :: u156 :: u157 :: u158 :: u159 :: u160 :: u161 :: u162 :: u163 :: u164 :: u165 :: u166 :: u167 :: u168 :: u169 :: u170 :: u171 :: u172 :: u173 :: u174 :: u175 :: u176 :: u177 :: u178 :: u179 :: u180 :: u181 :: u182 :: u183 :: u184 :: u185 :: u186 :: u187 :: ([] : List Value)).toArray, defers := [] } (W.drewN nq)) :
    Code.wp Tryz.prog (cL (cL (cT (cR (cF (cR (cBlk (cR (cR (cR (cR (cR (cR (cBlk (cR (cLoop (cBlk (cL (cR (cR (Tryz.f159.body.getD .skip))))))))))))))))))))) Q { tmps := ((Value.slice (some ⟨bl, off, none⟩) n n) :: u1 :: u2 :: u3 :: u4 :: u5 :: (Value.pointer (some ⟨q, 0, none⟩)) :: u7 :: u8 :: u9 :: u10 :: u11 :: u12 :: u13 :: u14 :: u15 :: u16 :: u17 :: u18 :: u19 :: u20 :: u21 :: u22 :: u23 :: u24 :: u25 :: u26 :: u27 :: u28 :: u29 :: u30 :: u31 :: u32 :: u33 :: u34 :: u35 :: u36 :: u37 :: u38 :: u39 :: u40 :: u41 :: u42 :: u43 :: u44 :: u45 :: u46 :: u47 :: u48 :: u49 :: u50 :: u51 :: u52 :: u53 :: u54 :: u55 :: u56 :: u57 :: u58 :: u59 :: u60 :: u61 :: u62 :: u63 :: u64 :: u65 :: u66 :: u67 :: u68 :: u69 :: u70 :: u71 :: u72 :: u73 :: u74 :: u75 :: u76 :: u77 :: u78 :: u79 :: u80 :: u81 :: u82 :: u83 :: u84 :: u85 :: u86 :: u87 :: u88 :: u89 :: u90 :: u91 :: u92 :: u93 :: u94 :: u95 :: u96 :: u97 :: u98 :: u99 :: u100 :: u101 :: u102 :: u103 :: u104 :: u105 :: u106 :: u107 :: u108 :: u109 :: u110 :: u111 :: u112 :: u113 :: u114 :: u115 :: u116 :: u117 :: u118 :: u119 :: u120 :: u121 :: u122 :: u123 :: u124 :: u125 :: u126 :: u127 :: u128 :: u129 :: u130 :: u131 :: u132 :: u133 :: u134 :: u135 :: u136 :: u137 :: u138 :: u139 :: u140 :: u141 :: u142 :: u143 :: u144 :: u145 :: u146 :: u147 :: u148 :: u149 :: u150 :: u151 :: u152 :: u153 :: u154 :: u155 :: u156 :: u157 :: u158 :: u159 :: u160 :: u161 :: u162 :: u163 :: u164 :: u165 :: u166 :: u167 :: u168 :: u169 :: u170 :: u171 :: u172 :: u173 :: u174 :: u175 :: u176 :: u177 :: u178 :: u179 :: u180 :: u181 :: u182 :: u183 :: u184 :: u185 :: u186 :: u187 :: ([] : List Value)).toArray, defers := [] } W := by
  refine wp_reg rfl ?_
  by_cases q0 : n < 3
  · have q0z : (n : Int) < (3 : Int) := by omega
    go_big_quiet (fail)
    have hd : decide (n < 3 ∨ x1 < LO ∨ HI < x1 ∨ x2 < 128 ∨ 191 < x2) = true := decide_eq_true (by omega)
    rw [hd] at hQ
    exact hQ _ _ _ _ _ _ _ _ _ _ _ _ _ _ _ _ _ _ _ _ _ _ _ _ _ _ _ _ _ _ nq
  · have q0z : ¬ ((n : Int) < (3 : Int)) := by omega
    have q0d : decide ((n : Int) < (3 : Int)) = false := decide_eq_false q0z
    have hz1 : (1 : Int) < (n : Int) := by omega
    have hp1 : 1 < n := by omega
    have cx1 := hc1 (by omega)
    have hz2 : (2 : Int) < (n : Int) := by omega
    have hp2 : 2 < n := by omega
    have cx2 := hc2 (by omega)
    by_cases q1 : x1 < LO
    · have q1z : (x1 : Int) < (LO : Int) := by omega
      go_big_quiet (fail)
      have hd : decide (n < 3 ∨ x1 < LO ∨ HI < x1 ∨ x2 < 128 ∨ 191 < x2) = true := decide_eq_true (by omega)
      rw [hd] at hQ
      exact hQ _ _ _ _ _ _ _ _ _ _ _ _ _ _ _ _ _ _ _ _ _ _ _ _ _ _ _ _ _ _ nq
    · have q1z : ¬ ((x1 : Int) < (LO : Int)) := by omega
      have q1d : decide ((x1 : Int) < (LO : Int)) = false := decide_eq_false q1z
      by_cases q2 : HI < x1
      · have q2z : (HI : Int) < (x1 : Int) := by omega
        go_big_quiet (fail)
        have hd : decide (n < 3 ∨ x1 < LO ∨ HI < x1 ∨ x2 < 128 ∨ 191 < x2) = true := decide_eq_true (by omega)
        rw [hd] at hQ
        exact hQ _ _ _ _ _ _ _ _ _ _ _ _ _ _ _ _ _ _ _ _ _ _ _ _ _ _ _ _ _ _ nq
      · have q2z : ¬ ((HI : Int) < (x1 : Int)) := by omega
        have q2d : decide ((HI : Int) < (x1 : Int)) = false := decide_eq_false q2z
        by_cases q3 : x2 < 128
        · have q3z : (x2 : Int) < (128 : Int) := by omega
          go_big_quiet (fail)
          have hd : decide (n < 3 ∨ x1 < LO ∨ HI < x1 ∨ x2 < 128 ∨ 191 < x2) = true := decide_eq_true (by omega)
          rw [hd] at hQ
          exact hQ _ _ _ _ _ _ _ _ _ _ _ _ _ _ _ _ _ _ _ _ _ _ _ _ _ _ _ _ _ _ nq
        · have q3z : ¬ ((x2 : Int) < (128 : Int)) := by omega
          have q3d : decide ((x2 : Int) < (128 : Int)) = false := decide_eq_false q3z
          by_cases q4 : 191 < x2
          · have q4z : (191 : Int) < (x2 : Int) := by omega
            go_big_quiet (fail)
            have hd : decide (n < 3 ∨ x1 < LO ∨ HI < x1 ∨ x2 < 128 ∨ 191 < x2) = true := decide_eq_true (by omega)
            rw [hd] at hQ
            exact hQ _ _ _ _ _ _ _ _ _ _ _ _ _ _ _ _ _ _ _ _ _ _ _ _ _ _ _ _ _ _ nq
          · have q4z : ¬ ((191 : Int) < (x2 : Int)) := by omega
            have q4d : decide ((191 : Int) < (x2 : Int)) = false := decide_eq_false q4z
            go_big_quiet (fail)
            have hd : decide (n < 3 ∨ x1 < LO ∨ HI < x1 ∨ x2 < 128 ∨ 191 < x2) = false := decide_eq_false (by omega)
            rw [hd] at hQ
            exact hQ _ _ _ _ _ _ _ _ _ _ _ _ _ _ _ _ _ _ _ _ _ _ _ _ _ _ _ _ _ _ nq

set_option maxHeartbeats 16000000 in
set_option maxRecDepth 1000000 in
theorem reg_4 {bl off n q LO HI x1 x2 x3 : Nat} {u1 u2 u3 u4 u5 u7 u8 u9 u10 u11 u12 u13 u14 u15 u16 u17 u18 u19 u20 u21 u22 u23 u24 u25 u26 u27 u28 u29 u30 u31 u32 u33 u34 u35 u36 u37 u38 u39 u40 u41 u42 u43 u44 u45 u46 u47 u48 u49 u50 u51 u52 u53 u54 u55 u56 u57 u58 u59 u60 u61 u62 u63 u64 u65 u66 u67 u68 u69 u70 u71 u72 u73 u74 u75 u76 u77 u78 u79 u80 u81 u82 u83 u84 u85 u86 u87 u88 u89 u90 u91 u92 u93 u94 u95 u96 u97 u98 u99 u100 u101 u102 u103 u104 u105 u106 u107 u108 u109 u110 u111 u112 u113 u114 u115 u116 u117 u118 u119 u120 u121 u122 u123 u124 u125 u126 u127 u128 u129 u130 u131 u132 u133 u134 u135 u136 u137 u138 u139 u140 u141 u142 u143 u144 u145 u146 u147 u148 u149 u150 u151 u152 u153 u154 u155 u156 u157 u158 u159 u160 u161 u162 u163 u164 u165 u166 u167 u168 u169 u170 u171 u172 u173 u174 u175 u176 u177 u178 u179 u180 u181 u182 u183 u184 u185 u186 u187 : Value} {W : World} {Q : Exit → Act → World → Prop} (h0 : 0 < n) (hA : W.cell? ⟨q, 0, none⟩ = some (.int .u8 (LO : Nat))) (hB : W.cell? ⟨q, 1, none⟩ = some (.int .u8 (HI : Nat))) (hc1 : 1 < n → W.cell? ⟨bl, off + 1, none⟩ = some (.int .u8 (x1 : Nat))) (hl1 : x1 < 256) (hc2 : 2 < n → W.cell? ⟨bl, off + 2, none⟩ = some (.int .u8 (x2 : Nat))) (hl2 : x2 < 256) (hc3 : 3 < n → W.cell? ⟨bl, off + 3, none⟩ = some (.int .u8 (x3 : Nat))) (hl3 : x3 < 256)
    (hQ : ∀ (v143 v144 v145 v146 v147 v148 v149 v150 v151 v152 v153 v154 v155 v156 v157 v158 v159 v160 v161 v162 v163 v164 v165 v166 v167 v168 v169 v170 v171 v172 v173 v174 v175 v176 v177 v178 v179 v180 v181 v182 v183 v184 : Value) (nq : Nat), Q .normal { tmps := ((Value.slice (some ⟨bl, off, none⟩) n n) :: u1 :: u2 :: u3 :: u4 :: u5 :: (Value.pointer (some ⟨q, 0, none⟩)) :: u7 :: u8 :: u9 :: u10 :: u11 :: u12 :: u13 :: u14 :: u15 :: u16 :: u17 :: u18 :: u19 :: u20 :: u21 :: u22 :: u23 :: u24 :: u25 :: u26 :: u27 :: u28 :: u29 :: u30 :: u31 :: u32 :: u33 :: u34 :: u35 :: u36 :: u37 :: u38 :: u39 :: u40 :: u41 :: u42 :: u43 :: u44 :: u45 :: u46 :: u47 :: u48 :: u49 :: u50 :: u51 :: u52 :: u53 :: u54 :: u55 :: u56 :: u57 :: u58 :: u59 :: u60 :: u61 :: u62 :: u63 :: u64 :: u65 :: u66 :: u67 :: u68 :: u69 :: u70 :: u71 :: u72 :: u73 :: u74 :: u75 :: u76 :: u77 :: u78 :: u79 :: u80 :: u81 :: u82 :: u83 :: u84 :: u85 :: u86 :: u87 :: u88 :: u89 :: u90 :: u91 :: u92 :: u93 :: u94 :: u95 :: u96 :: u97 :: u98 :: u99 :: u100 :: u101 :: u102 :: u103 :: u104 :: u105 :: u106 :: u107 :: u108 :: u109 :: u110 :: u111 :: u112 :: u113 :: u114 :: u115 :: u116 :: u117 :: u118 :: u119 :: u120 :: u121 :: u122 :: u123 :: u124 :: u125 :: u126 :: u127 :: u128 :: u129 :: u130 :: u131 :: u132 :: u133 :: u134 :: u135 :: u136 :: u137 :: u138 :: u139 :: u140 :: u141 :: u142 :: v143 :: v144 :: v145 :: v146 :: v147 :: v148 :: v149 :: v150 :: v151 :: v152 :: v153 :: v154 :: v155 :: v156 :: v157 :: v158 :: v159 :: v160 :: v161 :: v162 :: v163 :: v164 :: v165 :: v166 :: v167 :: v168 :: v169 :: v170 :: v171 :: v172 :: v173 :: v174 :: v175 :: v176 :: v177 :: v178 :: v179 :: v180 :: v181 :: v182 :: v183 :: v184 :: (Value.bool (decide (n < 4 ∨ x1 < LO ∨ HI < x1 ∨ x2 < 128 ∨ 191 < x2 ∨ x3 < 128 ∨ 191 < x3))) :: u186 :: u187 :: ([] : List Value)).toArray, defers := [] } (W.drewN nq)) :
    Code.wp Tryz.prog (cL (cL (cT (cR (cF (cR (cF (cR (cBlk (cR (cR (cR (cR (cR (cR (cBlk (cR (cLoop (cBlk (cL (cR (cR (Tryz.f159.body.getD .skip))))))))))))))))))))))) Q { tmps := ((Value.slice (some ⟨bl, off, none⟩) n n) :: u1 :: u2 :: u3 :: u4 :: u5 :: (Value.pointer (some ⟨q, 0, none⟩)) :: u7 :: u8 :: u9 :: u10 :: u11 :: u12 :: u13 :: u14 :: u15 :: u16 :: u17 :: u18 :: u19 :: u20 :: u21 :: u22 :: u23 :: u24 :: u25 :: u26 :: u27 :: u28 :: u29 :: u30 :: u31 :: u32 :: u33 :: u34 :: u35 :: u36 :: u37 :: u38 :: u39 :: u40 :: u41 :: u42 :: u43 :: u44 :: u45 :: u46 :: u47 :: u48 :: u49 :: u50 :: u51 :: u52 :: u53 :: u54 :: u55 :: u56 :: u57 :: u58 :: u59 :: u60 :: u61 :: u62 :: u63 :: u64 :: u65 :: u66 :: u67 :: u68 :: u69 :: u70 :: u71 :: u72 :: u73 :: u74 :: u75 :: u76 :: u77 :: u78 :: u79 :: u80 :: u81 :: u82 :: u83 :: u84 :: u85 :: u86 :: u87 :: u88 :: u89 :: u90 :: u91 :: u92 :: u93 :: u94 :: u95 :: u96 :: u97 :: u98 :: u99 :: u100 :: u101 :: u102 :: u103 :: u104 :: u105 :: u106 :: u107 :: u108 :: u109 :: u110 :: u111 :: u112 :: u113 :: u114 :: u115 :: u116 :: u117 :: u118 :: u119 :: u120 :: u121 :: u122 :: u123 :: u124 :: u125 :: u126 :: u127 :: u128 :: u129 :: u130 :: u131 :: u132 :: u133 :: u134 :: u135 :: u136 :: u137 :: u138 :: u139 :: u140 :: u141 :: u142 :: u143 :: u144 :: u145 :: u146 :: u147 :: u148 :: u149 :: u150 :: u151 :: u152 :: u153 :: u154 :: u155 :: u156 :: u157 :: u158 :: u159 :: u160 :: u161 :: u162 :: u163 :: u164 :: u165 :: u166 :: u167 :: u168 :: u169 :: u170 :: u171 :: u172 :: u173 :: u174 :: u175 :: u176 :: u177 :: u178 :: u179 :: u180 :: u181 :: u182 :: u183 :: u184 :: u185 :: u186 :: u187 :: ([] : List Value)).toArray, defers := [] } W := by
  refine wp_reg rfl ?_
  by_cases q0 : n < 4
  · have q0z : (n : Int) < (4 : Int) := by omega
    go_big_quiet (fail)
    have hd : decide (n < 4 ∨ x1 < LO ∨ HI < x1 ∨ x2 < 128 ∨ 191 < x2 ∨ x3 < 128 ∨ 191 < x3) = true := decide_eq_true (by omega)
    rw [hd] at hQ
    exact hQ _ _ _ _ _ _ _ _ _ _ _ _ _ _ _ _ _ _ _ _ _ _ _ _ _ _ _ _ _ _ _ _ _ _ _ _ _ _ _ _ _ _ nq
  · have q0z : ¬ ((n : Int) < (4 : Int)) := by omega
    have q0d : decide ((n : Int) < (4 : Int)) = false := decide_eq_false q0z
    have hz1 : (1 : Int) < (n : Int) := by omega
    have hp1 : 1 < n := by omega
    have cx1 := hc1 (by omega)
    have hz2 : (2 : Int) < (n : Int) := by omega
    have hp2 : 2 < n := by omega
    have cx2 := hc2 (by omega)
    have hz3 : (3 : Int) < (n : Int) := by omega
    have hp3 : 3 < n := by omega
    have cx3 := hc3 (by omega)
    by_cases q1 : x1 < LO
    · have q1z : (x1 : Int) < (LO : Int) := by omega
      go_big_quiet (fail)
      have hd : decide (n < 4 ∨ x1 < LO ∨ HI < x1 ∨ x2 < 128 ∨ 191 < x2 ∨ x3 < 128 ∨ 191 < x3) = true := decide_eq_true (by omega)
      rw [hd] at hQ
      exact hQ _ _ _ _ _ _ _ _ _ _ _ _ _ _ _ _ _ _ _ _ _ _ _ _ _ _ _ _ _ _ _ _ _ _ _ _ _ _ _ _ _ _ nq
    · have q1z : ¬ ((x1 : Int) < (LO : Int)) := by omega
      have q1d : decide ((x1 : Int) < (LO : Int)) = false := decide_eq_false q1z
      by_cases q2 : HI < x1
      · have q2z : (HI : Int) < (x1 : Int) := by omega
        go_big_quiet (fail)
        have hd : decide (n < 4 ∨ x1 < LO ∨ HI < x1 ∨ x2 < 128 ∨ 191 < x2 ∨ x3 < 128 ∨ 191 < x3) = true := decide_eq_true (by omega)
        rw [hd] at hQ
        exact hQ _ _ _ _ _ _ _ _ _ _ _ _ _ _ _ _ _ _ _ _ _ _ _ _ _ _ _ _ _ _ _ _ _ _ _ _ _ _ _ _ _ _ nq
      · have q2z : ¬ ((HI : Int) < (x1 : Int)) := by omega
        have q2d : decide ((HI : Int) < (x1 : Int)) = false := decide_eq_false q2z
        by_cases q3 : x2 < 128
        · have q3z : (x2 : Int) < (128 : Int) := by omega
          go_big_quiet (fail)
          have hd : decide (n < 4 ∨ x1 < LO ∨ HI < x1 ∨ x2 < 128 ∨ 191 < x2 ∨ x3 < 128 ∨ 191 < x3) = true := decide_eq_true (by omega)
          rw [hd] at hQ
          exact hQ _ _ _ _ _ _ _ _ _ _ _ _ _ _ _ _ _ _ _ _ _ _ _ _ _ _ _ _ _ _ _ _ _ _ _ _ _ _ _ _ _ _ nq
        · have q3z : ¬ ((x2 : Int) < (128 : Int)) := by omega
          have q3d : decide ((x2 : Int) < (128 : Int)) = false := decide_eq_false q3z
          by_cases q4 : 191 < x2
          · have q4z : (191 : Int) < (x2 : Int) := by omega
            go_big_quiet (fail)
            have hd : decide (n < 4 ∨ x1 < LO ∨ HI < x1 ∨ x2 < 128 ∨ 191 < x2 ∨ x3 < 128 ∨ 191 < x3) = true := decide_eq_true (by omega)
            rw [hd] at hQ
            exact hQ _ _ _ _ _ _ _ _ _ _ _ _ _ _ _ _ _ _ _ _ _ _ _ _ _ _ _ _ _ _ _ _ _ _ _ _ _ _ _ _ _ _ nq
          · have q4z : ¬ ((191 : Int) < (x2 : Int)) := by omega
            have q4d : decide ((191 : Int) < (x2 : Int)) = false := decide_eq_false q4z
            by_cases q5 : x3 < 128
            · have q5z : (x3 : Int) < (128 : Int) := by omega
              go_big_quiet (fail)
              have hd : decide (n < 4 ∨ x1 < LO ∨ HI < x1 ∨ x2 < 128 ∨ 191 < x2 ∨ x3 < 128 ∨ 191 < x3) = true := decide_eq_true (by omega)
              rw [hd] at hQ
              exact hQ _ _ _ _ _ _ _ _ _ _ _ _ _ _ _ _ _ _ _ _ _ _ _ _ _ _ _ _ _ _ _ _ _ _ _ _ _ _ _ _ _ _ nq
            · have q5z : ¬ ((x3 : Int) < (128 : Int)) := by omega
              have q5d : decide ((x3 : Int) < (128 : Int)) = false := decide_eq_false q5z
              by_cases q6 : 191 < x3
              · have q6z : (191 : Int) < (x3 : Int) := by omega
                go_big_quiet (fail)
                have hd : decide (n < 4 ∨ x1 < LO ∨ HI < x1 ∨ x2 < 128 ∨ 191 < x2 ∨ x3 < 128 ∨ 191 < x3) = true := decide_eq_true (by omega)
                rw [hd] at hQ
                exact hQ _ _ _ _ _ _ _ _ _ _ _ _ _ _ _ _ _ _ _ _ _ _ _ _ _ _ _ _ _ _ _ _ _ _ _ _ _ _ _ _ _ _ nq
              · have q6z : ¬ ((191 : Int) < (x3 : Int)) := by omega
                have q6d : decide ((191 : Int) < (x3 : Int)) = false := decide_eq_false q6z
                go_big_quiet (fail)
                have hd : decide (n < 4 ∨ x1 < LO ∨ HI < x1 ∨ x2 < 128 ∨ 191 < x2 ∨ x3 < 128 ∨ 191 < x3) = false := decide_eq_false (by omega)
                rw [hd] at hQ
                exact hQ _ _ _ _ _ _ _ _ _ _ _ _ _ _ _ _ _ _ _ _ _ _ _ _ _ _ _ _ _ _ _ _ _ _ _ _ _ _ _ _ _ _ nq

set_option maxHeartbeats 16000000 in
set_option maxRecDepth 1000000 in
theorem reg_8 {bl off n B0 B1 P3 Z : Nat} {u1 u2 u3 u4 u5 u6 u7 u8 u9 u10 u11 u12 u13 u14 u15 u16 u17 u18 u19 u20 u21 u22 u23 u24 u25 u26 u27 u28 u29 u30 u31 u32 u33 u34 u35 u36 u37 u38 u39 u40 u41 u42 u43 u44 u45 u46 u47 u48 u49 u50 u51 u52 u53 u54 u55 u56 u57 u58 u59 u60 u61 u62 u63 u64 u65 u66 u67 u68 u69 u70 u71 u72 u73 u74 u75 u76 u77 u78 u79 u80 u81 u82 u83 u84 u85 u86 u87 u88 u89 u90 u91 u92 u93 u94 u95 u96 u97 u98 u99 u100 u101 u102 u103 u104 u105 u106 u107 u108 u109 u110 u111 u112 u113 u114 u115 u116 u117 u118 u119 u120 u121 u122 u123 u124 u125 u126 u127 u128 u129 u130 u131 u132 u133 u134 u135 u136 u137 u138 u139 u140 u141 u142 u143 u144 u145 u146 u147 u148 u149 u150 u151 u152 u153 u154 u155 u156 u157 u158 u159 u160 u161 u162 u163 u164 u165 u166 u167 u168 u169 u170 u171 u172 u173 u174 u175 u176 u177 u178 u179 u180 u181 u182 u183 u184 u185 u186 u187 : Value} {W : World} {Q : Exit → Act → World → Prop} (hn : 16 < n) (hn2 : n ≤ 1000000)
    (c0 : ∀ q, Calls Tryz.prog 164 #[.slice (some ⟨bl, off, none⟩) n n] (W.drewN q) fun e w' => e = .returned (.int .u64 (B0 : Nat)) ∧ ∃ m, w' = (W.drewN q).drewN m)
    (c1 : ∀ q, Calls Tryz.prog 164 #[.slice (some ⟨bl, off + 8, none⟩) (n - 8) (n - 8)] (W.drewN q) fun e w' => e = .returned (.int .u64 (B1 : Nat)) ∧ ∃ m, w' = (W.drewN q).drewN m)
    (ho1 : bits .or .u64 (B0 : Int) (B1 : Int) = ((P3 : Nat) : Int)) (ha : bits .and .u64 (P3 : Int) 9259542123273814144 = ((Z : Nat) : Int))
    (hQ : ∀ (v34 v35 v36 v37 v38 v39 v40 v41 v42 v43 v44 v45 : Value) (nq : Nat), Q .normal { tmps := ((Value.slice (some ⟨bl, off, none⟩) n n) :: u1 :: u2 :: u3 :: u4 :: u5 :: u6 :: u7 :: u8 :: u9 :: u10 :: u11 :: u12 :: u13 :: u14 :: u15 :: u16 :: u17 :: u18 :: u19 :: u20 :: u21 :: u22 :: u23 :: u24 :: u25 :: u26 :: u27 :: u28 :: u29 :: u30 :: u31 :: u32 :: u33 :: v34 :: v35 :: v36 :: v37 :: v38 :: v39 :: v40 :: v41 :: v42 :: v43 :: v44 :: v45 :: (Value.bool ((Z : Int) == 0)) :: u47 :: u48 :: u49 :: u50 :: u51 :: u52 :: u53 :: u54 :: u55 :: u56 :: u57 :: u58 :: u59 :: u60 :: u61 :: u62 :: u63 :: u64 :: u65 :: u66 :: u67 :: u68 :: u69 :: u70 :: u71 :: u72 :: u73 :: u74 :: u75 :: u76 :: u77 :: u78 :: u79 :: u80 :: u81 :: u82 :: u83 :: u84 :: u85 :: u86 :: u87 :: u88 :: u89 :: u90 :: u91 :: u92 :: u93 :: u94 :: u95 :: u96 :: u97 :: u98 :: u99 :: u100 :: u101 :: u102 :: u103 :: u104 :: u105 :: u106 :: u107 :: u108 :: u109 :: u110 :: u111 :: u112 :: u113 :: u114 :: u115 :: u116 :: u117 :: u118 :: u119 :: u120 :: u121 :: u122 :: u123 :: u124 :: u125 :: u126 :: u127 :: u128 :: u129 :: u130 :: u131 :: u132 :: u133 :: u134 :: u135 :: u136 :: u137 :: u138 :: u139 :: u140 :: u141 :: u142 :: u143 :: u144 :: u145 :: u146 :: u147 :: u148 :: u149 :: u150 :: u151 :: u152 :: u153 :: u154 :: u155 :: u156 :: u157 :: u158 :: u159 :: u160 :: u161 :: u162 :: u163 :: u164 :: u165 :: u166 :: u167 :: u168 :: u169 :: u170 :: u171 :: u172 :: u173 :: u174 :: u175 :: u176 :: u177 :: u178 :: u179 :: u180 :: u181 :: u182 :: u183 :: u184 :: u185 :: u186 :: u187 :: ([] : List Value)).toArray, defers := [] } (W.drewN nq)) :
    Code.wp Tryz.prog (cL (cR (cT (cR (cL (cR (cT (cR (cL (cR (cBlk (cR (cLoop (cBlk (cL (cR (cR (Tryz.f159.body.getD .skip)))))))))))))))))) Q { tmps := ((Value.slice (some ⟨bl, off, none⟩) n n) :: u1 :: u2 :: u3 :: u4 :: u5 :: u6 :: u7 :: u8 :: u9 :: u10 :: u11 :: u12 :: u13 :: u14 :: u15 :: u16 :: u17 :: u18 :: u19 :: u20 :: u21 :: u22 :: u23 :: u24 :: u25 :: u26 :: u27 :: u28 :: u29 :: u30 :: u31 :: u32 :: u33 :: u34 :: u35 :: u36 :: u37 :: u38 :: u39 :: u40 :: u41 :: u42 :: u43 :: u44 :: u45 :: u46 :: u47 :: u48 :: u49 :: u50 :: u51 :: u52 :: u53 :: u54 :: u55 :: u56 :: u57 :: u58 :: u59 :: u60 :: u61 :: u62 :: u63 :: u64 :: u65 :: u66 :: u67 :: u68 :: u69 :: u70 :: u71 :: u72 :: u73 :: u74 :: u75 :: u76 :: u77 :: u78 :: u79 :: u80 :: u81 :: u82 :: u83 :: u84 :: u85 :: u86 :: u87 :: u88 :: u89 :: u90 :: u91 :: u92 :: u93 :: u94 :: u95 :: u96 :: u97 :: u98 :: u99 :: u100 :: u101 :: u102 :: u103 :: u104 :: u105 :: u106 :: u107 :: u108 :: u109 :: u110 :: u111 :: u112 :: u113 :: u114 :: u115 :: u116 :: u117 :: u118 :: u119 :: u120 :: u121 :: u122 :: u123 :: u124 :: u125 :: u126 :: u127 :: u128 :: u129 :: u130 :: u131 :: u132 :: u133 :: u134 :: u135 :: u136 :: u137 :: u138 :: u139 :: u140 :: u141 :: u142 :: u143 :: u144 :: u145 :: u146 :: u147 :: u148 :: u149 :: u150 :: u151 :: u152 :: u153 :: u154 :: u155 :: u156 :: u157 :: u158 :: u159 :: u160 :: u161 :: u162 :: u163 :: u164 :: u165 :: u166 :: u167 :: u168 :: u169 :: u170 :: u171 :: u172 :: u173 :: u174 :: u175 :: u176 :: u177 :: u178 :: u179 :: u180 :: u181 :: u182 :: u183 :: u184 :: u185 :: u186 :: u187 :: ([] : List Value)).toArray, defers := [] } W := by
  refine wp_reg rfl ?_
  have hnz : (16 : Int) < (n : Int) := by omega
  have s8z : (8 : Int) ≤ (n : Int) := by omega
  have s8n : 8 ≤ n := by omega
  have n8e : ¬ n = 8 := by omega
  have n8f : ¬ 8 = n := by omega
  go_big_quiet (first | (go_at_call 164; refine quiet_args (c0 _) ?_; with_reducible rfl) | (go_at_call 164; refine quiet_args (c1 _) ?_; with_reducible rfl))
  exact hQ _ _ _ _ _ _ _ _ _ _ _ _ nq

set_option maxHeartbeats 16000000 in
set_option maxRecDepth 1000000 in
theorem reg_10 {bl off n B0 B1 B2 B3 P1 P2 P3 Z : Nat} {u1 u2 u3 u4 u5 u6 u7 u8 u9 u10 u11 u12 u13 u14 u15 u16 u17 u18 u19 u20 u21 u22 u23 u24 u25 u26 u27 u28 u29 u30 u31 u32 u33 u34 u35 u36 u37 u38 u39 u40 u41 u42 u43 u44 u45 u46 u47 u48 u49 u50 u51 u52 u53 u54 u55 u56 u57 u58 u59 u60 u61 u62 u63 u64 u65 u66 u67 u68 u69 u70 u71 u72 u73 u74 u75 u76 u77 u78 u79 u80 u81 u82 u83 u84 u85 u86 u87 u88 u89 u90 u91 u92 u93 u94 u95 u96 u97 u98 u99 u100 u101 u102 u103 u104 u105 u106 u107 u108 u109 u110 u111 u112 u113 u114 u115 u116 u117 u118 u119 u120 u121 u122 u123 u124 u125 u126 u127 u128 u129 u130 u131 u132 u133 u134 u135 u136 u137 u138 u139 u140 u141 u142 u143 u144 u145 u146 u147 u148 u149 u150 u151 u152 u153 u154 u155 u156 u157 u158 u159 u160 u161 u162 u163 u164 u165 u166 u167 u168 u169 u170 u171 u172 u173 u174 u175 u176 u177 u178 u179 u180 u181 u182 u183 u184 u185 u186 u187 : Value} {W : World} {Q : Exit → Act → World → Prop} (hn : 32 < n) (hn2 : n ≤ 1000000)
    (c0 : ∀ q, Calls Tryz.prog 164 #[.slice (some ⟨bl, off, none⟩) n n] (W.drewN q) fun e w' => e = .returned (.int .u64 (B0 : Nat)) ∧ ∃ m, w' = (W.drewN q).drewN m)
    (c1 : ∀ q, Calls Tryz.prog 164 #[.slice (some ⟨bl, off + 8, none⟩) (n - 8) (n - 8)] (W.drewN q) fun e w' => e = .returned (.int .u64 (B1 : Nat)) ∧ ∃ m, w' = (W.drewN q).drewN m)
    (c2 : ∀ q, Calls Tryz.prog 164 #[.slice (some ⟨bl, off + 16, none⟩) (n - 16) (n - 16)] (W.drewN q) fun e w' => e = .returned (.int .u64 (B2 : Nat)) ∧ ∃ m, w' = (W.drewN q).drewN m)
    (c3 : ∀ q, Calls Tryz.prog 164 #[.slice (some ⟨bl, off + 24, none⟩) (n - 24) (n - 24)] (W.drewN q) fun e w' => e = .returned (.int .u64 (B3 : Nat)) ∧ ∃ m, w' = (W.drewN q).drewN m)
    (ho1 : bits .or .u64 (B0 : Int) (B1 : Int) = ((P1 : Nat) : Int)) (ho2 : bits .or .u64 (B2 : Int) (B3 : Int) = ((P2 : Nat) : Int)) (ho3 : bits .or .u64 (P1 : Int) (P2 : Int) = ((P3 : Nat) : Int)) (ha : bits .and .u64 (P3 : Int) 9259542123273814144 = ((Z : Nat) : Int))
    (hQ : ∀ (v49 v50 v51 v52 v53 v54 v55 v56 v57 v58 v59 v60 v61 v62 v63 v64 v65 v66 v67 v68 : Value) (nq : Nat), Q .normal { tmps := ((Value.slice (some ⟨bl, off, none⟩) n n) :: u1 :: u2 :: u3 :: u4 :: u5 :: u6 :: u7 :: u8 :: u9 :: u10 :: u11 :: u12 :: u13 :: u14 :: u15 :: u16 :: u17 :: u18 :: u19 :: u20 :: u21 :: u22 :: u23 :: u24 :: u25 :: u26 :: u27 :: u28 :: u29 :: u30 :: u31 :: u32 :: u33 :: u34 :: u35 :: u36 :: u37 :: u38 :: u39 :: u40 :: u41 :: u42 :: u43 :: u44 :: u45 :: u46 :: u47 :: u48 :: v49 :: v50 :: v51 :: v52 :: v53 :: v54 :: v55 :: v56 :: v57 :: v58 :: v59 :: v60 :: v61 :: v62 :: v63 :: v64 :: v65 :: v66 :: v67 :: v68 :: (Value.bool ((Z : Int) == 0)) :: u70 :: u71 :: u72 :: u73 :: u74 :: u75 :: u76 :: u77 :: u78 :: u79 :: u80 :: u81 :: u82 :: u83 :: u84 :: u85 :: u86 :: u87 :: u88 :: u89 :: u90 :: u91 :: u92 :: u93 :: u94 :: u95 :: u96 :: u97 :: u98 :: u99 :: u100 :: u101 :: u102 :: u103 :: u104 :: u105 :: u106 :: u107 :: u108 :: u109 :: u110 :: u111 :: u112 :: u113 :: u114 :: u115 :: u116 :: u117 :: u118 :: u119 :: u120 :: u121 :: u122 :: u123 :: u124 :: u125 :: u126 :: u127 :: u128 :: u129 :: u130 :: u131 :: u132 :: u133 :: u134 :: u135 :: u136 :: u137 :: u138 :: u139 :: u140 :: u141 :: u142 :: u143 :: u144 :: u145 :: u146 :: u147 :: u148 :: u149 :: u150 :: u151 :: u152 :: u153 :: u154 :: u155 :: u156 :: u157 :: u158 :: u159 :: u160 :: u161 :: u162 :: u163 :: u164 :: u165 :: u166 :: u167 :: u168 :: u169 :: u170 :: u171 :: u172 :: u173 :: u174 :: u175 :: u176 :: u177 :: u178 :: u179 :: u180 :: u181 :: u182 :: u183 :: u184 :: u185 :: u186 :: u187 :: ([] : List Value)).toArray, defers := [] } (W.drewN nq)) :
    Code.wp Tryz.prog (cL (cL (cLoop (cBlk (cR (cT (cR (cR (cT (cR (cL (cR (cT (cR (cL (cR (cBlk (cR (cLoop (cBlk (cL (cR (cR (Tryz.f159.body.getD .skip)))))))))))))))))))))))) Q { tmps := ((Value.slice (some ⟨bl, off, none⟩) n n) :: u1 :: u2 :: u3 :: u4 :: u5 :: u6 :: u7 :: u8 :: u9 :: u10 :: u11 :: u12 :: u13 :: u14 :: u15 :: u16 :: u17 :: u18 :: u19 :: u20 :: u21 :: u22 :: u23 :: u24 :: u25 :: u26 :: u27 :: u28 :: u29 :: u30 :: u31 :: u32 :: u33 :: u34 :: u35 :: u36 :: u37 :: u38 :: u39 :: u40 :: u41 :: u42 :: u43 :: u44 :: u45 :: u46 :: u47 :: u48 :: u49 :: u50 :: u51 :: u52 :: u53 :: u54 :: u55 :: u56 :: u57 :: u58 :: u59 :: u60 :: u61 :: u62 :: u63 :: u64 :: u65 :: u66 :: u67 :: u68 :: u69 :: u70 :: u71 :: u72 :: u73 :: u74 :: u75 :: u76 :: u77 :: u78 :: u79 :: u80 :: u81 :: u82 :: u83 :: u84 :: u85 :: u86 :: u87 :: u88 :: u89 :: u90 :: u91 :: u92 :: u93 :: u94 :: u95 :: u96 :: u97 :: u98 :: u99 :: u100 :: u101 :: u102 :: u103 :: u104 :: u105 :: u106 :: u107 :: u108 :: u109 :: u110 :: u111 :: u112 :: u113 :: u114 :: u115 :: u116 :: u117 :: u118 :: u119 :: u120 :: u121 :: u122 :: u123 :: u124 :: u125 :: u126 :: u127 :: u128 :: u129 :: u130 :: u131 :: u132 :: u133 :: u134 :: u135 :: u136 :: u137 :: u138 :: u139 :: u140 :: u141 :: u142 :: u143 :: u144 :: u145 :: u146 :: u147 :: u148 :: u149 :: u150 :: u151 :: u152 :: u153 :: u154 :: u155 :: u156 :: u157 :: u158 :: u159 :: u160 :: u161 :: u162 :: u163 :: u164 :: u165 :: u166 :: u167 :: u168 :: u169 :: u170 :: u171 :: u172 :: u173 :: u174 :: u175 :: u176 :: u177 :: u178 :: u179 :: u180 :: u181 :: u182 :: u183 :: u184 :: u185 :: u186 :: u187 :: ([] : List Value)).toArray, defers := [] } W := by
  refine wp_reg rfl ?_
  have hnz : (32 : Int) < (n : Int) := by omega
  have s8z : (8 : Int) ≤ (n : Int) := by omega
  have s8n : 8 ≤ n := by omega
  have n8e : ¬ n = 8 := by omega
  have n8f : ¬ 8 = n := by omega
  have s16z : (16 : Int) ≤ (n : Int) := by omega
  have s16n : 16 ≤ n := by omega
  have n16e : ¬ n = 16 := by omega
  have n16f : ¬ 16 = n := by omega
  have s24z : (24 : Int) ≤ (n : Int) := by omega
  have s24n : 24 ≤ n := by omega
  have n24e : ¬ n = 24 := by omega
  have n24f : ¬ 24 = n := by omega
  go_big_quiet (first | (go_at_call 164; refine quiet_args (c0 _) ?_; with_reducible rfl) | (go_at_call 164; refine quiet_args (c1 _) ?_; with_reducible rfl) | (go_at_call 164; refine quiet_args (c2 _) ?_; with_reducible rfl) | (go_at_call 164; refine quiet_args (c3 _) ?_; with_reducible rfl))
  exact hQ _ _ _ _ _ _ _ _ _ _ _ _ _ _ _ _ _ _ _ _ nq
end Go.Proofs.YtlddpjcacnahmaaGreatDoor
