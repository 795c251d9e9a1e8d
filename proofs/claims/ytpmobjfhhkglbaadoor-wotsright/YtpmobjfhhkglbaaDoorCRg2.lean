/- Drawn region 4 of keccak.round. -/
import Derived.Test.YtpmobjfhhkglbaaDoorCBk
namespace Go.Proofs.YtpmobjfhhkglbaaDoor
open Go.RowKit
set_option linter.unusedVariables false
set_option linter.unusedSimpArgs false

def lt2 : List Lt := [(0, some 159, [1]), (1, some 160, [159]), (0, some 161, [4]), (6, some 162, [160, 161]), (8, some 163, [162]), (0, some 164, [1]), (32, some 165, [164]), (0, some 166, [5]), (192, some 167, [165, 166]), (272, some 168, [167]), (0, some 169, [1]), (1024, some 170, [169]), (0, some 171, [6]), (6144, some 172, [170, 171]), (8704, some 173, [172]), (0, some 174, [1]), (32768, some 175, [174]), (0, some 176, [7]), (196608, some 177, [175, 176]), (278528, some 178, [177]), (0, some 179, [1]), (1048576, some 180, [179]), (0, some 181, [3]), (6291456, some 182, [180, 181]), (8912896, some 183, [182]), (17318416, some 184, [163, 168, 173, 178, 183]), (33554432, some 158, [184]), (67108864, some 185, [158]), (67108864, some 186, [158]), (67108864, some 187, [158]), (67108864, some 188, [158]), (67108864, some 189, [158]), (268435455, some 190, [2]), (4563402751, none, [190, 185]), (13421772799, some 191, [2]), (30601641983, none, [191, 186]), (65498251263, some 192, [2]), (134217727999, none, [192, 187]), (272730423295, some 193, [2]), (547608330239, none, [193, 188]), (1099511627775, some 194, [2]), (2199023255551, none, [194, 189])]
def plan2 : List (Nat × Bool) := [(0, true), (1, true), (2, true), (3, true), (5, true), (6, true), (7, true), (8, true), (10, true), (11, true), (12, true), (13, true), (15, true), (16, true), (17, true), (18, true), (20, true), (21, true), (22, true), (23, true), (4, false), (9, false), (14, false), (19, false), (24, false), (25, false), (26, true), (27, true), (28, true), (29, true), (30, true), (31, true), (32, true), (33, false), (34, true), (35, false), (36, true), (37, false), (38, true), (39, false), (40, true), (41, false)]
theorem lt2_is : ltOf (opsOf (cL (cR (cR (cR (cR (Tryd.f64.body.getD .skip))))))) = lt2 := by kernel_rfl
theorem plan2_ok : goL (opsOf (cL (cR (cR (cR (cR (Tryd.f64.body.getD .skip))))))).size lt2 plan2 0 = true := by kernel_rfl
theorem sel2 : Region.noSelect (opsOf (cL (cR (cR (cR (cR (Tryd.f64.body.getD .skip))))))) = true := by kernel_rfl
theorem reg2_is : (cL (cR (cR (cR (cR (Tryd.f64.body.getD .skip)))))) = .region 4 (opsOf (cL (cR (cR (cR (cR (Tryd.f64.body.getD .skip))))))) true := by kernel_rfl
set_option maxHeartbeats 4000000 in
set_option maxRecDepth 100000 in
theorem reg_2 {q d0 d1 d2 d3 d4 : Nat} {a L : List Nat} {Q : Exit → Act → World → Prop} {f : Act} {x : World} (hw : W25 a) (k0 : d0 < 18446744073709551616) (k1 : d1 < 18446744073709551616) (k2 : d2 < 18446744073709551616) (k3 : d3 < 18446744073709551616) (k4 : d4 < 18446744073709551616) (hA : Lies .u64 68 x q a) (hR : Lies .u64 68 x (q + 1) L) (hl : L.length = 25) (F : FrC q d0 d1 d2 d3 d4 f)
    (hQ : ∀ (f' : Act) (x' : World) (L' : List Nat), L' = (((((L).set 10 (mixW (rotl (el a 1 ^^^ d1) 1) (rotl (el a 7 ^^^ d2) 6) (rotl (el a 13 ^^^ d3) 25))).set 11 (mixW (rotl (el a 7 ^^^ d2) 6) (rotl (el a 13 ^^^ d3) 25) (rotl (el a 19 ^^^ d4) 8))).set 12 (mixW (rotl (el a 13 ^^^ d3) 25) (rotl (el a 19 ^^^ d4) 8) (rotl (el a 20 ^^^ d0) 18))).set 13 (mixW (rotl (el a 19 ^^^ d4) 8) (rotl (el a 20 ^^^ d0) 18) (rotl (el a 1 ^^^ d1) 1))).set 14 (mixW (rotl (el a 20 ^^^ d0) 18) (rotl (el a 1 ^^^ d1) 1) (rotl (el a 7 ^^^ d2) 6)) → L'.length = 25 → FrC q d0 d1 d2 d3 d4 f' → Lies .u64 68 x' (q + 1) L' → But (q + 1) x x' → Q .normal f' x') :
    Code.wp Tryd.prog (cL (cR (cR (cR (cR (Tryd.f64.body.getD .skip)))))) Q f x := by
  rw [reg2_is]
  have hS : RK q a x.drew := RK.of hA hR hl
  refine wp_region_plan (RK q a) lt2 plan2 (by kernel_rfl) lt2_is (by kernel_rfl) sel2 plan2_ok hS ?_
  have hal := hw.1
  refine st_take (k := 159) F rfl rfl (by decide) (by decide) (y_ix (i := 1) (d0 := d0) (d1 := d1) (d2 := d2) (d3 := d3) (d4 := d4) (q := q) rfl rfl F.t1 (by decide)) ?_
  intro f1 F s159 e
  clear e
  refine st_take (k := 160) F rfl rfl (by decide) (by decide) (y_ld (i := 1) hal rfl rfl s159 (by decide)) ?_
  intro f2 F s160 e
  clear e
  refine st_take (k := 161) F rfl rfl (by decide) (by decide) (y_move rfl rfl F.t4) ?_
  intro f3 F s161 e
  replace s160 := (e 160 (by decide)).trans s160
  clear e
  refine st_take (k := 162) F rfl rfl (by decide) (by decide) (y_xor rfl rfl s160 s161 (hw.el 1) k1) ?_
  intro f4 F s162 e
  clear e
  refine st_take (k := 164) F rfl rfl (by decide) (by decide) (y_ix (i := 7) (d0 := d0) (d1 := d1) (d2 := d2) (d3 := d3) (d4 := d4) (q := q) rfl rfl F.t1 (by decide)) ?_
  intro f5 F s164 e
  replace s162 := (e 162 (by decide)).trans s162
  clear e
  refine st_take (k := 165) F rfl rfl (by decide) (by decide) (y_ld (i := 7) hal rfl rfl s164 (by decide)) ?_
  intro f6 F s165 e
  replace s162 := (e 162 (by decide)).trans s162
  clear e
  refine st_take (k := 166) F rfl rfl (by decide) (by decide) (y_move rfl rfl F.t5) ?_
  intro f7 F s166 e
  replace s162 := (e 162 (by decide)).trans s162
  replace s165 := (e 165 (by decide)).trans s165
  clear e
  refine st_take (k := 167) F rfl rfl (by decide) (by decide) (y_xor rfl rfl s165 s166 (hw.el 7) k2) ?_
  intro f8 F s167 e
  replace s162 := (e 162 (by decide)).trans s162
  clear e
  refine st_take (k := 169) F rfl rfl (by decide) (by decide) (y_ix (i := 13) (d0 := d0) (d1 := d1) (d2 := d2) (d3 := d3) (d4 := d4) (q := q) rfl rfl F.t1 (by decide)) ?_
  intro f9 F s169 e
  replace s162 := (e 162 (by decide)).trans s162
  replace s167 := (e 167 (by decide)).trans s167
  clear e
  refine st_take (k := 170) F rfl rfl (by decide) (by decide) (y_ld (i := 13) hal rfl rfl s169 (by decide)) ?_
  intro f10 F s170 e
  replace s162 := (e 162 (by decide)).trans s162
  replace s167 := (e 167 (by decide)).trans s167
  clear e
  refine st_take (k := 171) F rfl rfl (by decide) (by decide) (y_move rfl rfl F.t6) ?_
  intro f11 F s171 e
  replace s162 := (e 162 (by decide)).trans s162
  replace s167 := (e 167 (by decide)).trans s167
  replace s170 := (e 170 (by decide)).trans s170
  clear e
  refine st_take (k := 172) F rfl rfl (by decide) (by decide) (y_xor rfl rfl s170 s171 (hw.el 13) k3) ?_
  intro f12 F s172 e
  replace s162 := (e 162 (by decide)).trans s162
  replace s167 := (e 167 (by decide)).trans s167
  clear e
  refine st_take (k := 174) F rfl rfl (by decide) (by decide) (y_ix (i := 19) (d0 := d0) (d1 := d1) (d2 := d2) (d3 := d3) (d4 := d4) (q := q) rfl rfl F.t1 (by decide)) ?_
  intro f13 F s174 e
  replace s162 := (e 162 (by decide)).trans s162
  replace s167 := (e 167 (by decide)).trans s167
  replace s172 := (e 172 (by decide)).trans s172
  clear e
  refine st_take (k := 175) F rfl rfl (by decide) (by decide) (y_ld (i := 19) hal rfl rfl s174 (by decide)) ?_
  intro f14 F s175 e
  replace s162 := (e 162 (by decide)).trans s162
  replace s167 := (e 167 (by decide)).trans s167
  replace s172 := (e 172 (by decide)).trans s172
  clear e
  refine st_take (k := 176) F rfl rfl (by decide) (by decide) (y_move rfl rfl F.t7) ?_
  intro f15 F s176 e
  replace s162 := (e 162 (by decide)).trans s162
  replace s167 := (e 167 (by decide)).trans s167
  replace s172 := (e 172 (by decide)).trans s172
  replace s175 := (e 175 (by decide)).trans s175
  clear e
  refine st_take (k := 177) F rfl rfl (by decide) (by decide) (y_xor rfl rfl s175 s176 (hw.el 19) k4) ?_
  intro f16 F s177 e
  replace s162 := (e 162 (by decide)).trans s162
  replace s167 := (e 167 (by decide)).trans s167
  replace s172 := (e 172 (by decide)).trans s172
  clear e
  refine st_take (k := 179) F rfl rfl (by decide) (by decide) (y_ix (i := 20) (d0 := d0) (d1 := d1) (d2 := d2) (d3 := d3) (d4 := d4) (q := q) rfl rfl F.t1 (by decide)) ?_
  intro f17 F s179 e
  replace s162 := (e 162 (by decide)).trans s162
  replace s167 := (e 167 (by decide)).trans s167
  replace s172 := (e 172 (by decide)).trans s172
  replace s177 := (e 177 (by decide)).trans s177
  clear e
  refine st_take (k := 180) F rfl rfl (by decide) (by decide) (y_ld (i := 20) hal rfl rfl s179 (by decide)) ?_
  intro f18 F s180 e
  replace s162 := (e 162 (by decide)).trans s162
  replace s167 := (e 167 (by decide)).trans s167
  replace s172 := (e 172 (by decide)).trans s172
  replace s177 := (e 177 (by decide)).trans s177
  clear e
  refine st_take (k := 181) F rfl rfl (by decide) (by decide) (y_move rfl rfl F.t3) ?_
  intro f19 F s181 e
  replace s162 := (e 162 (by decide)).trans s162
  replace s167 := (e 167 (by decide)).trans s167
  replace s172 := (e 172 (by decide)).trans s172
  replace s177 := (e 177 (by decide)).trans s177
  replace s180 := (e 180 (by decide)).trans s180
  clear e
  refine st_take (k := 182) F rfl rfl (by decide) (by decide) (y_xor rfl rfl s180 s181 (hw.el 20) k0) ?_
  intro f20 F s182 e
  replace s162 := (e 162 (by decide)).trans s162
  replace s167 := (e 167 (by decide)).trans s167
  replace s172 := (e 172 (by decide)).trans s172
  replace s177 := (e 177 (by decide)).trans s177
  clear e
  refine st_call (k := 163) (args := #[.int .u64 ((el a 1 ^^^ d1 : Nat) : Int), .int .i64 1]) F rfl rfl (by decide) (by decide) rfl rfl Tryd.call80 (by simp only [List.map_toArray, List.map_cons, List.map_nil, ev_const, s162]) (turn_any _ 1 _ (xor_w (hw.el 1) k1) (by decide)) hS ?_
  intro f21 F s163 e
  replace s167 := (e 167 (by decide)).trans s167
  replace s172 := (e 172 (by decide)).trans s172
  replace s177 := (e 177 (by decide)).trans s177
  replace s182 := (e 182 (by decide)).trans s182
  clear e
  refine st_call (k := 168) (args := #[.int .u64 ((el a 7 ^^^ d2 : Nat) : Int), .int .i64 6]) F rfl rfl (by decide) (by decide) rfl rfl Tryd.call80 (by simp only [List.map_toArray, List.map_cons, List.map_nil, ev_const, s167]) (turn_any _ 6 _ (xor_w (hw.el 7) k2) (by decide)) hS ?_
  intro f22 F s168 e
  replace s172 := (e 172 (by decide)).trans s172
  replace s177 := (e 177 (by decide)).trans s177
  replace s182 := (e 182 (by decide)).trans s182
  replace s163 := (e 163 (by decide)).trans s163
  clear e
  refine st_call (k := 173) (args := #[.int .u64 ((el a 13 ^^^ d3 : Nat) : Int), .int .i64 25]) F rfl rfl (by decide) (by decide) rfl rfl Tryd.call80 (by simp only [List.map_toArray, List.map_cons, List.map_nil, ev_const, s172]) (turn_any _ 25 _ (xor_w (hw.el 13) k3) (by decide)) hS ?_
  intro f23 F s173 e
  replace s177 := (e 177 (by decide)).trans s177
  replace s182 := (e 182 (by decide)).trans s182
  replace s163 := (e 163 (by decide)).trans s163
  replace s168 := (e 168 (by decide)).trans s168
  clear e
  refine st_call (k := 178) (args := #[.int .u64 ((el a 19 ^^^ d4 : Nat) : Int), .int .i64 8]) F rfl rfl (by decide) (by decide) rfl rfl Tryd.call80 (by simp only [List.map_toArray, List.map_cons, List.map_nil, ev_const, s177]) (turn_any _ 8 _ (xor_w (hw.el 19) k4) (by decide)) hS ?_
  intro f24 F s178 e
  replace s182 := (e 182 (by decide)).trans s182
  replace s163 := (e 163 (by decide)).trans s163
  replace s168 := (e 168 (by decide)).trans s168
  replace s173 := (e 173 (by decide)).trans s173
  clear e
  refine st_call (k := 183) (args := #[.int .u64 ((el a 20 ^^^ d0 : Nat) : Int), .int .i64 18]) F rfl rfl (by decide) (by decide) rfl rfl Tryd.call80 (by simp only [List.map_toArray, List.map_cons, List.map_nil, ev_const, s182]) (turn_any _ 18 _ (xor_w (hw.el 20) k0) (by decide)) hS ?_
  intro f25 F s183 e
  replace s163 := (e 163 (by decide)).trans s163
  replace s168 := (e 168 (by decide)).trans s168
  replace s173 := (e 173 (by decide)).trans s173
  replace s178 := (e 178 (by decide)).trans s178
  clear e
  refine st_call (k := 184) (args := #[.int .u64 (((rotl (el a 1 ^^^ d1) 1) : Nat) : Int), .int .u64 (((rotl (el a 7 ^^^ d2) 6) : Nat) : Int), .int .u64 (((rotl (el a 13 ^^^ d3) 25) : Nat) : Int), .int .u64 (((rotl (el a 19 ^^^ d4) 8) : Nat) : Int), .int .u64 (((rotl (el a 20 ^^^ d0) 18) : Nat) : Int)]) F rfl rfl (by decide) (by decide) rfl rfl Tryd.call79 (by simp only [List.map_toArray, List.map_cons, List.map_nil, s163, s168, s173, s178, s183]) (mixed_any _ _ _ _ _ _ (rotl_lt (xor_w (hw.el 1) k1) 1) (rotl_lt (xor_w (hw.el 7) k2) 6) (rotl_lt (xor_w (hw.el 13) k3) 25) (rotl_lt (xor_w (hw.el 19) k4) 8) (rotl_lt (xor_w (hw.el 20) k0) 18)) hS ?_
  intro f26 F s184 e
  clear e
  refine st_take (k := 158) F rfl rfl (by decide) (by decide) (y_move rfl rfl s184) ?_
  intro f27 F s158 e
  clear e
  refine st_take (k := 185) F rfl rfl (by decide) (by decide) (y_extract (k := 0) rfl rfl s158 rfl) ?_
  intro f28 F s185 e
  replace s158 := (e 158 (by decide)).trans s158
  clear e
  refine st_take (k := 186) F rfl rfl (by decide) (by decide) (y_extract (k := 1) rfl rfl s158 rfl) ?_
  intro f29 F s186 e
  replace s158 := (e 158 (by decide)).trans s158
  replace s185 := (e 185 (by decide)).trans s185
  clear e
  refine st_take (k := 187) F rfl rfl (by decide) (by decide) (y_extract (k := 2) rfl rfl s158 rfl) ?_
  intro f30 F s187 e
  replace s158 := (e 158 (by decide)).trans s158
  replace s185 := (e 185 (by decide)).trans s185
  replace s186 := (e 186 (by decide)).trans s186
  clear e
  refine st_take (k := 188) F rfl rfl (by decide) (by decide) (y_extract (k := 3) rfl rfl s158 rfl) ?_
  intro f31 F s188 e
  replace s158 := (e 158 (by decide)).trans s158
  replace s185 := (e 185 (by decide)).trans s185
  replace s186 := (e 186 (by decide)).trans s186
  replace s187 := (e 187 (by decide)).trans s187
  clear e
  refine st_take (k := 189) F rfl rfl (by decide) (by decide) (y_extract (k := 4) rfl rfl s158 rfl) ?_
  intro f32 F s189 e
  replace s158 := (e 158 (by decide)).trans s158
  replace s185 := (e 185 (by decide)).trans s185
  replace s186 := (e 186 (by decide)).trans s186
  replace s187 := (e 187 (by decide)).trans s187
  replace s188 := (e 188 (by decide)).trans s188
  clear e
  refine st_take (k := 190) F rfl rfl (by decide) (by decide) (y_ix (i := 10) (d0 := d0) (d1 := d1) (d2 := d2) (d3 := d3) (d4 := d4) (q := q) rfl rfl F.t2 (by decide)) ?_
  intro f33 F s190 e
  replace s158 := (e 158 (by decide)).trans s158
  replace s185 := (e 185 (by decide)).trans s185
  replace s186 := (e 186 (by decide)).trans s186
  replace s187 := (e 187 (by decide)).trans s187
  replace s188 := (e 188 (by decide)).trans s188
  replace s189 := (e 189 (by decide)).trans s189
  clear e
  refine st_store (c := 10) rfl rfl rfl rfl s190 s185 (by decide) hS ?_
  replace hS := hS.set 10 (.int .u64 ((mixW (rotl (el a 1 ^^^ d1) 1) (rotl (el a 7 ^^^ d2) 6) (rotl (el a 13 ^^^ d3) 25)) : Nat))
  refine st_take (k := 191) F rfl rfl (by decide) (by decide) (y_ix (i := 11) (d0 := d0) (d1 := d1) (d2 := d2) (d3 := d3) (d4 := d4) (q := q) rfl rfl F.t2 (by decide)) ?_
  intro f34 F s191 e
  replace s158 := (e 158 (by decide)).trans s158
  replace s185 := (e 185 (by decide)).trans s185
  replace s186 := (e 186 (by decide)).trans s186
  replace s187 := (e 187 (by decide)).trans s187
  replace s188 := (e 188 (by decide)).trans s188
  replace s189 := (e 189 (by decide)).trans s189
  clear e
  refine st_store (c := 11) rfl rfl rfl rfl s191 s186 (by decide) hS ?_
  replace hS := hS.set 11 (.int .u64 ((mixW (rotl (el a 7 ^^^ d2) 6) (rotl (el a 13 ^^^ d3) 25) (rotl (el a 19 ^^^ d4) 8)) : Nat))
  refine st_take (k := 192) F rfl rfl (by decide) (by decide) (y_ix (i := 12) (d0 := d0) (d1 := d1) (d2 := d2) (d3 := d3) (d4 := d4) (q := q) rfl rfl F.t2 (by decide)) ?_
  intro f35 F s192 e
  replace s158 := (e 158 (by decide)).trans s158
  replace s185 := (e 185 (by decide)).trans s185
  replace s186 := (e 186 (by decide)).trans s186
  replace s187 := (e 187 (by decide)).trans s187
  replace s188 := (e 188 (by decide)).trans s188
  replace s189 := (e 189 (by decide)).trans s189
  clear e
  refine st_store (c := 12) rfl rfl rfl rfl s192 s187 (by decide) hS ?_
  replace hS := hS.set 12 (.int .u64 ((mixW (rotl (el a 13 ^^^ d3) 25) (rotl (el a 19 ^^^ d4) 8) (rotl (el a 20 ^^^ d0) 18)) : Nat))
  refine st_take (k := 193) F rfl rfl (by decide) (by decide) (y_ix (i := 13) (d0 := d0) (d1 := d1) (d2 := d2) (d3 := d3) (d4 := d4) (q := q) rfl rfl F.t2 (by decide)) ?_
  intro f36 F s193 e
  replace s158 := (e 158 (by decide)).trans s158
  replace s185 := (e 185 (by decide)).trans s185
  replace s186 := (e 186 (by decide)).trans s186
  replace s187 := (e 187 (by decide)).trans s187
  replace s188 := (e 188 (by decide)).trans s188
  replace s189 := (e 189 (by decide)).trans s189
  clear e
  refine st_store (c := 13) rfl rfl rfl rfl s193 s188 (by decide) hS ?_
  replace hS := hS.set 13 (.int .u64 ((mixW (rotl (el a 19 ^^^ d4) 8) (rotl (el a 20 ^^^ d0) 18) (rotl (el a 1 ^^^ d1) 1)) : Nat))
  refine st_take (k := 194) F rfl rfl (by decide) (by decide) (y_ix (i := 14) (d0 := d0) (d1 := d1) (d2 := d2) (d3 := d3) (d4 := d4) (q := q) rfl rfl F.t2 (by decide)) ?_
  intro f37 F s194 e
  replace s158 := (e 158 (by decide)).trans s158
  replace s185 := (e 185 (by decide)).trans s185
  replace s186 := (e 186 (by decide)).trans s186
  replace s187 := (e 187 (by decide)).trans s187
  replace s188 := (e 188 (by decide)).trans s188
  replace s189 := (e 189 (by decide)).trans s189
  clear e
  refine st_store (c := 14) rfl rfl rfl rfl s194 s189 (by decide) hS ?_
  replace hS := hS.set 14 (.int .u64 ((mixW (rotl (el a 20 ^^^ d0) 18) (rotl (el a 1 ^^^ d1) 1) (rotl (el a 7 ^^^ d2) 6)) : Nat))
  exact NoPanic.normal (hQ _ _ _ rfl (by simp only [List.length_set]; exact hl) F (Lies.set (Lies.set (Lies.set (Lies.set (Lies.set (Lies.drewN hR 1) 10 (mixW (rotl (el a 1 ^^^ d1) 1) (rotl (el a 7 ^^^ d2) 6) (rotl (el a 13 ^^^ d3) 25))) 11 (mixW (rotl (el a 7 ^^^ d2) 6) (rotl (el a 13 ^^^ d3) 25) (rotl (el a 19 ^^^ d4) 8))) 12 (mixW (rotl (el a 13 ^^^ d3) 25) (rotl (el a 19 ^^^ d4) 8) (rotl (el a 20 ^^^ d0) 18))) 13 (mixW (rotl (el a 19 ^^^ d4) 8) (rotl (el a 20 ^^^ d0) 18) (rotl (el a 1 ^^^ d1) 1))) 14 (mixW (rotl (el a 20 ^^^ d0) 18) (rotl (el a 1 ^^^ d1) 1) (rotl (el a 7 ^^^ d2) 6))) (((((((But.refl (q + 1) x).drew).setCell _ _).setCell _ _).setCell _ _).setCell _ _).setCell _ _))
end Go.Proofs.YtpmobjfhhkglbaaDoor
