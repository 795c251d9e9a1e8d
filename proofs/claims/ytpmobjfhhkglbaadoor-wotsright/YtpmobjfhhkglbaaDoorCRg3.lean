/- Drawn region 5 of keccak.round. -/
import Derived.Test.YtpmobjfhhkglbaaDoorCBk
namespace Go.Proofs.YtpmobjfhhkglbaaDoor
open Go.RowKit
set_option linter.unusedVariables false
set_option linter.unusedSimpArgs false

def lt3 : List Lt := [(0, some 196, [1]), (1, some 197, [196]), (0, some 198, [7]), (6, some 199, [197, 198]), (8, some 200, [199]), (0, some 201, [1]), (32, some 202, [201]), (0, some 203, [3]), (192, some 204, [202, 203]), (272, some 205, [204]), (0, some 206, [1]), (1024, some 207, [206]), (0, some 208, [4]), (6144, some 209, [207, 208]), (8704, some 210, [209]), (0, some 211, [1]), (32768, some 212, [211]), (0, some 213, [5]), (196608, some 214, [212, 213]), (278528, some 215, [214]), (0, some 216, [1]), (1048576, some 217, [216]), (0, some 218, [6]), (6291456, some 219, [217, 218]), (8912896, some 220, [219]), (17318416, some 221, [200, 205, 210, 215, 220]), (33554432, some 195, [221]), (67108864, some 222, [195]), (67108864, some 223, [195]), (67108864, some 224, [195]), (67108864, some 225, [195]), (67108864, some 226, [195]), (268435455, some 227, [2]), (4563402751, none, [227, 222]), (13421772799, some 228, [2]), (30601641983, none, [228, 223]), (65498251263, some 229, [2]), (134217727999, none, [229, 224]), (272730423295, some 230, [2]), (547608330239, none, [230, 225]), (1099511627775, some 231, [2]), (2199023255551, none, [231, 226])]
def plan3 : List (Nat × Bool) := [(0, true), (1, true), (2, true), (3, true), (5, true), (6, true), (7, true), (8, true), (10, true), (11, true), (12, true), (13, true), (15, true), (16, true), (17, true), (18, true), (20, true), (21, true), (22, true), (23, true), (4, false), (9, false), (14, false), (19, false), (24, false), (25, false), (26, true), (27, true), (28, true), (29, true), (30, true), (31, true), (32, true), (33, false), (34, true), (35, false), (36, true), (37, false), (38, true), (39, false), (40, true), (41, false)]
theorem lt3_is : ltOf (opsOf (cL (cR (cR (cR (cR (cR (Tryd.f64.body.getD .skip)))))))) = lt3 := by kernel_rfl
theorem plan3_ok : goL (opsOf (cL (cR (cR (cR (cR (cR (Tryd.f64.body.getD .skip)))))))).size lt3 plan3 0 = true := by kernel_rfl
theorem sel3 : Region.noSelect (opsOf (cL (cR (cR (cR (cR (cR (Tryd.f64.body.getD .skip)))))))) = true := by kernel_rfl
theorem reg3_is : (cL (cR (cR (cR (cR (cR (Tryd.f64.body.getD .skip))))))) = .region 5 (opsOf (cL (cR (cR (cR (cR (cR (Tryd.f64.body.getD .skip)))))))) true := by kernel_rfl
set_option maxHeartbeats 4000000 in
set_option maxRecDepth 100000 in
theorem reg_3 {q d0 d1 d2 d3 d4 : Nat} {a L : List Nat} {Q : Exit → Act → World → Prop} {f : Act} {x : World} (hw : W25 a) (k0 : d0 < 18446744073709551616) (k1 : d1 < 18446744073709551616) (k2 : d2 < 18446744073709551616) (k3 : d3 < 18446744073709551616) (k4 : d4 < 18446744073709551616) (hA : Lies .u64 68 x q a) (hR : Lies .u64 68 x (q + 1) L) (hl : L.length = 25) (F : FrC q d0 d1 d2 d3 d4 f)
    (hQ : ∀ (f' : Act) (x' : World) (L' : List Nat), L' = (((((L).set 15 (mixW (rotl (el a 4 ^^^ d4) 27) (rotl (el a 5 ^^^ d0) 36) (rotl (el a 11 ^^^ d1) 10))).set 16 (mixW (rotl (el a 5 ^^^ d0) 36) (rotl (el a 11 ^^^ d1) 10) (rotl (el a 17 ^^^ d2) 15))).set 17 (mixW (rotl (el a 11 ^^^ d1) 10) (rotl (el a 17 ^^^ d2) 15) (rotl (el a 23 ^^^ d3) 56))).set 18 (mixW (rotl (el a 17 ^^^ d2) 15) (rotl (el a 23 ^^^ d3) 56) (rotl (el a 4 ^^^ d4) 27))).set 19 (mixW (rotl (el a 23 ^^^ d3) 56) (rotl (el a 4 ^^^ d4) 27) (rotl (el a 5 ^^^ d0) 36)) → L'.length = 25 → FrC q d0 d1 d2 d3 d4 f' → Lies .u64 68 x' (q + 1) L' → But (q + 1) x x' → Q .normal f' x') :
    Code.wp Tryd.prog (cL (cR (cR (cR (cR (cR (Tryd.f64.body.getD .skip))))))) Q f x := by
  rw [reg3_is]
  have hS : RK q a x.drew := RK.of hA hR hl
  refine wp_region_plan (RK q a) lt3 plan3 (by kernel_rfl) lt3_is (by kernel_rfl) sel3 plan3_ok hS ?_
  have hal := hw.1
  refine st_take (k := 196) F rfl rfl (by decide) (by decide) (y_ix (i := 4) (d0 := d0) (d1 := d1) (d2 := d2) (d3 := d3) (d4 := d4) (q := q) rfl rfl F.t1 (by decide)) ?_
  intro f1 F s196 e
  clear e
  refine st_take (k := 197) F rfl rfl (by decide) (by decide) (y_ld (i := 4) hal rfl rfl s196 (by decide)) ?_
  intro f2 F s197 e
  clear e
  refine st_take (k := 198) F rfl rfl (by decide) (by decide) (y_move rfl rfl F.t7) ?_
  intro f3 F s198 e
  replace s197 := (e 197 (by decide)).trans s197
  clear e
  refine st_take (k := 199) F rfl rfl (by decide) (by decide) (y_xor rfl rfl s197 s198 (hw.el 4) k4) ?_
  intro f4 F s199 e
  clear e
  refine st_take (k := 201) F rfl rfl (by decide) (by decide) (y_ix (i := 5) (d0 := d0) (d1 := d1) (d2 := d2) (d3 := d3) (d4 := d4) (q := q) rfl rfl F.t1 (by decide)) ?_
  intro f5 F s201 e
  replace s199 := (e 199 (by decide)).trans s199
  clear e
  refine st_take (k := 202) F rfl rfl (by decide) (by decide) (y_ld (i := 5) hal rfl rfl s201 (by decide)) ?_
  intro f6 F s202 e
  replace s199 := (e 199 (by decide)).trans s199
  clear e
  refine st_take (k := 203) F rfl rfl (by decide) (by decide) (y_move rfl rfl F.t3) ?_
  intro f7 F s203 e
  replace s199 := (e 199 (by decide)).trans s199
  replace s202 := (e 202 (by decide)).trans s202
  clear e
  refine st_take (k := 204) F rfl rfl (by decide) (by decide) (y_xor rfl rfl s202 s203 (hw.el 5) k0) ?_
  intro f8 F s204 e
  replace s199 := (e 199 (by decide)).trans s199
  clear e
  refine st_take (k := 206) F rfl rfl (by decide) (by decide) (y_ix (i := 11) (d0 := d0) (d1 := d1) (d2 := d2) (d3 := d3) (d4 := d4) (q := q) rfl rfl F.t1 (by decide)) ?_
  intro f9 F s206 e
  replace s199 := (e 199 (by decide)).trans s199
  replace s204 := (e 204 (by decide)).trans s204
  clear e
  refine st_take (k := 207) F rfl rfl (by decide) (by decide) (y_ld (i := 11) hal rfl rfl s206 (by decide)) ?_
  intro f10 F s207 e
  replace s199 := (e 199 (by decide)).trans s199
  replace s204 := (e 204 (by decide)).trans s204
  clear e
  refine st_take (k := 208) F rfl rfl (by decide) (by decide) (y_move rfl rfl F.t4) ?_
  intro f11 F s208 e
  replace s199 := (e 199 (by decide)).trans s199
  replace s204 := (e 204 (by decide)).trans s204
  replace s207 := (e 207 (by decide)).trans s207
  clear e
  refine st_take (k := 209) F rfl rfl (by decide) (by decide) (y_xor rfl rfl s207 s208 (hw.el 11) k1) ?_
  intro f12 F s209 e
  replace s199 := (e 199 (by decide)).trans s199
  replace s204 := (e 204 (by decide)).trans s204
  clear e
  refine st_take (k := 211) F rfl rfl (by decide) (by decide) (y_ix (i := 17) (d0 := d0) (d1 := d1) (d2 := d2) (d3 := d3) (d4 := d4) (q := q) rfl rfl F.t1 (by decide)) ?_
  intro f13 F s211 e
  replace s199 := (e 199 (by decide)).trans s199
  replace s204 := (e 204 (by decide)).trans s204
  replace s209 := (e 209 (by decide)).trans s209
  clear e
  refine st_take (k := 212) F rfl rfl (by decide) (by decide) (y_ld (i := 17) hal rfl rfl s211 (by decide)) ?_
  intro f14 F s212 e
  replace s199 := (e 199 (by decide)).trans s199
  replace s204 := (e 204 (by decide)).trans s204
  replace s209 := (e 209 (by decide)).trans s209
  clear e
  refine st_take (k := 213) F rfl rfl (by decide) (by decide) (y_move rfl rfl F.t5) ?_
  intro f15 F s213 e
  replace s199 := (e 199 (by decide)).trans s199
  replace s204 := (e 204 (by decide)).trans s204
  replace s209 := (e 209 (by decide)).trans s209
  replace s212 := (e 212 (by decide)).trans s212
  clear e
  refine st_take (k := 214) F rfl rfl (by decide) (by decide) (y_xor rfl rfl s212 s213 (hw.el 17) k2) ?_
  intro f16 F s214 e
  replace s199 := (e 199 (by decide)).trans s199
  replace s204 := (e 204 (by decide)).trans s204
  replace s209 := (e 209 (by decide)).trans s209
  clear e
  refine st_take (k := 216) F rfl rfl (by decide) (by decide) (y_ix (i := 23) (d0 := d0) (d1 := d1) (d2 := d2) (d3 := d3) (d4 := d4) (q := q) rfl rfl F.t1 (by decide)) ?_
  intro f17 F s216 e
  replace s199 := (e 199 (by decide)).trans s199
  replace s204 := (e 204 (by decide)).trans s204
  replace s209 := (e 209 (by decide)).trans s209
  replace s214 := (e 214 (by decide)).trans s214
  clear e
  refine st_take (k := 217) F rfl rfl (by decide) (by decide) (y_ld (i := 23) hal rfl rfl s216 (by decide)) ?_
  intro f18 F s217 e
  replace s199 := (e 199 (by decide)).trans s199
  replace s204 := (e 204 (by decide)).trans s204
  replace s209 := (e 209 (by decide)).trans s209
  replace s214 := (e 214 (by decide)).trans s214
  clear e
  refine st_take (k := 218) F rfl rfl (by decide) (by decide) (y_move rfl rfl F.t6) ?_
  intro f19 F s218 e
  replace s199 := (e 199 (by decide)).trans s199
  replace s204 := (e 204 (by decide)).trans s204
  replace s209 := (e 209 (by decide)).trans s209
  replace s214 := (e 214 (by decide)).trans s214
  replace s217 := (e 217 (by decide)).trans s217
  clear e
  refine st_take (k := 219) F rfl rfl (by decide) (by decide) (y_xor rfl rfl s217 s218 (hw.el 23) k3) ?_
  intro f20 F s219 e
  replace s199 := (e 199 (by decide)).trans s199
  replace s204 := (e 204 (by decide)).trans s204
  replace s209 := (e 209 (by decide)).trans s209
  replace s214 := (e 214 (by decide)).trans s214
  clear e
  refine st_call (k := 200) (args := #[.int .u64 ((el a 4 ^^^ d4 : Nat) : Int), .int .i64 27]) F rfl rfl (by decide) (by decide) rfl rfl Tryd.call80 (by simp only [List.map_toArray, List.map_cons, List.map_nil, ev_const, s199]) (turn_any _ 27 _ (xor_w (hw.el 4) k4) (by decide)) hS ?_
  intro f21 F s200 e
  replace s204 := (e 204 (by decide)).trans s204
  replace s209 := (e 209 (by decide)).trans s209
  replace s214 := (e 214 (by decide)).trans s214
  replace s219 := (e 219 (by decide)).trans s219
  clear e
  refine st_call (k := 205) (args := #[.int .u64 ((el a 5 ^^^ d0 : Nat) : Int), .int .i64 36]) F rfl rfl (by decide) (by decide) rfl rfl Tryd.call80 (by simp only [List.map_toArray, List.map_cons, List.map_nil, ev_const, s204]) (turn_any _ 36 _ (xor_w (hw.el 5) k0) (by decide)) hS ?_
  intro f22 F s205 e
  replace s209 := (e 209 (by decide)).trans s209
  replace s214 := (e 214 (by decide)).trans s214
  replace s219 := (e 219 (by decide)).trans s219
  replace s200 := (e 200 (by decide)).trans s200
  clear e
  refine st_call (k := 210) (args := #[.int .u64 ((el a 11 ^^^ d1 : Nat) : Int), .int .i64 10]) F rfl rfl (by decide) (by decide) rfl rfl Tryd.call80 (by simp only [List.map_toArray, List.map_cons, List.map_nil, ev_const, s209]) (turn_any _ 10 _ (xor_w (hw.el 11) k1) (by decide)) hS ?_
  intro f23 F s210 e
  replace s214 := (e 214 (by decide)).trans s214
  replace s219 := (e 219 (by decide)).trans s219
  replace s200 := (e 200 (by decide)).trans s200
  replace s205 := (e 205 (by decide)).trans s205
  clear e
  refine st_call (k := 215) (args := #[.int .u64 ((el a 17 ^^^ d2 : Nat) : Int), .int .i64 15]) F rfl rfl (by decide) (by decide) rfl rfl Tryd.call80 (by simp only [List.map_toArray, List.map_cons, List.map_nil, ev_const, s214]) (turn_any _ 15 _ (xor_w (hw.el 17) k2) (by decide)) hS ?_
  intro f24 F s215 e
  replace s219 := (e 219 (by decide)).trans s219
  replace s200 := (e 200 (by decide)).trans s200
  replace s205 := (e 205 (by decide)).trans s205
  replace s210 := (e 210 (by decide)).trans s210
  clear e
  refine st_call (k := 220) (args := #[.int .u64 ((el a 23 ^^^ d3 : Nat) : Int), .int .i64 56]) F rfl rfl (by decide) (by decide) rfl rfl Tryd.call80 (by simp only [List.map_toArray, List.map_cons, List.map_nil, ev_const, s219]) (turn_any _ 56 _ (xor_w (hw.el 23) k3) (by decide)) hS ?_
  intro f25 F s220 e
  replace s200 := (e 200 (by decide)).trans s200
  replace s205 := (e 205 (by decide)).trans s205
  replace s210 := (e 210 (by decide)).trans s210
  replace s215 := (e 215 (by decide)).trans s215
  clear e
  refine st_call (k := 221) (args := #[.int .u64 (((rotl (el a 4 ^^^ d4) 27) : Nat) : Int), .int .u64 (((rotl (el a 5 ^^^ d0) 36) : Nat) : Int), .int .u64 (((rotl (el a 11 ^^^ d1) 10) : Nat) : Int), .int .u64 (((rotl (el a 17 ^^^ d2) 15) : Nat) : Int), .int .u64 (((rotl (el a 23 ^^^ d3) 56) : Nat) : Int)]) F rfl rfl (by decide) (by decide) rfl rfl Tryd.call79 (by simp only [List.map_toArray, List.map_cons, List.map_nil, s200, s205, s210, s215, s220]) (mixed_any _ _ _ _ _ _ (rotl_lt (xor_w (hw.el 4) k4) 27) (rotl_lt (xor_w (hw.el 5) k0) 36) (rotl_lt (xor_w (hw.el 11) k1) 10) (rotl_lt (xor_w (hw.el 17) k2) 15) (rotl_lt (xor_w (hw.el 23) k3) 56)) hS ?_
  intro f26 F s221 e
  clear e
  refine st_take (k := 195) F rfl rfl (by decide) (by decide) (y_move rfl rfl s221) ?_
  intro f27 F s195 e
  clear e
  refine st_take (k := 222) F rfl rfl (by decide) (by decide) (y_extract (k := 0) rfl rfl s195 rfl) ?_
  intro f28 F s222 e
  replace s195 := (e 195 (by decide)).trans s195
  clear e
  refine st_take (k := 223) F rfl rfl (by decide) (by decide) (y_extract (k := 1) rfl rfl s195 rfl) ?_
  intro f29 F s223 e
  replace s195 := (e 195 (by decide)).trans s195
  replace s222 := (e 222 (by decide)).trans s222
  clear e
  refine st_take (k := 224) F rfl rfl (by decide) (by decide) (y_extract (k := 2) rfl rfl s195 rfl) ?_
  intro f30 F s224 e
  replace s195 := (e 195 (by decide)).trans s195
  replace s222 := (e 222 (by decide)).trans s222
  replace s223 := (e 223 (by decide)).trans s223
  clear e
  refine st_take (k := 225) F rfl rfl (by decide) (by decide) (y_extract (k := 3) rfl rfl s195 rfl) ?_
  intro f31 F s225 e
  replace s195 := (e 195 (by decide)).trans s195
  replace s222 := (e 222 (by decide)).trans s222
  replace s223 := (e 223 (by decide)).trans s223
  replace s224 := (e 224 (by decide)).trans s224
  clear e
  refine st_take (k := 226) F rfl rfl (by decide) (by decide) (y_extract (k := 4) rfl rfl s195 rfl) ?_
  intro f32 F s226 e
  replace s195 := (e 195 (by decide)).trans s195
  replace s222 := (e 222 (by decide)).trans s222
  replace s223 := (e 223 (by decide)).trans s223
  replace s224 := (e 224 (by decide)).trans s224
  replace s225 := (e 225 (by decide)).trans s225
  clear e
  refine st_take (k := 227) F rfl rfl (by decide) (by decide) (y_ix (i := 15) (d0 := d0) (d1 := d1) (d2 := d2) (d3 := d3) (d4 := d4) (q := q) rfl rfl F.t2 (by decide)) ?_
  intro f33 F s227 e
  replace s195 := (e 195 (by decide)).trans s195
  replace s222 := (e 222 (by decide)).trans s222
  replace s223 := (e 223 (by decide)).trans s223
  replace s224 := (e 224 (by decide)).trans s224
  replace s225 := (e 225 (by decide)).trans s225
  replace s226 := (e 226 (by decide)).trans s226
  clear e
  refine st_store (c := 15) rfl rfl rfl rfl s227 s222 (by decide) hS ?_
  replace hS := hS.set 15 (.int .u64 ((mixW (rotl (el a 4 ^^^ d4) 27) (rotl (el a 5 ^^^ d0) 36) (rotl (el a 11 ^^^ d1) 10)) : Nat))
  refine st_take (k := 228) F rfl rfl (by decide) (by decide) (y_ix (i := 16) (d0 := d0) (d1 := d1) (d2 := d2) (d3 := d3) (d4 := d4) (q := q) rfl rfl F.t2 (by decide)) ?_
  intro f34 F s228 e
  replace s195 := (e 195 (by decide)).trans s195
  replace s222 := (e 222 (by decide)).trans s222
  replace s223 := (e 223 (by decide)).trans s223
  replace s224 := (e 224 (by decide)).trans s224
  replace s225 := (e 225 (by decide)).trans s225
  replace s226 := (e 226 (by decide)).trans s226
  clear e
  refine st_store (c := 16) rfl rfl rfl rfl s228 s223 (by decide) hS ?_
  replace hS := hS.set 16 (.int .u64 ((mixW (rotl (el a 5 ^^^ d0) 36) (rotl (el a 11 ^^^ d1) 10) (rotl (el a 17 ^^^ d2) 15)) : Nat))
  refine st_take (k := 229) F rfl rfl (by decide) (by decide) (y_ix (i := 17) (d0 := d0) (d1 := d1) (d2 := d2) (d3 := d3) (d4 := d4) (q := q) rfl rfl F.t2 (by decide)) ?_
  intro f35 F s229 e
  replace s195 := (e 195 (by decide)).trans s195
  replace s222 := (e 222 (by decide)).trans s222
  replace s223 := (e 223 (by decide)).trans s223
  replace s224 := (e 224 (by decide)).trans s224
  replace s225 := (e 225 (by decide)).trans s225
  replace s226 := (e 226 (by decide)).trans s226
  clear e
  refine st_store (c := 17) rfl rfl rfl rfl s229 s224 (by decide) hS ?_
  replace hS := hS.set 17 (.int .u64 ((mixW (rotl (el a 11 ^^^ d1) 10) (rotl (el a 17 ^^^ d2) 15) (rotl (el a 23 ^^^ d3) 56)) : Nat))
  refine st_take (k := 230) F rfl rfl (by decide) (by decide) (y_ix (i := 18) (d0 := d0) (d1 := d1) (d2 := d2) (d3 := d3) (d4 := d4) (q := q) rfl rfl F.t2 (by decide)) ?_
  intro f36 F s230 e
  replace s195 := (e 195 (by decide)).trans s195
  replace s222 := (e 222 (by decide)).trans s222
  replace s223 := (e 223 (by decide)).trans s223
  replace s224 := (e 224 (by decide)).trans s224
  replace s225 := (e 225 (by decide)).trans s225
  replace s226 := (e 226 (by decide)).trans s226
  clear e
  refine st_store (c := 18) rfl rfl rfl rfl s230 s225 (by decide) hS ?_
  replace hS := hS.set 18 (.int .u64 ((mixW (rotl (el a 17 ^^^ d2) 15) (rotl (el a 23 ^^^ d3) 56) (rotl (el a 4 ^^^ d4) 27)) : Nat))
  refine st_take (k := 231) F rfl rfl (by decide) (by decide) (y_ix (i := 19) (d0 := d0) (d1 := d1) (d2 := d2) (d3 := d3) (d4 := d4) (q := q) rfl rfl F.t2 (by decide)) ?_
  intro f37 F s231 e
  replace s195 := (e 195 (by decide)).trans s195
  replace s222 := (e 222 (by decide)).trans s222
  replace s223 := (e 223 (by decide)).trans s223
  replace s224 := (e 224 (by decide)).trans s224
  replace s225 := (e 225 (by decide)).trans s225
  replace s226 := (e 226 (by decide)).trans s226
  clear e
  refine st_store (c := 19) rfl rfl rfl rfl s231 s226 (by decide) hS ?_
  replace hS := hS.set 19 (.int .u64 ((mixW (rotl (el a 23 ^^^ d3) 56) (rotl (el a 4 ^^^ d4) 27) (rotl (el a 5 ^^^ d0) 36)) : Nat))
  exact NoPanic.normal (hQ _ _ _ rfl (by simp only [List.length_set]; exact hl) F (Lies.set (Lies.set (Lies.set (Lies.set (Lies.set (Lies.drewN hR 1) 15 (mixW (rotl (el a 4 ^^^ d4) 27) (rotl (el a 5 ^^^ d0) 36) (rotl (el a 11 ^^^ d1) 10))) 16 (mixW (rotl (el a 5 ^^^ d0) 36) (rotl (el a 11 ^^^ d1) 10) (rotl (el a 17 ^^^ d2) 15))) 17 (mixW (rotl (el a 11 ^^^ d1) 10) (rotl (el a 17 ^^^ d2) 15) (rotl (el a 23 ^^^ d3) 56))) 18 (mixW (rotl (el a 17 ^^^ d2) 15) (rotl (el a 23 ^^^ d3) 56) (rotl (el a 4 ^^^ d4) 27))) 19 (mixW (rotl (el a 23 ^^^ d3) 56) (rotl (el a 4 ^^^ d4) 27) (rotl (el a 5 ^^^ d0) 36))) (((((((But.refl (q + 1) x).drew).setCell _ _).setCell _ _).setCell _ _).setCell _ _).setCell _ _))
end Go.Proofs.YtpmobjfhhkglbaaDoor
