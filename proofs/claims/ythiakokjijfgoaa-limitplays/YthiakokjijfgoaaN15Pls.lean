/- LimitPlays. Printed by wip/gen_n15pls.py. -/
import Derived.Test.YthiakokjijfgoaaN15Awk
import Derived.Test.YthiakokjijfgoaaArgL
import Derived.Deep.CutRange
import Derived.Deep.RegionHeld3
namespace Go.Proofs.Ythiakokjijfgoaa
set_option maxRecDepth 100000
open Go.ChangeShapes Go.WideShapes Go.RowKit
set_option linter.unusedVariables false
set_option linter.unusedSimpArgs false

/-- both meters side by side -/
structure Bm (w W : World) (g h : Nat) (m r : Mt) : Prop where
  p : Pm w W g m
  y : Blk W h 40 (mrA r)
  rk : MOk r
  lo : w.heap.size ≤ h
theorem Bm.ne {w W : World} {g h : Nat} {m r : Mt} (H : Bm w W g h m r) : g ≠ h := by
  rintro rfl
  have h1 := H.p.x
  have h2 := H.y
  unfold Blk at h1 h2
  rw [h1] at h2
  injection h2 with h2
  injection h2 with _ h3
  exact absurd h3 (by decide)
theorem Bm.go {w W W' : World} {g h : Nat} {m r : Mt} (H : Bm w W g h m r) (hb : Below W.heap.size W W') : Bm w W' g h m r := ⟨H.p.go hb, H.y.go' hb, H.rk, H.lo⟩
theorem Bm.prog {w W W' : World} {g h : Nat} {m m' r : Mt} (H : Bm w W g h m r) (hx : Blk W' g 48 (prA m')) (hb : But g W W') (ok : MOk m') : Bm w W' g h m' r := ⟨H.p.step hx hb ok, hb.blk H.y (Ne.symm H.ne), H.rk, H.lo⟩
theorem Bm.doc {w W W' : World} {g h : Nat} {m r r' : Mt} (H : Bm w W g h m r) (hx : Blk W' h 40 (mrA r')) (hb : But h W W') (ok : MOk r') : Bm w W' g h m r' :=
  ⟨⟨hb.blk H.p.x H.ne, H.p.ok, H.p.lo, H.p.b.trans (hb.below H.lo H.p.b.size)⟩, hx, ok, H.lo⟩
theorem bm_byte {w W : World} {g h : Nat} {m r : Mt} (H : Bm w W g h m r) : Calls Try.prog 11 #[.pointer (some ⟨g, 0, none⟩)] W fun e W' => e = .returned (.int .i64 (byteF m).1) ∧ Bm w W' g h (byteF m).2 r := (pbyte_any g m H.p.ok W H.p.x).mono fun e W' ⟨h1, h2, h3⟩ => ⟨h1, H.prog h2 h3 (byte_ok H.p.ok)⟩
theorem br_byte {w W : World} {g h : Nat} {m r : Mt} (H : Bm w W g h m r) : Calls Try.prog 12 #[.pointer (some ⟨h, 0, none⟩)] W fun e W' => e = .returned (.int .i64 (byteF r).1) ∧ Bm w W' g h m (byteF r).2 := (rbyte_any h r H.rk W H.y).mono fun e W' ⟨h1, h2, h3⟩ => ⟨h1, H.doc h2 h3 (byte_ok H.rk)⟩
theorem bm_node {w W : World} {g h : Nat} {m r : Mt} (H : Bm w W g h m r) : Calls Try.prog 13 #[.pointer (some ⟨g, 0, none⟩)] W fun e W' => e = .returned (.int .i64 (nodeF m).1) ∧ Bm w W' g h (nodeF m).2 r := (pnode_any g m H.p.ok W H.p.x).mono fun e W' ⟨h1, h2, h3⟩ => ⟨h1, H.prog h2 h3 (node_ok H.p.ok)⟩
theorem br_node {w W : World} {g h : Nat} {m r : Mt} (H : Bm w W g h m r) : Calls Try.prog 14 #[.pointer (some ⟨h, 0, none⟩)] W fun e W' => e = .returned (.int .i64 (nodeF r).1) ∧ Bm w W' g h m (nodeF r).2 := (rnode_any h r H.rk W H.y).mono fun e W' ⟨h1, h2, h3⟩ => ⟨h1, H.doc h2 h3 (node_ok H.rk)⟩
theorem bm_open {w W : World} {g h : Nat} {m r : Mt} (H : Bm w W g h m r) : Calls Try.prog 15 #[.pointer (some ⟨g, 0, none⟩)] W fun e W' => e = .returned (.int .i64 (openF m).1) ∧ Bm w W' g h (openF m).2 r := (popen_any g m H.p.ok W H.p.x).mono fun e W' ⟨h1, h2, h3⟩ => ⟨h1, H.prog h2 h3 (open_ok H.p.ok)⟩
theorem br_open {w W : World} {g h : Nat} {m r : Mt} (H : Bm w W g h m r) : Calls Try.prog 16 #[.pointer (some ⟨h, 0, none⟩)] W fun e W' => e = .returned (.int .i64 (openF r).1) ∧ Bm w W' g h m (openF r).2 := (ropen_any h r H.rk W H.y).mono fun e W' ⟨h1, h2, h3⟩ => ⟨h1, H.doc h2 h3 (open_ok H.rk)⟩
theorem bm_name {w W : World} {g h : Nat} {m r : Mt} (x : Int) (hx : -9223372036854775808 ≤ x ∧ x ≤ 9223372036854775807) (H : Bm w W g h m r) : Calls Try.prog 19 #[.pointer (some ⟨g, 0, none⟩), .int .i64 x] W fun e W' => e = .returned (.int .i64 (nameF x m).1) ∧ Bm w W' g h (nameF x m).2 r := (pname_any g x hx m H.p.ok W H.p.x).mono fun e W' ⟨h1, h2, h3⟩ => ⟨h1, H.prog h2 h3 (name_ok H.p.ok)⟩
theorem br_name {w W : World} {g h : Nat} {m r : Mt} (x : Int) (hx : -9223372036854775808 ≤ x ∧ x ≤ 9223372036854775807) (H : Bm w W g h m r) : Calls Try.prog 20 #[.pointer (some ⟨h, 0, none⟩), .int .i64 x] W fun e W' => e = .returned (.int .i64 (nameF x r).1) ∧ Bm w W' g h m (nameF x r).2 := (rname_any h x hx r H.rk W H.y).mono fun e W' ⟨h1, h2, h3⟩ => ⟨h1, H.doc h2 h3 (name_ok H.rk)⟩
theorem bm_text {w W : World} {g h : Nat} {m r : Mt} (x : Int) (hx : -9223372036854775808 ≤ x ∧ x ≤ 9223372036854775807) (H : Bm w W g h m r) : Calls Try.prog 21 #[.pointer (some ⟨g, 0, none⟩), .int .i64 x] W fun e W' => e = .returned (.int .i64 (textF x m).1) ∧ Bm w W' g h (textF x m).2 r := (ptext_any g x hx m H.p.ok W H.p.x).mono fun e W' ⟨h1, h2, h3⟩ => ⟨h1, H.prog h2 h3 (text_ok H.p.ok)⟩
theorem br_text {w W : World} {g h : Nat} {m r : Mt} (x : Int) (hx : -9223372036854775808 ≤ x ∧ x ≤ 9223372036854775807) (H : Bm w W g h m r) : Calls Try.prog 22 #[.pointer (some ⟨h, 0, none⟩), .int .i64 x] W fun e W' => e = .returned (.int .i64 (textF x r).1) ∧ Bm w W' g h m (textF x r).2 := (rtext_any h x hx r H.rk W H.y).mono fun e W' ⟨h1, h2, h3⟩ => ⟨h1, H.doc h2 h3 (text_ok H.rk)⟩
theorem bm_close {w W : World} {g h : Nat} {m r : Mt} (H : Bm w W g h m r) : Calls Try.prog 17 #[.pointer (some ⟨g, 0, none⟩)] W fun e W' => e = .returned (.tuple #[]) ∧ Bm w W' g h (closeF m) r := (pclose_any g m H.p.ok W H.p.x).mono fun e W' ⟨h1, h2, h3⟩ => ⟨h1, H.prog h2 h3 (close_ok H.p.ok)⟩
theorem br_close {w W : World} {g h : Nat} {m r : Mt} (H : Bm w W g h m r) : Calls Try.prog 18 #[.pointer (some ⟨h, 0, none⟩)] W fun e W' => e = .returned (.tuple #[]) ∧ Bm w W' g h m (closeF r) := (rclose_any h r H.rk W H.y).mono fun e W' ⟨h1, h2, h3⟩ => ⟨h1, H.doc h2 h3 (close_ok H.rk)⟩
def PlL (w : World) (g h : Nat) (z : List (Int × Int)) (x : Value) (wr : World) : Prop := ∃ (k : Nat) (m : Mt), x = .int .i64 k ∧ k ≤ z.length ∧ Bm w wr g h m m
set_option maxHeartbeats 16000000 in
theorem plays_walk (l : Lm) (a1 : Option Addr) (n1 cap1 : Nat) (z : List (Int × Int)) (w : World) (hz : z.length = n1) (hI : Prs w w.heap.size a1 z) (hm : n1 ≤ maxLen) (hw : ∀ p ∈ z, (Lit.int .i64 p.1).wf = true ∧ (Lit.int .i64 p.2).wf = true) :
    Calls Try.prog 3 #[.agg (lmA l), .slice a1 n1 cap1] w fun e w' => e = .returned (.bool true) ∧ Below w.heap.size w w' := by
  have hAw := Lib.hid (fun W => awake15 W)
  have HI := Lib.hid hI
  have HZ := Lib.hid hz
  have HW := Lib.hid hw
  unfold maxLen at hm
  clear hI hz hw
  obtain ⟨x0, hx0⟩ : ∃ x0, chk l = x0 := ⟨_, rfl⟩
  have hC1 := Lib.hid (fun W => pcheck_any l W)
  have hC2 := Lib.hid (fun W => rcheck_any l W)
  rw [hx0] at hC1 hC2
  have hX := Lib.hid (Blk.new w 23 (lmA l))
  have hB := Lib.hid ((Below.refl w.heap.size w).alloc (Nat.le_refl _) (.cells (lmA l) 23))
  cases x0
  · unfold lmA at *
    go_enter Try.func3, Try.ntmps3
    go_upto_region 1 with fail
    generalize w.alloc (.cells #[.int .i64 l.b, .int .i64 l.d, .int .i64 l.n, .int .i64 l.k, .int .i64 l.t] 23) = W1 at *
    obtain ⟨y, hy⟩ : ∃ y, Hid (y = w.heap.size) := ⟨_, Lib.hid rfl⟩
    rw [← hy.out] at hX ⊢
    have c0 := hX.out.cell 0
    have c1 := hX.out.cell 1
    have c2 := hX.out.cell 2
    have c3 := hX.out.cell 3
    have c4 := hX.out.cell 4
    simp only [List.getElem?_toArray, List.getElem?_cons_zero, List.getElem?_cons_succ] at c0 c1 c2 c3 c4
    have hl := hX.out.lt
    have hN1 := Lib.hid (fun W => pnew_no l hx0 W)
    have hN2 := Lib.hid (fun W => rnew_no l hx0 W)
    unfold lmA at hN1 hN2
    go_region_held3 (fun w' => w'.cell? ⟨y, 0, none⟩ = some (.int .i64 l.b) ∧ w'.cell? ⟨y, 1, none⟩ = some (.int .i64 l.d) ∧ w'.cell? ⟨y, 2, none⟩ = some (.int .i64 l.n) ∧ w'.cell? ⟨y, 3, none⟩ = some (.int .i64 l.k) ∧ w'.cell? ⟨y, 4, none⟩ = some (.int .i64 l.t)) (go_keep) (first | (go_at_call 6; refine (hN1.out _).mono ?_; rintro e U1 ⟨rfl, hb⟩; have u0 := (hb.cell (p := ⟨y, 0, none⟩) hl).trans c0; have u1 := (hb.cell (p := ⟨y, 1, none⟩) hl).trans c1; have u2 := (hb.cell (p := ⟨y, 2, none⟩) hl).trans c2; have u3 := (hb.cell (p := ⟨y, 3, none⟩) hl).trans c3; have u4 := (hb.cell (p := ⟨y, 4, none⟩) hl).trans c4; have lU1 : y < U1.heap.size := Nat.lt_of_lt_of_le hl hb.size; have BU1 := hb; clear hb) | (go_at_call 7; refine (hN2.out _).mono ?_; rintro e U2 ⟨rfl, hb⟩; have v0 := (hb.cell (p := ⟨y, 0, none⟩) lU1).trans u0; have v1 := (hb.cell (p := ⟨y, 1, none⟩) lU1).trans u1; have v2 := (hb.cell (p := ⟨y, 2, none⟩) lU1).trans u2; have v3 := (hb.cell (p := ⟨y, 3, none⟩) lU1).trans u3; have v4 := (hb.cell (p := ⟨y, 4, none⟩) lU1).trans u4; have lU2 : y < U2.heap.size := Nat.lt_of_lt_of_le lU1 hb.size; have BU2 := hb; clear hb))
    have HB2 := Lib.hid (hB.out.trans ((((Below.refl W1.heap.size W1).drew.trans BU1).mono hB.out.size).trans (BU2.mono (Nat.le_trans hB.out.size BU1.size))))
    have HX2 := Lib.hid ((hX.out.go' ((Below.refl W1.heap.size W1).drew.trans BU1)).go' BU2)
    clear BU1 BU2 c0 c1 c2 c3 c4 u0 u1 u2 u3 u4 v0 v1 v2 v3 v4 lU1 lU2 hX hB hl
    have c0 := HX2.out.cell 0
    have c1 := HX2.out.cell 1
    have c2 := HX2.out.cell 2
    have c3 := HX2.out.cell 3
    have c4 := HX2.out.cell 4
    simp only [List.getElem?_toArray, List.getElem?_cons_zero, List.getElem?_cons_succ] at c0 c1 c2 c3 c4
    have hl := HX2.out.lt
    go_wp2_with fail
    go_region_held3 (fun w' => w'.cell? ⟨y, 0, none⟩ = some (.int .i64 l.b) ∧ w'.cell? ⟨y, 1, none⟩ = some (.int .i64 l.d) ∧ w'.cell? ⟨y, 2, none⟩ = some (.int .i64 l.n) ∧ w'.cell? ⟨y, 3, none⟩ = some (.int .i64 l.k) ∧ w'.cell? ⟨y, 4, none⟩ = some (.int .i64 l.t)) (go_keep) (first | (go_at_call 8; refine (hC1.out _).mono ?_; rintro e U3 ⟨rfl, hb⟩; have u0 := (hb.cell (p := ⟨y, 0, none⟩) hl).trans c0; have u1 := (hb.cell (p := ⟨y, 1, none⟩) hl).trans c1; have u2 := (hb.cell (p := ⟨y, 2, none⟩) hl).trans c2; have u3 := (hb.cell (p := ⟨y, 3, none⟩) hl).trans c3; have u4 := (hb.cell (p := ⟨y, 4, none⟩) hl).trans c4; have lU3 : y < U3.heap.size := Nat.lt_of_lt_of_le hl hb.size; have BU3 := hb; clear hb) | (go_at_call 9; refine (hC2.out _).mono ?_; rintro e U4 ⟨rfl, hb⟩; have v0 := (hb.cell (p := ⟨y, 0, none⟩) lU3).trans u0; have v1 := (hb.cell (p := ⟨y, 1, none⟩) lU3).trans u1; have v2 := (hb.cell (p := ⟨y, 2, none⟩) lU3).trans u2; have v3 := (hb.cell (p := ⟨y, 3, none⟩) lU3).trans u3; have v4 := (hb.cell (p := ⟨y, 4, none⟩) lU3).trans u4; have lU4 : y < U4.heap.size := Nat.lt_of_lt_of_le lU3 hb.size; have BU4 := hb; clear hb))
    have HB4 := Lib.hid (HB2.out.trans ((((Below.refl U2.heap.size U2).drew.trans BU3).mono HB2.out.size).trans (BU4.mono (Nat.le_trans HB2.out.size BU3.size))))
    clear BU3 BU4 c0 c1 c2 c3 c4 u0 u1 u2 u3 u4 v0 v1 v2 v3 v4 lU3 lU4 HX2 HB2 hl
    go_wp2_with fail
    with_reducible refine (hAw.out _).mono ?_
    rintro e w7 ⟨rfl, hb⟩
    have HB7 := Lib.hid (HB4.out.trans (hb.mono HB4.out.size))
    clear hb
    go_wp2_with fail
    go_ret
    exact ⟨rfl, HB7.out⟩
  · unfold lmA at *
    go_enter Try.func3, Try.ntmps3
    go_upto_region 1 with fail
    generalize w.alloc (.cells #[.int .i64 l.b, .int .i64 l.d, .int .i64 l.n, .int .i64 l.k, .int .i64 l.t] 23) = W1 at *
    obtain ⟨y, hy⟩ : ∃ y, Hid (y = w.heap.size) := ⟨_, Lib.hid rfl⟩
    rw [← hy.out] at hX ⊢
    have c0 := hX.out.cell 0
    have c1 := hX.out.cell 1
    have c2 := hX.out.cell 2
    have c3 := hX.out.cell 3
    have c4 := hX.out.cell 4
    simp only [List.getElem?_toArray, List.getElem?_cons_zero, List.getElem?_cons_succ] at c0 c1 c2 c3 c4
    have hl := hX.out.lt
    have hN1 := Lib.hid (fun W => pnew_yes l hx0 W)
    have hN2 := Lib.hid (fun W => rnew_yes l hx0 W)
    have hok := mt0_ok hx0
    unfold lmA at hN1 hN2
    generalize mt0 l = m0 at *
    go_region_held3 (fun w' => w'.cell? ⟨y, 0, none⟩ = some (.int .i64 l.b) ∧ w'.cell? ⟨y, 1, none⟩ = some (.int .i64 l.d) ∧ w'.cell? ⟨y, 2, none⟩ = some (.int .i64 l.n) ∧ w'.cell? ⟨y, 3, none⟩ = some (.int .i64 l.k) ∧ w'.cell? ⟨y, 4, none⟩ = some (.int .i64 l.t)) (go_keep) (first | (go_at_call 6; refine (hN1.out _).mono ?_; rintro e U1 ⟨g, rfl, hpg, hgs, hb⟩; replace hpg := Lib.hid hpg; replace hgs := Lib.hid hgs; have u0 := (hb.cell (p := ⟨y, 0, none⟩) hl).trans c0; have u1 := (hb.cell (p := ⟨y, 1, none⟩) hl).trans c1; have u2 := (hb.cell (p := ⟨y, 2, none⟩) hl).trans c2; have u3 := (hb.cell (p := ⟨y, 3, none⟩) hl).trans c3; have u4 := (hb.cell (p := ⟨y, 4, none⟩) hl).trans c4; have lU1 : y < U1.heap.size := Nat.lt_of_lt_of_le hl hb.size; have BU1 := hb; clear hb) | (go_at_call 7; refine (hN2.out _).mono ?_; rintro e U2 ⟨h, rfl, hph, hhs, hb⟩; replace hph := Lib.hid hph; replace hhs := Lib.hid hhs; have v0 := (hb.cell (p := ⟨y, 0, none⟩) lU1).trans u0; have v1 := (hb.cell (p := ⟨y, 1, none⟩) lU1).trans u1; have v2 := (hb.cell (p := ⟨y, 2, none⟩) lU1).trans u2; have v3 := (hb.cell (p := ⟨y, 3, none⟩) lU1).trans u3; have v4 := (hb.cell (p := ⟨y, 4, none⟩) lU1).trans u4; have lU2 : y < U2.heap.size := Nat.lt_of_lt_of_le lU1 hb.size; have BU2 := hb; clear hb))
    have BU0 := (Below.refl W1.heap.size W1).drew.trans BU1
    have HB2 := Lib.hid (hB.out.trans ((BU0.mono hB.out.size).trans (BU2.mono (Nat.le_trans hB.out.size BU0.size))))
    have HX2 := Lib.hid ((hX.out.go' BU0).go' BU2)
    have hyl : Hid (w.heap.size ≤ W1.heap.size) := Lib.hid hB.out.size
    have HM2 : Hid (Bm w U2 g h m0 m0) := Lib.hid ⟨⟨hpg.out.go' BU2, hok, Nat.le_trans hyl.out hgs.out, HB2.out⟩, hph.out, hok, Nat.le_trans (Nat.le_trans hyl.out BU0.size) hhs.out⟩
    clear BU0 BU1 BU2 c0 c1 c2 c3 c4 u0 u1 u2 u3 u4 v0 v1 v2 v3 v4 lU1 lU2 hX hB hl hpg hgs hph hhs HB2 hyl
    have c0 := HX2.out.cell 0
    have c1 := HX2.out.cell 1
    have c2 := HX2.out.cell 2
    have c3 := HX2.out.cell 3
    have c4 := HX2.out.cell 4
    simp only [List.getElem?_toArray, List.getElem?_cons_zero, List.getElem?_cons_succ] at c0 c1 c2 c3 c4
    have hl := HX2.out.lt
    go_wp2_with fail
    go_region_held3 (fun w' => w'.cell? ⟨y, 0, none⟩ = some (.int .i64 l.b) ∧ w'.cell? ⟨y, 1, none⟩ = some (.int .i64 l.d) ∧ w'.cell? ⟨y, 2, none⟩ = some (.int .i64 l.n) ∧ w'.cell? ⟨y, 3, none⟩ = some (.int .i64 l.k) ∧ w'.cell? ⟨y, 4, none⟩ = some (.int .i64 l.t)) (go_keep) (first | (go_at_call 8; refine (hC1.out _).mono ?_; rintro e U3 ⟨rfl, hb⟩; have u0 := (hb.cell (p := ⟨y, 0, none⟩) hl).trans c0; have u1 := (hb.cell (p := ⟨y, 1, none⟩) hl).trans c1; have u2 := (hb.cell (p := ⟨y, 2, none⟩) hl).trans c2; have u3 := (hb.cell (p := ⟨y, 3, none⟩) hl).trans c3; have u4 := (hb.cell (p := ⟨y, 4, none⟩) hl).trans c4; have lU3 : y < U3.heap.size := Nat.lt_of_lt_of_le hl hb.size; have BU3 := hb; clear hb) | (go_at_call 9; refine (hC2.out _).mono ?_; rintro e U4 ⟨rfl, hb⟩; have v0 := (hb.cell (p := ⟨y, 0, none⟩) lU3).trans u0; have v1 := (hb.cell (p := ⟨y, 1, none⟩) lU3).trans u1; have v2 := (hb.cell (p := ⟨y, 2, none⟩) lU3).trans u2; have v3 := (hb.cell (p := ⟨y, 3, none⟩) lU3).trans u3; have v4 := (hb.cell (p := ⟨y, 4, none⟩) lU3).trans u4; have lU4 : y < U4.heap.size := Nat.lt_of_lt_of_le lU3 hb.size; have BU4 := hb; clear hb))
    have HM4 := Lib.hid ((HM2.out.go ((Below.refl U2.heap.size U2).drew.trans BU3)).go BU4)
    clear BU3 BU4 c0 c1 c2 c3 c4 u0 u1 u2 u3 u4 v0 v1 v2 v3 v4 lU3 lU4 HX2 HM2 hl
    by_cases hbig : (200 : Int) < n1
    · go_wp2_with fail
      with_reducible refine (hAw.out _).mono ?_
      rintro e w7 ⟨rfl, hb⟩
      have HB7 := Lib.hid (HM4.out.p.b.trans (hb.mono HM4.out.p.b.size))
      clear hb
      go_wp2_with fail
      go_ret
      exact ⟨rfl, HB7.out⟩
    · go_wp2_with fail
      go_loopw [7] (PlL w g h z) (fun x _ => 210 - (intOf x).toNat)
      case atStart => exact ⟨0, m0, rfl, by omega, HM4.out⟩
      case round =>
        clear HM4
        obtain ⟨k, m, rfl, hk, hbm⟩ := hrel
        have HM := Lib.hid hbm
        clear hbm
        by_cases hlt : (k : Int) < n1
        · obtain ⟨b, o, rfl, hbl, hcell⟩ := HI.out.at (by have := HZ.out; omega)
          have hkz : k < z.length := by have := HZ.out; omega
          obtain ⟨q1, q2⟩ := hcell k hkz
          have hmem : z.getD k (0, 0) ∈ z := by rw [List.getD_eq_getElem?_getD, List.getElem?_eq_getElem hkz]; exact List.getElem_mem hkz
          obtain ⟨w1, w2⟩ := HW.out _ hmem
          obtain ⟨⟨x, v⟩, hxv⟩ : ∃ p, z.getD k (0, 0) = p := ⟨_, rfl⟩
          rw [hxv] at q1 q2 w1 w2
          dsimp only at q1 q2 w1 w2
          have hv := bounds_i64 w2
          have k1 : wr.cell? ⟨b, o + k * 2, none⟩ = some (.int .i64 x) := (HM.out.p.b.cell (p := ⟨b, o + k * 2, none⟩) hbl).trans q1
          have k2 : wr.cell? ⟨b, o + k * 2 + 1, none⟩ = some (.int .i64 v) := (HM.out.p.b.cell (p := ⟨b, o + k * 2 + 1, none⟩) hbl).trans q2
          have hlb : b < wr.heap.size := Nat.lt_of_lt_of_le hbl HM.out.p.b.size
          clear hcell hmem hxv q1 q2 w1 w2 hkz
          have hcase : x ≤ 1 ∨ x = 2 ∨ (¬ x ≤ 1 ∧ ¬ x = 2 ∧ x ≤ 4) ∨ x = 5 ∨ x = 6 ∨ 6 < x := by omega
          rcases hcase with h1 | h1 | h1 | h1 | h1 | h1
          · go_wp2_with fail
            obtain ⟨⟨r1, m'⟩, hr⟩ : ∃ p, (byteF m) = p := ⟨_, rfl⟩
            have t1 := Lib.hid (bm_byte HM.out)
            rw [hr] at t1
            dsimp only at t1
            with_reducible refine (t1.out).mono ?_
            rintro e W5 ⟨rfl, hp⟩
            have HM5 := Lib.hid hp
            clear hp HM t1
            have t2 := Lib.hid (br_byte HM5.out)
            rw [hr] at t2
            dsimp only at t2
            clear hr
            go_wp2_with fail
            with_reducible refine (t2.out).mono ?_
            rintro e W6 ⟨rfl, hp⟩
            have HM6 := Lib.hid hp
            clear hp HM5 t2
            have hrr : (r1 == r1) = true := by simp
            have U7 := Lib.hid (fun W hb => pused_any g m' W (HM6.out.go (W' := W) hb).p.x)
            have q3 : ∀ W, (binOp .neq 23 (.agg (lmA m'.u)) (.agg (lmA m'.u))).run Try.prog W = .ok (.bool false) W := fun W => by rw [neq_lm]; simp
            unfold lmA at U7 q3
            have e0 := HM6.out.y.cell 5
            have e1 := HM6.out.y.cell 6
            have e2 := HM6.out.y.cell 7
            have e3 := HM6.out.y.cell 8
            have e4 := HM6.out.y.cell 9
            simp only [mrA, List.getElem?_toArray, List.getElem?_cons_zero, List.getElem?_cons_succ] at e0 e1 e2 e3 e4
            have hlh := HM6.out.y.lt
            clear k1 k2
            go_wp2_with fail
            go_region_held3 (fun w' => w'.cell? ⟨h, 5, none⟩ = some (.int .i64 m'.u.b) ∧ w'.cell? ⟨h, 6, none⟩ = some (.int .i64 m'.u.d) ∧ w'.cell? ⟨h, 7, none⟩ = some (.int .i64 m'.u.n) ∧ w'.cell? ⟨h, 8, none⟩ = some (.int .i64 m'.u.k) ∧ w'.cell? ⟨h, 9, none⟩ = some (.int .i64 m'.u.t)) (go_keep) (first | (go_at_call 23; refine (U7.out _ ?_).mono ?_; exact (Below.refl _ W6).drew; rintro e W7 ⟨rfl, hb⟩; have hb7 := (Below.refl W6.heap.size W6).drew.trans hb; have d0 := (hb7.cell (p := ⟨h, 5, none⟩) hlh).trans e0; have d1 := (hb7.cell (p := ⟨h, 6, none⟩) hlh).trans e1; have d2 := (hb7.cell (p := ⟨h, 7, none⟩) hlh).trans e2; have d3 := (hb7.cell (p := ⟨h, 8, none⟩) hlh).trans e3; have d4 := (hb7.cell (p := ⟨h, 9, none⟩) hlh).trans e4; have B7 := hb7; clear hb hb7))
            have HM7 := Lib.hid (HM6.out.go B7)
            clear B7 HM6
            go_wp2_with fail
            go_roundw
            case rel => exact ⟨k + 1, m', rfl, by have := HZ.out; omega, HM7.out⟩
            case measure => simp [intOf]; omega
          · subst h1
            go_wp2_with fail
            obtain ⟨⟨r1, m'⟩, hr⟩ : ∃ p, (nodeF m) = p := ⟨_, rfl⟩
            have t1 := Lib.hid (bm_node HM.out)
            rw [hr] at t1
            dsimp only at t1
            with_reducible refine (t1.out).mono ?_
            rintro e W5 ⟨rfl, hp⟩
            have HM5 := Lib.hid hp
            clear hp HM t1
            have t2 := Lib.hid (br_node HM5.out)
            rw [hr] at t2
            dsimp only at t2
            clear hr
            go_wp2_with fail
            with_reducible refine (t2.out).mono ?_
            rintro e W6 ⟨rfl, hp⟩
            have HM6 := Lib.hid hp
            clear hp HM5 t2
            have hrr : (r1 == r1) = true := by simp
            have U7 := Lib.hid (fun W hb => pused_any g m' W (HM6.out.go (W' := W) hb).p.x)
            have q3 : ∀ W, (binOp .neq 23 (.agg (lmA m'.u)) (.agg (lmA m'.u))).run Try.prog W = .ok (.bool false) W := fun W => by rw [neq_lm]; simp
            unfold lmA at U7 q3
            have e0 := HM6.out.y.cell 5
            have e1 := HM6.out.y.cell 6
            have e2 := HM6.out.y.cell 7
            have e3 := HM6.out.y.cell 8
            have e4 := HM6.out.y.cell 9
            simp only [mrA, List.getElem?_toArray, List.getElem?_cons_zero, List.getElem?_cons_succ] at e0 e1 e2 e3 e4
            have hlh := HM6.out.y.lt
            clear k1 k2
            go_wp2_with fail
            go_region_held3 (fun w' => w'.cell? ⟨h, 5, none⟩ = some (.int .i64 m'.u.b) ∧ w'.cell? ⟨h, 6, none⟩ = some (.int .i64 m'.u.d) ∧ w'.cell? ⟨h, 7, none⟩ = some (.int .i64 m'.u.n) ∧ w'.cell? ⟨h, 8, none⟩ = some (.int .i64 m'.u.k) ∧ w'.cell? ⟨h, 9, none⟩ = some (.int .i64 m'.u.t)) (go_keep) (first | (go_at_call 23; refine (U7.out _ ?_).mono ?_; exact (Below.refl _ W6).drew; rintro e W7 ⟨rfl, hb⟩; have hb7 := (Below.refl W6.heap.size W6).drew.trans hb; have d0 := (hb7.cell (p := ⟨h, 5, none⟩) hlh).trans e0; have d1 := (hb7.cell (p := ⟨h, 6, none⟩) hlh).trans e1; have d2 := (hb7.cell (p := ⟨h, 7, none⟩) hlh).trans e2; have d3 := (hb7.cell (p := ⟨h, 8, none⟩) hlh).trans e3; have d4 := (hb7.cell (p := ⟨h, 9, none⟩) hlh).trans e4; have B7 := hb7; clear hb hb7))
            have HM7 := Lib.hid (HM6.out.go B7)
            clear B7 HM6
            go_wp2_with fail
            go_roundw
            case rel => exact ⟨k + 1, m', rfl, by have := HZ.out; omega, HM7.out⟩
            case measure => simp [intOf]; omega
          · obtain ⟨h2, h3, h4⟩ := h1
            have h5 : (x == 2) = false := by rw [beq_eq_false_iff_ne]; exact h3
            go_wp2_with fail
            obtain ⟨⟨r1, m'⟩, hr⟩ : ∃ p, (openF m) = p := ⟨_, rfl⟩
            have t1 := Lib.hid (bm_open HM.out)
            rw [hr] at t1
            dsimp only at t1
            with_reducible refine (t1.out).mono ?_
            rintro e W5 ⟨rfl, hp⟩
            have HM5 := Lib.hid hp
            clear hp HM t1
            have t2 := Lib.hid (br_open HM5.out)
            rw [hr] at t2
            dsimp only at t2
            clear hr
            go_wp2_with fail
            with_reducible refine (t2.out).mono ?_
            rintro e W6 ⟨rfl, hp⟩
            have HM6 := Lib.hid hp
            clear hp HM5 t2
            have hrr : (r1 == r1) = true := by simp
            have U7 := Lib.hid (fun W hb => pused_any g m' W (HM6.out.go (W' := W) hb).p.x)
            have q3 : ∀ W, (binOp .neq 23 (.agg (lmA m'.u)) (.agg (lmA m'.u))).run Try.prog W = .ok (.bool false) W := fun W => by rw [neq_lm]; simp
            unfold lmA at U7 q3
            have e0 := HM6.out.y.cell 5
            have e1 := HM6.out.y.cell 6
            have e2 := HM6.out.y.cell 7
            have e3 := HM6.out.y.cell 8
            have e4 := HM6.out.y.cell 9
            simp only [mrA, List.getElem?_toArray, List.getElem?_cons_zero, List.getElem?_cons_succ] at e0 e1 e2 e3 e4
            have hlh := HM6.out.y.lt
            clear k1 k2
            go_wp2_with fail
            go_region_held3 (fun w' => w'.cell? ⟨h, 5, none⟩ = some (.int .i64 m'.u.b) ∧ w'.cell? ⟨h, 6, none⟩ = some (.int .i64 m'.u.d) ∧ w'.cell? ⟨h, 7, none⟩ = some (.int .i64 m'.u.n) ∧ w'.cell? ⟨h, 8, none⟩ = some (.int .i64 m'.u.k) ∧ w'.cell? ⟨h, 9, none⟩ = some (.int .i64 m'.u.t)) (go_keep) (first | (go_at_call 23; refine (U7.out _ ?_).mono ?_; exact (Below.refl _ W6).drew; rintro e W7 ⟨rfl, hb⟩; have hb7 := (Below.refl W6.heap.size W6).drew.trans hb; have d0 := (hb7.cell (p := ⟨h, 5, none⟩) hlh).trans e0; have d1 := (hb7.cell (p := ⟨h, 6, none⟩) hlh).trans e1; have d2 := (hb7.cell (p := ⟨h, 7, none⟩) hlh).trans e2; have d3 := (hb7.cell (p := ⟨h, 8, none⟩) hlh).trans e3; have d4 := (hb7.cell (p := ⟨h, 9, none⟩) hlh).trans e4; have B7 := hb7; clear hb hb7))
            have HM7 := Lib.hid (HM6.out.go B7)
            clear B7 HM6
            go_wp2_with fail
            go_roundw
            case rel => exact ⟨k + 1, m', rfl, by have := HZ.out; omega, HM7.out⟩
            case measure => simp [intOf]; omega
          · subst h1
            go_wp2_with fail
            with_reducible refine (bm_close HM.out).mono ?_
            rintro e W5 ⟨rfl, hp⟩
            have HM5 := Lib.hid hp
            clear hp HM
            go_wp2_with fail
            with_reducible refine (br_close HM5.out).mono ?_
            rintro e W6 ⟨rfl, hp⟩
            have HM6 := Lib.hid hp
            clear hp HM5
            obtain ⟨m', hm'⟩ : ∃ m', closeF m = m' := ⟨_, rfl⟩
            rw [hm'] at HM6
            clear hm'
            have U7 := Lib.hid (fun W hb => pused_any g m' W (HM6.out.go (W' := W) hb).p.x)
            have q3 : ∀ W, (binOp .neq 23 (.agg (lmA m'.u)) (.agg (lmA m'.u))).run Try.prog W = .ok (.bool false) W := fun W => by rw [neq_lm]; simp
            unfold lmA at U7 q3
            have e0 := HM6.out.y.cell 5
            have e1 := HM6.out.y.cell 6
            have e2 := HM6.out.y.cell 7
            have e3 := HM6.out.y.cell 8
            have e4 := HM6.out.y.cell 9
            simp only [mrA, List.getElem?_toArray, List.getElem?_cons_zero, List.getElem?_cons_succ] at e0 e1 e2 e3 e4
            have hlh := HM6.out.y.lt
            clear k1 k2
            go_wp2_with fail
            go_region_held3 (fun w' => w'.cell? ⟨h, 5, none⟩ = some (.int .i64 m'.u.b) ∧ w'.cell? ⟨h, 6, none⟩ = some (.int .i64 m'.u.d) ∧ w'.cell? ⟨h, 7, none⟩ = some (.int .i64 m'.u.n) ∧ w'.cell? ⟨h, 8, none⟩ = some (.int .i64 m'.u.k) ∧ w'.cell? ⟨h, 9, none⟩ = some (.int .i64 m'.u.t)) (go_keep) (first | (go_at_call 23; refine (U7.out _ ?_).mono ?_; exact (Below.refl _ W6).drew; rintro e W7 ⟨rfl, hb⟩; have hb7 := (Below.refl W6.heap.size W6).drew.trans hb; have d0 := (hb7.cell (p := ⟨h, 5, none⟩) hlh).trans e0; have d1 := (hb7.cell (p := ⟨h, 6, none⟩) hlh).trans e1; have d2 := (hb7.cell (p := ⟨h, 7, none⟩) hlh).trans e2; have d3 := (hb7.cell (p := ⟨h, 8, none⟩) hlh).trans e3; have d4 := (hb7.cell (p := ⟨h, 9, none⟩) hlh).trans e4; have B7 := hb7; clear hb hb7))
            have HM7 := Lib.hid (HM6.out.go B7)
            clear B7 HM6
            go_wp2_with fail
            go_roundw
            case rel => exact ⟨k + 1, m', rfl, by have := HZ.out; omega, HM7.out⟩
            case measure => simp [intOf]; omega
          · subst h1
            go_wp2_with fail
            obtain ⟨⟨r1, m'⟩, hr⟩ : ∃ p, (nameF v m) = p := ⟨_, rfl⟩
            have t1 := Lib.hid (bm_name v hv HM.out)
            rw [hr] at t1
            dsimp only at t1
            with_reducible refine (t1.out).mono ?_
            rintro e W5 ⟨rfl, hp⟩
            have HM5 := Lib.hid hp
            clear hp HM t1
            have t2 := Lib.hid (br_name v hv HM5.out)
            rw [hr] at t2
            dsimp only at t2
            clear hr
            go_wp2_with fail
            with_reducible refine (t2.out).mono ?_
            rintro e W6 ⟨rfl, hp⟩
            have HM6 := Lib.hid hp
            clear hp HM5 t2
            have hrr : (r1 == r1) = true := by simp
            have U7 := Lib.hid (fun W hb => pused_any g m' W (HM6.out.go (W' := W) hb).p.x)
            have q3 : ∀ W, (binOp .neq 23 (.agg (lmA m'.u)) (.agg (lmA m'.u))).run Try.prog W = .ok (.bool false) W := fun W => by rw [neq_lm]; simp
            unfold lmA at U7 q3
            have e0 := HM6.out.y.cell 5
            have e1 := HM6.out.y.cell 6
            have e2 := HM6.out.y.cell 7
            have e3 := HM6.out.y.cell 8
            have e4 := HM6.out.y.cell 9
            simp only [mrA, List.getElem?_toArray, List.getElem?_cons_zero, List.getElem?_cons_succ] at e0 e1 e2 e3 e4
            have hlh := HM6.out.y.lt
            clear k1 k2
            go_wp2_with fail
            go_region_held3 (fun w' => w'.cell? ⟨h, 5, none⟩ = some (.int .i64 m'.u.b) ∧ w'.cell? ⟨h, 6, none⟩ = some (.int .i64 m'.u.d) ∧ w'.cell? ⟨h, 7, none⟩ = some (.int .i64 m'.u.n) ∧ w'.cell? ⟨h, 8, none⟩ = some (.int .i64 m'.u.k) ∧ w'.cell? ⟨h, 9, none⟩ = some (.int .i64 m'.u.t)) (go_keep) (first | (go_at_call 23; refine (U7.out _ ?_).mono ?_; exact (Below.refl _ W6).drew; rintro e W7 ⟨rfl, hb⟩; have hb7 := (Below.refl W6.heap.size W6).drew.trans hb; have d0 := (hb7.cell (p := ⟨h, 5, none⟩) hlh).trans e0; have d1 := (hb7.cell (p := ⟨h, 6, none⟩) hlh).trans e1; have d2 := (hb7.cell (p := ⟨h, 7, none⟩) hlh).trans e2; have d3 := (hb7.cell (p := ⟨h, 8, none⟩) hlh).trans e3; have d4 := (hb7.cell (p := ⟨h, 9, none⟩) hlh).trans e4; have B7 := hb7; clear hb hb7))
            have HM7 := Lib.hid (HM6.out.go B7)
            clear B7 HM6
            go_wp2_with fail
            go_roundw
            case rel => exact ⟨k + 1, m', rfl, by have := HZ.out; omega, HM7.out⟩
            case measure => simp [intOf]; omega
          · have h2 : ¬ x ≤ 1 := by omega
            have h3 : (x == 2) = false := by rw [beq_eq_false_iff_ne]; omega
            have h4 : ¬ x ≤ 4 := by omega
            have h5 : (x == 5) = false := by rw [beq_eq_false_iff_ne]; omega
            have h6 : (x == 6) = false := by rw [beq_eq_false_iff_ne]; omega
            go_wp2_with fail
            obtain ⟨⟨r1, m'⟩, hr⟩ : ∃ p, (textF v m) = p := ⟨_, rfl⟩
            have t1 := Lib.hid (bm_text v hv HM.out)
            rw [hr] at t1
            dsimp only at t1
            with_reducible refine (t1.out).mono ?_
            rintro e W5 ⟨rfl, hp⟩
            have HM5 := Lib.hid hp
            clear hp HM t1
            have t2 := Lib.hid (br_text v hv HM5.out)
            rw [hr] at t2
            dsimp only at t2
            clear hr
            go_wp2_with fail
            with_reducible refine (t2.out).mono ?_
            rintro e W6 ⟨rfl, hp⟩
            have HM6 := Lib.hid hp
            clear hp HM5 t2
            have hrr : (r1 == r1) = true := by simp
            have U7 := Lib.hid (fun W hb => pused_any g m' W (HM6.out.go (W' := W) hb).p.x)
            have q3 : ∀ W, (binOp .neq 23 (.agg (lmA m'.u)) (.agg (lmA m'.u))).run Try.prog W = .ok (.bool false) W := fun W => by rw [neq_lm]; simp
            unfold lmA at U7 q3
            have e0 := HM6.out.y.cell 5
            have e1 := HM6.out.y.cell 6
            have e2 := HM6.out.y.cell 7
            have e3 := HM6.out.y.cell 8
            have e4 := HM6.out.y.cell 9
            simp only [mrA, List.getElem?_toArray, List.getElem?_cons_zero, List.getElem?_cons_succ] at e0 e1 e2 e3 e4
            have hlh := HM6.out.y.lt
            clear k1 k2
            go_wp2_with fail
            go_region_held3 (fun w' => w'.cell? ⟨h, 5, none⟩ = some (.int .i64 m'.u.b) ∧ w'.cell? ⟨h, 6, none⟩ = some (.int .i64 m'.u.d) ∧ w'.cell? ⟨h, 7, none⟩ = some (.int .i64 m'.u.n) ∧ w'.cell? ⟨h, 8, none⟩ = some (.int .i64 m'.u.k) ∧ w'.cell? ⟨h, 9, none⟩ = some (.int .i64 m'.u.t)) (go_keep) (first | (go_at_call 23; refine (U7.out _ ?_).mono ?_; exact (Below.refl _ W6).drew; rintro e W7 ⟨rfl, hb⟩; have hb7 := (Below.refl W6.heap.size W6).drew.trans hb; have d0 := (hb7.cell (p := ⟨h, 5, none⟩) hlh).trans e0; have d1 := (hb7.cell (p := ⟨h, 6, none⟩) hlh).trans e1; have d2 := (hb7.cell (p := ⟨h, 7, none⟩) hlh).trans e2; have d3 := (hb7.cell (p := ⟨h, 8, none⟩) hlh).trans e3; have d4 := (hb7.cell (p := ⟨h, 9, none⟩) hlh).trans e4; have B7 := hb7; clear hb hb7))
            have HM7 := Lib.hid (HM6.out.go B7)
            clear B7 HM6
            go_wp2_with fail
            go_roundw
            case rel => exact ⟨k + 1, m', rfl, by have := HZ.out; omega, HM7.out⟩
            case measure => simp [intOf]; omega
        · go_wp2_with fail
          with_reducible refine (hAw.out _).mono ?_
          rintro e w7 ⟨rfl, hb⟩
          have HB7 := Lib.hid (HM.out.p.b.trans (hb.mono HM.out.p.b.size))
          clear hb
          go_wp2_with fail
          go_ret
          exact ⟨rfl, HB7.out⟩
end Go.Proofs.Ythiakokjijfgoaa
