/- The laws' awake of layer 15; when two limits are one; a meter of the law's own. -/
import Derived.Test.YthiakokjijfgoaaP15
namespace Go.Proofs.Ythiakokjijfgoaa
set_option maxRecDepth 100000
open Go.RowKit
set_option linter.unusedVariables false
set_option linter.unusedSimpArgs false

theorem eq_lm (x y : Lm) (w : World) : (binOp .eql 23 (.agg (lmA x)) (.agg (lmA y))).run Try.prog w = .ok (.bool (x.b == y.b && (x.d == y.d && (x.n == y.n && (x.k == y.k && x.t == y.t))))) w := by
  obtain ⟨b, d, n, k, t⟩ := x
  obtain ⟨b', d', n', k', t'⟩ := y
  unfold lmA
  dsimp only
  have hS : Try.prog.underlying 23 = some (.struct (Try.prog.fieldsOf 23)) := by kernel_rfl
  have hp : Try.prog.stoodInHeld 23 = false := by kernel_rfl
  rw [run_eql_struct, show (10000 : Nat) = 9999 + 1 from rfl, run_equalIn_agg w 9999 23 _ _ hS hp]
  simp only [Program.fieldsOf, Try.underlying23]
  go_simp
  by_cases h1 : b = b' <;> by_cases h2 : d = d' <;> by_cases h3 : n = n' <;> by_cases h4 : k = k' <;> by_cases h5 : t = t' <;> simp [h1, h2, h3, h4, h5]
theorem neq_lm (x y : Lm) (w : World) : (binOp .neq 23 (.agg (lmA x)) (.agg (lmA y))).run Try.prog w = .ok (.bool (!(x.b == y.b && (x.d == y.d && (x.n == y.n && (x.k == y.k && x.t == y.t)))))) w := by
  have h := eq_lm x y w
  unfold lmA at h ⊢
  rw [run_eql_struct] at h
  rw [run_neq_struct]
  cases hh : (Op.equalIn 10000 23 (.agg #[.int .i64 x.b, .int .i64 x.d, .int .i64 x.n, .int .i64 x.k, .int .i64 x.t]) (.agg #[.int .i64 y.b, .int .i64 y.d, .int .i64 y.n, .int .i64 y.k, .int .i64 y.t])).run Try.prog w with
  | ok b w' =>
    rw [hh] at h
    simp only [Result.andThen] at h ⊢
    injection h with h1 h2
    injection h1 with h1
    rw [h1, h2]
  | halt x w' => rw [hh] at h; cases h
/-- a meter of the call's own -/
structure Pm (w W : World) (g : Nat) (m : Mt) : Prop where
  x : Blk W g 48 (prA m)
  ok : MOk m
  lo : w.heap.size ≤ g
  b : Below w.heap.size w W
theorem Pm.go {w W W' : World} {g : Nat} {m : Mt} (h : Pm w W g m) (hb : Below W.heap.size W W') : Pm w W' g m := ⟨h.x.go' hb, h.ok, h.lo, h.b.trans (hb.mono h.b.size)⟩
theorem Pm.step {w W W' : World} {g : Nat} {m m' : Mt} (h : Pm w W g m) (hx : Blk W' g 48 (prA m')) (hb : But g W W') (ok : MOk m') : Pm w W' g m' := ⟨hx, ok, h.lo, h.b.trans (hb.below h.lo h.b.size)⟩
def M0 : Mt := ⟨⟨2, 1, 1, 1, 1⟩, ⟨0, 0, 0, 0, 0⟩, 0⟩
def M1 : Mt := ⟨⟨2, 1, 1, 1, 1⟩, ⟨0, 1, 0, 0, 0⟩, 1⟩
def M2 : Mt := ⟨⟨2, 1, 1, 1, 1⟩, ⟨0, 1, 0, 0, 0⟩, 0⟩
def M4 : Mt := ⟨⟨2, 1, 1, 1, 1⟩, ⟨0, 1, 0, 0, 1⟩, 1⟩
/-- the contracts as a law's walk uses them: what comes, and the meter behind it -/
def MRes (w : World) (g : Nat) (r : Int) (m : Mt) (e : Ending) (W : World) : Prop := e = .returned (.int .i64 r) ∧ Pm w W g m
theorem byte_m {w W : World} {g : Nat} {m : Mt} (h : Pm w W g m) : Calls Try.prog 11 #[.pointer (some ⟨g, 0, none⟩)] W (MRes w g (byteF m).1 (byteF m).2) := (pbyte_any g m h.ok W h.x).mono fun e W' ⟨h1, h2, h3⟩ => ⟨h1, h.step h2 h3 (byte_ok h.ok)⟩
theorem node_m {w W : World} {g : Nat} {m : Mt} (h : Pm w W g m) : Calls Try.prog 13 #[.pointer (some ⟨g, 0, none⟩)] W (MRes w g (nodeF m).1 (nodeF m).2) := (pnode_any g m h.ok W h.x).mono fun e W' ⟨h1, h2, h3⟩ => ⟨h1, h.step h2 h3 (node_ok h.ok)⟩
theorem open_m {w W : World} {g : Nat} {m : Mt} (h : Pm w W g m) : Calls Try.prog 15 #[.pointer (some ⟨g, 0, none⟩)] W (MRes w g (openF m).1 (openF m).2) := (popen_any g m h.ok W h.x).mono fun e W' ⟨h1, h2, h3⟩ => ⟨h1, h.step h2 h3 (open_ok h.ok)⟩
theorem close_m {w W : World} {g : Nat} {m : Mt} (h : Pm w W g m) : Calls Try.prog 17 #[.pointer (some ⟨g, 0, none⟩)] W fun e W' => e = .returned (.tuple #[]) ∧ Pm w W' g (closeF m) := (pclose_any g m h.ok W h.x).mono fun e W' ⟨h1, h2, h3⟩ => ⟨h1, h.step h2 h3 (close_ok h.ok)⟩
theorem name_m {w W : World} {g : Nat} {m : Mt} (h : Pm w W g m) (x : Int) (hx : -9223372036854775808 ≤ x ∧ x ≤ 9223372036854775807) : Calls Try.prog 19 #[.pointer (some ⟨g, 0, none⟩), .int .i64 x] W (MRes w g (nameF x m).1 (nameF x m).2) := (pname_any g x hx m h.ok W h.x).mono fun e W' ⟨h1, h2, h3⟩ => ⟨h1, h.step h2 h3 (name_ok h.ok)⟩
theorem text_m {w W : World} {g : Nat} {m : Mt} (h : Pm w W g m) (x : Int) (hx : -9223372036854775808 ≤ x ∧ x ≤ 9223372036854775807) : Calls Try.prog 21 #[.pointer (some ⟨g, 0, none⟩), .int .i64 x] W (MRes w g (textF x m).1 (textF x m).2) := (ptext_any g x hx m h.ok W h.x).mono fun e W' ⟨h1, h2, h3⟩ => ⟨h1, h.step h2 h3 (text_ok h.ok)⟩
theorem used_m {w W : World} {g : Nat} {m : Mt} (h : Pm w W g m) : Calls Try.prog 23 #[.pointer (some ⟨g, 0, none⟩)] W fun e W' => e = .returned (.agg (lmA m.u)) ∧ Pm w W' g m := (pused_any g m W h.x).mono fun e W' ⟨h1, h2⟩ => ⟨h1, h.go h2⟩
theorem new_m {w W : World} (hb : Below w.heap.size w W) {l : Lm} (h : chk l = true) : Calls Try.prog 6 #[.agg (lmA l)] W fun e W' => ∃ g, e = .returned (.pointer (some ⟨g, 0, none⟩)) ∧ Pm w W' g (mt0 l) ∧ W.heap.size ≤ g ∧ Below W.heap.size W W' := (pnew_yes l h W).mono fun e W' ⟨g, h1, h2, h3, h4⟩ => ⟨g, h1, ⟨h2, mt0_ok h, Nat.le_trans hb.size h3, hb.trans (h4.mono hb.size)⟩, h3, h4⟩

set_option maxHeartbeats 8000000 in
theorem awake15 (w : World) : Calls Try.prog 10 #[] w fun e w' => e = .returned (.bool true) ∧ Below w.heap.size w w' := by
  have HA := (Below.refl w.heap.size w).alloc (Nat.le_refl _) (.cells #[.int .i64 2, .int .i64 1, .int .i64 1, .int .i64 1, .int .i64 1] 23)
  have HX := Lib.hid (Blk.new w 23 #[.int .i64 2, .int .i64 1, .int .i64 1, .int .i64 1, .int .i64 1])
  replace HA := Lib.hid HA
  go_enter Try.func10, Try.ntmps10
  go_upto_region 2 with fail
  generalize hW : w.alloc (.cells #[.int .i64 2, .int .i64 1, .int .i64 1, .int .i64 1, .int .i64 1] 23) = W1 at *
  obtain ⟨y, hx⟩ : ∃ y, Hid (y = w.heap.size) := ⟨_, Lib.hid rfl⟩
  rw [← hx.out] at HX ⊢
  clear hW
  have c0 := HX.out.cell 0
  have c1 := HX.out.cell 1
  have c2 := HX.out.cell 2
  have c3 := HX.out.cell 3
  have c4 := HX.out.cell 4
  simp only [List.getElem?_toArray, List.getElem?_cons_zero, List.getElem?_cons_succ] at c0 c1 c2 c3 c4
  have hl := HX.out.lt
  have hN := Lib.hid (new_m HA.out (l := ⟨2, 1, 1, 1, 1⟩) rfl)
  have eM : mt0 ⟨2, 1, 1, 1, 1⟩ = M0 := rfl
  rw [eM] at hN
  unfold lmA at hN
  dsimp only at hN
  go_wp2_with fail
  with_reducible refine (hN.out).mono ?_
  rintro e W2 ⟨g, rfl, hp, hg, hb⟩
  have HP2 := Lib.hid hp
  have HX2 := Lib.hid (HX.out.go' hb)
  clear hp hg hb HX HA hN c0 c1 c2 c3 c4 hl eM
  have c0 := HX2.out.cell 0
  have c1 := HX2.out.cell 1
  have c2 := HX2.out.cell 2
  have c3 := HX2.out.cell 3
  have c4 := HX2.out.cell 4
  simp only [List.getElem?_toArray, List.getElem?_cons_zero, List.getElem?_cons_succ] at c0 c1 c2 c3 c4
  have hl := HX2.out.lt
  have hC1 := Lib.hid (pcheck_any ⟨2, 1, 1, 1, 1⟩ W2)
  unfold lmA at hC1
  dsimp only at hC1
  rw [show chk ⟨2, 1, 1, 1, 1⟩ = true from rfl] at hC1
  go_wp2_with fail
  with_reducible refine (hC1.out).mono ?_
  rintro e W3 ⟨rfl, hb⟩
  have HP3 := Lib.hid (HP2.out.go hb)
  clear hb HP2 HX2 c0 c1 c2 c3 c4 hl hC1
  have hC2 := Lib.hid (pcheck_any ⟨0, 0, 0, 0, 0⟩ W3)
  unfold lmA at hC2
  dsimp only at hC2
  rw [show chk ⟨0, 0, 0, 0, 0⟩ = false from rfl] at hC2
  go_wp2_with fail
  with_reducible refine (hC2.out).mono ?_
  rintro e W4 ⟨rfl, hb⟩
  have HP4 := Lib.hid (HP3.out.go hb)
  clear hb HP3 hC2
  have hC3 := Lib.hid (pnew_no ⟨0, 0, 0, 0, 0⟩ rfl W4)
  unfold lmA at hC3
  dsimp only at hC3
  go_wp2_with fail
  with_reducible refine (hC3.out).mono ?_
  rintro e W5 ⟨rfl, hb⟩
  have HP5 := Lib.hid (HP4.out.go hb)
  clear hb HP4 hC3
  go_wp2_with fail
  have h6 := Lib.hid (open_m HP5.out)
  rw [show openF M0 = (0, M1) from rfl] at h6
  with_reducible refine (h6.out).mono ?_
  rintro e W6 ⟨rfl, hp⟩
  have HP6 := Lib.hid hp
  clear hp h6 HP5
  go_wp2_with fail
  have h7 := Lib.hid (open_m HP6.out)
  rw [show openF M1 = (11, M1) from rfl] at h7
  with_reducible refine (h7.out).mono ?_
  rintro e W7 ⟨rfl, hp⟩
  have HP7 := Lib.hid hp
  clear hp h7 HP6
  go_wp2_with fail
  have h8 := Lib.hid (close_m HP7.out)
  rw [show closeF M1 = M2 from rfl] at h8
  with_reducible refine (h8.out).mono ?_
  rintro e W8 ⟨rfl, hp⟩
  have HP8 := Lib.hid hp
  clear hp h8 HP7
  go_wp2_with fail
  have h9 := Lib.hid (open_m HP8.out)
  rw [show openF M2 = (0, M1) from rfl] at h9
  with_reducible refine (h9.out).mono ?_
  rintro e W9 ⟨rfl, hp⟩
  have HP9 := Lib.hid hp
  clear hp h9 HP8
  have h10 := Lib.hid (used_m HP9.out)
  have q1 : ∀ W, (binOp .eql 23 (.agg (lmA M1.u)) (.agg (lmA ⟨0, 1, 0, 0, 0⟩))).run Try.prog W = .ok (.bool true) W := fun W => by rw [eq_lm]; rfl
  unfold lmA M1 at h10
  unfold lmA M1 at q1
  dsimp only at h10 q1
  go_wp2_with fail
  with_reducible refine (h10.out).mono ?_
  rintro e W10 ⟨rfl, hp⟩
  have HP10 : Hid (Pm w W10 g M1) := Lib.hid hp
  clear hp h10 HP9
  go_wp2_with fail
  have h11 := Lib.hid (name_m HP10.out 2 (by decide))
  rw [show nameF 2 M1 = (13, M1) from rfl] at h11
  with_reducible refine (h11.out).mono ?_
  rintro e W11 ⟨rfl, hp⟩
  have HP11 := Lib.hid hp
  clear hp h11 HP10
  go_wp2_with fail
  have h12 := Lib.hid (text_m HP11.out 1 (by decide))
  rw [show textF 1 M1 = (0, M4) from rfl] at h12
  with_reducible refine (h12.out).mono ?_
  rintro e W12 ⟨rfl, hp⟩
  have HP12 := Lib.hid hp
  clear hp h12 HP11
  go_wp2_with fail
  go_ret
  exact ⟨rfl, HP12.out.b⟩
end Go.Proofs.Ythiakokjijfgoaa
