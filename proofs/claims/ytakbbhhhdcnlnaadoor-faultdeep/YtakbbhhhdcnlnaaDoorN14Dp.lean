/- FaultDeep. -/
import Derived.Test.YtakbbhhhdcnlnaaDoorN14Awk
import Derived.Test.YtakbbhhhdcnlnaaDoorPlace4
import Derived.Test.YtakbbhhhdcnlnaaDoorArg
import Derived.Deep.CutRange
namespace Go.Proofs.YtakbbhhhdcnlnaaDoor
set_option maxRecDepth 100000
open Go.RowKit
set_option linter.unusedVariables false
set_option linter.unusedSimpArgs false

def xB : ByteArray := ⟨#[120]⟩
/-- wrapped k times, and told of inputs -/
structure Dp (c a : Int) (k : Nat) (last : Int) (F : List Lay) : Prop where
  fr : ∀ x ∈ F, isF x
  sz : ∀ x ∈ F, szL x
  inn : ∀ b, inN (Ec F b c a) = last
  len : ∀ b, (txt (Ec F b c a)).length = 3 * k + (txt (Ec [] 0 c a)).length
theorem Dp.zero (c a : Int) : Dp c a 0 0 [] := ⟨fun x hx => (by cases hx), fun x hx => (by cases hx), fun b => rfl, fun b => by rw [Nat.mul_zero, Nat.zero_add]; rfl⟩
theorem Dp.wr {c a : Int} {k : Nat} {last : Int} {F : List Lay} (h : Dp c a k last F) (g : Nat) : Dp c a (k + 1) last (.wr g xB :: F) := by
  refine ⟨fun x hx => ?_, fun x hx => ?_, fun b => h.inn b, fun b => ?_⟩
  · rcases List.mem_cons.1 hx with rfl | hx
    · exact trivial
    · exact h.fr x hx
  · rcases List.mem_cons.1 hx with rfl | hx
    · show xB.size ≤ 1000000
      decide
    · exact h.sz x hx
  · rw [Ec.cons, txt, List.length_append, h.len b]
    have : (wdS (.wr g xB)).length = 3 := rfl
    omega
theorem Dp.inp {c a : Int} {k : Nat} {last : Int} {F : List Lay} (h : Dp c a k last F) (g : Nat) (n : Int) : Dp c a k n (.inp g n :: F) := by
  refine ⟨fun x hx => ?_, fun x hx => ?_, fun b => rfl, fun b => ?_⟩
  · rcases List.mem_cons.1 hx with rfl | hx
    · exact trivial
    · exact h.fr x hx
  · rcases List.mem_cons.1 hx with rfl | hx
    · exact trivial
    · exact h.sz x hx
  · rw [Ec.cons, txt, List.length_append, h.len b]
    have : (wdS (.inp g n)).length = 0 := rfl
    omega
theorem ec_sz {F : List Lay} (h : ∀ x ∈ F, szL x) {a : Int} (ha : -9223372036854775808 ≤ a ∧ a ≤ 9223372036854775807) (b : Nat) (c : Int) : ∀ x ∈ Ec F b c a, szL x := by
  intro x hx
  unfold Ec at hx
  rcases List.mem_append.1 hx with hx | hx
  · exact h x hx
  · simp at hx
    rcases hx with rfl | rfl
    · exact ha
    · exact trivial
theorem base_len (b : Nat) {c a : Int} (ha : -9223372036854775808 ≤ a ∧ a ≤ 9223372036854775807) : 0 < (txt (Ec [] b c a)).length ∧ (txt (Ec [] b c a)).length ≤ 1000002 ∧ (txt (Ec [] b c a)).length = (txt (Ec [] 0 c a)).length := by
  have e : txt (Ec [] b c a) = wdS (.pl b c a) := by simp [Ec, txt, wdS]
  have h1 := wdS_len (x := .pl b c a) ha
  refine ⟨?_, by rw [e]; exact h1, rfl⟩
  rw [e]
  unfold wdS
  simp
  omega
def DpL (w : World) (c a : Int) (N : Nat) (v x i : Value) (wr : World) : Prop :=
  ∃ (F : List Lay) (b k : Nat) (last : Int), v = hdV (Ec F b c a) ∧ x = .int .i64 last ∧ i = .int .i64 k ∧ k ≤ N ∧ Dp c a k last F ∧ Lies wr (Ec F b c a) ∧ Below w.heap.size w wr
set_option maxHeartbeats 16000000 in
theorem deep_walk (a0 a1 n : Int) (a3 : Option Addr) (m cap : Nat) (z : List Int) (w : World) (hV : Vs w) (ha : -9223372036854775808 ≤ a1 ∧ a1 ≤ 9223372036854775807) (hn : 0 ≤ n ∧ n ≤ 255) (hz : z.length = m) (hI : Ints w w.heap.size .i64 a3 z) (hm : m ≤ maxLen) :
    Calls Tryd.prog 5 #[.int .i64 a0, .int .i64 a1, .int .u8 n, .slice a3 m cap] w fun e w' => e = .returned (.bool true) ∧ Below w.heap.size w w' := by
  have hVb : Hid (∀ W, Below w.heap.size w W → Vs W) := Lib.hid fun W hb => hV.go hb
  have HI := Lib.hid hI
  have HZ := Lib.hid hz
  obtain ⟨N, hN⟩ : ∃ N : Nat, n.tmod 200 = (N : Int) := ⟨(n.tmod 200).toNat, by rw [Int.tmod_eq_emod_of_nonneg hn.1]; omega⟩
  have hN2 : n % 200 = (N : Int) := by rw [← hN, Int.tmod_eq_emod_of_nonneg hn.1]
  have hNl : N < 200 := by omega
  obtain ⟨p, hp⟩ : ∃ p, Hid (a0 % 19 = p) := ⟨_, Lib.hid rfl⟩
  have hp0 : 0 ≤ p := by have := hp.out; omega
  have hp1 : p < 19 := by have := hp.out; omega
  have hPl := Lib.hid (place_any a0 19 w (by decide) (by decide))
  rw [hp.out] at hPl
  unfold maxLen at hm
  clear hI hz hV hp
  go_enter Tryd.func5, Tryd.ntmps5
  go_wp2_with fail
  with_reducible refine (hPl.out).mono ?_
  rintro e w1 ⟨rfl, rfl⟩
  clear hPl
  go_wp2_with fail
  have hc0 : 1 ≤ 1 + p := by omega
  have hc1 : 1 + p ≤ 19 := by omega
  generalize (1 + p) = c at *
  clear hp0 hp1
  with_reducible refine (new_l c a1 (by omega) _).mono ?_
  rintro e w2 ⟨b0, rfl, hl2, hb2⟩
  have HS : Hid (DpL w c a1 N (hdV (Ec [] b0 c a1)) (.int .i64 0) (.int .i64 0) w2) := Lib.hid ⟨[], b0, 0, 0, rfl, rfl, rfl, by omega, Dp.zero c a1, hl2, hb2⟩
  clear hl2 hb2
  generalize hdV (Ec [] b0 c a1) = v0 at *
  go_wp2_with fail
  go_loopw [10, 11, 12] (DpL w c a1 N) (fun _ _ i _ => 200 - (intOf i).toNat)
  case atStart => exact HS.out
  case round =>
    clear HS
    obtain ⟨F, b, k, last, rfl, rfl, rfl, hk, hd, hl, hb⟩ := hrel
    have HD := Lib.hid hd
    have HL := Lib.hid hl
    have HB := Lib.hid hb
    clear hd hl hb
    obtain ⟨y, ys, hE⟩ := Ec.ne F b c a1
    have hne : Ec F b c a1 ≠ [] := by rw [hE]; simp
    clear hE
    by_cases hlt : k < N
    · have hlt' : (k : Int) < N := by omega
      have HW := Lib.hid (wrap_l (Ec F b c a1) hne xB wr HL.out)
      have ex : (⟨#[120]⟩ : ByteArray) = xB := rfl
      generalize hdV (Ec F b c a1) = v1 at *
      go_wp2_with fail
      with_reducible refine (HW.out).mono ?_
      rintro e w3 ⟨g, rfl, hl3, hb3⟩
      have HL3 := Lib.hid hl3
      have HB3 := Lib.hid (HB.out.trans (hb3.mono HB.out.size))
      have HD3 := Lib.hid (HD.out.wr g)
      clear hl3 hb3 HW HL HB HD ex
      rw [← Ec.cons] at HL3 ⊢
      by_cases hkm : k < m
      · have hkm' : (k : Int) < m := by omega
        obtain ⟨bb, o, rfl, hbl, hcell⟩ := HI.out.at (by have := HZ.out; omega)
        obtain ⟨u, hu⟩ : ∃ u, z.getD k 0 = u := ⟨_, rfl⟩
        have ku : w3.cell? ⟨bb, o + k, none⟩ = some (.int .i64 u) := (HB3.out.cell (p := ⟨bb, o + k, none⟩) hbl).trans (by rw [← hu]; exact hcell k (by have := HZ.out; omega))
        clear hu hcell
        have HW := Lib.hid (input_l (Ec (.wr g xB :: F) b c a1) (by rw [Ec.cons]; simp) u w3 HL3.out)
        generalize hdV (Ec (.wr g xB :: F) b c a1) = v1 at *
        go_wp2_with fail
        with_reducible refine (HW.out).mono ?_
        rintro e w4 ⟨g4, rfl, hl4, hb4⟩
        have HL4 := Lib.hid hl4
        have HB4 := Lib.hid (HB3.out.trans (hb4.mono HB3.out.size))
        have HD4 := Lib.hid (HD3.out.inp g4 u)
        have ku4 : w4.cell? ⟨bb, o + k, none⟩ = some (.int .i64 u) := (HB4.out.cell (p := ⟨bb, o + k, none⟩) hbl).trans ((HB3.out.cell (p := ⟨bb, o + k, none⟩) hbl).symm.trans ku)
        clear hl4 hb4 HW HL3 HB3 HD3 ku
        rw [← Ec.cons] at HL4 ⊢
        have hEv : Hid (∀ wx, wx = w4 → DpL w c a1 N (hdV (Ec (.inp g4 u :: .wr g xB :: F) b c a1)) (.int .i64 u) (.int .i64 ((k : Int) + 1)) wx) := Lib.hid fun wx hx => ⟨_, b, k + 1, u, rfl, rfl, rfl, by omega, HD4.out, by rw [hx]; exact HL4.out, by rw [hx]; exact HB4.out⟩
        generalize hdV (Ec (.inp g4 u :: .wr g xB :: F) b c a1) = v2 at *
        go_wp2_with fail
        go_roundw
        case rel => exact hEv.out _ rfl
        case measure => simp [intOf]; omega
      · have hkm' : ¬ (k : Int) < m := by omega
        have hEv : Hid (∀ wx, wx = w3 → DpL w c a1 N (hdV (Ec (.wr g xB :: F) b c a1)) (.int .i64 last) (.int .i64 ((k : Int) + 1)) wx) := Lib.hid fun wx hx => ⟨_, b, k + 1, last, rfl, rfl, rfl, by omega, HD3.out, by rw [hx]; exact HL3.out, by rw [hx]; exact HB3.out⟩
        generalize hdV (Ec (.wr g xB :: F) b c a1) = v2 at *
        go_wp2_with fail
        go_roundw
        case rel => exact hEv.out _ rfl
        case measure => simp [intOf]; omega
    · have hlt' : ¬ (k : Int) < N := by omega
      obtain rfl : k = N := by omega
      have hb4 := base_len b (c := c) ha
      obtain ⟨T0, hT0⟩ : ∃ T0, Hid ((txt (Ec [] 0 c a1)).length = T0) := ⟨_, Lib.hid rfl⟩
      have hT1 : 0 < T0 ∧ T0 ≤ 1000002 := by rw [← hT0.out, ← hb4.2.2]; exact ⟨hb4.1, hb4.2.1⟩
      have hlen : (txt (Ec F b c a1)).length = 3 * k + T0 := by rw [HD.out.len b, hT0.out]
      have hTx : Hid (∀ W, Below w.heap.size w W → Lies W (Ec F b c a1) → Calls Tryd.prog 15 #[hdV (Ec F b c a1)] W fun e w' => e = .returned (.string (bs (txt (Ec F b c a1)))) ∧ Below W.heap.size W w') := Lib.hid fun W hb h => text_any (Ec F b c a1) W h (ec_sz HD.out.sz ha b c) (hVb.out W hb).n (by intro h0; rw [h0] at hlen; simp at hlen; omega) (by omega)
      have hOf : Hid (∀ W, Below w.heap.size w W → Lies W (Ec F b c a1) → Calls Tryd.prog 14 #[hdV (Ec F b c a1)] W fun e w' => e = .returned (.agg #[.int .i64 c, .int .i64 a1, .int .i64 last]) ∧ Below W.heap.size W w') := Lib.hid fun W hb h => by
        have := of_any F HD.out.fr b c a1 W (hVb.out W hb).e h
        rw [HD.out.inn b] at this
        exact this
      have hIs : Hid (∀ q W, Below w.heap.size w W → Lies W (Ec F b c a1) → Calls Tryd.prog 16 #[hdV (Ec F b c a1), .int .i64 q] W fun e w' => e = .returned (.bool (c == q)) ∧ Below W.heap.size W w') := Lib.hid fun q W hb h => is_any F HD.out.fr b c a1 q W (hVb.out W hb).e h
      have hAw : Hid (∀ W, Below w.heap.size w W → Calls Tryd.prog 7 #[] W fun e w' => e = .returned (.bool true) ∧ Below W.heap.size W w') := Lib.hid fun W hb => awake_any W (hVb.out W hb)
      have hT2 : Hid (∀ b2 W, Below w.heap.size w W → Lies W (Ec [] b2 c a1) → Calls Tryd.prog 15 #[hdV (Ec [] b2 c a1)] W fun e w' => (∃ R, e = .returned (.string R) ∧ R.size = T0) ∧ Below W.heap.size W w') := Lib.hid fun b2 W hb h => by
        have h3 := base_len b2 (c := c) ha
        refine (text_any (Ec [] b2 c a1) W h (ec_sz (fun x hx => by cases hx) ha b2 c) (hVb.out W hb).n (by intro h0; rw [h0] at h3; simp at h3) (by omega)).mono fun e w' h4 => ⟨⟨_, h4.1, ?_⟩, h4.2⟩
        rw [bs_size, h3.2.2, hT0.out]
      have hsz : (bs (txt (Ec F b c a1))).size = 3 * k + T0 := by rw [bs_size, hlen]
      have hq := hd_neq (Ec F b c a1)
      have hqG := hd_neG (Ec F b c a1) 26
      have hqe : (Ec F b c a1).isEmpty = false := by simpa using hne
      rw [hqe] at hq
      have hNw := Lib.hid (fun W => new_l c a1 (by omega) W)
      clear hlen hb4 hT0 HD hne hqe hVb HI HZ
      generalize bs (txt (Ec F b c a1)) = R at *
      generalize hdV (Ec F b c a1) = v1 at *
      go_wp2_with fail
      with_reducible refine (hOf.out _ HB.out HL.out).mono ?_
      rintro e w3 ⟨rfl, hb3⟩
      have HL3 := Lib.hid (HL.out.go hb3)
      have HB3 := Lib.hid (HB.out.trans (hb3.mono HB.out.size))
      clear hb3 HL HB hOf
      go_upto_region 12 with fail
      have hw4 := (Below.refl w3.heap.size w3).alloc (Nat.le_refl _) (.cells #[.int .i64 c, .int .i64 a1, .int .i64 last] 30)
      have HL4 := Lib.hid (HL3.out.go hw4)
      have HB4 := Lib.hid (HB3.out.trans (hw4.mono HB3.out.size))
      have hX4 := Lib.hid (Blk.new w3 30 #[.int .i64 c, .int .i64 a1, .int .i64 last])
      clear hw4 HL3 HB3
      generalize hx3 : w3.heap.size = x3 at *
      generalize w3.alloc (.cells #[.int .i64 c, .int .i64 a1, .int .i64 last] 30) = w4 at *
      clear hx3
      have d0 := hX4.out.cell 0
      have d1 := hX4.out.cell 1
      have d2 := hX4.out.cell 2
      simp only [List.getElem?_toArray, List.getElem?_cons_zero, List.getElem?_cons_succ] at d0 d1 d2
      have hxl := hX4.out.lt
      have q1 : ∀ w, (binOp .eql 30 (.agg #[.int .i64 c, .int .i64 a1, .int .i64 last]) (.agg #[.int .i64 c, .int .i64 a1, .int .i64 last])).run Tryd.prog w = .ok (.bool true) w := fun w => by rw [eq_ft, ft_self]
      have hI1 := Lib.hid (hIs.out c w4 HB4.out HL4.out)
      rw [show (c == c) = true from by simp] at hI1
      go_wp2_with fail
      with_reducible refine (hI1.out).mono ?_
      rintro e w5 ⟨rfl, hb5⟩
      have HL5 := Lib.hid (HL4.out.go hb5)
      have HB5 := Lib.hid (HB4.out.trans (hb5.mono HB4.out.size))
      clear hb5 HL4 HB4 hX4 d0 d1 d2 hI1
      obtain ⟨s, hs⟩ : ∃ s, c.tmod 19 = s := ⟨_, rfl⟩
      have hs2 : c % 19 = s := by rw [← hs, Int.tmod_eq_emod_of_nonneg (by omega)]
      have hs3 : 0 ≤ s ∧ s < 19 ∧ ¬ c = s + 1 := by omega
      have hI2 := Lib.hid (hIs.out (s + 1) w5 HB5.out HL5.out)
      rw [show (c == s + 1) = false from by rw [beq_eq_false_iff_ne]; exact hs3.2.2] at hI2
      have hs4 := hs3.1
      have hs5 := hs3.2.1
      clear hs3 hIs
      go_wp2_with fail
      with_reducible refine (hI2.out).mono ?_
      rintro e w6 ⟨rfl, hb6⟩
      have HL6 := Lib.hid (HL5.out.go hb6)
      have HB6 := Lib.hid (HB5.out.trans (hb6.mono HB5.out.size))
      clear hb6 HL5 HB5 hI2
      go_wp2_with fail
      with_reducible refine (hTx.out _ HB6.out HL6.out).mono ?_
      rintro e w7 ⟨rfl, hb7⟩
      have HB7 := Lib.hid (HB6.out.trans (hb7.mono HB6.out.size))
      clear hb7 HL6 HB6 hTx
      go_wp2_with fail
      with_reducible refine (hNw.out _).mono ?_
      rintro e w8 ⟨b8, rfl, hl8, hb8⟩
      have HB8 := Lib.hid (HB7.out.trans (hb8.mono HB7.out.size))
      have hT8 := Lib.hid (hT2.out b8 w8 HB8.out hl8)
      clear hb8 hl8 HB7 hNw hT2
      generalize hdV (Ec [] b8 c a1) = v8 at *
      go_wp2_with fail
      with_reducible refine (hT8.out).mono ?_
      rintro e w9 ⟨⟨R2, rfl, hR2⟩, hb9⟩
      have HB9 := Lib.hid (HB8.out.trans (hb9.mono HB8.out.size))
      clear hb9 HB8 hT8
      have hA9 := Lib.hid (hAw.out w9 HB9.out)
      clear hAw
      go_wp2_with fail
      with_reducible refine (hA9.out).mono ?_
      rintro e w10 ⟨rfl, hb10⟩
      have HB10 := Lib.hid (HB9.out.trans (hb10.mono HB9.out.size))
      clear hb10
      go_wp2_with fail
      go_ret
      exact ⟨rfl, HB10.out⟩
end Go.Proofs.YtakbbhhhdcnlnaaDoor
