/- NumberCopies: a copy goes its own way. -/
import Derived.Test.YtlnnaagdncpahaaDoorN11Awk
import Derived.Test.YtlnnaagdncpahaaDoorArg
namespace Go.Proofs.YtlnnaagdncpahaaDoor
set_option maxRecDepth 100000
open Go.ChangeShapes Go.WideShapes Go.ChangeAt Go.RowKit
set_option linter.unusedVariables false
set_option linter.unusedSimpArgs false

/-- what came in as a row of bytes, as a string -/
theorem conv_arg {a : Option Addr} {n c : Nat} {z : List Int} {W W' : World} (r : ArgRow .u8 W a n c z) (hb : Below W.heap.size W W') : (convert 22 9 (.slice a n c)).run Tryd.prog W' = .ok (.string (strOfNums z)) W' := conv_str W' W.heap.size a n c z r.size (r.row.below hb (Nat.le_refl _))
theorem strOf_size (z : List Int) : (strOfNums z).size = z.length := by unfold strOfNums; show (_ : Array UInt8).size = _; simp
/-- two numbers' rows lie apart -/
def Apart (v v2 : Value) : Prop := ∀ k, v.ownBlock = some k → v2.ownBlock ≠ some k
theorem Apart.swap {v v2 : Value} (h : Apart v v2) : Apart v2 v := fun k hk e => h k e hk
theorem Apart.row {W : World} {v v' v2 : Value} (h : Apart v v2) (hr : RowAt W v v') (ht : ∀ k, v2.ownBlock = some k → k < W.heap.size) : Apart v' v2 := fun k hk e => by
  rcases hr with hr | hr
  · exact h k (by rw [← hr]; exact hk) e
  · have h1 := hr k hk
    have h2 := ht k e
    omega
theorem NumIs.stay {w w' : World} {base base2 g g2 : Nat} {v v2 : Value} {s s2 : List UInt8} (h : NumIs w base g v s) (h2 : NumIs w base2 g2 v2 s2) (hf : NFr g2 v2 w w') (hg : g ≠ g2) (ha : Apart v v2) : NumIs w' base g v s :=
  h.far hf hg (h.ne h2) (fun k hk => ⟨fun e => h2.ne h (by rw [hk, e]), ha k hk⟩)
theorem NumIs.lower {w : World} {base lo g : Nat} {v : Value} {s : List UInt8} (h : NumIs w base g v s) (hl : lo ≤ base) : NumIs w lo g v s := ⟨h.len, h.ex, own_lower h.own hl⟩
set_option maxHeartbeats 8000000 in
theorem copies_walk (a0 : Option Addr) (len0 cap0 : Nat) (z0 : List Int) (a1 : Option Addr) (len1 cap1 : Nat) (z1 : List Int) (a2 : Option Addr) (len2 cap2 : Nat) (z2 : List Int) (w : World) (r0' : ArgRow .u8 w a0 len0 cap0 z0) (r1 : ArgRow .u8 w a1 len1 cap1 z1) (r2 : ArgRow .u8 w a2 len2 cap2 z2) :
    Calls Tryd.prog 8 #[.slice a0 len0 cap0, .slice a1 len1 cap1, .slice a2 len2 cap2] w fun e w' => e = .returned (.bool true) ∧ Below w.heap.size w w' := by
  have R0 := Lib.hid r0'
  have R1 := Lib.hid r1
  have R2 := Lib.hid r2
  clear r0' r1 r2
  have HAW := Lib.hid (fun W => awake_any W)
  go_enter Tryd.func8, Tryd.ntmps8
  go_wp2_with fail
  with_reducible refine (new_spec w.heap.size w).mono ?_
  rintro e1 w1 ⟨rfl, hn1, hb1⟩
  have HN1 := Lib.hid hn1
  have HB1 := Lib.hid hb1
  clear hn1 hb1
  have hbig : (30 < len0 ∨ 30 < len1 ∨ 30 < len2) ∨ (len0 ≤ 30 ∧ len1 ≤ 30 ∧ len2 ≤ 30) := by omega
  rcases hbig with hbig | ⟨l0, l1, l2⟩
  · have hcs : (30 < len0) ∨ (len0 ≤ 30 ∧ 30 < len1) ∨ (len0 ≤ 30 ∧ len1 ≤ 30 ∧ 30 < len2) := by omega
    rcases hcs with k0 | ⟨k0, k1⟩ | ⟨k0, k1, k2⟩
    all_goals
      first
      | have q0 : (30 : Int) < len0 := by omega
      | have q0 : ¬ (30 : Int) < len0 := by omega
      first
      | have q1 : (30 : Int) < len1 := by omega
      | have q1 : ¬ (30 : Int) < len1 := by omega
      | skip
      first
      | have q2 : (30 : Int) < len2 := by omega
      | skip
      go_wp2_with fail
      with_reducible refine (HAW.out _).mono ?_
      rintro e1 w2 ⟨rfl, hb2⟩
      have HB2 := Lib.hid (HB1.out.trans (hb2.mono (by have := HB1.out.size; omega)))
      clear hb2
      go_wp2
      go_ret
      exact ⟨rfl, HB2.out⟩
  have q0 : ¬ (30 : Int) < len0 := by omega
  have q1 : ¬ (30 : Int) < len1 := by omega
  have q2 : ¬ (30 : Int) < len2 := by omega
  have hcv0 := conv_arg R0.out HB1.out
  have hz0 : (strOfNums z0).size ≤ 30 := by rw [strOf_size]; have := R0.out.size; omega
  have hz1 : (strOfNums z1).size ≤ 30 := by rw [strOf_size]; have := R1.out.size; omega
  have hz2 : (strOfNums z2).size ≤ 30 := by rw [strOf_size]; have := R2.out.size; omega
  have HC1 := Lib.hid (fun W' h => conv_arg (W' := W') R1.out h)
  have HC2 := Lib.hid (fun W' h => conv_arg (W' := W') R2.out h)
  generalize strOfNums z0 = b0 at *
  generalize strOfNums z1 = b1 at *
  generalize strOfNums z2 = b2 at *
  have hlen : ∀ (s : List UInt8) (b : ByteArray), (feedF s (L8 b)).1.length ≤ s.length + b.size := fun s b => by have := (feed_len s (L8 b)).2.1; rw [L8_len] at this; exact this
  have HLEN := Lib.hid hlen
  clear hlen
  obtain ⟨gN, hgN⟩ : ∃ gN, w.heap.size = gN := ⟨_, rfl⟩
  rw [hgN] at HN1 HB1 HC1 HC2 ⊢
  go_wp2_with fail
  refine Calls.mono (push_law gN gN (.slice none 0 0) [] b0 w1 HN1.out (by have := HB1.out.size; omega) (by simp; omega)) ?_
  rintro e1 w2 ⟨rfl, v2, hn, hf, hra⟩
  have hl2 := HLEN.out [] b0
  generalize (feedF [] (L8 b0)).1 = s2 at *
  generalize (feedF [] (L8 b0)).2 = er2 at *
  have HN2 := Lib.hid hn
  have HB2 := Lib.hid (HB1.out.trans (hf.below (by have := HB1.out.size; omega) (Nat.le_refl _) HN1.out.low))
  clear hn hf hra HN1 HB1 hcv0
  have hs2 : s2.length ≤ 30 := by simp at hl2; omega
  clear hl2
  go_wp2_with fail
  refine Calls.mono (copy_spec gN gN v2 s2 w2 HN2.out) ?_
  rintro e1 w3 ⟨gM, vM, rfl, hgM, hm, hb3⟩
  have hgt : gN < w2.heap.size := HN2.out.lt
  have HN3 := Lib.hid (HN2.out.go hb3 (Nat.le_refl _))
  have HA3 : Hid (Apart v2 vM) := Lib.hid (fun k hk e => by have h1 := HN2.out.top k hk; have h2 := hm.low k e; omega)
  have HM3 := Lib.hid (hm.lower (lo := gN) (by omega))
  have HB3 := Lib.hid (HB2.out.trans (hb3.mono (by have := HB2.out.size; omega)))
  have hne2 : gN < gM := by omega
  have hne : gN ≠ gM := by omega
  clear hm hb3 HN2 HB2 hgt
  go_wp2_with fail
  refine Calls.mono (text_spec gN gN v2 s2 w3 HN3.out) ?_
  rintro e1 w3' ⟨rfl, rfl⟩
  have hcv1 := HC1.out w3 HB3.out
  go_wp2_with fail
  refine Calls.mono (push_law gN gM vM s2 b1 w3 HM3.out (by have := HB3.out.size; omega) (by omega)) ?_
  rintro e1 w4 ⟨rfl, vM4, hn, hf, hra⟩
  have hl4 := HLEN.out s2 b1
  generalize (feedF s2 (L8 b1)).1 = s4 at *
  generalize (feedF s2 (L8 b1)).2 = er4 at *
  have HM4 := Lib.hid hn
  have HN4 := Lib.hid (HN3.out.stay HM3.out hf hne HA3.out)
  have HA4 : Hid (Apart vM4 v2) := Lib.hid (HA3.out.swap.row hra HN3.out.top)
  have HB4 := Lib.hid (HB3.out.trans (hf.below (by have := HB3.out.size; omega) (by omega) HM3.out.low))
  clear hn hf hra HM3 HN3 HA3 HB3 hcv1
  go_wp2_with fail
  refine Calls.mono (text_spec gN gM vM4 s4 w4 HM4.out) ?_
  rintro e1 w4' ⟨rfl, rfl⟩
  go_wp2_with fail
  refine Calls.mono (text_spec gN gN v2 s2 w4 HN4.out) ?_
  rintro e1 w4' ⟨rfl, rfl⟩
  have hcv2 := HC2.out w4 HB4.out
  go_wp2_with fail
  refine Calls.mono (push_law gN gN v2 s2 b2 w4 HN4.out (by have := HB4.out.size; omega) (by omega)) ?_
  rintro e1 w5 ⟨rfl, v5, hn, hf, hra⟩
  have HM5 := Lib.hid (HM4.out.stay HN4.out hf (Ne.symm hne) HA4.out)
  have HB5 := Lib.hid (HB4.out.trans (hf.below (by have := HB4.out.size; omega) (Nat.le_refl _) HN4.out.low))
  clear hn hf hra HM4 HN4 HA4 HB4 hcv2
  go_wp2_with fail
  refine Calls.mono (text_spec gN gM vM4 s4 w5 HM5.out) ?_
  rintro e1 w5' ⟨rfl, rfl⟩
  go_wp2_with fail
  with_reducible refine (HAW.out _).mono ?_
  rintro e1 w6 ⟨rfl, hb6⟩
  have HB6 := Lib.hid (HB5.out.trans (hb6.mono (by have := HB5.out.size; omega)))
  clear hb6
  go_wp2
  go_ret
  exact ⟨rfl, by rw [hgN]; exact HB6.out⟩
end Go.Proofs.YtlnnaagdncpahaaDoor
