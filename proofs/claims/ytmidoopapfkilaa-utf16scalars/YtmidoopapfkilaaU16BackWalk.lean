/- The walk of Utf16Back. -/
import Derived.Test.YtmidoopapfkilaaU16AllWalk
import Derived.Test.YtmidoopapfkilaaLaw00
namespace Go.Proofs.Ytmidoopapfkilaa
open Go.ChangeShapes Go.WideShapes Go.ChangeAt Go.RowKit
set_option linter.unusedVariables false

def Scals (l : List Int) : Prop := ∀ c ∈ l, isB c = true
theorem Scals.at {l : List Int} (h : Scals l) {k : Nat} (hk : k < l.length) : isB (l.getD k 0) = true := by
  rw [List.getD_eq_getElem?_getD, List.getElem?_eq_getElem hk]; exact h _ (List.getElem_mem hk)
theorem getD_mid (a : List Int) (x : Int) (r : List Int) : (a ++ x :: r).getD a.length 0 = x := by simp
theorem getD_mid1 (a : List Int) (x y : Int) (r : List Int) : (a ++ x :: y :: r).getD (a.length + 1) 0 = y := by simp
/-- one scalar more, whatever stands behind it -/
theorem ScAt.un1 {a : List Int} {l : List Int} {c : Int} {r : List Int} (hc : isB c = true) (h : ScAt (a ++ (un1 c ++ r)) a.length l) : ScAt (a ++ (un1 c ++ r)) (a.length + (un1 c).length) (l ++ [c]) := by
  rcases un1_cases c with ⟨hi, e⟩ | ⟨hi, hx, e⟩ | ⟨hx, hg, e⟩
  · rw [hc] at hi; cases hi
  · rw [e] at h ⊢
    have g : (a ++ ([c] ++ r)).getD a.length 0 = c := getD_mid a c r
    have := h.one (by simp) (by rw [g]; exact hc)
    rw [g] at this
    exact this
  · rw [e] at h ⊢
    have g : (a ++ ([55296 + (c - 65536) / 1024, 56320 + (c - 65536) % 1024] ++ r)).getD a.length 0 = 55296 + (c - 65536) / 1024 := getD_mid a _ _
    have g1 : (a ++ ([55296 + (c - 65536) / 1024, 56320 + (c - 65536) % 1024] ++ r)).getD (a.length + 1) 0 = 56320 + (c - 65536) % 1024 := getD_mid1 a _ _ _
    have hp : pairB (55296 + (c - 65536) / 1024) (56320 + (c - 65536) % 1024) = true := decide_eq_true (by omega)
    have hj : joinI (55296 + (c - 65536) / 1024) (56320 + (c - 65536) % 1024) = c := by unfold joinI; omega
    have := h.two (by simp) (by rw [g, g1]; exact hp)
    rw [g, g1, hj] at this
    exact this
theorem ScAt.uns {l : List Int} (h : Scals l) (r : List Int) : ∀ k, k ≤ l.length → ScAt (uns l ++ r) (uns (l.take k)).length (l.take k)
  | 0, _ => ScAt.start _
  | k + 1, hk => by
    have hlt : k < l.length := by omega
    have ih := ScAt.uns h r k (by omega)
    have e : Go.Proofs.Ytmidoopapfkilaa.uns l ++ r = Go.Proofs.Ytmidoopapfkilaa.uns (l.take k) ++ (Go.Proofs.Ytmidoopapfkilaa.un1 (l.getD k 0) ++ (Go.Proofs.Ytmidoopapfkilaa.uns (l.drop (k + 1)) ++ r)) := by
      have : Go.Proofs.Ytmidoopapfkilaa.uns l = Go.Proofs.Ytmidoopapfkilaa.uns (l.take (k + 1)) ++ Go.Proofs.Ytmidoopapfkilaa.uns (l.drop (k + 1)) := by rw [← uns_app, List.take_append_drop]
      rw [this, uns_snoc l k hlt]; simp
    rw [e] at ih ⊢
    have := ih.un1 (h.at hlt)
    rw [uns_snoc l k hlt, List.length_append, take_snoc l k hlt]
    exact this
theorem scS_uns {l : List Int} (h : Scals l) : scS (uns l) = (l, (uns l).length, true) := by
  have h1 := ScAt.uns h [] l.length (Nat.le_refl _)
  rw [List.append_nil, List.take_length] at h1
  exact h1.done (Nat.le_refl _)
theorem uns_sum {l : List Int} {k : Nat} (hk : k < l.length) : ((uns (l.take (k + 1))).length : Int) = (uns (l.take k)).length + unitsI (l.getD k 0) := by
  rw [uns_snoc l k hk, List.length_append, ← un1_units]
  simp

set_option maxHeartbeats 2000000 in
theorem back_walk (a : Option Addr) (len cap : Nat) (z : List Int) (w : World) (r : ArgRow .i64 w a len cap z) :
    Calls Try.prog 4 #[.slice a len cap] w fun e w' => e = .returned (.bool true) ∧ Below w.heap.size w w' := by
  go_enter Try.func4, Try.ntmps4
  go_wp2_with fail
  with_reducible refine (runes_any a len cap z w r).mono ?_
  rintro e w1 ⟨v1, l, rfl, hO1, hS, hl, hb1⟩
  obtain ⟨A1, c1, rfl, hc1, hcm1⟩ := own_form hO1
  have hI1 := Ints.own hO1
  have HI1 := Lib.hid hI1
  have hSc : Scals l := hS
  have HS := Lib.hid hSc
  have hlt := uns_len l
  clear hI1 hO1 hS hSc hc1 hcm1 r
  go_wp2_with fail
  with_reducible refine (Calls.mono (unitsL_any A1 l.length c1 l w1 rfl HI1.out (by omega)) (fun _ _ h => RowRes.sl h)).mono ?_
  rintro e w2 ⟨A2, c2, rfl, hI2, hc2, hb2⟩
  have HI2 := Lib.hid hI2
  have hb12 := hb1.trans (hb2.mono hb1.size)
  have HI12 := Lib.hid (HI1.out.go hb2)
  clear hI2
  go_wp2_with fail
  with_reducible refine (Calls.mono (scalars_any A2 (uns l).length c2 (uns l) w2 rfl HI2.out (uns_u16 l) (by omega) hc2.1 hc2.2) (fun _ _ h => ScRes.sl h)).mono ?_
  rintro e w3 ⟨A3, c3, rfl, hI3, hb3⟩
  rw [scS_uns HS.out] at hI3 ⊢
  have HI3 := Lib.hid hI3
  have HI13 := Lib.hid (HI12.out.go hb3)
  have hb13 := hb12.trans (hb3.mono hb12.size)
  clear hI3 hc2
  go_wp2_with fail
  have hl60 : l.length ≤ 60 := hl
  go_loop [8, 9] (fun s i => ∃ k : Nat, k ≤ l.length ∧ i = .int .i64 k ∧ s = .int .i64 ((uns (l.take k)).length : Int)) (fun _ i => l.length - (intOf i).toNat)
  case atStart => exact ⟨0, Nat.zero_le _, rfl, rfl⟩
  case round =>
    obtain ⟨k, hk, rfl, rfl⟩ := hrel
    by_cases hlt2 : k < l.length
    · obtain ⟨b, o, rfl, hbl, hc⟩ := HI13.out.at (by omega)
      have hcell : w3.cell? ⟨b, o + k, none⟩ = some (.int .i32 (l.getD k 0)) := hc k hlt2
      have hlt' : (k : Int) < l.length := by omega
      have hsz := uns_sum hlt2
      have hb1' : (uns (l.take k)).length ≤ 120 := by
        have h1 := uns_len (l.take k)
        have h2 : (l.take k).length ≤ k := List.length_take_le _ _
        omega
      have hb2' : (uns (l.take (k + 1))).length ≤ 122 := by
        have h1 := uns_len (l.take (k + 1))
        have h2 : (l.take (k + 1)).length ≤ k + 1 := List.length_take_le _ _
        omega
      have HZ := Lib.hid hsz
      have hu0 : 0 ≤ unitsI (l.getD k 0) ∧ unitsI (l.getD k 0) ≤ 2 := by rw [← un1_units]; have := un1_len (l.getD k 0); omega
      clear hc hsz
      generalize l.getD k 0 = x at hcell HZ hu0
      generalize (uns (l.take k)).length = m at HZ hb1' ⊢
      generalize hm2 : (uns (l.take (k + 1))).length = m2 at HZ hb2'
      have HM2 := Lib.hid hm2
      clear hm2
      have hru := fun W => r_units_any x W
      have HRU := Lib.hid hru
      clear hru
      generalize unitsI x = q at HZ HRU hu0
      go_wp2_with fail
      with_reducible refine (HRU.out _).mono ?_
      rintro e w' ⟨rfl, rfl⟩
      go_wp2
      go_round
      case rel => exact ⟨k + 1, by omega, by go_num, by rw [HM2.out, HZ.out]⟩
      case measure => simp [intOf]; omega
    · obtain rfl : k = l.length := by omega
      have hlt' : ¬ (l.length : Int) < l.length := by omega
      rw [List.take_length]
      generalize (uns l).length = m at *
      have hmm : ((m : Int) == m) = true := by simp
      go_wp2_with fail
      with_reducible refine (same_any A3 A1 l.length l.length c3 c1 l l w3 rfl rfl HI3.out HI13.out (by omega) (by omega)).mono ?_
      rintro e w4 ⟨rfl, hs4⟩
      have hb4 := hb13.trans (hs4.lower _)
      have e2 : decide (l = l) = true := by simp
      rw [e2]
      clear hs4 e2
      go_wp2_with fail
      with_reducible refine (awake_any _).mono ?_
      rintro e w5 ⟨rfl, hb5'⟩
      have hb5 := hb4.trans (hb5'.mono hb4.size)
      clear hb5'
      go_wp2
      go_ret
      exact ⟨rfl, hb5⟩
end Go.Proofs.Ytmidoopapfkilaa
