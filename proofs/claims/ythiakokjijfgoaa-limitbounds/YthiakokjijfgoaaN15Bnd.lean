/- LimitBounds. Printed by wip/gen_n15.py. -/
import Derived.Test.YthiakokjijfgoaaN15Awk
import Derived.Test.YthiakokjijfgoaaPlace4
namespace Go.Proofs.Ythiakokjijfgoaa
set_option maxRecDepth 100000
open Go.RowKit
set_option linter.unusedVariables false
set_option linter.unusedSimpArgs false

def Lk (k : Int) : Lm := ⟨k, k, k, k, k⟩
def Mk (k j : Int) : Mt := ⟨Lk k, Lk j, j⟩
/-- between the calls of a round: what each has made of it -/
def Mq (k a b c d e : Int) : Mt := ⟨Lk k, ⟨a, c, b, d, e⟩, c⟩
theorem mx_up (j : Int) : mx j (j + 1) = j + 1 := if_pos (by omega)
theorem chk_k {k : Int} (h1 : 1 ≤ k) (h2 : k ≤ 60) : chk (Lk k) = true := by
  have h : inL k = true := inL_iff.2 ⟨h1, by omega⟩
  unfold chk Lk
  simp [h]
def BdL (w : World) (g : Nat) (k N : Int) (x : Value) (wr : World) : Prop := ∃ i j : Int, x = .int .i64 i ∧ 0 ≤ i ∧ i ≤ N ∧ ((i ≤ k ∧ j = i) ∨ (k ≤ i ∧ j = k)) ∧ Pm w wr g (Mk k j)
set_option maxHeartbeats 16000000 in
theorem bounds_walk (a m : Int) (w : World) (hm : 0 ≤ m ∧ m ≤ 255) : Calls Try.prog 4 #[.int .i64 a, .int .u8 m] w fun e w' => e = .returned (.bool true) ∧ Below w.heap.size w w' := by
  obtain ⟨p, hp⟩ : ∃ p, Hid (a % 60 = p) := ⟨_, Lib.hid rfl⟩
  have hpl := Lib.hid (place_any a 60 w (by decide) (by decide))
  have hp0 : 0 ≤ p := by have := hp.out; omega
  have hp1 : p < 60 := by have := hp.out; omega
  rw [hp.out] at hpl
  obtain ⟨q, hq⟩ : ∃ q, m.tmod 5 = q := ⟨_, rfl⟩
  have hq2 : m % 5 = q := by rw [← hq, Int.tmod_eq_emod_of_nonneg hm.1]
  have hq3 : 0 ≤ q ∧ q < 5 := by omega
  have hq4 := hq3.1
  have hq5 := hq3.2
  clear hp hq3
  have hAw := Lib.hid (fun W => awake15 W)
  go_enter Try.func4, Try.ntmps4
  go_wp2_with fail
  with_reducible refine (hpl.out).mono ?_
  rintro e w1 ⟨rfl, rfl⟩
  clear hpl
  go_wp2_with fail
  have hk1 : 1 ≤ 1 + p := by omega
  have hk2 : 1 + p ≤ 60 := by omega
  generalize (1 + p) = k at *
  clear hp0 hp1
  have hN := Lib.hid (new_m (Below.refl w.heap.size w) (chk_k hk1 hk2))
  rw [show mt0 (Lk k) = Mk k 0 from rfl] at hN
  unfold lmA Lk at hN
  dsimp only at hN
  with_reducible refine (hN.out).mono ?_
  rintro e w2 ⟨g, rfl, hpm, hg, hb⟩
  have HS : Hid (BdL w g k (k + q) (.int .i64 0) w2) := Lib.hid ⟨0, 0, rfl, by omega, by omega, .inl ⟨by omega, rfl⟩, hpm⟩
  clear hpm hg hb hN
  go_wp2_with fail
  go_loopw [7] (BdL w g k (k + q)) (fun x _ => 70 - (intOf x).toNat)
  case atStart => exact HS.out
  case round =>
    clear HS
    obtain ⟨i, j, rfl, hi0, hiN, hij, hpm⟩ := hrel
    have HP := Lib.hid hpm
    clear hpm
    by_cases hlt : i < k + q
    · by_cases hik : i < k
      · obtain rfl : j = i := by omega
        have HP0 : Hid (Pm w wr g (Mq k j j j j j)) := HP
        clear HP
        have h0 := Lib.hid (byte_m HP0.out)
        rw [show byteF (Mq k j j j j j) = (0, Mq k (j + 1) j j j j) from by show (if j = k then _ else _) = _; rw [if_neg (by omega)]; rfl] at h0
        go_wp2_with fail
        with_reducible refine (h0.out).mono ?_
        rintro e W0 ⟨rfl, hp⟩
        have HP1 := Lib.hid hp
        clear hp h0 HP0
        have h1 := Lib.hid (node_m HP1.out)
        rw [show nodeF (Mq k (j + 1) j j j j) = (0, Mq k (j + 1) (j + 1) j j j) from by show (if j = k then _ else _) = _; rw [if_neg (by omega)]; rfl] at h1
        go_wp2_with fail
        with_reducible refine (h1.out).mono ?_
        rintro e W1 ⟨rfl, hp⟩
        have HP2 := Lib.hid hp
        clear hp h1 HP1
        have h2 := Lib.hid (open_m HP2.out)
        rw [show openF (Mq k (j + 1) (j + 1) j j j) = (0, Mq k (j + 1) (j + 1) (j + 1) j j) from by show (if j = k then _ else _) = _; rw [if_neg (by omega)]; show (0, (⟨Lk k, ⟨j + 1, mx j (j + 1), j + 1, j, j⟩, j + 1⟩ : Mt)) = _; rw [mx_up]; rfl] at h2
        go_wp2_with fail
        with_reducible refine (h2.out).mono ?_
        rintro e W2 ⟨rfl, hp⟩
        have HP3 := Lib.hid hp
        clear hp h2 HP2
        have h3 := Lib.hid (name_m HP3.out (j + 1) (by omega))
        rw [show nameF (j + 1) (Mq k (j + 1) (j + 1) (j + 1) j j) = (0, Mq k (j + 1) (j + 1) (j + 1) (j + 1) j) from by show (if k < j + 1 then _ else _) = _; rw [if_neg (by omega)]; show (0, (⟨Lk k, ⟨j + 1, j + 1, j + 1, mx j (j + 1), j⟩, j + 1⟩ : Mt)) = _; rw [mx_up]; rfl] at h3
        go_wp2_with fail
        with_reducible refine (h3.out).mono ?_
        rintro e W3 ⟨rfl, hp⟩
        have HP4 := Lib.hid hp
        clear hp h3 HP3
        have h4 := Lib.hid (text_m HP4.out (j + 1) (by omega))
        rw [show textF (j + 1) (Mq k (j + 1) (j + 1) (j + 1) (j + 1) j) = (0, Mq k (j + 1) (j + 1) (j + 1) (j + 1) (j + 1)) from by show (if k < j + 1 then _ else _) = _; rw [if_neg (by omega)]; show (0, (⟨Lk k, ⟨j + 1, j + 1, j + 1, j + 1, mx j (j + 1)⟩, j + 1⟩ : Mt)) = _; rw [mx_up]; rfl] at h4
        go_wp2_with fail
        with_reducible refine (h4.out).mono ?_
        rintro e W4 ⟨rfl, hp⟩
        have HP5 := Lib.hid hp
        clear hp h4 HP4
        go_wp2_with fail
        go_roundw
        case rel => exact ⟨j + 1, j + 1, rfl, by omega, by omega, .inl ⟨by omega, rfl⟩, HP5.out⟩
        case measure => simp [intOf]; omega
      · obtain rfl : j = k := by omega
        have HP0 := HP
        clear HP
        have h0 := Lib.hid (byte_m HP0.out)
        rw [show byteF (Mk j j) = (10, Mk j j) from by show (if j = j then _ else _) = _; rw [if_pos rfl]] at h0
        go_wp2_with fail
        with_reducible refine (h0.out).mono ?_
        rintro e W0 ⟨rfl, hp⟩
        have HP1 := Lib.hid hp
        clear hp h0 HP0
        have h1 := Lib.hid (node_m HP1.out)
        rw [show nodeF (Mk j j) = (12, Mk j j) from by show (if j = j then _ else _) = _; rw [if_pos rfl]] at h1
        go_wp2_with fail
        with_reducible refine (h1.out).mono ?_
        rintro e W1 ⟨rfl, hp⟩
        have HP2 := Lib.hid hp
        clear hp h1 HP1
        have h2 := Lib.hid (open_m HP2.out)
        rw [show openF (Mk j j) = (11, Mk j j) from by show (if j = j then _ else _) = _; rw [if_pos rfl]] at h2
        go_wp2_with fail
        with_reducible refine (h2.out).mono ?_
        rintro e W2 ⟨rfl, hp⟩
        have HP3 := Lib.hid hp
        clear hp h2 HP2
        have h3 := Lib.hid (name_m HP3.out (i + 1) (by omega))
        rw [show nameF (i + 1) (Mk j j) = (13, Mk j j) from by show (if j < i + 1 then _ else _) = _; rw [if_pos (by omega)]] at h3
        go_wp2_with fail
        with_reducible refine (h3.out).mono ?_
        rintro e W3 ⟨rfl, hp⟩
        have HP4 := Lib.hid hp
        clear hp h3 HP3
        have h4 := Lib.hid (text_m HP4.out (i + 1) (by omega))
        rw [show textF (i + 1) (Mk j j) = (14, Mk j j) from by show (if j < i + 1 then _ else _) = _; rw [if_pos (by omega)]] at h4
        go_wp2_with fail
        with_reducible refine (h4.out).mono ?_
        rintro e W4 ⟨rfl, hp⟩
        have HP5 := Lib.hid hp
        clear hp h4 HP4
        go_wp2_with fail
        go_roundw
        case rel => exact ⟨i + 1, j, rfl, by omega, by omega, .inr ⟨by omega, rfl⟩, HP5.out⟩
        case measure => simp [intOf]; omega
    · obtain rfl : j = k := by omega
      have h0 := Lib.hid (used_m HP.out)
      have q1 : ∀ W, (binOp .eql 23 (.agg (lmA (Lk j))) (.agg (lmA (Lk j)))).run Try.prog W = .ok (.bool true) W := fun W => by rw [eq_lm]; simp
      unfold Mk lmA Lk at h0
      unfold lmA Lk at q1
      dsimp only at h0 q1
      go_wp2_with fail
      with_reducible refine (h0.out).mono ?_
      rintro e W0 ⟨rfl, hp⟩
      have HP0 : Hid (Pm w W0 g (Mk j j)) := Lib.hid hp
      clear hp h0 HP
      have h0 := Lib.hid (byte_m HP0.out)
      rw [show byteF (Mk j j) = (10, Mk j j) from by show (if j = j then _ else _) = _; rw [if_pos rfl]] at h0
      go_wp2_with fail
      with_reducible refine (h0.out).mono ?_
      rintro e W1 ⟨rfl, hp⟩
      have HP1 := Lib.hid hp
      clear hp h0 HP0
      have h1 := Lib.hid (node_m HP1.out)
      rw [show nodeF (Mk j j) = (12, Mk j j) from by show (if j = j then _ else _) = _; rw [if_pos rfl]] at h1
      go_wp2_with fail
      with_reducible refine (h1.out).mono ?_
      rintro e W2 ⟨rfl, hp⟩
      have HP2 := Lib.hid hp
      clear hp h1 HP1
      have h2 := Lib.hid (open_m HP2.out)
      rw [show openF (Mk j j) = (11, Mk j j) from by show (if j = j then _ else _) = _; rw [if_pos rfl]] at h2
      go_wp2_with fail
      with_reducible refine (h2.out).mono ?_
      rintro e W3 ⟨rfl, hp⟩
      have HP3 := Lib.hid hp
      clear hp h2 HP2
      have h3 := Lib.hid (name_m HP3.out (j + 1) (by omega))
      rw [show nameF (j + 1) (Mk j j) = (13, Mk j j) from by show (if j < j + 1 then _ else _) = _; rw [if_pos (by omega)]] at h3
      go_wp2_with fail
      with_reducible refine (h3.out).mono ?_
      rintro e W4 ⟨rfl, hp⟩
      have HP4 := Lib.hid hp
      clear hp h3 HP3
      have h4 := Lib.hid (text_m HP4.out (j + 1) (by omega))
      rw [show textF (j + 1) (Mk j j) = (14, Mk j j) from by show (if j < j + 1 then _ else _) = _; rw [if_pos (by omega)]] at h4
      go_wp2_with fail
      with_reducible refine (h4.out).mono ?_
      rintro e W5 ⟨rfl, hp⟩
      have HP5 := Lib.hid hp
      clear hp h4 HP4
      go_wp2_with fail
      with_reducible refine (hAw.out _).mono ?_
      rintro e W9 ⟨rfl, hb⟩
      have HB := Lib.hid (HP5.out.b.trans (hb.mono HP5.out.b.size))
      clear hb
      go_wp2_with fail
      go_ret
      exact ⟨rfl, HB.out⟩
end Go.Proofs.Ythiakokjijfgoaa
