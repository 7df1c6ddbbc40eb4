/- GramPlays: whatever kinds come, the program's Gram and the document's say the same; a copy goes its own way. -/
import Derived.Test.YtdkfffncohipbaaN13PQ
import Derived.Test.YtdkfffncohipbaaPlace4
import Derived.Test.YtdkfffncohipbaaArg
namespace Go.Proofs.Ytdkfffncohipbaa
set_option maxRecDepth 100000
open Go.ChangeShapes Go.WideShapes Go.ChangeAt Go.RowKit
set_option linter.unusedVariables false
set_option linter.unusedSimpArgs false

def PlL (w : World) (g a : Nat) (z : List Int) (i : Value) (wr : World) : Prop := ∃ (k : Nat) (v u : Value) (q : Gm), k ≤ z.length ∧ i = .int .i64 k ∧ q.s.length ≤ k ∧ PG w wr g a v u q q
def InL (w : World) (g a : Nat) (v u : Value) (q : Gm) (x : Value) (wr : World) : Prop := ∃ (j : Nat) (c : Int), c + 1 = (j : Int) ∧ j ≤ 14 ∧ x = .int .i64 c ∧ PG w wr g a v u q q
set_option maxHeartbeats 16000000 in
theorem plays_walk (a0 : Option Addr) (n cap : Nat) (z : List Int) (w : World) (hn : z.length = n) (hI : Ints w w.heap.size .i64 a0 z) (hm : n ≤ maxLen) :
    Calls Try.prog 3 #[.slice a0 n cap] w fun e w' => e = .returned (.bool true) ∧ Below w.heap.size w w' := by
  have HI := Lib.hid hI
  have HN := Lib.hid hn
  unfold maxLen at hm
  clear hI hn
  go_enter Try.func3, Try.ntmps3
  go_wp2_with fail
  with_reducible refine (new_any w.heap.size w (Nat.le_refl _)).mono ?_
  rintro e1 w1 ⟨g, rfl, lg, hn1, hb1⟩
  have HNW := Lib.hid hn1
  have HB1 := Lib.hid hb1
  clear hn1 hb1
  have HPN : Hid (PG w (w1.alloc (.cells #[.slice none 0 0, .int .i64 0] 27)) g w1.heap.size (.slice none 0 0) (.slice none 0 0) gm0 gm0) := Lib.hid (PG.new HNW.out HB1.out)
  clear HNW HB1
  obtain ⟨a, ha⟩ : ∃ a, w1.heap.size = a := ⟨_, rfl⟩
  rw [ha] at HPN
  by_cases hbig : 150 < n
  · have q0 : (150 : Int) < n := by omega
    go_wp2_with fail
    with_reducible refine (awake_any _).mono ?_
    rintro e1 w2 ⟨rfl, hb2⟩
    have HB2 := Lib.hid (HPN.out.b.trans (hb2.mono HPN.out.b.size))
    clear hb2
    go_wp2
    go_ret
    exact ⟨rfl, HB2.out⟩
  have q0 : ¬ (150 : Int) < n := by omega
  go_wp2_with fail
  generalize w1.alloc (.cells #[.slice none 0 0, .int .i64 0] 27) = w2 at *
  go_loopw [5] (fun i wr => PlL w g a z i wr) (fun i _ => n - (intOf i).toNat)
  case atStart => exact ⟨0, _, _, gm0, by omega, rfl, by decide, HPN.out⟩
  case round =>
    clear HPN
    obtain ⟨k, v, u, q, hk, rfl, hs, hpg⟩ := hrel
    have HQ := Lib.hid hpg
    have hzn := HN.out
    clear hpg
    by_cases hlt : k < n
    · have hlt' : (k : Int) < n := by omega
      obtain ⟨b, o, rfl, hbl, hcell⟩ := HI.out.at (by omega)
      obtain ⟨x, hx⟩ : ∃ x, z.getD k 0 = x := ⟨_, rfl⟩
      have kx : wr.cell? ⟨b, o + k, none⟩ = some (.int .i64 x) := (HQ.out.b.cell (p := ⟨b, o + k, none⟩) hbl).trans (by rw [← hx]; exact hcell k (by omega))
      obtain ⟨t, ht⟩ : ∃ t, (k : Int).tmod 7 = t := ⟨_, rfl⟩
      clear hx hcell
      by_cases h7 : 0 < t
      · have HPL := Lib.hid (fun W => place_any x 12 W (by decide) (by decide))
        generalize x % 12 = y at *
        go_wp2_with fail
        with_reducible refine (HPL.out _).mono ?_
        rintro e w3 ⟨rfl, rfl⟩
        clear HPL
        go_wp2_with fail
        generalize wr = wq at *
        go_loopw [7] (fun x wr => InL w g a v u q x wr) (fun x _ => 14 - (intOf x + 1).toNat)
        case atStart => exact ⟨0, -1, rfl, by omega, rfl, HQ.out⟩
        case round =>
          clear HQ
          obtain ⟨j, c, hjc, hj, rfl, hpg⟩ := hrel
          have HQ2 := Lib.hid hpg
          clear hpg
          by_cases hjl : j < 14
          · have hj' : c < 13 := by omega
            have HM := Lib.hid (may_any w.heap.size g v q c wr HQ2.out.p)
            have HRM := Lib.hid (fun W hW => rmay_any w.heap.size a u q c W hW)
            generalize mayB q c = mb at *
            have nb : (mb != mb) = false := by simp
            go_wp2_with fail
            with_reducible refine HM.out.mono ?_
            rintro e w2 ⟨rfl, hst⟩
            have HQ3 := Lib.hid (HQ2.out.still hst)
            clear hst HM HQ2
            go_wp2_with fail
            with_reducible refine (HRM.out _ HQ3.out.r).mono ?_
            rintro e w3 ⟨rfl, hst⟩
            have HQ4 := Lib.hid (HQ3.out.still hst)
            clear hst HRM HQ3
            go_wp2
            go_roundw
            case rel => exact ⟨j + 1, c + 1, by omega, by omega, by go_num, HQ4.out⟩
            case measure => simp [intOf]; omega
          · have hj' : ¬ c < 13 := by omega
            have HCP := Lib.hid (copy_any w.heap.size g v q wr HQ2.out.p)
            obtain ⟨S0, hS0⟩ : ∃ S0, wr.heap.size = S0 := ⟨_, rfl⟩
            rw [hS0] at HCP
            go_wp2_with fail
            with_reducible refine HCP.out.mono ?_
            rintro e w4 ⟨cb, vc, rfl, hc, hb⟩
            have HC := Lib.hid hc
            have HB4 : Hid (Below wr.heap.size wr w4) := Lib.hid (by rw [hS0]; exact hb)
            have hz4 : S0 ≤ w4.heap.size := by have := HB4.out.size; omega
            have HT5 := Lib.hid (take_any S0 cb vc q 8 w4 HC.out (by omega) hz4)
            have hl5 := tk_len q 8
            generalize tkG q 8 = q5 at *
            generalize mayB q 8 = b5 at *
            clear hc hb HCP
            go_wp2_with fail
            with_reducible refine HT5.out.mono ?_
            rintro e w5 ⟨rfl, vc5, p1, p2, p3⟩
            have HC5 := Lib.hid p1
            have HB5 : Hid (Below wr.heap.size wr w5) := Lib.hid (HB4.out.trans (by rw [hS0]; exact p2.ofG HC.out hz4))
            have hz5 : S0 ≤ w5.heap.size := by have := HB5.out.size; omega
            have HT6 := Lib.hid (take_any S0 cb vc5 q5 11 w5 HC5.out (by omega) hz5)
            generalize tkG q5 11 = q6 at *
            generalize mayB q5 11 = b6 at *
            clear p1 p2 p3 HT5 HB4 HC
            go_wp2_with fail
            with_reducible refine HT6.out.mono ?_
            rintro e w6 ⟨rfl, vc6, p1, p2, p3⟩
            have HB6 : Hid (Below wr.heap.size wr w6) := Lib.hid (HB5.out.trans (by rw [hS0]; exact p2.ofG HC5.out hz5))
            have HQ6 := Lib.hid (HQ2.out.go HB6.out)
            clear p1 p2 p3 HT6 HB5 HC5 HQ2 HB6
            have HT7 := Lib.hid (take_any w.heap.size g v q y w6 HQ6.out.p (by omega) HQ6.out.b.size)
            have HR8 := Lib.hid (fun W (h : RIs W w.heap.size a u q) hs => rtake_any w.heap.size a u q y W h (by omega) hs)
            have hl7 := tk_len q y
            generalize tkG q y = q7 at *
            generalize mayB q y = mb at *
            have nb : (mb != mb) = false := by simp
            go_wp2_with fail
            with_reducible refine HT7.out.mono ?_
            rintro e w7 ⟨rfl, v7, p1, p2, p3⟩
            have HQ7 := Lib.hid (HQ6.out.pushP p1 p2)
            clear p1 p2 p3 HT7 HQ6
            go_wp2_with fail
            with_reducible refine (HR8.out _ HQ7.out.r HQ7.out.b.size).mono ?_
            rintro e w8 ⟨rfl, u8, p1, p2, p3⟩
            have HQ8 := Lib.hid (HQ7.out.pushR p1 p2)
            clear p1 p2 p3 HR8 HQ7
            obtain ⟨A8, c8, hv8, _⟩ := own_form HQ8.out.r.own
            rw [rS_len] at hv8
            obtain ⟨n8, hn8⟩ : ∃ n8, q7.s.length = n8 := ⟨_, rfl⟩
            rw [hn8] at hv8 hl7
            subst hv8
            have d0 : w8.cell? ⟨a, 0, none⟩ = some (.slice A8 n8 c8) := HQ8.out.r.blk.cell 0
            have hl8 := HQ8.out.r.blk.lt
            have HQD := Lib.hid (depth_q w.heap.size g v7 q7 w8 HQ8.out.p)
            have HQN := Lib.hid (name_q w.heap.size g v7 q7 w8 HQ8.out.p)
            have HQE := Lib.hid (ended_q w.heap.size g v7 q7 w8 HQ8.out.p)
            have HRN := Lib.hid (rname_q w.heap.size a _ q7 w8 HQ8.out.r)
            have HRE := Lib.hid (rended_q w.heap.size a _ q7 w8 HQ8.out.r)
            rw [hn8] at HQD
            have HN8 := Lib.hid hn8
            clear hn8
            generalize nameB q7 = bn at *
            generalize endB q7 = be at *
            have nn : (bn != bn) = false := by simp
            have ne : (be != be) = false := by simp
            go_wp2_with fail
            go_quiet (first
              | (go_at_call 15; with_reducible exact HQD.out _)
              | (go_at_call 16; with_reducible exact HQN.out _)
              | (go_at_call 17; with_reducible exact HRN.out _)
              | (go_at_call 18; with_reducible exact HQE.out _)
              | (go_at_call 19; with_reducible exact HRE.out _))
            go_wp2
            go_roundw
            case rel => exact ⟨k + 1, v7, _, q7, by omega, by go_num, by rw [HN8.out]; omega, HQ8.out.still ⟨_, rfl⟩⟩
            case measure => simp [intOf]; omega
      · obtain ⟨y, hy⟩ : ∃ y, x = y := ⟨_, rfl⟩
        subst hy
        go_wp2_with fail
        generalize wr = wq at *
        go_loopw [7] (fun x wr => InL w g a v u q x wr) (fun x _ => 14 - (intOf x + 1).toNat)
        case atStart => exact ⟨0, -1, rfl, by omega, rfl, HQ.out⟩
        case round =>
          clear HQ
          obtain ⟨j, c, hjc, hj, rfl, hpg⟩ := hrel
          have HQ2 := Lib.hid hpg
          clear hpg
          by_cases hjl : j < 14
          · have hj' : c < 13 := by omega
            have HM := Lib.hid (may_any w.heap.size g v q c wr HQ2.out.p)
            have HRM := Lib.hid (fun W hW => rmay_any w.heap.size a u q c W hW)
            generalize mayB q c = mb at *
            have nb : (mb != mb) = false := by simp
            go_wp2_with fail
            with_reducible refine HM.out.mono ?_
            rintro e w2 ⟨rfl, hst⟩
            have HQ3 := Lib.hid (HQ2.out.still hst)
            clear hst HM HQ2
            go_wp2_with fail
            with_reducible refine (HRM.out _ HQ3.out.r).mono ?_
            rintro e w3 ⟨rfl, hst⟩
            have HQ4 := Lib.hid (HQ3.out.still hst)
            clear hst HRM HQ3
            go_wp2
            go_roundw
            case rel => exact ⟨j + 1, c + 1, by omega, by omega, by go_num, HQ4.out⟩
            case measure => simp [intOf]; omega
          · have hj' : ¬ c < 13 := by omega
            have HCP := Lib.hid (copy_any w.heap.size g v q wr HQ2.out.p)
            obtain ⟨S0, hS0⟩ : ∃ S0, wr.heap.size = S0 := ⟨_, rfl⟩
            rw [hS0] at HCP
            go_wp2_with fail
            with_reducible refine HCP.out.mono ?_
            rintro e w4 ⟨cb, vc, rfl, hc, hb⟩
            have HC := Lib.hid hc
            have HB4 : Hid (Below wr.heap.size wr w4) := Lib.hid (by rw [hS0]; exact hb)
            have hz4 : S0 ≤ w4.heap.size := by have := HB4.out.size; omega
            have HT5 := Lib.hid (take_any S0 cb vc q 8 w4 HC.out (by omega) hz4)
            have hl5 := tk_len q 8
            generalize tkG q 8 = q5 at *
            generalize mayB q 8 = b5 at *
            clear hc hb HCP
            go_wp2_with fail
            with_reducible refine HT5.out.mono ?_
            rintro e w5 ⟨rfl, vc5, p1, p2, p3⟩
            have HC5 := Lib.hid p1
            have HB5 : Hid (Below wr.heap.size wr w5) := Lib.hid (HB4.out.trans (by rw [hS0]; exact p2.ofG HC.out hz4))
            have hz5 : S0 ≤ w5.heap.size := by have := HB5.out.size; omega
            have HT6 := Lib.hid (take_any S0 cb vc5 q5 11 w5 HC5.out (by omega) hz5)
            generalize tkG q5 11 = q6 at *
            generalize mayB q5 11 = b6 at *
            clear p1 p2 p3 HT5 HB4 HC
            go_wp2_with fail
            with_reducible refine HT6.out.mono ?_
            rintro e w6 ⟨rfl, vc6, p1, p2, p3⟩
            have HB6 : Hid (Below wr.heap.size wr w6) := Lib.hid (HB5.out.trans (by rw [hS0]; exact p2.ofG HC5.out hz5))
            have HQ6 := Lib.hid (HQ2.out.go HB6.out)
            clear p1 p2 p3 HT6 HB5 HC5 HQ2 HB6
            have HT7 := Lib.hid (take_any w.heap.size g v q x w6 HQ6.out.p (by omega) HQ6.out.b.size)
            have HR8 := Lib.hid (fun W (h : RIs W w.heap.size a u q) hs => rtake_any w.heap.size a u q x W h (by omega) hs)
            have hl7 := tk_len q x
            generalize tkG q x = q7 at *
            generalize mayB q x = mb at *
            have nb : (mb != mb) = false := by simp
            go_wp2_with fail
            with_reducible refine HT7.out.mono ?_
            rintro e w7 ⟨rfl, v7, p1, p2, p3⟩
            have HQ7 := Lib.hid (HQ6.out.pushP p1 p2)
            clear p1 p2 p3 HT7 HQ6
            go_wp2_with fail
            with_reducible refine (HR8.out _ HQ7.out.r HQ7.out.b.size).mono ?_
            rintro e w8 ⟨rfl, u8, p1, p2, p3⟩
            have HQ8 := Lib.hid (HQ7.out.pushR p1 p2)
            clear p1 p2 p3 HR8 HQ7
            obtain ⟨A8, c8, hv8, _⟩ := own_form HQ8.out.r.own
            rw [rS_len] at hv8
            obtain ⟨n8, hn8⟩ : ∃ n8, q7.s.length = n8 := ⟨_, rfl⟩
            rw [hn8] at hv8 hl7
            subst hv8
            have d0 : w8.cell? ⟨a, 0, none⟩ = some (.slice A8 n8 c8) := HQ8.out.r.blk.cell 0
            have hl8 := HQ8.out.r.blk.lt
            have HQD := Lib.hid (depth_q w.heap.size g v7 q7 w8 HQ8.out.p)
            have HQN := Lib.hid (name_q w.heap.size g v7 q7 w8 HQ8.out.p)
            have HQE := Lib.hid (ended_q w.heap.size g v7 q7 w8 HQ8.out.p)
            have HRN := Lib.hid (rname_q w.heap.size a _ q7 w8 HQ8.out.r)
            have HRE := Lib.hid (rended_q w.heap.size a _ q7 w8 HQ8.out.r)
            rw [hn8] at HQD
            have HN8 := Lib.hid hn8
            clear hn8
            generalize nameB q7 = bn at *
            generalize endB q7 = be at *
            have nn : (bn != bn) = false := by simp
            have ne : (be != be) = false := by simp
            go_wp2_with fail
            go_quiet (first
              | (go_at_call 15; with_reducible exact HQD.out _)
              | (go_at_call 16; with_reducible exact HQN.out _)
              | (go_at_call 17; with_reducible exact HRN.out _)
              | (go_at_call 18; with_reducible exact HQE.out _)
              | (go_at_call 19; with_reducible exact HRE.out _))
            go_wp2
            go_roundw
            case rel => exact ⟨k + 1, v7, _, q7, by omega, by go_num, by rw [HN8.out]; omega, HQ8.out.still ⟨_, rfl⟩⟩
            case measure => simp [intOf]; omega
    · have hlt' : ¬ (k : Int) < n := by omega
      go_wp2_with fail
      with_reducible refine (awake_any _).mono ?_
      rintro e1 w2 ⟨rfl, hb2⟩
      have HB2 := Lib.hid (HQ.out.b.trans (hb2.mono HQ.out.b.size))
      clear hb2
      go_wp2
      go_ret
      exact ⟨rfl, HB2.out⟩
end Go.Proofs.Ytdkfffncohipbaa
