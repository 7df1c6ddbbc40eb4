/- Joined of: D7OnceWalk. -/
import Derived.Test.YtjfeibjehkapcaaJ7M
/- The walk of DecompOnce. -/
namespace Go.Proofs.Ytjfeibjehkapcaa
set_option maxRecDepth 100000
open Go.ChangeShapes Go.WideShapes Go.ChangeAt Go.RowKit
set_option linter.unusedVariables false
set_option linter.unusedSimpArgs false

/-- the program's tables and a row -/
structure Si1 (w : World) (g : Nat) (A : Option Addr) (n c : Nat) (l : List Int) (W : World) : Prop where
  t : TblAt W W.heap.size g C5 P5 S5
  r : RowIn W A n c l
  be : Below w.heap.size w W
theorem Si1.go {w W W' : World} {g : Nat} {A : Option Addr} {n c : Nat} {l : List Int} (h : Si1 w g A n c l W) (hb : Below W.heap.size W W') : Si1 w g A n c l W' := ⟨h.t.go hb, h.r.go hb, h.be.trans (hb.mono h.be.size)⟩
def OnceLoop (w : World) (g : Nat) (A : Option Addr) (n c : Nat) (l : List Int) (i : Value) (wr : World) : Prop := ∃ k : Nat, k ≤ n ∧ i = .int .i64 k ∧ Si1 w g A n c l wr
theorem norm_at {cl : Int → Int} : ∀ (l : List Int) (k : Nat), Norm cl l → k + 1 < l.length → 0 < cl (l.getD (k + 1) 0) → cl (l.getD k 0) ≤ cl (l.getD (k + 1) 0)
  | [], k, _, h, _ => by simp at h
  | [x], k, _, h, _ => by simp at h
  | x :: y :: l, 0, hn, _, hp => hn.1 (by simpa using hp)
  | x :: y :: l, k + 1, hn, h, hp => by
    have := norm_at (y :: l) k hn.2 (by simpa using h) (by simpa using hp)
    simpa using this
theorem kind_quiet (c k : Int) (h : kind6 c = k) (w : World) (q : Nat) : Calls Try.prog 22 #[.int .i32 c] (w.drewN q) fun e w'' => e = .returned (.int .i64 k) ∧ ∃ m, w'' = w.drewN m := by
  subst h
  refine (kind_any c _).mono ?_
  rintro e w' ⟨rfl, rfl⟩
  exact ⟨rfl, q, rfl⟩

set_option maxHeartbeats 8000000 in
theorem once_walk (a0 : Option Addr) (len0 cap0 : Nat) (z0 : List Int) (w : World) (r0 : ArgRow .i64 w a0 len0 cap0 z0) :
    Calls Try.prog 5 #[.slice a0 len0 cap0] w fun e w' => e = .returned (.bool true) ∧ Below w.heap.size w w' := by
  have HR0 := Lib.hid r0
  clear r0
  go_enter Try.func5, Try.ntmps5
  go_wp2_with fail
  with_reducible refine (ubuild_any _).mono ?_
  rintro e w1 ⟨g, rfl, ht, hb⟩
  have HT := Lib.hid ht
  have HB := Lib.hid hb
  clear ht hb
  have HRU := Lib.hid (runes7 (HR0.out.go HB.out))
  go_wp2_with fail
  with_reducible refine HRU.out.mono ?_
  rintro e w3 ⟨A, n, c, l, rfl, hr3, hR3, hn, hb3⟩
  have HS3 : Hid (Si1 w g A n c l w3) := Lib.hid ⟨HT.out.go hb3, hr3, HB.out.trans (hb3.mono HB.out.size)⟩
  have HRR := Lib.hid hR3
  have HLN := Lib.hid hr3.len
  clear hr3 hR3 hb3 HT HB HRU HR0
  go_wp2_with fail
  with_reducible refine (all_any _ g _ _ _ _ HS3.out.r HS3.out.t HRR.out (by omega)).mono ?_
  rintro e w4 ⟨B, m, d, rfl, hr4, hb4⟩
  have HS4 : Hid (Si1 w g B m d (allF T5 cl5 l) w4) := Lib.hid ⟨HS3.out.t.go hb4, hr4, HS3.out.be.trans (hb4.mono HS3.out.be.size)⟩
  have hle : m ≤ 1000000 := by
    have h1 := hr4.len
    have hal := allF_len (cl := cl5) sy5_len l
    rw [HLN.out] at hal
    omega
  have HPL : Hid (∀ x ∈ allF T5 cl5 l, Plain T5 x) := Lib.hid (allF_plain sy5_plain ends5 l)
  have HNO : Hid (Norm cl5 (allF T5 cl5 l)) := Lib.hid (ordL_norm cl5_nn _)
  have HON : Hid (allF T5 cl5 (allF T5 cl5 l) = allF T5 cl5 l) := Lib.hid (allF_once cl5_nn sy5_plain ends5 l)
  have HAR : Hid (∀ x ∈ allF T5 cl5 l, R32 x) := Lib.hid (all5_in HRR.out)
  clear hr4 hb4 HS3 HRR HLN hn
  generalize allF T5 cl5 l = L at *
  have HLL := Lib.hid HS4.out.r.len
  go_wp2_with fail
  go_loopw [5] (fun i wr => OnceLoop w g B m d L i wr) (fun i _ => m - (intOf i).toNat)
  case atStart => exact ⟨0, by omega, rfl, HS4.out⟩
  case round =>
    obtain ⟨k, hk, rfl, hS⟩ := hrel
    have HS := Lib.hid hS
    clear hS HS4
    by_cases hlt : k < m
    · obtain ⟨b, o, rfl, hbl, hc⟩ := HS.out.r.first (by omega)
      have hkl : k < L.length := by rw [HLL.out]; exact hlt
      have hx0 : L.getD k 0 ∈ L := by
        rw [List.getD_eq_getElem?_getD, List.getElem?_eq_getElem hkl]
        exact List.getElem_mem hkl
      obtain ⟨hp1, hp2, hp3⟩ := HPL.out _ hx0
      have h1 : wr.cell? ⟨b, o + k, none⟩ = some (.int .i32 (L.getD k 0)) := hc k hlt
      have hk3 : ¬ 3 < kind6 (L.getD k 0) := fun h => split6_some h hp1
      have HPQ : Hid (∀ W, Si1 w g (some ⟨b, o, none⟩) m d L W → Calls Try.prog 20 #[.pointer (some ⟨g, 0, none⟩), .int .i32 (L.getD k 0)] W fun e w' => e = .returned (.tuple #[.int .i32 (T5.px (L.getD k 0)), .int .i32 (T5.py (L.getD k 0)), .bool false]) ∧ Below W.heap.size W w') := Lib.hid fun W h => by
        have := pair7 h.t (L.getD k 0)
        rwa [hp3] at this
      have HSQ : Hid (∀ W, Si1 w g (some ⟨b, o, none⟩) m d L W → Calls Try.prog 21 #[.pointer (some ⟨g, 0, none⟩), .int .i32 (L.getD k 0)] W fun e w' => e = .returned (.tuple #[.int .i32 0, .bool false]) ∧ Still W w') := Lib.hid fun W h => by
        have := single7 h.t (L.getD k 0)
        rwa [hp2] at this
      have HCX : Hid (∀ W, Si1 w g (some ⟨b, o, none⟩) m d L W → ∀ q, Calls Try.prog 23 #[.pointer (some ⟨g, 0, none⟩), .int .i32 (L.getD k 0)] (W.drewN q) fun e w'' => e = .returned (.int .i64 (cl5 (L.getD k 0))) ∧ ∃ m, w'' = W.drewN m) := Lib.hid fun W h q => quiet_st (class7 (h.t.go (below_drewN' (Below.refl _ _) q)) _)
      have hnn := cl5_nn (L.getD k 0)
      have hlt' : (k : Int) < m := by omega
      have hlen0 : ∀ W, Si1 w g (some ⟨b, o, none⟩) m d L W → W.cell? ⟨b, o + k, none⟩ = some (.int .i32 (L.getD k 0)) := fun W h => by
        obtain ⟨b', o', e, _, hc'⟩ := h.r.first (by omega)
        injection e with e; injection e with e1 e2; subst e1; subst e2
        exact hc' k hlt
      have HCELL := Lib.hid hlen0
      have HCEL1 : Hid (∀ W, Si1 w g (some ⟨b, o, none⟩) m d L W → ∀ j, k = j + 1 → W.cell? ⟨b, o + j, none⟩ = some (.int .i32 (L.getD j 0))) := Lib.hid fun W h j hj => by
        obtain ⟨b', o', e, _, hc'⟩ := h.r.first (by omega)
        injection e with e; injection e with e1 e2; subst e1; subst e2
        exact hc' j (by omega)
      have HNK : Hid (∀ j, k = j + 1 → 0 < cl5 (L.getD k 0) → cl5 (L.getD j 0) ≤ cl5 (L.getD k 0)) := Lib.hid fun j hj hp => by
        subst hj
        exact norm_at L j HNO.out hkl hp
      clear hc hp1 hp2 hp3 hx0 hlen0
      generalize hX : L.getD k 0 = x at *
      generalize T5.px x = fx at *
      generalize T5.py x = fy at *
      go_wp2_with fail
      with_reducible refine (HPQ.out _ HS.out).mono ?_
      rintro e w5 ⟨rfl, hb5⟩
      have HS5 := Lib.hid (HS.out.go hb5)
      have h1 := HCELL.out _ HS5.out
      clear hb5 HS
      go_wp2_with fail
      with_reducible refine (HSQ.out _ HS5.out).mono ?_
      rintro e w6 ⟨rfl, hs6⟩
      have HS6 := Lib.hid (HS5.out.go hs6.below)
      have h1 := HCELL.out _ HS6.out
      have HCX6 := Lib.hid (HCX.out _ HS6.out)
      have HKQ : Hid (∀ q, Calls Try.prog 22 #[.int .i32 x] (w6.drewN q) fun e w'' => e = .returned (.int .i64 (kind6 x)) ∧ ∃ m, w'' = w6.drewN m) := Lib.hid fun q => kind_quiet x _ rfl w6 q
      have hk3' : decide (3 < kind6 x) = false := decide_eq_false (by omega)
      clear hs6 HS5 HPQ HSQ HCX hk3
      generalize kind6 x = kx at *
      cases k with
      | zero =>
        rw [Nat.add_zero] at h1
        have hz : ¬ (0 : Int) < ((0 : Nat) : Int) := by omega
        go_wp2_with fail
        go_quiet (first
          | (go_at_call 22; with_reducible exact HKQ.out _)
          | (go_at_call 23; with_reducible exact HCX6.out _))
        go_wp2
        go_roundw
        case rel => exact ⟨1, by omega, by go_num, HS6.out.go (below_drewN' (Below.refl _ _) _)⟩
        case measure => simp [intOf]; omega
      | succ j =>
        have h2 := HCEL1.out _ HS6.out j rfl
        have HNJ := Lib.hid (HNK.out j rfl)
        have HCY6 : Hid (∀ q, Calls Try.prog 23 #[.pointer (some ⟨g, 0, none⟩), .int .i32 (L.getD j 0)] (w6.drewN q) fun e w'' => e = .returned (.int .i64 (cl5 (L.getD j 0))) ∧ ∃ m, w'' = w6.drewN m) := Lib.hid fun q => quiet_st (class7 (HS6.out.t.go (below_drewN' (Below.refl _ _) q)) _)
        have hpos : (0 : Int) < ((j + 1 : Nat) : Int) := by omega
        clear HCEL1 HNK
        generalize L.getD j 0 = y at *
        generalize cl5 y = cy at *
        generalize cl5 x = cx at *
        by_cases hcx : 0 < cx
        · have hcd : decide (0 < cx) = true := decide_eq_true hcx
          have hgt : decide (cx < cy) = false := decide_eq_false (by have := HNJ.out hcx; omega)
          go_wp2_with fail
          go_quiet (first
            | (go_at_call 22; with_reducible exact HKQ.out _)
            | (go_at_call 23; first | with_reducible exact HCX6.out _ | with_reducible exact HCY6.out _))
          go_wp2
          go_roundw
          case rel => exact ⟨j + 1 + 1, by omega, by go_num, HS6.out.go (below_drewN' (Below.refl _ _) _)⟩
          case measure => simp [intOf]; omega
        · have hcd : decide (0 < cx) = false := decide_eq_false hcx
          go_wp2_with fail
          go_quiet (first
            | (go_at_call 22; with_reducible exact HKQ.out _)
            | (go_at_call 23; first | with_reducible exact HCX6.out _ | with_reducible exact HCY6.out _))
          go_wp2
          go_roundw
          case rel => exact ⟨j + 1 + 1, by omega, by go_num, HS6.out.go (below_drewN' (Below.refl _ _) _)⟩
          case measure => simp [intOf]; omega
    · have hkk : k = m := by omega
      subst hkk
      have hlt' : ¬ (k : Int) < k := by omega
      have HALL := Lib.hid (all_any _ g _ _ _ _ HS.out.r HS.out.t HAR.out (by omega))
      rw [HON.out] at HALL
      go_wp2_with fail
      with_reducible refine HALL.out.mono ?_
      rintro e w5 ⟨A5, n5, c5, rfl, hr5, hb5⟩
      have HS5 := Lib.hid (HS.out.go hb5)
      have HR5 := Lib.hid hr5
      have hle5 : n5 ≤ 1000000 := by
        have h1 := hr5.len
        have h2 := HLL.out
        omega
      clear hr5 hb5 HS HALL
      go_wp2_with fail
      with_reducible refine (same_rows HR5.out HS5.out.r rfl hle5).mono ?_
      rintro e w6 ⟨rfl, hs6⟩
      have HS6 := Lib.hid (HS5.out.go hs6.below)
      clear hs6 HS5 HR5
      go_wp2_with fail
      with_reducible refine (awake_any _ _ HS6.out.t).mono ?_
      rintro e w12 ⟨rfl, hb12⟩
      have HB12 := Lib.hid (HS6.out.go hb12).be
      clear hb12
      go_wp2
      go_ret
      exact ⟨rfl, HB12.out⟩
end Go.Proofs.Ytjfeibjehkapcaa
