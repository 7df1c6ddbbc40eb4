/- The document's Norm of layer 10 by its contract. -/
import Derived.Test.YtiibfejgiilakaaDoorG10Dc
namespace Go.Proofs.YtiibfejgiilakaaDoor
set_option maxRecDepth 100000
open Go.ChangeShapes Go.WideShapes Go.ChangeAt Go.RowKit
set_option linter.unusedVariables false
set_option linter.unusedSimpArgs false

abbrev DcBlk (w : World) (p : Nat) (n : Bool) (s : ByteArray) (e : Int) : Prop := Blk w p 52 #[.bool n, .string s, .int .i64 e]
def NLoop1 (w : World) (p : Nat) (n : Bool) (s : ByteArray) (e : Int) (wr : World) : Prop := ∃ s1, DcBlk wr p n s1 e ∧ DcBlk wr (p + 1) false (bs []) 0 ∧ frontL (L8 s1) = frontL (L8 s) ∧ s1.size ≤ s.size ∧ Below p w wr
def NLoop2 (w : World) (p : Nat) (n : Bool) (s1 : ByteArray) (e : Int) (wr : World) : Prop := ∃ s2 : ByteArray, ∃ e2 : Int, DcBlk wr p n s2 e2 ∧ DcBlk wr (p + 1) false (bs []) 0 ∧ endL (L8 s2) = endL (L8 s1) ∧ s2.size ≤ s1.size ∧ e2 = e + ((s1.size : Int) - s2.size) ∧ Below p w wr

theorem byte_is (c k : UInt8) (z : Int) (hz : (k.toNat : Int) = z) : (c = k ∧ ((c.toNat : Int) == z) = true) ∨ (c ≠ k ∧ ((c.toNat : Int) == z) = false) := by
  by_cases h : c = k
  · refine .inl ⟨h, ?_⟩
    rw [h, hz]; simp
  · refine .inr ⟨h, ?_⟩
    rw [beq_eq_false_iff_ne]
    intro hh
    exact h (UInt8.toNat_inj.1 (by omega))
theorem ret_dc (n : Bool) (s : ByteArray) (e : Int) : Ending.returned (.agg #[.bool n, .string s, .int .i64 e]) = .returned (dcV ⟨n, L8 s, e⟩) := by
  unfold dcV; dsimp only; rw [bs_L8]
theorem front_step {s : ByteArray} (h : 0 < s.size) (hc : s[0] = 48) : frontL (L8 (s.extract 1 s.size)) = frontL (L8 s) ∧ (s.extract 1 s.size).size + 1 = s.size := by
  have e1 := L8_drop s 0 h
  rw [List.drop_zero] at e1
  have e2 : L8 (s.extract 1 s.size) = (L8 s).drop 1 := by
    rw [L8_cut]
    exact List.take_of_length_le (by rw [List.length_drop, L8_len]; exact Nat.le_refl _)
  refine ⟨?_, by rw [← L8_len, e2, List.length_drop, L8_len]; omega⟩
  rw [e2]
  conv => rhs; rw [e1]
  rw [front_cons, if_pos hc]
theorem front_stop {s : ByteArray} (h : s.size = 0 ∨ ∃ h : 0 < s.size, s[0] ≠ 48) : frontL (L8 s) = L8 s := by
  refine front_id ?_
  rcases h with h | ⟨h, hc⟩
  · have e : L8 s = [] := List.eq_nil_of_length_eq_zero (by rw [L8_len]; exact h)
    rw [e]; simp
  · have e1 := L8_drop s 0 h
    rw [List.drop_zero] at e1
    rw [e1]
    simpa using hc
theorem end_step {s : ByteArray} (h : 0 < s.size) (hc : s[s.size - 1] = 48) : endL (L8 (s.extract 0 (s.size - 1))) = endL (L8 s) ∧ (s.extract 0 (s.size - 1)).size + 1 = s.size := by
  have e1 := L8_take s (s.size - 1) (by omega)
  have e0 : s.size - 1 + 1 = s.size := by omega
  rw [e0, List.take_of_length_le (by rw [L8_len]; exact Nat.le_refl _)] at e1
  have e2 : L8 (s.extract 0 (s.size - 1)) = (L8 s).take (s.size - 1) := by
    rw [L8_cut]; simp
  refine ⟨?_, by rw [← L8_len, e2, List.length_take, L8_len]; omega⟩
  rw [e2]
  conv => rhs; rw [e1]
  rw [end_snoc, if_pos hc]
theorem end_stop {s : ByteArray} (h : s.size = 0 ∨ ∃ h : 0 < s.size, s[s.size - 1] ≠ 48) : endL (L8 s) = L8 s := by
  refine end_id ?_
  rcases h with h | ⟨h, hc⟩
  · have e : L8 s = [] := List.eq_nil_of_length_eq_zero (by rw [L8_len]; exact h)
    rw [e]; simp
  · have e1 := L8_take s (s.size - 1) (by omega)
    have e0 : s.size - 1 + 1 = s.size := by omega
    rw [e0, List.take_of_length_le (by rw [L8_len]; exact Nat.le_refl _)] at e1
    rw [e1]
    simpa using hc
theorem norm_is {n : Bool} {s s1 s2 : ByteArray} {e e2 : Int} (h1 : frontL (L8 s) = L8 s1) (h2 : endL (L8 s1) = L8 s2) (h3 : e2 = e + ((s1.size : Int) - s2.size)) (h4 : s2.size ≤ s1.size) : normF ⟨n, L8 s, e⟩ = if s2.size = 0 then zeroD else ⟨n, L8 s2, e2⟩ := by
  unfold normF
  dsimp only
  rw [h1, h2, L8_len, L8_len]
  by_cases h : s2.size = 0
  · rw [if_pos (List.eq_nil_of_length_eq_zero (by rw [L8_len]; exact h)), if_pos h]
  · rw [if_neg (fun hh => h (by rw [← L8_len, hh]; rfl)), if_neg h, h3]
    congr 1
    omega
theorem Blk.set' {w : World} {g : Nat} {t : TypeId} {cs : Array Value} (h : Blk w g t cs) (i : Nat) (u : Value) {ds : Array Value} (hd : cs.setIfInBounds i u = ds) : Blk (w.setCell ⟨g, i, none⟩ u) g t ds := by
  rw [← hd]; exact h.set i u

set_option maxHeartbeats 4000000 in
theorem rnorm_any (x : Dc) (w : World) (hx : x.d.length ≤ 1000000) (he0 : -4000000000 ≤ x.e) (he1 : x.e ≤ 4000000000) : Calls Tryd.prog 32 #[dcV x] w fun e w' => e = .returned (dcV (normF x)) ∧ Below w.heap.size w w' := by
  obtain ⟨n, d, e⟩ := x
  unfold dcV
  dsimp only at *
  obtain ⟨s, rfl⟩ : ∃ s, d = L8 s := ⟨bs d, rfl⟩
  rw [bs_L8]
  rw [L8_len] at hx
  generalize hr : normF ⟨n, L8 s, e⟩ = r
  have HR := Lib.hid hr
  clear hr
  go_enter Tryd.func32, Tryd.ntmps32
  go_wp2_with fail
  have HB0 : Hid (Below w.heap.size w ((w.alloc (.cells #[.bool n, .string s, .int .i64 e] 52)).alloc (.cells #[.bool false, .string (bs []), .int .i64 0] 52))) := Lib.hid (((Below.refl _ _).alloc (Nat.le_refl _) _).alloc (by rw [World.size_alloc]; omega) _)
  have HD0 : Hid (DcBlk ((w.alloc (.cells #[.bool n, .string s, .int .i64 e] 52)).alloc (.cells #[.bool false, .string (bs []), .int .i64 0] 52)) w.heap.size n s e) := Lib.hid ((Blk.new w 52 _).alloc _)
  have HZ0 : Hid (DcBlk ((w.alloc (.cells #[.bool n, .string s, .int .i64 e] 52)).alloc (.cells #[.bool false, .string (bs []), .int .i64 0] 52)) (w.heap.size + 1) false (bs []) 0) := Lib.hid (by have h := Blk.new (w.alloc (.cells #[.bool n, .string s, .int .i64 e] 52)) 52 #[.bool false, .string (bs []), .int .i64 0]; rwa [World.size_alloc] at h)
  have hbs : (⟨#[]⟩ : ByteArray) = bs [] := rfl
  rw [hbs]
  clear hbs
  generalize (w.alloc (.cells #[.bool n, .string s, .int .i64 e] 52)).alloc (.cells #[.bool false, .string (bs []), .int .i64 0] 52) = w1 at *
  have hw1 : w.heap.size + 1 < w1.heap.size := HZ0.out.lt
  go_loopw [12] (fun _ wr => NLoop1 w w.heap.size n s e wr) (fun _ wr => strLen (wr.cell? ⟨w.heap.size, 1, none⟩))
  case atStart => exact ⟨s, HD0.out, HZ0.out, rfl, Nat.le_refl _, HB0.out⟩
  case round =>
    obtain ⟨s1, hD, hZ, hfr, hle, hb⟩ := hrel
    have HD := Lib.hid hD
    have HZ := Lib.hid hZ
    have HF := Lib.hid hfr
    have HB := Lib.hid hb
    have hcs : wr.cell? ⟨w.heap.size, 1, none⟩ = some (.string s1) := hD.cell 1
    have hfz : wr.frozen? ⟨w.heap.size, 1, none⟩ = false := hD.frozen 1
    have hwl : w.heap.size < wr.heap.size := hD.lt
    clear hD hZ hfr hb HD0 HZ0 HB0
    by_cases h0 : 0 < s1.size
    · have h0' : (0 : Int) < s1.size := by omega
      rcases byte_is s1[0] 48 48 rfl with ⟨hc, hcb⟩ | ⟨hc, hcb⟩
      · obtain ⟨hs1, hs2⟩ := front_step h0 hc
        have HS1 := Lib.hid hs1
        have HS2 := Lib.hid hs2
        clear hc hs1 hs2
        go_wp2
        go_roundw
        case rel => exact ⟨_, HD.out.set' 1 _ rfl, HZ.out.far (by simp) _, by rw [HS1.out, HF.out], by have := HS2.out; omega, HB.out.setCell (by simp) _⟩
        case measure =>
          have h1 := HS2.out
          rw [(HD.out.set' 1 (.string (s1.extract 1 s1.size)) rfl).cell 1, HD.out.cell 1]
          show (s1.extract 1 s1.size).size < s1.size
          omega
      · have HST := Lib.hid (front_stop (.inr ⟨h0, hc⟩))
        clear hc
        go_wp2_with fail
        have HFF : Hid (frontL (L8 s) = L8 s1) := Lib.hid (by rw [← HF.out, HST.out])
        clear HF HST
        generalize wr = wq at *
        clear hcs hfz
        go_loopw [30] (fun _ wr => NLoop2 w w.heap.size n s1 e wr) (fun _ wr => strLen (wr.cell? ⟨w.heap.size, 1, none⟩))
        case atStart => exact ⟨s1, e, HD.out, HZ.out, rfl, Nat.le_refl _, by omega, HB.out⟩
        case round =>
          obtain ⟨s2, e2, hD, hZ, hen, hle2, hee, hb⟩ := hrel
          have HD2 := Lib.hid hD
          have HZ2 := Lib.hid hZ
          have HE2 := Lib.hid hen
          have HB2 := Lib.hid hb
          have HEE := Lib.hid hee
          have hcs : wr.cell? ⟨w.heap.size, 1, none⟩ = some (.string s2) := hD.cell 1
          have hce : wr.cell? ⟨w.heap.size, 2, none⟩ = some (.int .i64 e2) := hD.cell 2
          have hcn : wr.cell? ⟨w.heap.size, 0, none⟩ = some (.bool n) := hD.cell 0
          have hfz : wr.frozen? ⟨w.heap.size, 1, none⟩ = false := hD.frozen 1
          have hfe : wr.frozen? ⟨w.heap.size, 2, none⟩ = false := hD.frozen 2
          have hz0 : wr.frozen? ⟨w.heap.size + 1, 0, none⟩ = false := hZ.frozen 0
          have hz1 : wr.frozen? ⟨w.heap.size + 1, 1, none⟩ = false := hZ.frozen 1
          have hz2 : wr.frozen? ⟨w.heap.size + 1, 2, none⟩ = false := hZ.frozen 2
          have hy0 : wr.cell? ⟨w.heap.size + 1, 0, none⟩ = some (.bool false) := hZ.cell 0
          have hy1 : wr.cell? ⟨w.heap.size + 1, 1, none⟩ = some (.string (bs [])) := hZ.cell 1
          have hy2 : wr.cell? ⟨w.heap.size + 1, 2, none⟩ = some (.int .i64 0) := hZ.cell 2
          have hwl2 : w.heap.size + 1 < wr.heap.size := hZ.lt
          have heb0 : -5000000000 ≤ e2 := by omega
          have heb1 : e2 ≤ 5000000000 := by omega
          clear hD hZ hen hb hee HD HZ HB
          by_cases hp0 : 0 < s2.size
          · have hp0' : (0 : Int) < s2.size := by omega
            rcases byte_is s2[s2.size - 1] 48 48 rfl with ⟨hc, hcb⟩ | ⟨hc, hcb⟩
            · obtain ⟨hs1, hs2⟩ := end_step hp0 hc
              have HS1 := Lib.hid hs1
              have HS2 := Lib.hid hs2
              clear hc hs1 hs2
              go_wp2
              go_roundw
              case rel => exact ⟨_, _, (HD2.out.set' 1 _ rfl).set' 2 _ rfl, (HZ2.out.far (by simp) _).far (by simp) _, by rw [HS1.out, HE2.out], by have := HS2.out; omega, by have h1 := HS2.out; have h2 := HEE.out; omega, (HB2.out.setCell (by simp) _).setCell (by simp) _⟩
              case measure =>
                have h1 := HS2.out
                rw [((HD2.out.set' 1 (.string (s2.extract 0 (s2.size - 1))) rfl).set' 2 (.int .i64 (e2 + 1)) rfl).cell 1, HD2.out.cell 1]
                show (s2.extract 0 (s2.size - 1)).size < s2.size
                omega
            · have HST2 := Lib.hid (end_stop (.inr ⟨hp0, hc⟩))
              clear hc
              have HNI : Hid (normF ⟨n, L8 s, e⟩ = if s2.size = 0 then zeroD else ⟨n, L8 s2, e2⟩) := Lib.hid (norm_is HFF.out (HE2.out.symm.trans HST2.out) HEE.out hle2)
              clear HE2 HST2 HEE HFF
              by_cases hz : s2.size = 0
              · have hzz : ((s2.size : Int) == 0) = true := by simp [hz]
                have hrr : zeroD = r := by rw [← HR.out, HNI.out, if_pos hz]
                subst hrr
                have HZZ := Lib.hid hz
                clear hz
                go_wp2
                refine bodyPost_ret (results_one Tryd.results32 _ _ (w.heap.size + 1) _ _ _ rfl (((HZ2.out.set' 0 (.bool false) rfl).set' 1 (.string (bs [])) rfl).set' 2 (.int .i64 0) rfl) Tryd.underlying52 rfl (by kernel_rfl)) rfl ?_
                exact ⟨rfl, ((HB2.out.setCell (by simp) _).setCell (by simp) _).setCell (by simp) _⟩
              · have hzz : ((s2.size : Int) == 0) = false := by rw [beq_eq_false_iff_ne]; omega
                have hrr : (⟨n, L8 s2, e2⟩ : Dc) = r := by rw [← HR.out, HNI.out, if_neg hz]
                subst hrr
                have HZZ := Lib.hid hz
                clear hz
                go_wp2
                refine bodyPost_ret (results_one Tryd.results32 _ _ (w.heap.size + 1) _ _ _ rfl (((HZ2.out.set' 0 (.bool n) rfl).set' 1 (.string s2) rfl).set' 2 (.int .i64 e2) rfl) Tryd.underlying52 rfl (by kernel_rfl)) rfl ?_
                exact ⟨ret_dc n s2 e2, ((HB2.out.setCell (by simp) _).setCell (by simp) _).setCell (by simp) _⟩
          · have hp0' : ¬ (0 : Int) < s2.size := by omega
            have HST2 := Lib.hid (end_stop (s := s2) (.inl (by omega)))
            have HNI : Hid (normF ⟨n, L8 s, e⟩ = if s2.size = 0 then zeroD else ⟨n, L8 s2, e2⟩) := Lib.hid (norm_is HFF.out (HE2.out.symm.trans HST2.out) HEE.out hle2)
            clear HE2 HST2 HEE HFF
            by_cases hz : s2.size = 0
            · have hzz : ((s2.size : Int) == 0) = true := by simp [hz]
              have hrr : zeroD = r := by rw [← HR.out, HNI.out, if_pos hz]
              subst hrr
              have HZZ := Lib.hid hz
              clear hz
              go_wp2
              refine bodyPost_ret (results_one Tryd.results32 _ _ (w.heap.size + 1) _ _ _ rfl (((HZ2.out.set' 0 (.bool false) rfl).set' 1 (.string (bs [])) rfl).set' 2 (.int .i64 0) rfl) Tryd.underlying52 rfl (by kernel_rfl)) rfl ?_
              exact ⟨rfl, ((HB2.out.setCell (by simp) _).setCell (by simp) _).setCell (by simp) _⟩
            · have hzz : ((s2.size : Int) == 0) = false := by rw [beq_eq_false_iff_ne]; omega
              have hrr : (⟨n, L8 s2, e2⟩ : Dc) = r := by rw [← HR.out, HNI.out, if_neg hz]
              subst hrr
              have HZZ := Lib.hid hz
              clear hz
              go_wp2
              refine bodyPost_ret (results_one Tryd.results32 _ _ (w.heap.size + 1) _ _ _ rfl (((HZ2.out.set' 0 (.bool n) rfl).set' 1 (.string s2) rfl).set' 2 (.int .i64 e2) rfl) Tryd.underlying52 rfl (by kernel_rfl)) rfl ?_
              exact ⟨ret_dc n s2 e2, ((HB2.out.setCell (by simp) _).setCell (by simp) _).setCell (by simp) _⟩
    · have h0' : ¬ (0 : Int) < s1.size := by omega
      have HST := Lib.hid (front_stop (s := s1) (.inl (by omega)))
      go_wp2_with fail
      have HFF : Hid (frontL (L8 s) = L8 s1) := Lib.hid (by rw [← HF.out, HST.out])
      clear HF HST
      generalize wr = wq at *
      clear hcs hfz
      go_loopw [30] (fun _ wr => NLoop2 w w.heap.size n s1 e wr) (fun _ wr => strLen (wr.cell? ⟨w.heap.size, 1, none⟩))
      case atStart => exact ⟨s1, e, HD.out, HZ.out, rfl, Nat.le_refl _, by omega, HB.out⟩
      case round =>
        obtain ⟨s2, e2, hD, hZ, hen, hle2, hee, hb⟩ := hrel
        have HD2 := Lib.hid hD
        have HZ2 := Lib.hid hZ
        have HE2 := Lib.hid hen
        have HB2 := Lib.hid hb
        have HEE := Lib.hid hee
        have hcs : wr.cell? ⟨w.heap.size, 1, none⟩ = some (.string s2) := hD.cell 1
        have hce : wr.cell? ⟨w.heap.size, 2, none⟩ = some (.int .i64 e2) := hD.cell 2
        have hcn : wr.cell? ⟨w.heap.size, 0, none⟩ = some (.bool n) := hD.cell 0
        have hfz : wr.frozen? ⟨w.heap.size, 1, none⟩ = false := hD.frozen 1
        have hfe : wr.frozen? ⟨w.heap.size, 2, none⟩ = false := hD.frozen 2
        have hz0 : wr.frozen? ⟨w.heap.size + 1, 0, none⟩ = false := hZ.frozen 0
        have hz1 : wr.frozen? ⟨w.heap.size + 1, 1, none⟩ = false := hZ.frozen 1
        have hz2 : wr.frozen? ⟨w.heap.size + 1, 2, none⟩ = false := hZ.frozen 2
        have hy0 : wr.cell? ⟨w.heap.size + 1, 0, none⟩ = some (.bool false) := hZ.cell 0
        have hy1 : wr.cell? ⟨w.heap.size + 1, 1, none⟩ = some (.string (bs [])) := hZ.cell 1
        have hy2 : wr.cell? ⟨w.heap.size + 1, 2, none⟩ = some (.int .i64 0) := hZ.cell 2
        have hwl2 : w.heap.size + 1 < wr.heap.size := hZ.lt
        have heb0 : -5000000000 ≤ e2 := by omega
        have heb1 : e2 ≤ 5000000000 := by omega
        clear hD hZ hen hb hee HD HZ HB
        have hp0 : ¬ 0 < s2.size := by omega
        have hp0' : ¬ (0 : Int) < s2.size := by omega
        have HST2 := Lib.hid (end_stop (s := s2) (.inl (by omega)))
        have HNI : Hid (normF ⟨n, L8 s, e⟩ = if s2.size = 0 then zeroD else ⟨n, L8 s2, e2⟩) := Lib.hid (norm_is HFF.out (HE2.out.symm.trans HST2.out) HEE.out hle2)
        clear HE2 HST2 HEE HFF
        by_cases hz : s2.size = 0
        · have hzz : ((s2.size : Int) == 0) = true := by simp [hz]
          have hrr : zeroD = r := by rw [← HR.out, HNI.out, if_pos hz]
          subst hrr
          have HZZ := Lib.hid hz
          clear hz
          go_wp2
          refine bodyPost_ret (results_one Tryd.results32 _ _ (w.heap.size + 1) _ _ _ rfl (((HZ2.out.set' 0 (.bool false) rfl).set' 1 (.string (bs [])) rfl).set' 2 (.int .i64 0) rfl) Tryd.underlying52 rfl (by kernel_rfl)) rfl ?_
          exact ⟨rfl, ((HB2.out.setCell (by simp) _).setCell (by simp) _).setCell (by simp) _⟩
        · have hzz : ((s2.size : Int) == 0) = false := by rw [beq_eq_false_iff_ne]; omega
          have hrr : (⟨n, L8 s2, e2⟩ : Dc) = r := by rw [← HR.out, HNI.out, if_neg hz]
          subst hrr
          have HZZ := Lib.hid hz
          clear hz
          go_wp2
          refine bodyPost_ret (results_one Tryd.results32 _ _ (w.heap.size + 1) _ _ _ rfl (((HZ2.out.set' 0 (.bool n) rfl).set' 1 (.string s2) rfl).set' 2 (.int .i64 e2) rfl) Tryd.underlying52 rfl (by kernel_rfl)) rfl ?_
          exact ⟨ret_dc n s2 e2, ((HB2.out.setCell (by simp) _).setCell (by simp) _).setCell (by simp) _⟩
end Go.Proofs.YtiibfejgiilakaaDoor
