/- NumberReads: taken whole, and one at its end, just if it is read, whole, and within. -/
import Derived.Test.YtlnnaagdncpahaaDoorN11Cpy
import Derived.Test.YtlnnaagdncpahaaDoorG11Sem
import Derived.Test.YtlnnaagdncpahaaDoorG10RRead
import Derived.Test.YtlnnaagdncpahaaDoorG10Int
namespace Go.Proofs.YtlnnaagdncpahaaDoor
set_option maxRecDepth 100000
open Go.ChangeShapes Go.WideShapes Go.ChangeAt Go.RowKit
set_option linter.unusedVariables false
set_option linter.unusedSimpArgs false

/-- what is read has digits, and an exponent within -/
theorem read_in {s : List UInt8} {x : Dc} (hs : s.length ≤ 1000) (h : readF s = some x) : allD x.d ∧ x.d.length ≤ 1000000 ∧ -4000000000 ≤ x.e ∧ x.e ≤ 4000000000 := by
  rw [read_go] at h
  cases ht : goF t0 s with
  | none => rw [ht] at h; cases h
  | some t =>
    rw [ht] at h
    have hf : finF t = some x := h
    unfold finF at hf
    cases he : endsF t.p with
    | false => rw [he] at hf; cases hf
    | true =>
      rw [he, if_pos rfl] at hf
      obtain rfl := Option.some.inj hf
      have hg := good_go ht
      have h1 : exF t.x ≤ 1000000000 := by rw [exF_num]; omega
      have h2 := hg.lb
      have h3 := hg.ld
      have h4 := norm_e (decF t)
      have h5 := norm_len (decF t)
      have h6 := norm_allD (x := decF t) hg.d
      have e1 : (decF t).e = -(t.b : Int) + (if t.g = 45 then -(exF t.x : Int) else exF t.x) := rfl
      have e2 : (decF t).d = t.d := rfl
      rw [e2] at h4 h5
      rw [e1] at h4
      refine ⟨h6, by omega, ?_, ?_⟩
      · split at h4 <;> omega
      · split at h4 <;> omega
theorem new_len {s2 : List UInt8} : ((s2.length : Int) - (([] : List UInt8).length : Int)) = (s2.length : Int) := by simp
set_option maxHeartbeats 8000000 in
theorem reads_walk (s : ByteArray) (w : World) (hsz : s.size ≤ maxLen) :
    Calls Tryd.prog 5 #[.string s] w fun e w' => e = .returned (.bool true) ∧ Below w.heap.size w w' := by
  have HAW := Lib.hid (fun W => awake_any W)
  unfold maxLen at hsz
  go_enter Tryd.func5, Tryd.ntmps5
  go_wp2_with fail
  with_reducible refine (new_spec w.heap.size w).mono ?_
  rintro e1 w1 ⟨rfl, hn1, hb1⟩
  have HN1 := Lib.hid hn1
  have HB1 := Lib.hid hb1
  clear hn1 hb1
  by_cases hbig : 100 < s.size
  · have q0 : (100 : Int) < s.size := by omega
    go_wp2_with fail
    with_reducible refine (HAW.out _).mono ?_
    rintro e1 w2 ⟨rfl, hb2⟩
    have HB2 := Lib.hid (HB1.out.trans (hb2.mono (by have := HB1.out.size; omega)))
    clear hb2
    go_wp2
    go_ret
    exact ⟨rfl, HB2.out⟩
  have q0 : ¬ (100 : Int) < s.size := by omega
  obtain ⟨gN, hgN⟩ : ∃ gN, w.heap.size = gN := ⟨_, rfl⟩
  rw [hgN] at HN1 HB1 ⊢
  have hL : (L8 s).length = s.size := L8_len s
  have HFL := Lib.hid (feed_len [] (L8 s))
  have HFO := Lib.hid (fun x hr hi => feed_of (s := []) (l := L8 s) (x := x) (by simp; omega) hr hi)
  have HRI := Lib.hid (fun x h => read_in (s := L8 s) (x := x) (by omega) h)
  have HRD := Lib.hid (fun W => rread_any s W (by omega))
  have HSP := Lib.hid (stopF.eq_1 (L8 s))
  go_wp2_with fail
  refine Calls.mono (push_law gN gN (.slice none 0 0) [] s w1 HN1.out (by have := HB1.out.size; omega) (by simp; omega)) ?_
  rintro e1 w2 ⟨rfl, v2, hn, hf, hra⟩
  rw [new_len]
  have HB2 := Lib.hid (HB1.out.trans (hf.below (by have := HB1.out.size; omega) (Nat.le_refl _) HN1.out.low))
  have HN2 := Lib.hid hn
  clear hn hf hra HN1 HB1
  obtain ⟨s2, hs2⟩ : ∃ s2, (feedF [] (L8 s)).1 = s2 := ⟨_, rfl⟩
  obtain ⟨er, her⟩ : ∃ er, (feedF [] (L8 s)).2 = er := ⟨_, rfl⟩
  rw [hs2] at HN2
  rw [hs2, her] at HFL ⊢
  have HER := Lib.hid her
  clear hs2 her
  go_wp2_with fail
  refine Calls.mono (end_spec gN gN v2 s2 w2 HN2.out) ?_
  rintro e1 w3 ⟨rfl, hb3⟩
  have HB3 := Lib.hid (HB2.out.trans (hb3.mono (by have := HB2.out.size; omega)))
  clear hb3 HB2 HN2
  obtain ⟨x1, hx1⟩ : ∃ x1, (stopF s2).1 = x1 := ⟨_, rfl⟩
  obtain ⟨x2, hx2⟩ : ∃ x2, (stopF s2).2 = x2 := ⟨_, rfl⟩
  rw [hx1, hx2]
  have HX1 := Lib.hid hx1
  have HX2 := Lib.hid hx2
  clear hx1 hx2
  -- the document's number, and what both say
  have hdoc : ∃ (x : Dc) (ok : Bool), readV (readF (L8 s)) = .tuple #[dcV x, .bool ok] ∧ allD x.d ∧ x.d.length ≤ 1000000 ∧ -4000000000 ≤ x.e ∧ x.e ≤ 4000000000 ∧
      ((er = 0 ∧ s2.length = s.size ∧ x2 = 0 ∧ ok = true ∧ (intF x).2 = 0 ∧ x1 = (intF x).1) ∨ (ok = false ∧ ¬ (er = 0 ∧ x2 = 0)) ∨ (ok = true ∧ (intF x).2 ≠ 0 ∧ ¬ (er = 0 ∧ x2 = 0))) := by
    cases hrd : readF (L8 s) with
    | none =>
      refine ⟨zeroD, false, rfl, (fun c hc => by cases hc), by decide, by decide, by decide, .inr (.inl ⟨rfl, fun ⟨h1, h2⟩ => ?_⟩)⟩
      have h3 := HFL.out.2.2 h1
      rw [List.nil_append] at h3
      rw [← HX2.out, h3, HSP.out, hrd] at h2
      cases h2
    | some x =>
      obtain ⟨r1, r2, r3, r4⟩ := HRI.out x hrd
      refine ⟨x, true, rfl, r1, r2, r3, r4, ?_⟩
      by_cases hi : (intF x).2 = 0
      · left
        have h1 := HFO.out x (by rw [List.nil_append]; exact hrd) hi
        have h2 : er = 0 := by rw [← HER.out, h1]
        have h3 := HFL.out.2.2 h2
        rw [List.nil_append] at h3
        have h4 : stopF s2 = intF x := by rw [h3, HSP.out, hrd]
        refine ⟨h2, by rw [h3, hL], by rw [← HX2.out, h4]; exact hi, rfl, hi, by rw [← HX1.out, h4]⟩
      · right; right
        refine ⟨rfl, hi, fun ⟨h1, h2⟩ => ?_⟩
        have h3 := HFL.out.2.2 h1
        rw [List.nil_append] at h3
        have h4 : stopF s2 = intF x := by rw [h3, HSP.out, hrd]
        rw [← HX2.out, h4] at h2
        exact hi h2
  obtain ⟨x, ok, hrv, r1, r2, r3, r4, hcs⟩ := hdoc
  rw [hrv] at HRD
  have HI := Lib.hid (fun W => rint_any x W r1 r2 r3 r4)
  obtain ⟨y1, hy1⟩ : ∃ y1, (intF x).1 = y1 := ⟨_, rfl⟩
  obtain ⟨y2, hy2⟩ : ∃ y2, (intF x).2 = y2 := ⟨_, rfl⟩
  rw [hy1, hy2] at HI hcs
  clear hrv r1 r2 r3 r4 HFL HFO HRI HSP HX1 HX2 HER hy1 hy2
  obtain ⟨xn, xd, xe⟩ := x
  unfold dcV at HRD HI
  dsimp only at HRD HI
  generalize bs xd = xs at *
  go_wp2_with fail
  refine Calls.mono (HRD.out _) ?_
  rintro e1 w4 ⟨rfl, hb4⟩
  have HB4 := Lib.hid (HB3.out.trans (hb4.mono (by have := HB3.out.size; omega)))
  clear hb4 HB3
  go_wp2_with fail
  refine Calls.mono (HI.out _) ?_
  rintro e1 w5 ⟨rfl, hb5⟩
  have HB5 : Hid (Below gN w w5) := Lib.hid ((HB4.out.alloc (by have := HB4.out.size; omega) _).trans (hb5.mono (by rw [World.size_alloc]; have := HB4.out.size; omega)))
  clear hb5 HB4 HI HRD
  obtain ⟨be, hbe⟩ : ∃ b : Bool, (er == 0) = b := ⟨_, rfl⟩
  obtain ⟨bx, hbx⟩ : ∃ b : Bool, (x2 == 0) = b := ⟨_, rfl⟩
  obtain ⟨bl, hbl⟩ : ∃ b : Bool, ((s2.length : Int) == (s.size : Int)) = b := ⟨_, rfl⟩
  obtain ⟨bg, hbg⟩ : ∃ b : Bool, (y2 == 0) = b := ⟨_, rfl⟩
  obtain ⟨bxy, hbxy⟩ : ∃ b : Bool, (x1 == y1) = b := ⟨_, rfl⟩
  have hfin : (be = true ∧ bl = true ∧ bx = true ∧ ok = true ∧ bg = true ∧ bxy = true) ∨ (ok = false ∧ (be = false ∨ bx = false)) ∨ (ok = true ∧ bg = false ∧ (be = false ∨ bx = false)) := by
    have hor : ¬ (er = 0 ∧ x2 = 0) → be = false ∨ bx = false := by
      intro h
      by_cases h1 : er = 0
      · right; rw [← hbx]; simpa using fun h2 => h ⟨h1, h2⟩
      · left; rw [← hbe]; simpa using h1
    rcases hcs with ⟨h1, h2, h3, h4, h5, h6⟩ | ⟨h1, h2⟩ | ⟨h1, h2, h3⟩
    · left
      refine ⟨by rw [← hbe]; simpa using h1, by rw [← hbl, h2]; simp, by rw [← hbx]; simpa using h3, h4, by rw [← hbg]; simpa using h5, by rw [← hbxy, h6]; simp⟩
    · exact .inr (.inl ⟨h1, hor h2⟩)
    · exact .inr (.inr ⟨h1, by rw [← hbg]; simpa using h2, hor h3⟩)
  clear hcs
  rcases hfin with ⟨rfl, rfl, rfl, rfl, rfl, rfl⟩ | ⟨rfl, hh⟩ | ⟨rfl, rfl, hh⟩
  case' inr.inl => (rcases hh with rfl | rfl <;> cases bl <;> try (cases be))
  case' inr.inr => (rcases hh with rfl | rfl <;> cases bl <;> try (cases be))
  all_goals
    go_wp2_with fail
    with_reducible refine (HAW.out _).mono ?_
    rintro e1 w6 ⟨rfl, hb6⟩
    have HB6 := Lib.hid (HB5.out.trans (hb6.mono (by have := HB5.out.size; omega)))
    clear hb6
    go_wp2
    go_ret
    exact ⟨rfl, by rw [hgN]; exact HB6.out⟩
end Go.Proofs.YtlnnaagdncpahaaDoor
