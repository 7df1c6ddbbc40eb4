/- Joined of: G12Math, G12Dig, G12Hope, P12A, P12S, P12St. -/
import Derived.Test.YtdcfhkiajeiaoaaDoorJ12B
import Derived.Test.YtdcfhkiajeiaoaaDoorJ12A
import Derived.StillTailTactics
import Derived.Deep.QuietTactic
import Derived.BigQuiet
import Derived.Test.YtdcfhkiajeiaoaaDoorJ12C
import Derived.Deep.CutRange
import Derived.Deep.CutBlock
/- A string by its bytes: what a byte behind it makes of it; the places of an escape. No program in it. -/
namespace Go.Proofs.YtdcfhkiajeiaoaaDoor
set_option maxRecDepth 100000
set_option linter.unusedVariables false
set_option linter.unusedSimpArgs false

/-- what it has said (o), a scalar's bytes that are begun (b), an escape (e: 0 none, 1 behind its sign, 2 behind u), digits of that (h), the half that waits (k), whether it is over (v) -/
structure Ss where
  o : List Int
  b : List Int
  e : Nat
  h : List Int
  k : Int
  v : Bool
def ss0 : Ss := ⟨[], [], 0, [], 0, false⟩
def hexF (x : Int) : Int := if 48 ≤ x ∧ x ≤ 57 then x - 48 else if 97 ≤ x ∧ x ≤ 102 then x - 87 else if 65 ≤ x ∧ x ≤ 70 then x - 55 else -1
def simpF (x : Int) : Int := if x = 34 then 34 else if x = 92 then 92 else if x = 47 then 47 else if x = 98 then 8 else if x = 102 then 12 else if x = 110 then 10 else if x = 114 then 13 else if x = 116 then 9 else -1
/-- half of a pair, the second one, by the digits so far -/
def lowH : List Int → Bool
  | a :: b :: _ => decide (a = 13 ∧ 12 ≤ b)
  | _ => false
def badH (k : Int) (h : List Int) : Bool := if 0 < k then (decide (h.headD 0 ≠ 13) || (decide (2 ≤ h.length) && !lowH h)) else lowH h
/-- a noncharacter, whatever the last digit is -/
def nonH : List Int → Bool
  | [a, b, c] => decide (a = 15 ∧ b = 13 ∧ (c = 13 ∨ c = 14))
  | _ => false
def valH (h : List Int) : Int := h.foldl (fun a d => a * 16 + d) 0
def joinF (k u : Int) : Int := if 0 < k then 65536 + (k - 55296) * 1024 + (u - 56320) else u
def digS (s : Ss) (x : Int) : Int × Ss :=
  if hexF x < 0 then (2, s) else
  if badH s.k (s.h ++ [hexF x]) = true then (5, s) else
  if (decide (s.k = 0) && nonH (s.h ++ [hexF x])) = true then (6, s) else
  if s.h.length + 1 < 4 then (0, { s with h := s.h ++ [hexF x] }) else
  if (decide (s.k = 0) && highB (valH (s.h ++ [hexF x]))) = true then (0, { s with h := [], e := 0, k := valH (s.h ++ [hexF x]) }) else
  if noncharB (joinF s.k (valH (s.h ++ [hexF x]))) = true then (6, s) else
  (0, { s with o := s.o ++ [joinF s.k (valH (s.h ++ [hexF x]))], h := [], e := 0, k := 0 })
def escS (s : Ss) (x : Int) : Int × Ss :=
  if x = 117 then (0, { s with e := 2, h := [] }) else
  if simpF x < 0 then (2, s) else
  if 0 < s.k then (5, s) else (0, { s with o := s.o ++ [simpF x], e := 0 })
def bytS (s : Ss) (x : Int) : Int × Ss :=
  if how (s.b ++ [x]) = 0 then (4, s) else
  if 0 < s.k then (5, s) else
  if how (s.b ++ [x]) = 1 then (0, { s with b := s.b ++ [x] }) else
  if noncharB (ubits (s.b ++ [x])) = true then (6, s) else
  (0, { s with o := s.o ++ [ubits (s.b ++ [x])], b := [] })
def pushS (s : Ss) (x : Int) : Bool × Int × Ss :=
  if (s.v || decide (x < 32)) = true then (false, 2, s) else
  if s.e = 2 then (false, (digS s x).1, (digS s x).2) else
  if s.e = 1 then (false, (escS s x).1, (escS s x).2) else
  if s.b ≠ [] ∨ 128 ≤ x then (false, (bytS s x).1, (bytS s x).2) else
  if x = 92 then (false, 0, { s with e := 1 }) else
  if 0 < s.k then (false, 5, s) else
  if x = 34 then (true, 0, { s with v := true }) else
  (false, 0, { s with o := s.o ++ [x] })
def insS (s : Ss) : Bool := decide (0 < s.e) || (decide (s.b ≠ []) || decide (0 < s.k))
/-- fed byte by byte till one is not OK or it is over: how many were taken ahead of that one, its error, over, what it is then -/
def feedS (s : Ss) : List Int → Nat → Nat × Int × Bool × Ss
  | [], i => (i, 0, false, s)
  | x :: l, i => if (pushS s x).2.1 ≠ 0 ∨ (pushS s x).1 = true then (i, (pushS s x).2.1, (pushS s x).1, (pushS s x).2.2) else feedS (pushS s x).2.2 l (i + 1)
/-- what holds of all that was pushed -/
structure SOk (s : Ss) : Prop where
  o : ∀ c ∈ s.o, isB c = true ∧ noncharB c = false
  b : s.b = [] ∨ how s.b = 1
  bb : ∀ x ∈ s.b, 0 ≤ x ∧ x ≤ 255
  e : s.e ≤ 2
  h : s.h.length ≤ 3
  hd : ∀ d ∈ s.h, 0 ≤ d ∧ d ≤ 15
  h2 : s.e ≠ 2 → s.h = []
  eb : s.e ≠ 0 → s.b = []
  kb : 0 < s.k → s.b = []
  k : s.k = 0 ∨ (55296 ≤ s.k ∧ s.k ≤ 56319)
  v : s.v = true → s.e = 0 ∧ s.b = [] ∧ s.k = 0
  bad : s.e = 2 → s.h ≠ [] → badH s.k s.h = false
  non : s.e = 2 → s.k = 0 → nonH s.h = false
theorem sok_0 : SOk ss0 := ⟨(fun c h => by cases h), .inl rfl, (fun c h => by cases h), by decide, by decide, (fun c h => by cases h), fun _ => rfl, fun _ => rfl, fun _ => rfl, .inl rfl, (fun h => by cases h), (fun h => by cases h), (fun h => by cases h)⟩
theorem hex_bd (x : Int) : -1 ≤ hexF x ∧ hexF x ≤ 15 := by unfold hexF; (repeat' split) <;> omega
theorem simp_bd (x : Int) : (simpF x = -1 ∨ 8 ≤ simpF x) ∧ simpF x ≤ 92 := by unfold simpF; (repeat' split) <;> omega
theorem isB_small {c : Int} (h : 0 ≤ c) (g : c ≤ 127) : isB c = true ∧ noncharB c = false := by
  refine ⟨decide_eq_true (by omega), ?_⟩
  unfold noncharB
  exact decide_eq_false (by omega)
theorem valH_4 (a b c d : Int) : valH [a, b, c, d] = ((a * 16 + b) * 16 + c) * 16 + d := by simp [valH]
theorem len3 {h : List Int} (hl : h.length = 3) : ∃ a b c, h = [a, b, c] := by
  match h, hl with
  | [a, b, c], _ => exact ⟨a, b, c, rfl⟩
/-- the unit that four digits make -/
theorem unit_is {k : Int} {a b c d : Int} (ha : 0 ≤ a ∧ a ≤ 15) (hb : 0 ≤ b ∧ b ≤ 15) (hc : 0 ≤ c ∧ c ≤ 15) (hd : 0 ≤ d ∧ d ≤ 15) (hk : k = 0 ∨ (55296 ≤ k ∧ k ≤ 56319)) (h : badH k [a, b, c, d] = false) :
    0 ≤ valH [a, b, c, d] ∧ valH [a, b, c, d] ≤ 65535 ∧ (0 < k → 56320 ≤ valH [a, b, c, d] ∧ valH [a, b, c, d] ≤ 57343) ∧ (k = 0 → ¬ (56320 ≤ valH [a, b, c, d] ∧ valH [a, b, c, d] ≤ 57343)) := by
  rw [valH_4]
  unfold badH lowH at h
  simp only [List.headD_cons, List.length_cons, List.length_nil] at h
  refine ⟨by omega, by omega, fun h0 => ?_, fun h0 => ?_⟩
  · rw [if_pos h0] at h
    simp at h
    omega
  · rw [if_neg (by omega)] at h
    simp at h
    omega
/-- what is said then is a scalar -/
theorem join_is {k u : Int} (hk : k = 0 ∨ (55296 ≤ k ∧ k ≤ 56319)) (h0 : 0 ≤ u) (h1 : u ≤ 65535) (h2 : 0 < k → 56320 ≤ u ∧ u ≤ 57343) (h3 : k = 0 → ¬ (56320 ≤ u ∧ u ≤ 57343)) (h4 : k = 0 → highB u = false) : isB (joinF k u) = true := by
  unfold joinF isB
  refine decide_eq_true ?_
  by_cases h : 0 < k
  · rw [if_pos h]
    have := h2 h
    omega
  · rw [if_neg h]
    have e : k = 0 := by omega
    have := h3 e
    have := h4 e
    unfold highB at this
    have := of_decide_eq_false this
    omega
theorem bits_isB {b : List Int} (hb : ∀ x ∈ b, 0 ≤ x ∧ x ≤ 255) (h : how b = 2) : isB (ubits b) = true := by
  have u1 : ∀ a : Int, 0 ≤ a → lng a = 1 → a < 128 := fun a _ h => by unfold lng at h; (repeat' split at h) <;> omega
  have u2 : ∀ a : Int, 0 ≤ a → lng a = 2 → 194 ≤ a ∧ a ≤ 223 := fun a _ h => by unfold lng at h; (repeat' split at h) <;> omega
  have u3 : ∀ a : Int, 0 ≤ a → lng a = 3 → 224 ≤ a ∧ a ≤ 239 := fun a _ h => by unfold lng at h; (repeat' split at h) <;> omega
  have u4 : ∀ a : Int, 0 ≤ a → 4 ≤ lng a → 240 ≤ a ∧ a ≤ 244 := fun a _ h => by unfold lng at h; (repeat' split at h) <;> omega
  match b, h, hb with
  | [a], h, hb =>
    have ha := hb a (by simp)
    simp only [how] at h
    split at h
    · have := u1 a ha.1 (by assumption)
      have e : mkT a = 0 := by unfold mkT; rw [if_pos this]
      show isB (a - mkT a) = true
      rw [e]
      exact decide_eq_true (by omega)
    · split at h <;> cases h
  | [a, c], h, hb =>
    have ha := hb a (by simp)
    simp only [how] at h
    split at h
    · rename_i h1
      split at h
      · have h2 := u2 a ha.1 (by assumption)
        have hs := of_decide_eq_true h1.2
        unfold lo2 hi2 at hs
        show isB ((a - mkT a) * 64 + (c - 128)) = true
        rw [mk_is2 h2.1 h2.2]
        exact decide_eq_true (by (repeat' split at hs) <;> omega)
      · cases h
    · cases h
  | [a, c, d], h, hb =>
    have ha := hb a (by simp)
    simp only [how] at h
    split at h
    · rename_i h1
      split at h
      · have h2 := u3 a ha.1 (by assumption)
        have hs := of_decide_eq_true h1.2.1
        have ht := of_decide_eq_true h1.2.2
        unfold lo2 hi2 at hs
        show isB (((a - mkT a) * 64 + (c - 128)) * 64 + (d - 128)) = true
        rw [mk_is3 h2.1 h2.2]
        exact decide_eq_true (by (repeat' split at hs) <;> omega)
      · cases h
    · cases h
  | [a, c, d, f], h, hb =>
    have ha := hb a (by simp)
    simp only [how] at h
    split at h
    · rename_i h1
      have h2 := u4 a ha.1 h1.1
      have hs := of_decide_eq_true h1.2.1
      have ht := of_decide_eq_true h1.2.2.1
      have hv := of_decide_eq_true h1.2.2.2
      unfold lo2 hi2 at hs
      show isB ((((a - mkT a) * 64 + (c - 128)) * 64 + (d - 128)) * 64 + (f - 128)) = true
      rw [mk_is4 h2.1 h2.2]
      exact decide_eq_true (by (repeat' split at hs) <;> omega)
    · cases h
theorem snoc_mem {α : Type} {l : List α} {x : α} {P : α → Prop} (h : ∀ a ∈ l, P a) (hx : P x) : ∀ a ∈ l ++ [x], P a := fun a ha => by
  rcases List.mem_append.1 ha with ha | ha
  · exact h a ha
  · rw [List.mem_singleton.1 ha]; exact hx
theorem dig_ok {s : Ss} (h : SOk s) (he : s.e = 2) (hv : s.v = false) (x : Int) : SOk (digS s x).2 := by
  have hx := hex_bd x
  obtain ⟨a1, a2, a3, a4, a5, a6, a7, a8, a9, a10, a11, a12, a13⟩ := h
  have hself : SOk s := ⟨a1, a2, a3, a4, a5, a6, a7, a8, a9, a10, a11, a12, a13⟩
  unfold digS
  split
  · exact hself
  rename_i hn
  have hdd : ∀ d ∈ s.h ++ [hexF x], 0 ≤ d ∧ d ≤ 15 := snoc_mem a6 (by omega)
  have hb0 := a8 (by omega)
  split
  · exact hself
  rename_i hbad
  have hbad : badH s.k (s.h ++ [hexF x]) = false := by simpa using hbad
  split
  · exact hself
  rename_i hnon
  split
  · rename_i h3
    refine ⟨a1, a2, a3, a4, by show (s.h ++ [hexF x]).length ≤ 3; rw [List.length_append, List.length_singleton]; omega, hdd, fun h => absurd he h, a8, a9, a10, (fun h => by rw [hv] at h; cases h), fun _ _ => hbad, fun _ hk => ?_⟩
    have hk : s.k = 0 := hk
    simpa [hk] using hnon
  rename_i h3
  obtain ⟨p, q, r, hh⟩ := len3 (h := s.h) (by omega)
  rw [hh] at hdd hbad
  have hp := hdd p (by simp)
  have hq := hdd q (by simp)
  have hr := hdd r (by simp)
  have hs := hdd (hexF x) (by simp)
  obtain ⟨u0, u1, u2, u3⟩ := unit_is hp hq hr hs a10 hbad
  have e4 : s.h ++ [hexF x] = [p, q, r, hexF x] := by rw [hh]; rfl
  rw [e4]
  generalize valH [p, q, r, hexF x] = u at *
  split
  · rename_i hhi
    have hhi := hhi
    simp only [Bool.and_eq_true, decide_eq_true_eq] at hhi
    have hb2 := of_decide_eq_true hhi.2
    exact ⟨a1, a2, a3, by show 0 ≤ 2; omega, by show 0 ≤ 3; omega, (fun c h => by cases h), fun _ => rfl, fun h => absurd rfl h, fun _ => hb0, .inr hb2, (fun h => by rw [hv] at h; cases h), (fun h => by cases h), (fun h => by cases h)⟩
  rename_i hhi
  split
  · exact hself
  rename_i hnc
  have hj : isB (joinF s.k u) = true := join_is a10 u0 u1 u2 u3 (fun hk => by simpa [hk] using hhi)
  exact ⟨snoc_mem a1 ⟨hj, by simpa using hnc⟩, a2, a3, by show 0 ≤ 2; omega, by show 0 ≤ 3; omega, (fun c h => by cases h), fun _ => rfl, fun h => absurd rfl h, fun _ => hb0, .inl rfl, (fun h => by rw [hv] at h; cases h), (fun h => by cases h), (fun h => by cases h)⟩
theorem esc_ok {s : Ss} (h : SOk s) (he : s.e = 1) (hv : s.v = false) (x : Int) : SOk (escS s x).2 := by
  have hx := simp_bd x
  obtain ⟨a1, a2, a3, a4, a5, a6, a7, a8, a9, a10, a11, a12, a13⟩ := h
  have hself : SOk s := ⟨a1, a2, a3, a4, a5, a6, a7, a8, a9, a10, a11, a12, a13⟩
  have hb0 := a8 (by omega)
  have hh0 := a7 (by omega)
  unfold escS
  split
  · exact ⟨a1, a2, a3, by show 2 ≤ 2; omega, by show 0 ≤ 3; omega, (fun c h => by cases h), fun _ => rfl, fun _ => hb0, a9, a10, (fun h => by rw [hv] at h; cases h), fun _ h => absurd rfl h, fun _ _ => rfl⟩
  split
  · exact hself
  split
  · exact hself
  rename_i h1 h2 h3
  exact ⟨snoc_mem a1 (isB_small (by omega) (by omega)), a2, a3, by show 0 ≤ 2; omega, a5, a6, fun _ => hh0, fun h => absurd rfl h, a9, a10, (fun h => by rw [hv] at h; cases h), (fun h => by cases h), (fun h => by cases h)⟩
theorem byt_ok {s : Ss} (h : SOk s) (he : s.e = 0) (hv : s.v = false) {x : Int} (h0 : 0 ≤ x) (h1 : x ≤ 255) : SOk (bytS s x).2 := by
  obtain ⟨a1, a2, a3, a4, a5, a6, a7, a8, a9, a10, a11, a12, a13⟩ := h
  have hself : SOk s := ⟨a1, a2, a3, a4, a5, a6, a7, a8, a9, a10, a11, a12, a13⟩
  have hb3 := snoc_mem a3 (x := x) ⟨h0, h1⟩
  have hne : s.e ≠ 2 := by omega
  unfold bytS
  split
  · exact hself
  rename_i n0
  split
  · exact hself
  rename_i n1
  split
  · rename_i n2
    exact ⟨a1, .inr n2, hb3, a4, a5, a6, a7, fun h => absurd he h, fun h => absurd h n1, a10, (fun h => by rw [hv] at h; cases h), fun h => absurd h hne, fun h => absurd h hne⟩
  rename_i n2
  have n3 : how (s.b ++ [x]) = 2 := by rcases how_cases (s.b ++ [x]) with h | h | h <;> first | exact h | exact absurd h n0 | exact absurd h n2
  split
  · exact hself
  rename_i n4
  exact ⟨snoc_mem a1 ⟨bits_isB hb3 n3, by simpa using n4⟩, .inl rfl, (fun c h => by cases h), a4, a5, a6, a7, fun _ => rfl, fun _ => rfl, a10, (fun h => by rw [hv] at h; cases h), fun h => absurd h hne, fun h => absurd h hne⟩
theorem push_ok {s : Ss} (h : SOk s) {x : Int} (h0 : 0 ≤ x) (h1 : x ≤ 255) : SOk (pushS s x).2.2 := by
  unfold pushS
  split
  · exact h
  rename_i hv
  simp only [Bool.or_eq_true, decide_eq_true_eq, not_or, Bool.not_eq_true] at hv
  split
  · rename_i he; exact dig_ok h he hv.1 x
  rename_i he2
  split
  · rename_i he; exact esc_ok h he hv.1 x
  rename_i he1
  have he := h.e
  have he0 : s.e = 0 := by omega
  split
  · exact byt_ok h he0 hv.1 h0 h1
  rename_i hb
  have hb0 : s.b = [] := Classical.byContradiction fun hn => hb (.inl hn)
  have hx : x < 128 := by
    apply Classical.byContradiction; intro hn
    exact hb (.inr (by omega))
  obtain ⟨a1, a2, a3, a4, a5, a6, a7, a8, a9, a10, a11, a12, a13⟩ := h
  split
  · exact ⟨a1, a2, a3, by show 1 ≤ 2; omega, a5, a6, fun _ => a7 (by omega), fun _ => hb0, a9, a10, (fun h => by rw [hv.1] at h; cases h), (fun h => by cases h), (fun h => by cases h)⟩
  split
  · exact ⟨a1, a2, a3, a4, a5, a6, a7, a8, a9, a10, a11, a12, a13⟩
  rename_i n1
  split
  · exact ⟨a1, a2, a3, a4, a5, a6, a7, a8, a9, a10, fun _ => ⟨he0, hb0, by show s.k = 0; omega⟩, a12, a13⟩
  · exact ⟨snoc_mem a1 (isB_small (by omega) (by omega)), a2, a3, a4, a5, a6, a7, a8, a9, a10, (fun h => by rw [hv.1] at h; cases h), a12, a13⟩
theorem push_len (s : Ss) (x : Int) : (pushS s x).2.2.o.length ≤ s.o.length + 1 := by
  unfold pushS digS escS bytS
  repeat' split
  all_goals simp
end Go.Proofs.YtdcfhkiajeiaoaaDoor

/- Why no unit begins with these digits: the program's span against the digits. No program in it. -/
namespace Go.Proofs.YtdcfhkiajeiaoaaDoor
set_option maxRecDepth 100000
set_option linter.unusedVariables false
set_option linter.unusedSimpArgs false

def mntF (k u : Int) : Int := if 0 < k ∧ 56320 ≤ u ∧ u ≤ 57343 then 65536 + (k - 55296) * 1024 + (u - 56320) else u
def whyF (k f l : Int) : Int := if (if 0 < k then !lowB l else lowB f) = true then 5 else if noncharB (mntF k f) = true then 6 else 0
def spanB (z b f l : Int) : Prop := (z = 1 ∧ f = b * 4096 ∧ l = b * 4096 + 4095) ∨ (z = 2 ∧ f = b * 256 ∧ l = b * 256 + 255) ∨ (z = 3 ∧ f = b * 16 ∧ l = b * 16 + 15) ∨ (z = 4 ∧ f = b ∧ l = b)
theorem valH_snoc (h : List Int) (d : Int) : valH (h ++ [d]) = valH h * 16 + d := by simp [valH]
theorem why_1 {k a : Int} (ha : 0 ≤ a ∧ a ≤ 15) (hk : k = 0 ∨ (55296 ≤ k ∧ k ≤ 56319)) : whyF k (a * 4096) (a * 4096 + 4095) = if badH k [a] = true then 5 else 0 := by
  have e1 : lowB (a * 4096 + 4095) = decide (a = 13) := by unfold lowB; exact decide_eq_decide.2 (by omega)
  have e2 : lowB (a * 4096) = false := decide_eq_false (by omega)
  have e3 : noncharB (mntF k (a * 4096)) = false := by
    unfold mntF
    rw [if_neg (by omega)]
    exact decide_eq_false (by omega)
  unfold whyF badH
  rw [e1, e2, e3]
  by_cases h : 0 < k <;> simp [h, lowH]
theorem why_2 {k a b : Int} (ha : 0 ≤ a ∧ a ≤ 15) (hb : 0 ≤ b ∧ b ≤ 15) (hk : k = 0 ∨ (55296 ≤ k ∧ k ≤ 56319)) : whyF k ((a * 16 + b) * 256) ((a * 16 + b) * 256 + 255) = if badH k [a, b] = true then 5 else 0 := by
  have e1 : lowB ((a * 16 + b) * 256 + 255) = decide (a = 13 ∧ 12 ≤ b) := by unfold lowB; exact decide_eq_decide.2 (by omega)
  have e2 : lowB ((a * 16 + b) * 256) = decide (a = 13 ∧ 12 ≤ b) := by unfold lowB; exact decide_eq_decide.2 (by omega)
  have e3 : noncharB (mntF k ((a * 16 + b) * 256)) = false := by
    unfold mntF
    split
    · exact decide_eq_false (by omega)
    · exact decide_eq_false (by omega)
  unfold whyF badH
  rw [e1, e2, e3]
  by_cases h : 0 < k
  · by_cases h3 : a = 13 <;> simp [h, lowH, h3]
  · simp [h, lowH]
theorem why_3 {k a b c : Int} (ha : 0 ≤ a ∧ a ≤ 15) (hb : 0 ≤ b ∧ b ≤ 15) (hc : 0 ≤ c ∧ c ≤ 15) (hk : k = 0 ∨ (55296 ≤ k ∧ k ≤ 56319)) : whyF k (((a * 16 + b) * 16 + c) * 16) (((a * 16 + b) * 16 + c) * 16 + 15) = if badH k [a, b, c] = true then 5 else if (decide (k = 0) && nonH [a, b, c]) = true then 6 else 0 := by
  have e1 : lowB (((a * 16 + b) * 16 + c) * 16 + 15) = decide (a = 13 ∧ 12 ≤ b) := by unfold lowB; exact decide_eq_decide.2 (by omega)
  have e2 : lowB (((a * 16 + b) * 16 + c) * 16) = decide (a = 13 ∧ 12 ≤ b) := by unfold lowB; exact decide_eq_decide.2 (by omega)
  by_cases h : 0 < k
  · have hk0 : decide (k = 0) = false := decide_eq_false (by omega)
    have ebad : badH k [a, b, c] = !decide (a = 13 ∧ 12 ≤ b) := by
      unfold badH
      rw [if_pos h]
      by_cases h3 : a = 13 <;> simp [lowH, h3]
    unfold whyF
    rw [e1, e2, if_pos h, ebad, hk0]
    by_cases hl : a = 13 ∧ 12 ≤ b
    · have e3 : noncharB (mntF k (((a * 16 + b) * 16 + c) * 16)) = false := by
        unfold mntF
        rw [if_pos (by omega)]
        exact decide_eq_false (by omega)
      rw [e3]
      simp [hl]
    · rw [decide_eq_false hl]
      simp
  · have hk0 : k = 0 := by omega
    have ebad : badH k [a, b, c] = decide (a = 13 ∧ 12 ≤ b) := by
      unfold badH
      rw [if_neg h]
      simp [lowH]
    have e3 : noncharB (mntF k (((a * 16 + b) * 16 + c) * 16)) = nonH [a, b, c] := by
      unfold mntF
      rw [if_neg (by omega)]
      unfold noncharB nonH
      exact decide_eq_decide.2 (by omega)
    unfold whyF
    rw [e1, e2, if_neg h, ebad, e3, decide_eq_true hk0, Bool.true_and]
theorem why_4 {k a b c e : Int} (ha : 0 ≤ a ∧ a ≤ 15) (hb : 0 ≤ b ∧ b ≤ 15) (hc : 0 ≤ c ∧ c ≤ 15) (he : 0 ≤ e ∧ e ≤ 15) (hk : k = 0 ∨ (55296 ≤ k ∧ k ≤ 56319)) : whyF k (valH [a, b, c, e]) (valH [a, b, c, e]) = if badH k [a, b, c, e] = true then 5 else if noncharB (joinF k (valH [a, b, c, e])) = true then 6 else 0 := by
  have hv := valH_4 a b c e
  generalize valH [a, b, c, e] = u at *
  have e1 : lowB u = decide (a = 13 ∧ 12 ≤ b) := by unfold lowB; exact decide_eq_decide.2 (by omega)
  by_cases h : 0 < k
  · have ebad : badH k [a, b, c, e] = !decide (a = 13 ∧ 12 ≤ b) := by
      unfold badH
      rw [if_pos h]
      by_cases h3 : a = 13 <;> simp [lowH, h3]
    unfold whyF
    rw [e1, if_pos h, ebad]
    by_cases hl : a = 13 ∧ 12 ≤ b
    · have e3 : mntF k u = joinF k u := by
        unfold mntF joinF
        rw [if_pos (by omega), if_pos h]
      rw [e3]
    · rw [decide_eq_false hl]
      simp
  · have ebad : badH k [a, b, c, e] = decide (a = 13 ∧ 12 ≤ b) := by
      unfold badH
      rw [if_neg h]
      simp [lowH]
    have e3 : mntF k u = joinF k u := by
      unfold mntF joinF
      rw [if_neg (by omega), if_neg h]
    unfold whyF
    rw [e1, if_neg h, ebad, e3]
/-- what the program finds of a digit, and what comes of it -/
theorem why_dig {s : Ss} (h : SOk s) (he : s.e = 2) {x f l : Int} (hx : 0 ≤ hexF x) (hs : spanB (s.h.length + 1) (valH s.h * 16 + hexF x) f l) :
    (whyF s.k f l ≠ 0 → digS s x = (whyF s.k f l, s))
    ∧ (whyF s.k f l = 0 → s.h.length + 1 < 4 → digS s x = (0, { s with h := s.h ++ [hexF x] }))
    ∧ (whyF s.k f l = 0 → s.h.length = 3 → 0 ≤ valH s.h * 16 + hexF x ∧ valH s.h * 16 + hexF x ≤ 65535 ∧ badH s.k (s.h ++ [hexF x]) = false
        ∧ (highB (valH s.h * 16 + hexF x) = true → s.k = 0 ∧ digS s x = (0, { s with h := [], e := 0, k := valH s.h * 16 + hexF x }))
        ∧ (highB (valH s.h * 16 + hexF x) = false → mntF s.k (valH s.h * 16 + hexF x) = joinF s.k (valH s.h * 16 + hexF x) ∧ noncharB (joinF s.k (valH s.h * 16 + hexF x)) = false ∧ isB (joinF s.k (valH s.h * 16 + hexF x)) = true ∧ digS s x = (0, { s with o := s.o ++ [joinF s.k (valH s.h * 16 + hexF x)], h := [], e := 0, k := 0 }))) := by
  have hb := hex_bd x
  have hk := h.k
  have hl3 := h.h
  have hd := h.hd
  rw [← valH_snoc] at hs ⊢
  unfold digS
  rw [if_neg (by omega)]
  have hd' : ∀ d ∈ s.h ++ [hexF x], 0 ≤ d ∧ d ≤ 15 := snoc_mem hd (by omega)
  generalize hexF x = y at *
  obtain ⟨o, b, e, hh, k, v⟩ := s
  dsimp only at *
  match hh, hl3, hd', hs with
  | [], _, hd', hs =>
    have ha := hd' y (by simp)
    obtain ⟨_, rfl, rfl⟩ : True ∧ f = valH ([] ++ [y]) * 4096 ∧ l = valH ([] ++ [y]) * 4096 + 4095 := by
      rcases hs with ⟨h1, h2, h3⟩ | ⟨h1, _⟩ | ⟨h1, _⟩ | ⟨h1, _⟩
      · exact ⟨trivial, h2, h3⟩
      all_goals (simp at h1)
    have hv : valH ([] ++ [y]) = y := by simp [valH]
    rw [hv, why_1 ha hk]
    have e : ([] : List Int) ++ [y] = [y] := rfl
    rw [e]
    cases hbd : badH k [y] with
    | true => simp
    | false => simp [nonH]
  | [a], _, hd', hs =>
    have ha := hd' a (by simp)
    have hy := hd' y (by simp)
    obtain ⟨_, rfl, rfl⟩ : True ∧ f = valH ([a] ++ [y]) * 256 ∧ l = valH ([a] ++ [y]) * 256 + 255 := by
      rcases hs with ⟨h1, _⟩ | ⟨h1, h2, h3⟩ | ⟨h1, _⟩ | ⟨h1, _⟩
      · simp at h1
      · exact ⟨trivial, h2, h3⟩
      all_goals (simp at h1)
    have hv : valH ([a] ++ [y]) = a * 16 + y := by simp [valH]
    rw [hv, why_2 ha hy hk]
    have e : [a] ++ [y] = [a, y] := rfl
    rw [e]
    cases hbd : badH k [a, y] with
    | true => simp
    | false => simp [nonH]
  | [a, b], _, hd', hs =>
    have ha := hd' a (by simp)
    have hb := hd' b (by simp)
    have hy := hd' y (by simp)
    obtain ⟨_, rfl, rfl⟩ : True ∧ f = valH ([a, b] ++ [y]) * 16 ∧ l = valH ([a, b] ++ [y]) * 16 + 15 := by
      rcases hs with ⟨h1, _⟩ | ⟨h1, _⟩ | ⟨h1, h2, h3⟩ | ⟨h1, _⟩
      · simp at h1
      · simp at h1
      · exact ⟨trivial, h2, h3⟩
      · simp at h1
    have hv : valH ([a, b] ++ [y]) = (a * 16 + b) * 16 + y := by simp [valH]
    rw [hv, why_3 ha hb hy hk]
    have e : [a, b] ++ [y] = [a, b, y] := rfl
    rw [e]
    cases hbd : badH k [a, b, y] with
    | true => simp
    | false =>
      cases hn : (decide (k = 0) && nonH [a, b, y]) with
      | true => simp [hn]
      | false => simp [hn]
  | [a, b, c], _, hd', hs =>
    have ha := hd' a (by simp)
    have hb := hd' b (by simp)
    have hc := hd' c (by simp)
    have hy := hd' y (by simp)
    obtain ⟨_, rfl, rfl⟩ : True ∧ f = valH ([a, b, c] ++ [y]) ∧ l = valH ([a, b, c] ++ [y]) := by
      rcases hs with ⟨h1, _⟩ | ⟨h1, _⟩ | ⟨h1, _⟩ | ⟨h1, h2, h3⟩
      · simp at h1
      · simp at h1
      · simp at h1
      · exact ⟨trivial, h2, h3⟩
    have e : [a, b, c] ++ [y] = [a, b, c, y] := rfl
    rw [e, why_4 ha hb hc hy hk]
    have hn : (decide (k = 0) && nonH [a, b, c, y]) = false := by simp [nonH]
    have hv := valH_4 a b c y
    have hlen : ¬ [a, b, c].length + 1 < 4 := by simp
    rw [hn]
    cases hbd : badH k [a, b, c, y] with
    | true => simp
    | false =>
      obtain ⟨u0, u1, u2, u3⟩ := unit_is ha hb hc hy hk hbd
      have hji := join_is (k := k) (u := valH [a, b, c, y]) hk u0 u1 u2 u3
      generalize valH [a, b, c, y] = u at *
      simp only [Bool.false_eq_true, if_false, hlen]
      have hmj : highB u = false → mntF k u = joinF k u := fun hh => by
        unfold mntF joinF
        by_cases h0 : 0 < k
        · rw [if_pos ⟨h0, u2 h0⟩, if_pos h0]
        · rw [if_neg (fun hh => h0 hh.1), if_neg h0]
      have hkh : highB u = true → k = 0 := fun hh => by
        have := of_decide_eq_true hh
        apply Classical.byContradiction; intro hn
        have := u2 (by omega)
        omega
      have hnh : highB u = true → noncharB (joinF k u) = false := fun hh => by
        have h1 := of_decide_eq_true hh
        have h2 := hkh hh
        unfold joinF
        rw [if_neg (by omega)]
        exact decide_eq_false (by omega)
      cases hh : highB u with
      | true =>
        have hk0 := hkh hh
        rw [hnh hh]
        simp [hk0, u0, u1]
      | false =>
        have hjb := hji (fun _ => hh)
        cases hc : noncharB (joinF k u) with
        | true => simp
        | false => simp [u0, u1, hmj hh, hjb]
  | _ :: _ :: _ :: _ :: _, hl, _, _ => simp at hl
end Go.Proofs.YtdcfhkiajeiaoaaDoor

/- What was pushed and was OK can be brought to its end: the bytes that do it. No program in it. -/
namespace Go.Proofs.YtdcfhkiajeiaoaaDoor
set_option maxRecDepth 100000
set_option linter.unusedVariables false
set_option linter.unusedSimpArgs false

def nxB (b : List Int) : Int := if b.length = 1 then lo2 (b.headD 0) else 128
def restB : Nat → List Int → List Int
  | 0, _ => []
  | f + 1, b => if how b = 1 then nxB b :: restB f (b ++ [nxB b]) else []
def pairL : List Int := [92, 117, 100, 99, 48, 48, 34]
def highH : List Int → Bool
  | a :: b :: _ => decide (a = 13 ∧ 8 ≤ b)
  | _ => false
def fourS (h : List Int) : List Int := List.replicate (4 - h.length) 48 ++ if highH h = true then [92, 117, 100, 99, 48, 48] else []
def moreS (s : Ss) : List Int :=
  if s.v = true then [] else if s.b ≠ [] then restB 4 s.b ++ [34] else if 0 < s.k then pairL.drop (if s.e = 0 then 0 else if s.e = 1 then 1 else 2 + s.h.length) else if s.e = 1 then [110, 34] else if s.e = 2 then fourS s.h ++ [34] else [34]
/-- these bytes bring it to its end, the last of them is it -/
def Ends (s : Ss) (l : List Int) : Prop := l ≠ [] ∧ ∃ f, ∀ i, feedS s l i = (i + (l.length - 1), 0, true, f)
theorem feed_on {s s' : Ss} {x : Int} (h : pushS s x = (false, 0, s')) (l : List Int) (i : Nat) : feedS s (x :: l) i = feedS s' l (i + 1) := by
  rw [feedS, h]
  simp
theorem Ends.on {s s' : Ss} {x : Int} {l : List Int} (h : pushS s x = (false, 0, s')) (hl : Ends s' l) : Ends s (x :: l) := by
  obtain ⟨hn, f, hf⟩ := hl
  refine ⟨by simp, f, fun i => ?_⟩
  have hp : 0 < l.length := List.length_pos_iff.2 hn
  rw [feed_on h, hf, List.length_cons]
  have : i + 1 + (l.length - 1) = i + (l.length + 1 - 1) := by omega
  rw [this]
theorem ends_end {s : Ss} (hv : s.v = false) (he : s.e = 0) (hb : s.b = []) (hk : ¬ 0 < s.k) : Ends s [34] := by
  refine ⟨by simp, { s with v := true }, fun i => ?_⟩
  rw [feedS]
  have e : pushS s 34 = (true, 0, { s with v := true }) := by
    unfold pushS
    rw [hv, he, hb]
    simp [hk]
  rw [e]
  simp
theorem push_dig {s : Ss} (hv : s.v = false) (he : s.e = 2) {x : Int} (hx : 32 ≤ x) : pushS s x = (false, (digS s x).1, (digS s x).2) := by
  unfold pushS
  rw [hv, he]
  have : ¬ x < 32 := by omega
  simp [this]
theorem dig_more {s : Ss} {x d : Int} (hx : hexF x = d) (h0 : 0 ≤ d) (hb : badH s.k (s.h ++ [d]) = false) (hn : (decide (s.k = 0) && nonH (s.h ++ [d])) = false) (hl : s.h.length + 1 < 4) : digS s x = (0, { s with h := s.h ++ [d] }) := by
  unfold digS
  rw [hx, if_neg (by omega), if_neg (by rw [hb]; decide), if_neg (by rw [hn]; decide), if_pos hl]
theorem dig_wait {s : Ss} {x d : Int} (hx : hexF x = d) (h0 : 0 ≤ d) (hb : badH s.k (s.h ++ [d]) = false) (hn : (decide (s.k = 0) && nonH (s.h ++ [d])) = false) (hl : s.h.length = 3) (hh : (decide (s.k = 0) && highB (valH (s.h ++ [d]))) = true) : digS s x = (0, { s with h := [], e := 0, k := valH (s.h ++ [d]) }) := by
  unfold digS
  rw [hx, if_neg (by omega), if_neg (by rw [hb]; decide), if_neg (by rw [hn]; decide), if_neg (by omega), if_pos hh]
theorem dig_says {s : Ss} {x d : Int} (hx : hexF x = d) (h0 : 0 ≤ d) (hb : badH s.k (s.h ++ [d]) = false) (hn : (decide (s.k = 0) && nonH (s.h ++ [d])) = false) (hl : s.h.length = 3) (hh : (decide (s.k = 0) && highB (valH (s.h ++ [d]))) = false) (hc : noncharB (joinF s.k (valH (s.h ++ [d]))) = false) : digS s x = (0, { s with o := s.o ++ [joinF s.k (valH (s.h ++ [d]))], h := [], e := 0, k := 0 }) := by
  unfold digS
  rw [hx, if_neg (by omega), if_neg (by rw [hb]; decide), if_neg (by rw [hn]; decide), if_neg (by omega), if_neg (by rw [hh]; decide), if_neg (by rw [hc]; decide)]
theorem hex_0 : hexF 48 = 0 := rfl
theorem hex_c : hexF 99 = 12 := rfl
theorem hex_d : hexF 100 = 13 := rfl
/-- what a pair says whose second half ends in a nought -/
theorem join_non {k u : Int} (h0 : 55296 ≤ k) (h1 : k ≤ 56319) (h2 : 56320 ≤ u) (h3 : u ≤ 57343) (h4 : u % 16 = 0) : noncharB (joinF k u) = false := by
  unfold joinF noncharB
  rw [if_pos (by omega)]
  exact decide_eq_false (by omega)
/-- behind u, a half waits -/
theorem ends_pair2 (o hh : List Int) (k : Int) (hk2 : 55296 ≤ k ∧ k ≤ 56319) (hl3 : hh.length ≤ 3) (hd : ∀ d ∈ hh, 0 ≤ d ∧ d ≤ 15) (hbad : hh ≠ [] → badH k hh = false) : Ends ⟨o, [], 2, hh, k, false⟩ (pairL.drop (2 + hh.length)) := by
  have hk : 0 < k := by omega
  have hk0 : decide (k = 0) = false := decide_eq_false (by omega)
  have last : ∀ p q r : Int, 0 ≤ p ∧ p ≤ 15 → 0 ≤ q ∧ q ≤ 15 → 0 ≤ r ∧ r ≤ 15 → badH k [p, q, r] = false → Ends ⟨o, [], 2, [p, q, r], k, false⟩ [48, 34] := by
    intro p q r hp hq hr hbd
    have hb4 : badH k [p, q, r, 0] = false := by
      unfold badH at hbd ⊢
      rw [if_pos hk] at hbd ⊢
      simpa [lowH] using hbd
    have hu := unit_is hp hq hr (d := 0) (by omega) (.inr hk2) hb4
    have hv4 := valH_4 p q r 0
    have hsy := hu.2.2.1 hk
    refine Ends.on (s' := ⟨o ++ [joinF k (valH [p, q, r, 0])], [], 0, [], 0, false⟩) ?_ (ends_end rfl rfl rfl (by show ¬ (0 : Int) < 0; omega))
    rw [push_dig rfl rfl (by omega), dig_says (s := ⟨o, [], 2, [p, q, r], k, false⟩) (d := 0) hex_0 (by omega) hb4 (by simp [hk0]) rfl (by simp [hk0]) (join_non hk2.1 hk2.2 hsy.1 hsy.2 (by show valH [p, q, r, 0] % 16 = 0; rw [hv4]; omega))]
    rfl
  have third : ∀ p q : Int, 0 ≤ p ∧ p ≤ 15 → 0 ≤ q ∧ q ≤ 15 → badH k [p, q] = false → Ends ⟨o, [], 2, [p, q], k, false⟩ [48, 48, 34] := by
    intro p q hp hq hbd
    have hb3 : badH k [p, q, 0] = false := by
      unfold badH at hbd ⊢
      rw [if_pos hk] at hbd ⊢
      simpa [lowH] using hbd
    refine Ends.on (s' := ⟨o, [], 2, [p, q, 0], k, false⟩) ?_ (last p q 0 hp hq (by omega) hb3)
    rw [push_dig rfl rfl (by omega), dig_more (s := ⟨o, [], 2, [p, q], k, false⟩) (d := 0) hex_0 (by omega) hb3 (by simp [hk0]) (by simp)]
    rfl
  have second : badH k [13] = false → Ends ⟨o, [], 2, [13], k, false⟩ [99, 48, 48, 34] := by
    intro hbd
    have hb2 : badH k [13, 12] = false := by
      unfold badH
      rw [if_pos hk]
      simp [lowH]
    refine Ends.on (s' := ⟨o, [], 2, [13, 12], k, false⟩) ?_ (third 13 12 (by omega) (by omega) hb2)
    rw [push_dig rfl rfl (by omega), dig_more (s := ⟨o, [], 2, [13], k, false⟩) (d := 12) hex_c (by omega) hb2 (by simp [hk0]) (by simp)]
    rfl
  match hh, hl3, hd, hbad with
  | [], _, _, _ =>
    have hb1 : badH k [13] = false := by
      unfold badH
      rw [if_pos hk]
      simp [lowH]
    refine Ends.on (s' := ⟨o, [], 2, [13], k, false⟩) ?_ (second hb1)
    rw [push_dig rfl rfl (by omega), dig_more (s := ⟨o, [], 2, [], k, false⟩) (d := 13) hex_d (by omega) hb1 (by simp [hk0]) (by simp)]
    rfl
  | [p], _, hd, hbad =>
    have hbd := hbad (by simp)
    have hp13 : p = 13 := by
      unfold badH at hbd
      rw [if_pos hk] at hbd
      simpa using hbd
    subst hp13
    exact second hbd
  | [p, q], _, hd, hbad => exact third p q (hd p (by simp)) (hd q (by simp)) (hbad (by simp))
  | [p, q, r], _, hd, hbad => exact last p q r (hd p (by simp)) (hd q (by simp)) (hd r (by simp)) (hbad (by simp))
  | _ :: _ :: _ :: _ :: _, hl, _, _ => simp at hl
theorem push_u {s : Ss} (hv : s.v = false) (he : s.e = 1) : pushS s 117 = (false, 0, { s with e := 2, h := [] }) := by
  unfold pushS escS
  rw [hv, he]
  simp
theorem push_sign {s : Ss} (hv : s.v = false) (he : s.e = 0) (hb : s.b = []) : pushS s 92 = (false, 0, { s with e := 1 }) := by
  unfold pushS
  rw [hv, he, hb]
  simp
theorem ends_pair {s : Ss} (h : SOk s) (hv : s.v = false) (hk : 0 < s.k) : Ends s (pairL.drop (if s.e = 0 then 0 else if s.e = 1 then 1 else 2 + s.h.length)) := by
  have hb0 := h.kb hk
  have hk2 : 55296 ≤ s.k ∧ s.k ≤ 56319 := by have := h.k; omega
  have hh2 := h.h2
  have he2 := h.e
  have hl3 := h.h
  have hd := h.hd
  have hbad := h.bad
  clear h
  obtain ⟨o, b, e, hh, k, v⟩ := s
  dsimp only at *
  subst hv hb0
  have h2 : Ends ⟨o, [], 2, [], k, false⟩ (pairL.drop 2) := ends_pair2 o [] k hk2 (by simp) (fun d hd => by cases hd) (fun h => absurd rfl h)
  have h1 : Ends ⟨o, [], 1, [], k, false⟩ (pairL.drop 1) := Ends.on (s' := ⟨o, [], 2, [], k, false⟩) (push_u rfl rfl) h2
  match e, he2, hh2, hbad with
  | 0, _, hh2, _ =>
    obtain rfl := hh2 (by decide)
    exact Ends.on (s' := ⟨o, [], 1, [], k, false⟩) (push_sign rfl rfl rfl) h1
  | 1, _, hh2, _ =>
    obtain rfl := hh2 (by decide)
    exact h1
  | 2, _, _, hbad => exact ends_pair2 o hh k hk2 hl3 hd (hbad rfl)
  | n + 3, h, _, _ => omega
/-- the digits that lack of an escape, no half waits -/
theorem ends_four (o hh : List Int) (hl3 : hh.length ≤ 3) (hd : ∀ d ∈ hh, 0 ≤ d ∧ d ≤ 15) (hbad : hh ≠ [] → badH 0 hh = false) (hnon : nonH hh = false) : Ends ⟨o, [], 2, hh, 0, false⟩ (fourS hh ++ [34]) := by
  have e0 : ∀ o, Ends ⟨o, [], 0, [], 0, false⟩ [34] := fun o => ends_end rfl rfl rfl (by show ¬ (0 : Int) < 0; omega)
  have last : ∀ p q r : Int, 0 ≤ p ∧ p ≤ 15 → 0 ≤ q ∧ q ≤ 15 → 0 ≤ r ∧ r ≤ 15 → badH 0 [p, q, r] = false → nonH [p, q, r] = false → Ends ⟨o, [], 2, [p, q, r], 0, false⟩ ([48] ++ (if highH [p, q, r] = true then [92, 117, 100, 99, 48, 48] else []) ++ [34]) := by
    intro p q r hp hq hr hbd hnn
    have hb4 : badH 0 [p, q, r, 0] = false := by
      unfold badH at hbd ⊢
      simpa [lowH] using hbd
    have hn4 : nonH [p, q, r, 0] = false := rfl
    have hv4 := valH_4 p q r 0
    have hu := unit_is hp hq hr (d := 0) (by omega) (.inl rfl) hb4
    have hlo := hu.2.2.2 rfl
    by_cases hh : highH [p, q, r] = true
    · have hpq : p = 13 ∧ 8 ≤ q := of_decide_eq_true hh
      have hq2 : q ≤ 11 := by rw [hv4] at hlo; omega
      have hhi : highB (valH [p, q, r, 0]) = true := decide_eq_true (by rw [hv4]; omega)
      have hw : 55296 ≤ valH [p, q, r, 0] ∧ valH [p, q, r, 0] ≤ 56319 := of_decide_eq_true hhi
      rw [if_pos hh]
      refine Ends.on (s' := ⟨o, [], 0, [], valH [p, q, r, 0], false⟩) ?_ ?_
      · rw [push_dig rfl rfl (by omega), dig_wait (s := ⟨o, [], 2, [p, q, r], 0, false⟩) (d := 0) hex_0 (by omega) hb4 (by simp [hn4]) rfl (by simp [hhi])]
        rfl
      · exact Ends.on (s' := ⟨o, [], 1, [], _, false⟩) (push_sign rfl rfl rfl) (Ends.on (s' := ⟨o, [], 2, [], _, false⟩) (push_u rfl rfl) (ends_pair2 o [] _ hw (by simp) (fun d hd => by cases hd) (fun h => absurd rfl h)))
    · rw [if_neg hh]
      have hnh : ¬ (p = 13 ∧ 8 ≤ q) := fun h => hh (decide_eq_true h)
      have hhi : highB (valH [p, q, r, 0]) = false := decide_eq_false (by rw [hv4]; rw [hv4] at hlo; omega)
      have hnc : noncharB (joinF 0 (valH [p, q, r, 0])) = false := by
        unfold nonH at hnn
        have := of_decide_eq_false hnn
        unfold joinF
        rw [if_neg (by omega), hv4]
        exact decide_eq_false (by omega)
      refine Ends.on (s' := ⟨o ++ [joinF 0 (valH [p, q, r, 0])], [], 0, [], 0, false⟩) ?_ (e0 _)
      rw [push_dig rfl rfl (by omega), dig_says (s := ⟨o, [], 2, [p, q, r], 0, false⟩) (d := 0) hex_0 (by omega) hb4 (by simp [hn4]) rfl (by simp [hhi]) hnc]
      rfl
  have third : ∀ p q : Int, 0 ≤ p ∧ p ≤ 15 → 0 ≤ q ∧ q ≤ 15 → badH 0 [p, q] = false → Ends ⟨o, [], 2, [p, q], 0, false⟩ ([48, 48] ++ (if highH [p, q] = true then [92, 117, 100, 99, 48, 48] else []) ++ [34]) := by
    intro p q hp hq hbd
    have hb3 : badH 0 [p, q, 0] = false := by
      unfold badH at hbd ⊢
      simpa [lowH] using hbd
    have hn3 : nonH [p, q, 0] = false := decide_eq_false (by omega)
    have := last p q 0 hp hq (by omega) hb3 hn3
    refine Ends.on (s' := ⟨o, [], 2, [p, q, 0], 0, false⟩) ?_ this
    rw [push_dig rfl rfl (by omega), dig_more (s := ⟨o, [], 2, [p, q], 0, false⟩) (d := 0) hex_0 (by omega) hb3 (by simp [hn3]) (by simp)]
    rfl
  have second : ∀ p : Int, 0 ≤ p ∧ p ≤ 15 → Ends ⟨o, [], 2, [p], 0, false⟩ [48, 48, 48, 34] := by
    intro p hp
    have hb2 : badH 0 [p, 0] = false := by
      unfold badH
      simp [lowH]
    have hh2 : highH [p, 0] = false := decide_eq_false (by omega)
    have := third p 0 hp (by omega) hb2
    rw [hh2] at this
    refine Ends.on (s' := ⟨o, [], 2, [p, 0], 0, false⟩) ?_ this
    rw [push_dig rfl rfl (by omega), dig_more (s := ⟨o, [], 2, [p], 0, false⟩) (d := 0) hex_0 (by omega) hb2 (by simp [nonH]) (by simp)]
    rfl
  match hh, hl3, hd, hbad, hnon with
  | [], _, _, _, _ =>
    refine Ends.on (s' := ⟨o, [], 2, [0], 0, false⟩) ?_ (second 0 (by omega))
    rw [push_dig rfl rfl (by omega), dig_more (s := ⟨o, [], 2, [], 0, false⟩) (d := 0) hex_0 (by omega) (by unfold badH; simp [lowH]) (by simp [nonH]) (by simp)]
    rfl
  | [p], _, hd, _, _ => exact second p (hd p (by simp))
  | [p, q], _, hd, hbad, _ => exact third p q (hd p (by simp)) (hd q (by simp)) (hbad (by simp))
  | [p, q, r], _, hd, hbad, hnon => exact last p q r (hd p (by simp)) (hd q (by simp)) (hd r (by simp)) (hbad (by simp)) hnon
  | _ :: _ :: _ :: _ :: _, hl, _, _, _ => simp at hl
/-! ## a scalar's bytes that are begun -/
theorem push_byt {s : Ss} (hv : s.v = false) (he : s.e = 0) (hb : s.b ≠ []) {x : Int} (hx : 32 ≤ x) : pushS s x = (false, (bytS s x).1, (bytS s x).2) := by
  unfold pushS
  rw [hv, he]
  have : ¬ x < 32 := by omega
  simp [this, hb]
/-- one byte more, the least that may stand there -/
theorem nx_is {b : List Int} (hb : ∀ x ∈ b, 0 ≤ x ∧ x ≤ 255) (h : how b = 1) : (how (b ++ [nxB b]) = 1 ∨ (how (b ++ [nxB b]) = 2 ∧ noncharB (ubits (b ++ [nxB b])) = false)) ∧ 128 ≤ nxB b ∧ nxB b ≤ 191 ∧ ∀ x, 128 ≤ x → x < nxB b → how (b ++ [x]) = 0 := by
  have hlo : ∀ a : Int, 128 ≤ lo2 a ∧ lo2 a ≤ 160 ∧ lo2 a ≤ hi2 a := fun a => by unfold lo2 hi2; (repeat' split) <;> omega
  have t128 : tlB 128 = true := rfl
  match b, h, hb with
  | [], h, _ => simp [how] at h
  | [a], h, hb =>
    have hn : nxB [a] = lo2 a := rfl
    have ha := hb a (by simp)
    have hs : secB a (lo2 a) = true := decide_eq_true ⟨Int.le_refl _, (hlo a).2.2⟩
    have h1 : ¬ lng a = 1 ∧ 1 < lng a := by
      simp only [how] at h
      split at h
      · cases h
      · split at h
        · exact ⟨by assumption, by assumption⟩
        · cases h
    rw [hn]
    refine ⟨?_, (hlo a).1, by have := (hlo a).2.1; omega, fun x hx0 hx1 => ?_⟩
    · show how [a, lo2 a] = 1 ∨ (how [a, lo2 a] = 2 ∧ noncharB (ubits [a, lo2 a]) = false)
      simp only [how]
      rw [if_pos ⟨by omega, hs⟩]
      by_cases h2 : lng a = 2
      · right
        rw [if_pos h2]
        have h3 : 194 ≤ a ∧ a ≤ 223 := by unfold lng at h2; (repeat' split at h2) <;> omega
        have h4 : lo2 a = 128 := by unfold lo2; rw [if_neg (by omega), if_neg (by omega)]
        refine ⟨rfl, ?_⟩
        show noncharB ((a - mkT a) * 64 + (lo2 a - 128)) = false
        rw [mk_is2 h3.1 h3.2, h4]
        exact decide_eq_false (by omega)
      · left
        rw [if_neg h2]
    · show how [a, x] = 0
      simp only [how]
      rw [if_neg]
      rintro ⟨_, hs⟩
      have := (of_decide_eq_true hs).1
      omega
  | [a, c], h, hb =>
    have hn : nxB [a, c] = 128 := rfl
    have ha := hb a (by simp)
    have h1 : 2 ≤ lng a ∧ secB a c = true ∧ ¬ lng a = 2 := by
      simp only [how] at h
      split at h
      · rename_i h1
        split at h
        · cases h
        · exact ⟨h1.1, h1.2, by assumption⟩
      · cases h
    rw [hn]
    refine ⟨?_, by omega, by omega, fun x hx0 hx1 => by omega⟩
    show how [a, c, 128] = 1 ∨ (how [a, c, 128] = 2 ∧ noncharB (ubits [a, c, 128]) = false)
    simp only [how]
    rw [if_pos ⟨by omega, h1.2.1, t128⟩]
    by_cases h2 : lng a = 3
    · right
      rw [if_pos h2]
      refine ⟨rfl, ?_⟩
      show noncharB (((a - mkT a) * 64 + (c - 128)) * 64 + (128 - 128)) = false
      exact decide_eq_false (by omega)
    · left
      rw [if_neg h2]
  | [a, c, d], h, hb =>
    have hn : nxB [a, c, d] = 128 := rfl
    have h1 : 3 ≤ lng a ∧ secB a c = true ∧ tlB d = true ∧ ¬ lng a = 3 := by
      simp only [how] at h
      split at h
      · rename_i h1
        split at h
        · cases h
        · exact ⟨h1.1, h1.2.1, h1.2.2, by assumption⟩
      · cases h
    rw [hn]
    refine ⟨?_, by omega, by omega, fun x hx0 hx1 => by omega⟩
    show how [a, c, d, 128] = 1 ∨ (how [a, c, d, 128] = 2 ∧ noncharB (ubits [a, c, d, 128]) = false)
    simp only [how]
    rw [if_pos ⟨by omega, h1.2.1, h1.2.2.1, t128⟩]
    right
    refine ⟨rfl, ?_⟩
    show noncharB ((((a - mkT a) * 64 + (c - 128)) * 64 + (d - 128)) * 64 + (128 - 128)) = false
    exact decide_eq_false (by omega)
  | [_, _, _, _], h, _ => simp only [how] at h; split at h <;> cases h
  | _ :: _ :: _ :: _ :: _ :: _, h, _ => simp [how] at h
theorem ends_rest (o : List Int) : ∀ (f : Nat) (b : List Int), how b = 1 → (∀ x ∈ b, 0 ≤ x ∧ x ≤ 255) → 4 ≤ b.length + f → Ends ⟨o, b, 0, [], 0, false⟩ (restB f b ++ [34]) := by
  intro f
  induction f with
  | zero => intro b h _ hf; have := how_len1 h; omega
  | succ f ih =>
    intro b h hb hf
    obtain ⟨h1, h2, h3, _⟩ := nx_is hb h
    have hne : b ≠ [] := by intro e; rw [e] at h; simp [how] at h
    have hb' := snoc_mem hb (x := nxB b) ⟨by omega, by omega⟩
    unfold restB
    rw [if_pos h]
    rcases h1 with h1 | ⟨h1, h4⟩
    · refine Ends.on (s' := ⟨o, b ++ [nxB b], 0, [], 0, false⟩) ?_ (ih _ h1 hb' (by rw [List.length_append, List.length_singleton]; omega))
      rw [push_byt rfl rfl hne (by omega)]
      unfold bytS
      dsimp only
      rw [if_neg (by omega), if_neg (by omega), if_pos h1]
    · have hz : restB f (b ++ [nxB b]) = [] := by
        cases f with
        | zero => rfl
        | succ f => unfold restB; rw [if_neg (by omega)]
      rw [hz]
      refine Ends.on (s' := ⟨o ++ [ubits (b ++ [nxB b])], [], 0, [], 0, false⟩) ?_ (ends_end rfl rfl rfl (by show ¬ (0 : Int) < 0; omega))
      rw [push_byt rfl rfl hne (by omega)]
      unfold bytS
      dsimp only
      rw [if_neg (by omega), if_neg (by omega), if_neg (by omega), if_neg (by rw [h4]; decide)]
theorem ends_more {s : Ss} (h : SOk s) (hv : s.v = false) : Ends s (moreS s) := by
  unfold moreS
  rw [if_neg (by rw [hv]; decide)]
  have hk0 := h.k
  by_cases hb : s.b = []
  · rw [if_neg (fun hn => hn hb)]
    by_cases hk : 0 < s.k
    · rw [if_pos hk]
      exact ends_pair h hv hk
    · rw [if_neg hk]
      have hk1 : s.k = 0 := by omega
      have hh2 := h.h2
      have hl3 := h.h
      have hd := h.hd
      have hbad := h.bad
      have hnon := h.non
      have he2 := h.e
      clear h
      obtain ⟨o, b, e, hh, k, v⟩ := s
      dsimp only at *
      subst hv hb hk1
      by_cases h1 : e = 1
      · subst h1
        obtain rfl := hh2 (by decide)
        rw [if_pos rfl]
        refine Ends.on (s' := ⟨o ++ [10], [], 0, [], 0, false⟩) ?_ (ends_end rfl rfl rfl (by show ¬ (0 : Int) < 0; omega))
        rfl
      · rw [if_neg h1]
        by_cases h2 : e = 2
        · subst h2
          rw [if_pos rfl]
          exact ends_four o hh hl3 hd (hbad rfl) (hnon rfl rfl)
        · rw [if_neg h2]
          have h0 : e = 0 := by omega
          subst h0
          exact ends_end rfl rfl rfl (by show ¬ (0 : Int) < 0; omega)
  · rw [if_pos hb]
    have hb1 : how s.b = 1 := by rcases h.b with h | h; exact absurd h hb; exact h
    have hbb := h.bb
    have he : s.e = 0 := Classical.byContradiction fun hn => hb (h.eb hn)
    have hk : s.k = 0 := by
      rcases hk0 with h' | h'
      · exact h'
      · exact absurd (h.kb (by omega)) hb
    have hh : s.h = [] := h.h2 (by omega)
    clear h hk0
    obtain ⟨o, b, e, hh, k, v⟩ := s
    dsimp only at *
    subst hv he hk hh
    exact ends_rest o 4 b hb1 hbb (by omega)
end Go.Proofs.YtdcfhkiajeiaoaaDoor

/- The program's string: the small functions. -/
namespace Go.Proofs.YtdcfhkiajeiaoaaDoor
set_option maxRecDepth 100000
open Go.ChangeShapes Go.WideShapes Go.ChangeAt Go.RowKit
set_option linter.unusedVariables false
set_option linter.unusedSimpArgs false

/-- a string as it lies in a block of its own -/
abbrev StrBlk (w : World) (g : Nat) (p : Int) (sv : Value) (n : Int) (bv : Value) (d z k : Int) : Prop := Blk w g 60 #[.int .i64 p, sv, .int .i64 n, bv, .int .u16 d, .int .i64 z, .int .u16 k]
theorem waits_any (g : Nat) (p : Int) (sv : Value) (n : Int) (bv : Value) (d z k : Int) (w : World) (h : StrBlk w g p sv n bv d z k) : Calls Tryd.prog 37 #[.pointer (some ⟨g, 0, none⟩)] w fun e w' => e = .returned (.bool (k != 0)) ∧ w = w' := by
  have c6 : w.cell? ⟨g, 6, none⟩ = some (.int .u16 k) := h.cell 6
  have hlt := h.lt
  clear h
  go_enter Tryd.func37, Tryd.ntmps37
  go_wp2
  go_ret
  exact ⟨rfl, rfl⟩
def digV (x : Int) : Value := .tuple #[.int .u16 (if hexF x < 0 then 0 else hexF x), .bool (decide (0 ≤ hexF x))]
theorem digit_any (x : Int) (w : World) (h0 : 0 ≤ x) (h1 : x ≤ 255) : Calls Tryd.prog 50 #[.int .u8 x] w fun e w' => e = .returned (digV x) ∧ w = w' := by
  obtain ⟨r, hr⟩ : ∃ r, digV x = r := ⟨_, rfl⟩
  rw [hr]
  have hv : (48 ≤ x ∧ x ≤ 57 ∧ r = .tuple #[.int .u16 (x - 48), .bool true]) ∨ (97 ≤ x ∧ x ≤ 102 ∧ r = .tuple #[.int .u16 (x - 97 + 10), .bool true]) ∨ (65 ≤ x ∧ x ≤ 70 ∧ r = .tuple #[.int .u16 (x - 65 + 10), .bool true]) ∨ (¬ (48 ≤ x ∧ x ≤ 57) ∧ ¬ (97 ≤ x ∧ x ≤ 102) ∧ ¬ (65 ≤ x ∧ x ≤ 70) ∧ r = .tuple #[.int .u16 0, .bool false]) := by
    subst hr
    unfold digV hexF
    by_cases a1 : 48 ≤ x ∧ x ≤ 57
    · rw [if_pos a1, if_neg (by omega), decide_eq_true (by omega)]; exact .inl ⟨a1.1, a1.2, rfl⟩
    · by_cases a2 : 97 ≤ x ∧ x ≤ 102
      · rw [if_neg a1, if_pos a2, if_neg (by omega), decide_eq_true (by omega)]
        have e : x - 87 = x - 97 + 10 := by omega
        rw [e]; exact .inr (.inl ⟨a2.1, a2.2, rfl⟩)
      · by_cases a3 : 65 ≤ x ∧ x ≤ 70
        · rw [if_neg a1, if_neg a2, if_pos a3, if_neg (by omega), decide_eq_true (by omega)]
          have e : x - 55 = x - 65 + 10 := by omega
          rw [e]; exact .inr (.inr (.inl ⟨a3.1, a3.2, rfl⟩))
        · rw [if_neg a1, if_neg a2, if_neg a3, if_pos (by omega), decide_eq_false (by omega)]
          exact .inr (.inr (.inr ⟨a1, a2, a3, rfl⟩))
  clear hr
  rcases hv with ⟨a1, a2, rfl⟩ | ⟨a1, a2, rfl⟩ | ⟨a1, a2, rfl⟩ | ⟨a1, a2, a3, rfl⟩
  · have b1 : (48 : Int) ≤ x := a1
    go_enter Tryd.func50, Tryd.ntmps50
    go_wp2
    go_ret2
    exact ⟨rfl, rfl⟩
  · have b1 : ¬ x ≤ 57 := by omega
    have b2 : (48 : Int) ≤ x := by omega
    go_enter Tryd.func50, Tryd.ntmps50
    go_wp2
    go_ret2
    exact ⟨rfl, rfl⟩
  · have b1 : ¬ x ≤ 57 := by omega
    have b2 : (48 : Int) ≤ x := by omega
    have b3 : ¬ (97 : Int) ≤ x := by omega
    go_enter Tryd.func50, Tryd.ntmps50
    go_wp2
    go_ret2
    exact ⟨rfl, rfl⟩
  · by_cases c1 : 48 ≤ x
    · have d1 : ¬ x ≤ 57 := by omega
      by_cases c2 : 65 ≤ x
      · have d2 : ¬ x ≤ 70 := by omega
        by_cases c3 : 97 ≤ x
        · have d3 : ¬ x ≤ 102 := by omega
          clear a1 a2 a3
          go_enter Tryd.func50, Tryd.ntmps50
          go_wp2
          go_ret2
          exact ⟨rfl, rfl⟩
        · clear a1 a2 a3
          go_enter Tryd.func50, Tryd.ntmps50
          go_wp2
          go_ret2
          exact ⟨rfl, rfl⟩
      · have c3 : ¬ 97 ≤ x := by omega
        clear a1 a2 a3
        go_enter Tryd.func50, Tryd.ntmps50
        go_wp2
        go_ret2
        exact ⟨rfl, rfl⟩
    · have c2 : ¬ 65 ≤ x := by omega
      have c3 : ¬ 97 ≤ x := by omega
      clear a1 a2 a3
      go_enter Tryd.func50, Tryd.ntmps50
      go_wp2
      go_ret2
      exact ⟨rfl, rfl⟩
theorem meant_any (g : Nat) (p : Int) (sv : Value) (n : Int) (bv : Value) (d z k : Int) (u : Int) (w : World) (h : StrBlk w g p sv n bv d z k) (hk : k = 0 ∨ (55296 ≤ k ∧ k ≤ 56319)) (h0 : 0 ≤ u) (h1 : u ≤ 65535) :
    Calls Tryd.prog 71 #[.pointer (some ⟨g, 0, none⟩), .int .u16 u] w fun e w' => e = .returned (.int .i32 (if 0 < k ∧ 56320 ≤ u ∧ u ≤ 57343 then 65536 + (k - 55296) * 1024 + (u - 56320) else u)) ∧ w = w' := by
  have c6 : w.cell? ⟨g, 6, none⟩ = some (.int .u16 k) := h.cell 6
  have hlt := h.lt
  clear h
  by_cases hj : 0 < k ∧ 56320 ≤ u ∧ u ≤ 57343
  · rw [if_pos hj]
    have HJ := Lib.hid (fun W => join_yes k u W (by omega) (by omega) hj.2.1 hj.2.2)
    generalize 65536 + (k - 55296) * 1024 + (u - 56320) = c at *
    go_enter Tryd.func71, Tryd.ntmps71
    go_wp2_with fail
    with_reducible refine (HJ.out _).mono ?_
    rintro e w1 ⟨rfl, rfl⟩
    go_wp2
    go_ret
    exact ⟨rfl, rfl⟩
  · rw [if_neg hj]
    have HJ := Lib.hid (fun W => join_no k u W (by omega) (by omega) h0 h1 (by omega))
    have hw : wrap32 u = u := IntWalk.wrap32_in _ (by omega)
    go_enter Tryd.func71, Tryd.ntmps71
    go_wp2_with fail
    with_reducible refine (HJ.out _).mono ?_
    rintro e w1 ⟨rfl, rfl⟩
    go_wp2
    go_ret
    exact ⟨rfl, rfl⟩
def SpanR (b z : Int) (w : World) (e : Ending) (w' : World) : Prop := ∃ f l, e = .returned (.tuple #[.int .u16 f, .int .u16 l]) ∧ ((z = 1 ∧ f = b * 4096 ∧ l = b * 4096 + 4095) ∨ (z = 2 ∧ f = b * 256 ∧ l = b * 256 + 255) ∨ (z = 3 ∧ f = b * 16 ∧ l = b * 16 + 15) ∨ (z = 4 ∧ f = b ∧ l = b)) ∧ Below w.heap.size w w'
theorem wraps_u16a (n : Int) (h₀ : 0 ≤ n) (h₁ : n < 2 ^ 16) : IntKind.u16.wrap n = n := by rw [IntKind.wrap_u16]; omega
theorem u16_or12 {x y : Int} (hx₀ : 0 ≤ x) (hx : x % 4096 = 0) (hx₁ : x < 65536) (h₀ : 0 ≤ y) (h₁ : y < 4096) : bits .or .u16 x y = x + y := bits_join .u16 16 (by decide) wraps_u16a 12 x y hx₀ hx hx₁ h₀ h₁ (by omega)
theorem u16_or8 {x y : Int} (hx₀ : 0 ≤ x) (hx : x % 256 = 0) (hx₁ : x < 65536) (h₀ : 0 ≤ y) (h₁ : y < 256) : bits .or .u16 x y = x + y := bits_join .u16 16 (by decide) wraps_u16a 8 x y hx₀ hx hx₁ h₀ h₁ (by omega)
theorem u16_or4 {x y : Int} (hx₀ : 0 ≤ x) (hx : x % 16 = 0) (hx₁ : x < 65536) (h₀ : 0 ≤ y) (h₁ : y < 16) : bits .or .u16 x y = x + y := bits_join .u16 16 (by decide) wraps_u16a 4 x y hx₀ hx hx₁ h₀ h₁ (by omega)
theorem u16_or0 {x : Int} (hx₀ : 0 ≤ x) (hx₁ : x < 65536) : bits .or .u16 x 0 = x := by
  have h := bits_join .u16 16 (by decide) wraps_u16a 0 x 0 hx₀ (by omega) hx₁ (by omega) (by omega) (by omega)
  rw [h, Int.add_zero]
theorem span_any (b z : Int) (w : World) (hb : 0 ≤ b) (hz : (z = 1 ∧ b ≤ 15) ∨ (z = 2 ∧ b ≤ 255) ∨ (z = 3 ∧ b ≤ 4095) ∨ (z = 4 ∧ b ≤ 65535)) :
    Calls Tryd.prog 52 #[.agg #[.int .u16 b, .int .i64 z]] w (SpanR b z w) := by
  rcases hz with ⟨rfl, hz⟩ | ⟨rfl, hz⟩ | ⟨rfl, hz⟩ | ⟨rfl, hz⟩
  · go_enter Tryd.func52, Tryd.ntmps52
    go_wp2_with fail
    go_quiet (fail)
    go_wp2
    go_ret2
    exact ⟨b * 4096, b * 4096 + 4095, by rw [← u16_or12 (x := b * 4096) (y := 4095) (by omega) (by omega) (by omega) (by omega) (by omega)]; rfl, .inl ⟨rfl, rfl, rfl⟩, below_drewN' ((Below.refl _ _).alloc (Nat.le_refl _) _) _⟩
  · go_enter Tryd.func52, Tryd.ntmps52
    go_wp2_with fail
    go_quiet (fail)
    go_wp2
    go_ret2
    exact ⟨b * 256, b * 256 + 255, by rw [← u16_or8 (x := b * 256) (y := 255) (by omega) (by omega) (by omega) (by omega) (by omega)]; rfl, .inr (.inl ⟨rfl, rfl, rfl⟩), below_drewN' ((Below.refl _ _).alloc (Nat.le_refl _) _) _⟩
  · go_enter Tryd.func52, Tryd.ntmps52
    go_wp2_with fail
    go_quiet (fail)
    go_wp2
    go_ret2
    exact ⟨b * 16, b * 16 + 15, by rw [← u16_or4 (x := b * 16) (y := 15) (by omega) (by omega) (by omega) (by omega) (by omega)]; rfl, .inr (.inr (.inl ⟨rfl, rfl, rfl⟩)), below_drewN' ((Below.refl _ _).alloc (Nat.le_refl _) _) _⟩
  · go_enter Tryd.func52, Tryd.ntmps52
    go_wp2_with fail
    go_quiet (fail)
    go_wp2
    go_ret2
    exact ⟨b, b, congrArg (fun y => Ending.returned (.tuple #[.int .u16 b, .int .u16 y])) (u16_or0 (x := b) (by omega) (by omega)), .inr (.inr (.inr ⟨rfl, rfl, rfl⟩)), below_drewN' ((Below.refl _ _).alloc (Nat.le_refl _) _) _⟩
set_option maxHeartbeats 1000000 in
theorem why_any (g : Nat) (p : Int) (sv : Value) (n : Int) (bv : Value) (d z k : Int) (f l : Int) (w : World) (h : StrBlk w g p sv n bv d z k) (hk : k = 0 ∨ (55296 ≤ k ∧ k ≤ 56319)) (f0 : 0 ≤ f) (f1 : f ≤ 65535) (l0 : 0 ≤ l) (l1 : l ≤ 65535) :
    Calls Tryd.prog 51 #[.pointer (some ⟨g, 0, none⟩), .int .u16 f, .int .u16 l] w fun e w' => e = .returned (.int .i64 (whyF k f l)) ∧ w = w' := by
  have HWT := Lib.hid (fun W hW => waits_any g p sv n bv d z k W hW)
  have HLF := Lib.hid (fun W => low_any f W f0 f1)
  have HLL := Lib.hid (fun W => low_any l W l0 l1)
  have HMN := Lib.hid (fun W hW => meant_any g p sv n bv d z k f W hW hk f0 f1)
  have HNC := Lib.hid (fun W => nonchar_any (mntF k f) W (by unfold mntF; split <;> omega) (by unfold mntF; split <;> omega))
  have HH := Lib.hid h
  obtain ⟨r, hr⟩ : ∃ r, whyF k f l = r := ⟨_, rfl⟩
  rw [hr]
  unfold whyF at hr
  have em : (if 0 < k ∧ 56320 ≤ f ∧ f ≤ 57343 then 65536 + (k - 55296) * 1024 + (f - 56320) else f) = mntF k f := rfl
  rw [em] at HMN
  clear em
  generalize mntF k f = m at *
  generalize lowB f = bf at *
  generalize lowB l = bl at *
  generalize noncharB m = bm at *
  obtain ⟨kb, hkb⟩ : ∃ q : Bool, (k != 0) = q := ⟨_, rfl⟩
  rw [hkb] at HWT
  have hkk : (decide (0 < k)) = kb := by rw [← hkb]; rcases hk with rfl | hk; rfl; rw [decide_eq_true (by omega)]; symm; rw [bne_iff_ne]; omega
  have hr2 : (if (if kb = true then !bl else bf) = true then 5 else if bm = true then 6 else 0) = r := by
    rw [← hr, ← hkk]; simp
  clear hr hkk hkb h hk
  have HR := Lib.hid hr2
  clear hr2
  cases kb with
  | true =>
    cases bl with
    | false =>
      have hrr : r = 5 := by rw [← HR.out]; rfl
      subst hrr
      go_enter Tryd.func51, Tryd.ntmps51
      go_wp2_with fail
      with_reducible refine (HWT.out _ HH.out).mono ?_
      rintro e w1 ⟨rfl, rfl⟩
      go_wp2_with fail
      with_reducible refine (HLL.out _).mono ?_
      rintro e w1 ⟨rfl, rfl⟩
      go_wp2
      go_ret
      exact ⟨rfl, rfl⟩
    | true =>
      cases bm with
      | true =>
        have hrr : r = 6 := by rw [← HR.out]; rfl
        subst hrr
        go_enter Tryd.func51, Tryd.ntmps51
        go_wp2_with fail
        with_reducible refine (HWT.out _ HH.out).mono ?_
        rintro e w1 ⟨rfl, rfl⟩
        go_wp2_with fail
        with_reducible refine (HLL.out _).mono ?_
        rintro e w1 ⟨rfl, rfl⟩
        go_wp2_with fail
        with_reducible refine (HWT.out _ HH.out).mono ?_
        rintro e w1 ⟨rfl, rfl⟩
        go_wp2_with fail
        with_reducible refine (HMN.out _ HH.out).mono ?_
        rintro e w1 ⟨rfl, rfl⟩
        go_wp2_with fail
        with_reducible refine (HNC.out _).mono ?_
        rintro e w1 ⟨rfl, rfl⟩
        go_wp2
        go_ret
        exact ⟨rfl, rfl⟩
      | false =>
        have hrr : r = 0 := by rw [← HR.out]; rfl
        subst hrr
        go_enter Tryd.func51, Tryd.ntmps51
        go_wp2_with fail
        with_reducible refine (HWT.out _ HH.out).mono ?_
        rintro e w1 ⟨rfl, rfl⟩
        go_wp2_with fail
        with_reducible refine (HLL.out _).mono ?_
        rintro e w1 ⟨rfl, rfl⟩
        go_wp2_with fail
        with_reducible refine (HWT.out _ HH.out).mono ?_
        rintro e w1 ⟨rfl, rfl⟩
        go_wp2_with fail
        with_reducible refine (HMN.out _ HH.out).mono ?_
        rintro e w1 ⟨rfl, rfl⟩
        go_wp2_with fail
        with_reducible refine (HNC.out _).mono ?_
        rintro e w1 ⟨rfl, rfl⟩
        go_wp2
        go_ret
        exact ⟨rfl, rfl⟩
  | false =>
    cases bf with
    | true =>
      have hrr : r = 5 := by rw [← HR.out]; rfl
      subst hrr
      go_enter Tryd.func51, Tryd.ntmps51
      go_wp2_with fail
      with_reducible refine (HWT.out _ HH.out).mono ?_
      rintro e w1 ⟨rfl, rfl⟩
      go_wp2_with fail
      with_reducible refine (HWT.out _ HH.out).mono ?_
      rintro e w1 ⟨rfl, rfl⟩
      go_wp2_with fail
      with_reducible refine (HLF.out _).mono ?_
      rintro e w1 ⟨rfl, rfl⟩
      go_wp2
      go_ret
      exact ⟨rfl, rfl⟩
    | false =>
      cases bm with
      | true =>
        have hrr : r = 6 := by rw [← HR.out]; rfl
        subst hrr
        go_enter Tryd.func51, Tryd.ntmps51
        go_wp2_with fail
        with_reducible refine (HWT.out _ HH.out).mono ?_
        rintro e w1 ⟨rfl, rfl⟩
        go_wp2_with fail
        with_reducible refine (HWT.out _ HH.out).mono ?_
        rintro e w1 ⟨rfl, rfl⟩
        go_wp2_with fail
        with_reducible refine (HLF.out _).mono ?_
        rintro e w1 ⟨rfl, rfl⟩
        go_wp2_with fail
        with_reducible refine (HMN.out _ HH.out).mono ?_
        rintro e w1 ⟨rfl, rfl⟩
        go_wp2_with fail
        with_reducible refine (HNC.out _).mono ?_
        rintro e w1 ⟨rfl, rfl⟩
        go_wp2
        go_ret
        exact ⟨rfl, rfl⟩
      | false =>
        have hrr : r = 0 := by rw [← HR.out]; rfl
        subst hrr
        go_enter Tryd.func51, Tryd.ntmps51
        go_wp2_with fail
        with_reducible refine (HWT.out _ HH.out).mono ?_
        rintro e w1 ⟨rfl, rfl⟩
        go_wp2_with fail
        with_reducible refine (HWT.out _ HH.out).mono ?_
        rintro e w1 ⟨rfl, rfl⟩
        go_wp2_with fail
        with_reducible refine (HLF.out _).mono ?_
        rintro e w1 ⟨rfl, rfl⟩
        go_wp2_with fail
        with_reducible refine (HMN.out _ HH.out).mono ?_
        rintro e w1 ⟨rfl, rfl⟩
        go_wp2_with fail
        with_reducible refine (HNC.out _).mono ?_
        rintro e w1 ⟨rfl, rfl⟩
        go_wp2
        go_ret
        exact ⟨rfl, rfl⟩
end Go.Proofs.YtdcfhkiajeiaoaaDoor

/- The program's string: say, what is said. -/
namespace Go.Proofs.YtdcfhkiajeiaoaaDoor
set_option maxRecDepth 100000
open Go.ChangeShapes Go.WideShapes Go.ChangeAt Go.RowKit
set_option linter.unusedVariables false
set_option linter.unusedSimpArgs false

theorem Blk.put {w : World} {g : Nat} {t : TypeId} {cs : Array Value} (h : Blk w g t cs) (i : Nat) (u : Value) {ds : Array Value} (hd : cs.setIfInBounds i u = ds) : Blk (w.setCell ⟨g, i, none⟩ u) g t ds := by
  rw [← hd]; exact h.set i u
abbrev U8r (w : World) (base : Nat) (v : Value) (xs : List Int) : Prop := Own w base 5 .u8 v xs
/-- but for blocks g and bb, and the row's own block, all that was there is as it was -/
structure SFr (g bb : Nat) (v : Value) (w w' : World) : Prop where
  os : w'.os = w.os
  tape : w'.tape = w.tape
  output : w'.output = w.output
  size : w.heap.size ≤ w'.heap.size
  block : ∀ k, k < w.heap.size → k ≠ g → k ≠ bb → v.ownBlock ≠ some k → w'.heap[k]? = w.heap[k]?
theorem SFr.of_below {g bb : Nat} {v : Value} {w w' : World} (h : Below w.heap.size w w') : SFr g bb v w w' := ⟨h.os, h.tape, h.output, h.size, fun k hk _ _ _ => h.block k hk⟩
theorem SFr.set {g bb : Nat} {v : Value} {w w' : World} (h : SFr g bb v w w') (i : Nat) (u : Value) : SFr g bb v w (w'.setCell ⟨g, i, none⟩ u) :=
  ⟨h.os, h.tape, h.output, by have := h.size; simpa [World.setCell] using this, fun k hk hg hb hv => (Below.heap_setCell w' ⟨g, i, none⟩ u k (fun e => hg e)).trans (h.block k hk hg hb hv)⟩
theorem SFr.drew {g bb : Nat} {v : Value} {w w' : World} (h : SFr g bb v w w') : SFr g bb v w w'.drew := ⟨h.os, h.tape, h.output, h.size, h.block⟩
theorem SFr.grown {g bb : Nat} {v : Value} {w w1 w2 : World} (h : Below w.heap.size w w1) (k : w1.grownBy w2 v.ownBlock) : SFr g bb v w w2 :=
  ⟨k.os.trans h.os, k.tape.trans h.tape, k.output.trans h.output, Nat.le_trans h.size k.size, fun i hi _ _ hv => (k.block i (Nat.lt_of_lt_of_le hi h.size) (fun e => hv e.symm)).trans (h.block i hi)⟩
theorem rown_ne {w : World} {base g : Nat} {v : Value} {xs : List Int} {e t : TypeId} {k : IntKind} {cs : Array Value} (ho : Own w base e k v xs) (hg : Blk w g t cs) (ht : t ≠ e) : v.ownBlock ≠ some g := by
  rcases ho.2 with ⟨e1, e2⟩ | ⟨g2, cap, cur, hv, hb, hh, hnc, hm, hcs, _⟩
  · rw [e1]; simp [Value.ownBlock]
  · rw [hv]
    simp only [Value.ownBlock]
    intro he
    injection he with he
    subst he
    unfold Blk at hg
    rw [hh] at hg
    injection hg with hg
    injection hg with _ hg
    exact ht hg.symm
/-- where the row that it has now lies -/
def RowTo (w : World) (v v' : Value) : Prop := v'.ownBlock = v.ownBlock ∨ ∀ k, v'.ownBlock = some k → w.heap.size ≤ k
abbrev slB (bb m : Nat) : Value := .slice (some ⟨bb, 0, none⟩) m 4
def SayRes (base g bb : Nat) (sv : Value) (n : Int) (d z : Int) (ys : List Int) (w : World) (e : Ending) (w' : World) : Prop :=
  e = .returned (.int .i64 0) ∧ ∃ sv', StrBlk w' g 0 sv' (n + 1) (slB bb 0) d z 0 ∧ U8r w' base sv' ys ∧ SFr g g sv w w' ∧ RowTo w sv sv'
theorem say_wait (g : Nat) (p : Int) (sv : Value) (n : Int) (bv : Value) (d z k : Int) (w : World) (h : StrBlk w g p sv n bv d z k) (hk : 0 < k) (c : Int) :
    Calls Tryd.prog 59 #[.pointer (some ⟨g, 0, none⟩), .int .i32 c] w fun e w' => e = .returned (.int .i64 5) ∧ w = w' := by
  have HWT := Lib.hid (waits_any g p sv n bv d z k w h)
  have hkb : (k != 0) = true := by rw [bne_iff_ne]; omega
  rw [hkb] at HWT
  clear hkb h
  go_enter Tryd.func59, Tryd.ntmps59
  go_wp2_with fail
  with_reducible refine HWT.out.mono ?_
  rintro e w1 ⟨rfl, rfl⟩
  go_wp2
  go_ret
  exact ⟨rfl, rfl⟩
theorem say_non (g : Nat) (p : Int) (sv : Value) (n : Int) (bv : Value) (d z : Int) (w : World) (h : StrBlk w g p sv n bv d z 0) (c : Int) (hc : noncharB c = true) (h0 : 0 ≤ c) (h1 : c ≤ 1114111) :
    Calls Tryd.prog 59 #[.pointer (some ⟨g, 0, none⟩), .int .i32 c] w fun e w' => e = .returned (.int .i64 6) ∧ w = w' := by
  have HWT := Lib.hid (waits_any g p sv n bv d z 0 w h)
  have HNC := Lib.hid (fun W => nonchar_any c W (by omega) (by omega))
  rw [hc] at HNC
  clear h
  go_enter Tryd.func59, Tryd.ntmps59
  go_wp2_with fail
  with_reducible refine HWT.out.mono ?_
  rintro e w1 ⟨rfl, rfl⟩
  go_wp2_with fail
  with_reducible refine (HNC.out _).mono ?_
  rintro e w1 ⟨rfl, rfl⟩
  go_wp2
  go_ret
  exact ⟨rfl, rfl⟩
theorem SFr.low {g bb B : Nat} {v : Value} {w w' : World} (h : SFr g bb v w w') (hB : B ≤ w.heap.size) (hg : B ≤ g) (hbb : B ≤ bb) (hv : ∀ k, v.ownBlock = some k → B ≤ k) : Below B w w' :=
  ⟨h.os, h.tape, h.output, h.size, fun k hk => h.block k (by omega) (by omega) (by omega) (fun e => by have := hv k e; omega)⟩
theorem rown_set {w : World} {base g i : Nat} {v u : Value} {xs : List Int} {e t : TypeId} {k : IntKind} {cs : Array Value} (ho : Own w base e k v xs) (hg : Blk w g t cs) (ht : t ≠ e) : Own (w.setCell ⟨g, i, none⟩ u) base e k v xs := by
  refine ⟨ho.1, ?_⟩
  have hne := rown_ne ho hg ht
  rcases ho.2 with h2 | ⟨b, cap, cur, hv, hb, hh, h3⟩
  · exact .inl h2
  · refine .inr ⟨b, cap, cur, hv, hb, ?_, h3⟩
    exact (Below.heap_setCell w ⟨g, i, none⟩ u b (fun e => hne (by rw [hv, e]; rfl))).trans hh
theorem rown_drew {w : World} {base : Nat} {v : Value} {xs : List Int} {e : TypeId} {k : IntKind} (ho : Own w base e k v xs) : Own w.drew base e k v xs := ho
set_option maxHeartbeats 8000000 in
theorem say_yes (base g bb : Nat) (p : Int) (sv : Value) (n : Int) (m : Nat) (d z : Int) (xs : List Int) (w : World) (h : StrBlk w g p sv n (slB bb m) d z 0) (ho : U8r w base sv xs) (hx : xs.length ≤ 1000000) (hm : m ≤ 4) (hn : 0 ≤ n) (hn2 : n ≤ 100000000) (c : Int) (hc : noncharB c = false) (hc0 : 0 ≤ c) (hc1 : c ≤ 1114111) (hbase : base ≤ w.heap.size) :
    Calls Tryd.prog 59 #[.pointer (some ⟨g, 0, none⟩), .int .i32 c] w (SayRes base g bb sv n d z (xs ++ byt c) w) := by
  have HWT := Lib.hid (waits_any g p sv n (slB bb m) d z 0 w h)
  have HNC := Lib.hid (fun W => nonchar_any c W (by omega) (by omega))
  have HBY := Lib.hid (fun W => bytes_any c W)
  have hyl := byt_len c
  rw [hc] at HNC
  obtain ⟨A0, c0, hv0, _⟩ := own_form ho
  obtain ⟨n0, hn0⟩ : ∃ n0, xs.length = n0 := ⟨_, rfl⟩
  rw [hn0] at hv0
  have HSV := Lib.hid hv0
  have HH := Lib.hid h
  have HO := Lib.hid ho
  have HN0 := Lib.hid hn0
  clear h ho hv0 hc
  generalize byt c = ys at *
  go_enter Tryd.func59, Tryd.ntmps59
  go_wp2_with fail
  with_reducible refine HWT.out.mono ?_
  rintro e w1 ⟨rfl, rfl⟩
  go_wp2_with fail
  with_reducible refine (HNC.out _).mono ?_
  rintro e w1 ⟨rfl, rfl⟩
  clear HWT HNC
  go_upto_region 5 with fail
  go_cut [5] from 6 to 20 (fun v W => ∃ sv', StrBlk W g p sv' n (slB bb m) d z 0 ∧ U8r W base sv' (xs ++ ys) ∧ SFr g g sv w W ∧ RowTo w sv sv')
  case first =>
    refine wp_region_V (fun W => StrBlk W g p (.slice A0 n0 c0) n (slB bb m) d z 0) [10] (by kernel_rfl) ?_
    generalize hW0 : w.drew = w0
    have HX0 : Hid (StrBlk w0 g p sv n (slB bb m) d z 0) := Lib.hid (by rw [← hW0]; exact HH.out.drew)
    have HB0 : Hid (Below w.heap.size w w0) := Lib.hid (by rw [← hW0]; exact (Below.refl _ _).drew)
    have HO0 : Hid (U8r w0 base sv xs) := Lib.hid (by rw [← hW0]; exact HO.out)
    have hsz : w.heap.size ≤ w0.heap.size := HB0.out.size
    clear hW0
    rw [HSV.out] at HX0 HO0
    rw [HSV.out]
    refine wpV_take 0 11 [10] (v := ?v0) rfl rfl (by kernel_rfl) (by kernel_rfl) (by kernel_rfl) (by kernel_rfl) (fun _ _ _ h => h) HX0.out (Or.inl ⟨by rfl, ?y0⟩) ?r0
    case y0 => (intro W hS; have hlW := Blk.lt hS; go_simp; try with_reducible rfl)
    case r0 =>
    simp only [Act.put, List.setIfInBounds_toArray, List.set_cons_zero, List.set_cons_succ]
    refine wpV_take 1 12 [10] (v := ?v1) rfl rfl (by kernel_rfl) (by kernel_rfl) (by kernel_rfl) (by kernel_rfl) (fun _ _ _ h => h) HX0.out (Or.inl ⟨by rfl, ?y1⟩) ?r1
    case y1 => (intro W hS; have hlW := Blk.lt hS; go_simp; try with_reducible rfl)
    case r1 =>
    simp only [Act.put, List.setIfInBounds_toArray, List.set_cons_zero, List.set_cons_succ]
    refine wpV_take 2 13 [10] (v := ?v2) rfl rfl (by kernel_rfl) (by kernel_rfl) (by kernel_rfl) (by kernel_rfl) (fun _ _ _ h => h) HX0.out (Or.inl ⟨by rfl, ?y2⟩) ?r2
    case y2 => (intro W hS; have hlW := Blk.lt hS; go_simp; try with_reducible rfl)
    case r2 =>
    simp only [Act.put, List.setIfInBounds_toArray, List.set_cons_zero, List.set_cons_succ]
    refine wpV_take 3 14 [10] (v := ?v3) rfl rfl (by kernel_rfl) (by kernel_rfl) (by kernel_rfl) (by kernel_rfl) (fun _ _ _ h => h) HX0.out (Or.inl ⟨by rfl, ?y3⟩) ?r3
    case y3 => (intro W hS; have hlW := Blk.lt hS; go_simp; try with_reducible rfl)
    case r3 =>
    simp only [Act.put, List.setIfInBounds_toArray, List.set_cons_zero, List.set_cons_succ]
    refine wpV_take 4 15 [10] (v := .slice A0 n0 c0) rfl rfl (by kernel_rfl) (by kernel_rfl) (by kernel_rfl) (by kernel_rfl) (fun _ _ _ h => h) HX0.out (Or.inl ⟨by rfl, ?y4⟩) ?r4
    case y4 => (intro W hS; have hcW : W.cell? ⟨g, 1, none⟩ = some (.slice A0 n0 c0) := (by exact Blk.cell hS 1); go_simp)
    case r4 =>
    simp only [Act.put, List.setIfInBounds_toArray, List.set_cons_zero, List.set_cons_succ]
    refine wpV_take 5 16 [10] (v := ?v5) rfl rfl (by kernel_rfl) (by kernel_rfl) (by kernel_rfl) (by kernel_rfl) (fun _ _ _ h => h) HX0.out (Or.inl ⟨by rfl, ?y5⟩) ?r5
    case y5 => (intro W hS; have hlW := Blk.lt hS; go_simp; try with_reducible rfl)
    case r5 =>
    simp only [Act.put, List.setIfInBounds_toArray, List.set_cons_zero, List.set_cons_succ]
    refine wpV_one 6 (by kernel_rfl) rfl (fun K hK => ?_)
    go_simp
    refine (HBY.out _).mono ?_
    rintro e w1 ⟨vb, rfl, hob, hbb⟩
    obtain ⟨A1, c1, rfl, hc1a, hc1b⟩ := own_form hob
    have HI1 := Lib.hid (Ints.own hob)
    have hnil := own_nil hob
    have HX1 := Lib.hid (HX0.out.below hbb HX0.out.lt)
    have HO1 := Lib.hid (own_below HO0.out hbb (Nat.le_refl _))
    have HB1 := Lib.hid (HB0.out.trans (hbb.mono HB0.out.size))
    have hs1 : w.heap.size ≤ w1.heap.size := HB1.out.size
    clear hob hbb HX0 HO0 HB0
    refine hK.out _ _ (.inr HX1.out) ?_
    clear hK K
    try simp only [Act.put, List.getElem_toArray, List.getElem_cons_succ, List.getElem_cons_zero, List.setIfInBounds_toArray, List.set_cons_zero, List.set_cons_succ]
    refine wpV_one 7 (by kernel_rfl) rfl (fun K hK => ?_)
    refine wpA_if (by rfl) ?_
    refine wp_appL (.tmp 15) (.tmp 17) 22 rfl base 5 .u8 1 Tryd.underlying22 info_u8 (by decide) (.slice A0 n0 c0) xs rfl HO1.out w1.heap.size A1 ys.length c1 ys rfl rfl hnil HI1.out (by omega) (by omega) ?_
    intro v2 w2 hO2 hG2
    obtain ⟨A2, c2, rfl, _⟩ := own_form hO2
    have hlen : (xs ++ ys).length = n0 + ys.length := by rw [List.length_append, HN0.out]
    rw [hlen] at hO2 hG2
    rw [hlen]
    have HO2 := Lib.hid hO2
    have hne : (Value.slice A0 n0 c0).ownBlock ≠ some g := rown_ne HO1.out HX1.out (by decide)
    have HX2 : Hid (StrBlk w2 g p (.slice A0 n0 c0) n (slB bb m) d z 0) := Lib.hid ((hG2.1.block g HX1.out.lt (fun e => hne e.symm)).trans HX1.out)
    have HF2 : Hid (SFr g g (.slice A0 n0 c0) w w2) := Lib.hid (SFr.grown HB1.out hG2.1)
    have HR2 : Hid (RowTo w (.slice A0 n0 c0) (.slice A2 (n0 + ys.length) c2)) := Lib.hid (by
      cases A2 with
      | none => exact .inr fun k hk => by cases hk
      | some ad =>
        rcases hG2.2 ad.block rfl with h | h
        · exact .inl h.symm
        · exact .inr fun k hk => by injection hk with hk; omega)
    clear hO2 hG2 HX1 HO1 HB1 HI1 hnil hne
    refine hK.out _ _ (.inr HX2.out) ?_
    clear hK K
    try simp only [Act.put, List.getElem_toArray, List.getElem_cons_succ, List.getElem_cons_zero, List.setIfInBounds_toArray, List.set_cons_zero, List.set_cons_succ]
    refine wpV_take 8 19 [10] (v := ?v8) rfl rfl (by kernel_rfl) (by kernel_rfl) (by kernel_rfl) (by kernel_rfl) (fun _ _ _ h => h) HX2.out (Or.inl ⟨by rfl, ?y8⟩) ?r8
    case y8 => (intro W hS; have hlW := Blk.lt hS; go_simp; try with_reducible rfl)
    case r8 =>
    simp only [Act.put, List.setIfInBounds_toArray, List.set_cons_zero, List.set_cons_succ]
    refine wpV_take 9 20 [10] (v := ?v9) rfl rfl (by kernel_rfl) (by kernel_rfl) (by kernel_rfl) (by kernel_rfl) (fun _ _ _ h => h) HX2.out (Or.inl ⟨by rfl, ?y9⟩) ?r9
    case y9 => (intro W hS; have hlW := Blk.lt hS; go_simp; try with_reducible rfl)
    case r9 =>
    simp only [Act.put, List.setIfInBounds_toArray, List.set_cons_zero, List.set_cons_succ]
    have f1 : w2.frozen? ⟨g, 1, none⟩ = false := HX2.out.frozen 1
    have c1 : w2.cell? ⟨g, 1, none⟩ = some (.slice A0 n0 c0) := HX2.out.cell 1
    have hl2 : g < w2.heap.size := HX2.out.lt
    refine wpV_one 10 (by kernel_rfl) rfl (fun K hK => ?_)
    go_simp
    refine hK.out _ _ (.inl rfl) ?_
    clear hK K
    try simp only [Act.put, List.getElem_toArray, List.getElem_cons_succ, List.getElem_cons_zero, List.setIfInBounds_toArray, List.set_cons_zero, List.set_cons_succ]
    refine wpV_done (by kernel_rfl) ?_ _
    go_wp2_with fail
    go_meet
    case rel =>
      refine ⟨.slice A2 (n0 + ys.length) c2, HX2.out.put 1 _ rfl, rown_set HO2.out HX2.out (by decide), ?_, ?_⟩
      · rw [HSV.out]; exact HF2.out.set 1 _
      · rw [HSV.out]; exact HR2.out
  case rest =>
  clear HBY HH HO HSV
  obtain ⟨sv', hx5, ho5, hf5, hr5⟩ := hcut
  have HX5 := Lib.hid hx5
  have HO5 := Lib.hid ho5
  have HF5 := Lib.hid hf5
  have HR5 := Lib.hid hr5
  clear hx5 ho5 hf5 hr5
  have c0 : wc.cell? ⟨g, 0, none⟩ = some (.int .i64 p) := HX5.out.cell 0
  have c2 : wc.cell? ⟨g, 2, none⟩ = some (.int .i64 n) := HX5.out.cell 2
  have c3 : wc.cell? ⟨g, 3, none⟩ = some (slB bb m) := HX5.out.cell 3
  have f0 : wc.frozen? ⟨g, 0, none⟩ = false := HX5.out.frozen 0
  have f2 : wc.frozen? ⟨g, 2, none⟩ = false := HX5.out.frozen 2
  have f3 : wc.frozen? ⟨g, 3, none⟩ = false := HX5.out.frozen 3
  have hlt : g < wc.heap.size := HX5.out.lt
  unfold slB at c3
  go_upto_region 7 with fail
  go_region
  go_wp2_with fail
  go_ret
  have h1 := HX5.out.put 2 (.int .i64 (n + 1)) rfl
  have h2 := h1.put 0 (.int .i64 0) rfl
  have h3 := h2.put 3 (slB bb 0) rfl
  have o1 := rown_set (i := 2) (u := .int .i64 (n + 1)) HO5.out HX5.out (by decide)
  have o2 := rown_set (i := 0) (u := .int .i64 0) o1 h1 (by decide)
  have o3 := rown_set (i := 3) (u := slB bb 0) o2 h2 (by decide)
  exact ⟨rfl, sv', h3.drew, rown_drew o3, (((HF5.out.set 2 _).set 0 _).set 3 _).drew, HR5.out⟩
end Go.Proofs.YtdcfhkiajeiaoaaDoor

/- The program's string by what was pushed to it: its cells and rows; what stays. No walk in it but say's use. -/
namespace Go.Proofs.YtdcfhkiajeiaoaaDoor
set_option maxRecDepth 100000
open Go.ChangeShapes Go.WideShapes Go.ChangeAt Go.RowKit
set_option linter.unusedVariables false
set_option linter.unusedSimpArgs false

/-- a string's cells and rows: what is said (xs, in bytes), a scalar's bytes that are begun (b) -/
structure StrM (w : World) (base g bb : Nat) (sv : Value) (p n d z k : Int) (b xs : List Int) : Prop where
  blk : StrBlk w g p sv n (slB bb b.length) d z k
  own : U8r w base sv xs
  beg : U8r w base (slB bb b.length) b
  ne : sv.ownBlock ≠ some bb
  lg : base ≤ g
theorem StrM.lb {w : World} {base g bb : Nat} {sv : Value} {p n d z k : Int} {b xs : List Int} (h : StrM w base g bb sv p n d z k b xs) : base ≤ bb ∧ bb < w.heap.size := by
  rcases h.beg.2 with ⟨e, _⟩ | ⟨q, cap, cur, hv, hb, hh, _⟩
  · cases e
  · injection hv with hv
    injection hv with hv
    injection hv with hv
    subst hv
    exact ⟨hb, (Array.getElem?_eq_some_iff.1 hh).1⟩
theorem StrM.gb {w : World} {base g bb : Nat} {sv : Value} {p n d z k : Int} {b xs : List Int} (h : StrM w base g bb sv p n d z k b xs) : g ≠ bb := fun e => by
  have := rown_ne h.beg h.blk (by decide)
  exact this (by rw [e]; rfl)
theorem StrM.go {w w' : World} {base g bb : Nat} {sv : Value} {p n d z k : Int} {b xs : List Int} (h : StrM w base g bb sv p n d z k b xs) (hb : Below w.heap.size w w') : StrM w' base g bb sv p n d z k b xs :=
  ⟨h.blk.below hb h.blk.lt, own_below h.own hb (Nat.le_refl _), own_below h.beg hb (Nat.le_refl _), h.ne, h.lg⟩
/-- a cell of its block written -/
theorem StrM.put {w : World} {base g bb : Nat} {sv : Value} {p n d z k p' n' d' z' k' : Int} {b xs : List Int} (h : StrM w base g bb sv p n d z k b xs) {w' : World} (hk : StrBlk w' g p' sv n' (slB bb b.length) d' z' k') (ho : ∀ v ys, U8r w base v ys → U8r w' base v ys) : StrM w' base g bb sv p' n' d' z' k' b xs :=
  ⟨hk, ho _ _ h.own, ho _ _ h.beg, h.ne, h.lg⟩
theorem rown_take {w : World} {base bb m : Nat} {xs : List Int} {j : Nat} (h : U8r w base (slB bb m) xs) (hm : xs.length = m) (hj : j ≤ m) : U8r w base (slB bb j) (xs.take j) := by
  have hl : (xs.take j).length = j := by rw [List.length_take]; omega
  unfold U8r Own
  rw [hl]
  rcases h.2 with ⟨e, _⟩ | ⟨q, cap, cur, hv, hb, hh, h1, h2, h3, h4⟩
  · cases e
  · refine ⟨by rw [List.length_map, hl]; omega, .inr ⟨q, cap, cur, ?_, hb, hh, ?_, h2, h3, ?_⟩⟩
    · injection hv with e1 e2 e3
      rw [← e1, ← e3]
    · injection hv with e1 e2 e3; omega
    · rw [List.map_take, ← h4, List.take_take]
      congr 1
      omega
theorem SFr.refl (g bb : Nat) (v : Value) (w : World) : SFr g bb v w w := SFr.of_below (Below.refl _ _)
theorem RowTo.refl (w : World) (v : Value) : RowTo w v v := .inl rfl
theorem SFr.trans {g bb : Nat} {v v1 : Value} {w w1 w2 : World} (h : SFr g bb v w w1) (hr : RowTo w v v1) (k : SFr g bb v1 w1 w2) : SFr g bb v w w2 :=
  ⟨k.os.trans h.os, k.tape.trans h.tape, k.output.trans h.output, Nat.le_trans h.size k.size, fun i hi hg hb hv => (k.block i (Nat.lt_of_lt_of_le hi h.size) hg hb (fun e => by
    rcases hr with r | r
    · rw [r] at e; exact hv e
    · have := r i e; omega)).trans (h.block i hi hg hb hv)⟩
theorem RowTo.trans {w w1 : World} {v v1 v2 : Value} (h : RowTo w v v1) (k : RowTo w1 v1 v2) (hs : w.heap.size ≤ w1.heap.size) : RowTo w v v2 := by
  rcases k with k | k
  · rcases h with h | h
    · exact .inl (k.trans h)
    · exact .inr fun i hi => h i (by rw [← k]; exact hi)
  · exact .inr fun i hi => Nat.le_trans hs (k i hi)
theorem SFr.weak {g bb : Nat} {v : Value} {w w' : World} (h : SFr g g v w w') : SFr g bb v w w' := ⟨h.os, h.tape, h.output, h.size, fun k hk hg _ hv => h.block k hk hg hg hv⟩
/-- only the row of what is begun has grown -/
theorem SFr.grownB {g bb : Nat} {v : Value} {w w1 w2 : World} (h : Below w.heap.size w w1) (k : w1.grownBy w2 (some bb)) : SFr g bb v w w2 :=
  ⟨k.os.trans h.os, k.tape.trans h.tape, k.output.trans h.output, Nat.le_trans h.size k.size, fun i hi _ hb _ => (k.block i (Nat.lt_of_lt_of_le hi h.size) (fun e => hb (by injection e))).trans (h.block i hi)⟩
def SayM (base g bb : Nat) (sv : Value) (n d z : Int) (ys : List Int) (w : World) (e : Ending) (w' : World) : Prop :=
  e = .returned (.int .i64 0) ∧ ∃ sv', StrM w' base g bb sv' 0 (n + 1) d z 0 [] ys ∧ SFr g bb sv w w' ∧ RowTo w sv sv'
theorem say_m (base g bb : Nat) (sv : Value) (p n d z : Int) (b xs : List Int) (w : World) (h : StrM w base g bb sv p n d z 0 b xs) (hx : xs.length ≤ 1000000) (hm : b.length ≤ 4) (hn : 0 ≤ n) (hn2 : n ≤ 100000000) (c : Int) (hc : noncharB c = false) (hc0 : 0 ≤ c) (hc1 : c ≤ 1114111) (hbase : base ≤ w.heap.size) :
    Calls Tryd.prog 59 #[.pointer (some ⟨g, 0, none⟩), .int .i32 c] w (SayM base g bb sv n d z (xs ++ byt c) w) := by
  refine (say_yes base g bb p sv n b.length d z xs w h.blk h.own hx hm hn hn2 c hc hc0 hc1 hbase).mono ?_
  rintro e w' ⟨he, sv', h1, h2, h3, h4⟩
  have hlb := h.lb
  have hne' : sv'.ownBlock ≠ some bb := fun e => by
    rcases h4 with r | r
    · rw [r] at e; exact h.ne e
    · have := r bb e; omega
  have hbe : U8r w' base (slB bb b.length) b := by
    refine ⟨h.beg.1, ?_⟩
    rcases h.beg.2 with ⟨e, _⟩ | ⟨q, cap, cur, hv, hb, hh, h5⟩
    · cases e
    · have hq : q = bb := by injection hv with hv; injection hv with hv; injection hv with hv; exact hv.symm
      subst hq
      exact .inr ⟨q, cap, cur, hv, hb, (h3.block q hlb.2 (fun e => h.gb e.symm) (fun e => h.gb e.symm) h.ne).trans hh, h5⟩
  exact ⟨he, sv', ⟨h1, h2, rown_take hbe rfl (Nat.zero_le _), hne', h.lg⟩, h3.weak, h4⟩
theorem rown_low {w : World} {base : Nat} {v : Value} {xs : List Int} {e : TypeId} {k : IntKind} (h : Own w base e k v xs) : ∀ q, v.ownBlock = some q → base ≤ q := fun q hq => by
  rcases h.2 with ⟨e1, _⟩ | ⟨b, cap, cur, hv, hb, _⟩
  · rw [e1] at hq; cases hq
  · rw [hv] at hq
    have : b = q := by simpa [Value.ownBlock] using hq
    omega
/-! ## by what was pushed -/
def atF (s : Ss) : Int := if s.v = true then 3 else (s.e : Int)
structure StrIs (w : World) (base g bb : Nat) (sv : Value) (s : Ss) : Prop where
  ok : SOk s
  len : s.o.length ≤ 100000
  m : ∃ d z, StrM w base g bb sv (atF s) s.o.length d z s.k s.b (txt s.o) ∧ (s.v = false → s.e = 2 → d = valH s.h ∧ z = s.h.length)
theorem StrIs.go {w w' : World} {base g bb : Nat} {sv : Value} {s : Ss} (h : StrIs w base g bb sv s) (hb : Below w.heap.size w w') : StrIs w' base g bb sv s := by
  obtain ⟨d, z, hm, hd⟩ := h.m
  exact ⟨h.ok, h.len, d, z, hm.go hb, hd⟩
/-- what a call makes of a string -/
def PRes (base g bb : Nat) (sv : Value) (s' : Ss) (v : Value) (w : World) (e : Ending) (w' : World) : Prop :=
  e = .returned v ∧ ∃ sv', StrIs w' base g bb sv' s' ∧ SFr g bb sv w w' ∧ RowTo w sv sv'
theorem PRes.still {base g bb : Nat} {sv : Value} {s : Ss} {v : Value} {w w' : World} {e : Ending} (h : StrIs w base g bb sv s) (he : e = .returned v) (hb : Below w.heap.size w w') : PRes base g bb sv s v w e w' :=
  ⟨he, sv, h.go hb, SFr.of_below hb, RowTo.refl _ _⟩
theorem txt_snoc1 (o : List Int) (c : Int) : txt (o ++ [c]) = txt o ++ byt c := by simp [txt]
theorem txt_len4 (o : List Int) : (txt o).length ≤ 4 * o.length := txt_len o
end Go.Proofs.YtdcfhkiajeiaoaaDoor
