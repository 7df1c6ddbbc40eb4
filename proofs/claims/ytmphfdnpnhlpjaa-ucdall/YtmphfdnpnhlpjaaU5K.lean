/- Layer 5: the program's texts, reckoned by the kernel. -/
import Derived.Test.YtmphfdnpnhlpjaaU5Rnd
import Derived.Test.YtmphfdnpnhlpjaaU5Facts
import Derived.Test.YtmphfdnpnhlpjaaU5Q
namespace Go.Proofs.Ytmphfdnpnhlpjaa

noncomputable def C5 : List (Nat × Nat) := clsE 0 (esOf tUcdBuild1)
noncomputable def P5 : List Pr5 := prE 0 (esOf tUcdBuild2)
noncomputable def S5 : List (Nat × Nat) := sgE 0 (esOf tUcdBuild3)
/-- the entries of a text are not empty, and small -/
def okEnts (l : List Ent) : Bool := l.all fun e => !e.isZ && (Nat.ble e.n1 100000000 && Nat.ble e.n2 100000000)
def lenB {α : Type} : List α → Nat → Bool
  | [], _ => true
  | _ :: _, 0 => false
  | _ :: r, n + 1 => lenB r n
theorem lenB_le {α : Type} : ∀ (l : List α) (n : Nat), lenB l n = true → l.length ≤ n
  | [], _, _ => Nat.zero_le _
  | _ :: _, 0, h => by cases h
  | _ :: r, n + 1, h => by have := lenB_le r n h; simp only [List.length_cons]; omega
theorem txt_of {s : ByteArray} (h1 : Nat.ble s.data.size 65536 = true) (h2 : okAll (bytesOf s) zeroE = true) (h3 : (cur (bytesOf s) zeroE).isZ = true) (h4 : okEnts (esOf s) = true) (h5 : lenB (esOf s) 5000 = true) : Txt s := by
  have h4' : ∀ e ∈ esOf s, e.isZ = false ∧ e.n1 ≤ 100000000 ∧ e.n2 ≤ 100000000 := fun e he => by
    have := List.all_eq_true.1 h4 e he
    simpa [Nat.ble_eq] using this
  exact ⟨Nat.le_of_ble_eq_true h1, h2, isZ_iff.1 h3, fun e he => (h4' e he).1, fun e he => (h4' e he).2, by have := lenB_le _ _ h5; omega⟩
theorem K1 : Txt tUcdBuild1 := txt_of (by kernel_rfl) (by kernel_rfl) (by kernel_rfl) (by kernel_rfl) (by kernel_rfl)
theorem K2 : Txt tUcdBuild2 := txt_of (by kernel_rfl) (by kernel_rfl) (by kernel_rfl) (by kernel_rfl) (by kernel_rfl)
theorem K3 : Txt tUcdBuild3 := txt_of (by kernel_rfl) (by kernel_rfl) (by kernel_rfl) (by kernel_rfl) (by kernel_rfl)
theorem kE1 : endC 0 (esOf tUcdBuild1) ≤ 100000000 := Nat.le_of_ble_eq_true (by kernel_rfl)
theorem kE2 : endP 0 (esOf tUcdBuild2) ≤ 100000000 := Nat.le_of_ble_eq_true (by kernel_rfl)
theorem kE3 : endP 0 (esOf tUcdBuild3) ≤ 100000000 := Nat.le_of_ble_eq_true (by kernel_rfl)
theorem kC : (C5.all fun e => Nat.ble e.1 1114111 && Nat.ble e.2 100000000) = true := by kernel_rfl
theorem kP : (P5.all fun e => Nat.ble e.c 1114111 && (Nat.ble e.x 1114111 && Nat.ble e.y 1114111)) = true := by kernel_rfl
theorem kS : (S5.all fun e => Nat.ble e.1 1114111 && Nat.ble e.2 1114111) = true := by kernel_rfl
theorem fine5 : Fine C5 P5 S5 := by
  refine ⟨fun e he => ?_, fun e he => ?_, fun e he => ?_, ?_⟩
  · have := List.all_eq_true.1 kC e he; simpa [Nat.ble_eq] using this
  · have := List.all_eq_true.1 kP e he; simpa [Nat.ble_eq] using this
  · have := List.all_eq_true.1 kS e he; simpa [Nat.ble_eq] using this
  · show (prE 0 (esOf tUcdBuild2)).length ≤ _
    rw [prE_len]; exact K2.len
theorem fit_of {l : List (Nat × Nat)} (h : ∀ e ∈ l, e.1 ≤ 100000000 ∧ e.2 ≤ 100000000) : FitE (castE l) := by
  intro e he
  obtain ⟨x, hx, rfl⟩ := castE_mem.1 he
  obtain ⟨h1, h2⟩ := h x hx
  exact ⟨WalkArith.wf_i32 (by dsimp only; omega), WalkArith.wf_i64 (by dsimp only; omega)⟩
theorem prI_mem : ∀ (P : List Pr5) (k : Nat), ∀ e ∈ prI k P, (∃ p ∈ P, p.c = e.1) ∧ e.2 ≤ k + P.length
  | [], _, _, h => by cases h
  | p :: r, k, e, h => by
    rcases List.mem_cons.1 h with rfl | h
    · exact ⟨⟨p, by simp, rfl⟩, by simp⟩
    · obtain ⟨⟨q, hq, e1⟩, h2⟩ := prI_mem r (k + 1) e h
      exact ⟨⟨q, by simp [hq], e1⟩, by simp only [List.length_cons]; omega⟩
theorem f50 : FitE (castE C5) := fit_of fun e he => ⟨by have := (fine5.c e he).1; omega, (fine5.c e he).2⟩
theorem f51 : FitE (castE (prI 0 P5)) := fit_of fun e he => by
  obtain ⟨⟨p, hp, e1⟩, h2⟩ := prI_mem P5 0 e he
  have := (fine5.p p hp).1
  have := fine5.len
  omega
theorem f52 : FitE (castE S5) := fit_of fun e he => by have := fine5.s e he; omega
theorem f53 : FitE (castE (scL P5)) := fit_of fun e he => by
  obtain ⟨p, hp, _, rfl⟩ := scL_mem.1 he
  have := (fine5.p p hp).2.2
  dsimp only; omega

/-! ### what the laws want -/
theorem kOnceC : onceB (P5.map (·.c)) 0 = true := by kernel_rfl
theorem nodupC : (P5.map (·.c)).Nodup := (onceB_spec _ _ kOnceC).1
theorem kKeys : onceB (P5.map fun p => (p.x * 2097152 + p.y) % 60044) 0 = true := by kernel_rfl
theorem keys_once {p q : Pr5} (hp : p ∈ P5) (hq : q ∈ P5) (hx : p.x = q.x) (hy : p.y = q.y) : p = q :=
  once_inj (onceB_spec _ _ kKeys).1 p hp q hq (by rw [hx, hy])
theorem kApart : (P5.all fun p => !hasBit (bitsOf (S5.map (·.1)) 0) p.c) = true := by kernel_rfl
theorem kSyl : (P5.all (fun p => Nat.blt p.c 44032 || Nat.blt 55203 p.c) && S5.all (fun e => Nat.blt e.1 44032 || Nat.blt 55203 e.1)) = true := by kernel_rfl
theorem kSnz : (S5.all fun e => !Nat.beq e.2 0) = true := by kernel_rfl
noncomputable def L5 : List (Nat × Nat) := (P5.map fun p => (p.c, p.x)) ++ S5
theorem kFour : (stepL (stepL (stepL (stepL L5)))).isEmpty = true := by kernel_rfl
theorem four5 : stepL (stepL (stepL (stepL L5))) = [] := by simpa using kFour
theorem kLen : (Nat.beq C5.length 922 && (Nat.beq P5.length 1026 && (Nat.beq S5.length 1035 && Nat.beq (outs P5) 85))) = true := by kernel_rfl
theorem apart5 {p : Pr5} (hp : p ∈ P5) {e : Nat × Nat} (he : e ∈ S5) : p.c ≠ e.1 := by
  have h := List.all_eq_true.1 kApart p hp
  intro e1
  have : hasBit (bitsOf (S5.map (·.1)) 0) p.c = true := (has_iff _ _).2 (e1 ▸ List.mem_map_of_mem (f := (·.1)) he)
  rw [this] at h
  cases h
theorem snz5 {e : Nat × Nat} (he : e ∈ S5) : e.2 ≠ 0 := by
  have := List.all_eq_true.1 kSnz e he
  intro h0
  rw [h0] at this
  cases this
theorem sylP {p : Pr5} (hp : p ∈ P5) : p.c < 44032 ∨ 55203 < p.c := by
  have h := (Bool.and_eq_true_iff.1 kSyl).1
  have := List.all_eq_true.1 h p hp
  simpa [Nat.blt_eq] using this
theorem sylS {e : Nat × Nat} (he : e ∈ S5) : e.1 < 44032 ∨ 55203 < e.1 := by
  have h := (Bool.and_eq_true_iff.1 kSyl).2
  have := List.all_eq_true.1 h e he
  simpa [Nat.blt_eq] using this
theorem len5 : C5.length = 922 ∧ P5.length = 1026 ∧ S5.length = 1035 ∧ outs P5 = 85 := by
  have := kLen
  simpa [Nat.beq_eq] using this

/-! ### some places -/
def lk : List (Nat × Nat) → Nat → Nat → Nat
  | [], _, a => a
  | e :: r, k, a => lk r k (bif Nat.beq e.1 k then e.2 else a)
theorem tab_lk (k : Nat) : ∀ (l : List (Nat × Nat)) (f : Int → Int) (a : Nat), (∀ e ∈ l, e.1 ≤ 1114111) → f k = a → (castE l).foldl tstep f (k : Int) = lk l k a
  | [], f, a, _, h => h
  | e :: r, f, a, hl, h => by
    show (castE r).foldl tstep (tstep f ((e.1 : Int), (e.2 : Int))) (k : Int) = lk r k _
    refine tab_lk k r _ _ (fun x hx => hl x (by simp [hx])) ?_
    have he := hl e (by simp)
    unfold tstep
    rw [if_pos (isPl_iff.2 ⟨by dsimp only; omega, by dsimp only; omega⟩)]
    unfold upd
    dsimp only
    by_cases hk : e.1 = k
    · have : Nat.beq e.1 k = true := by simpa [Nat.beq_eq] using hk
      rw [this, if_pos (by omega)]; rfl
    · have : Nat.beq e.1 k = false := by rw [Bool.eq_false_iff]; simpa [Nat.beq_eq] using hk
      rw [this, if_neg (by omega), h]; rfl
theorem tab_at {l : List (Nat × Nat)} (hl : ∀ e ∈ l, e.1 ≤ 1114111) (k : Nat) : tab (castE l) (k : Int) = lk l k 0 := tab_lk k l _ 0 hl rfl
def lkP : List Pr5 → Nat → Option Pr5 → Option Pr5
  | [], _, a => a
  | p :: r, k, a => lkP r k (bif Nat.beq p.c k then some p else a)
theorem lastP_at (P : List Pr5) (k : Nat) : lastP P (k : Int) = lkP P k none := by
  have : ∀ (P : List Pr5) (a : Option Pr5), (prK P).foldl (fun acc e => if e.1 = (k : Int) then some e.2 else acc) a = lkP P k a := fun P => by
    induction P with
    | nil => intro a; rfl
    | cons p r ih =>
      intro a
      show (prK r).foldl _ (if (p.c : Int) = (k : Int) then some p else a) = lkP r k _
      rw [ih]
      congr 1
      by_cases hk : p.c = k
      · have : Nat.beq p.c k = true := by simpa [Nat.beq_eq] using hk
        rw [this, if_pos (by omega)]; rfl
      · have : Nat.beq p.c k = false := by rw [Bool.eq_false_iff]; simpa [Nat.beq_eq] using hk
        rw [this, if_neg (by omega)]; rfl
  exact this P none
def lkJ : List Pr5 → Nat → Nat → Option Nat → Option Nat
  | [], _, _, a => a
  | p :: r, x, y, a => lkJ r x y (bif !p.o && (Nat.beq p.x x && Nat.beq p.y y) then some p.c else a)
theorem look_lkJ (x y : Nat) : ∀ (P : List Pr5) (a : Option Nat), (jL P).foldl (fun acc e => if e.1 = [(x : Int), (y : Int)] then some e.2 else acc) (a.map fun (c : Nat) => (c : Int)) = (lkJ P x y a).map fun (c : Nat) => (c : Int)
  | [], a => rfl
  | p :: r, a => by
    have h := look_lkJ x y r
    have hk : (key5 p = [(x : Int), (y : Int)]) ↔ (Nat.beq p.x x && Nat.beq p.y y) = true := by
      unfold key5
      simp [Nat.beq_eq]
      omega
    show (jL (p :: r)).foldl _ _ = ((lkJ r x y (bif !p.o && (Nat.beq p.x x && Nat.beq p.y y) then some p.c else a)).map _)
    cases ho : p.o
    · have e1 : jL (p :: r) = (key5 p, (p.c : Int)) :: jL r := by unfold jL; simp [ho]
      rw [e1, List.foldl_cons, ← h]
      congr 1
      by_cases hb : (Nat.beq p.x x && Nat.beq p.y y) = true
      · rw [if_pos (hk.2 hb), hb]; rfl
      · rw [if_neg (fun e => hb (hk.1 e))]
        have : (Nat.beq p.x x && Nat.beq p.y y) = false := Bool.eq_false_iff.2 hb
        rw [this]; rfl
    · have e1 : jL (p :: r) = jL r := by unfold jL; simp [ho]
      rw [e1, ← h]; rfl
theorem joined_at (P : List Pr5) (x y : Nat) : (decide ([(x : Int), (y : Int)] ∈ (jst P).1) = (lkJ P x y none).isSome) ∧ (if [(x : Int), (y : Int)] ∈ (jst P).1 then (jst P).2 [(x : Int), (y : Int)] else 0) = (((lkJ P x y none).getD 0 : Nat) : Int) := by
  rw [jst_jL]
  obtain ⟨h1, h2⟩ := mst_look (0 : Int) (jL P) [(x : Int), (y : Int)]
  have h3 : look (jL P) [(x : Int), (y : Int)] = (lkJ P x y none).map fun (c : Nat) => (c : Int) := look_lkJ x y P none
  rw [h3] at h1 h2
  cases hj : lkJ P x y none with
  | none =>
    rw [hj] at h1
    have : ¬ [(x : Int), (y : Int)] ∈ (mst 0 (jL P)).1 := fun h => by have := h1.1 h; simp at this
    simp [this]
  | some c =>
    rw [hj] at h1 h2
    have : [(x : Int), (y : Int)] ∈ (mst 0 (jL P)).1 := h1.2 rfl
    simp [this, h2]
theorem kAw : (Nat.beq (lk C5 769 0) 230 && (Nat.beq (lk C5 1456 0) 10 && (Nat.beq (lk S5 8491 0) 197 && (Nat.beq (lk (scL P5) 769 0) 1 && Nat.beq (lk (scL P5) 101 0) 0)))) = true := by kernel_rfl
theorem kAwP : ((lkP P5 233 none).map fun p => (p.x, p.y)) = some (101, 769) := by kernel_rfl
theorem kAwJ : lkJ P5 2325 2364 none = none ∧ lkJ P5 101 769 none = some 233 := ⟨by kernel_rfl, by kernel_rfl⟩
end Go.Proofs.Ytmphfdnpnhlpjaa
