/- An argument that is an api.Dec: opened. -/
import Derived.Test.YtadbnajodpfpgaaDoorRows
import Derived.Test.YtadbnajodpfpgaaDoorG10Ok
import Derived.WalkKit
import Derived.ProofKit
import Derived.OpenShut
import Derived.WideShapes
import Derived.Deep.Strs
namespace Go.Proofs.YtadbnajodpfpgaaDoor
open Go.ChangeShapes Go.WideShapes
set_option maxRecDepth 100000
theorem open_dec {H : Type} {enc : TypeId × Value → H} {w : World} {base : Nat} {spare : Nat → Bool} {held : Bool} {r : Reach} {b0 : Nat} {v : Value} {d : DataW H} {ps : List MemPlace}
    (hval : Value.okWide Tryd.prog w r b0 23 v) (hd : DataW.Trod enc Tryd.prog w base spare held 23 v d ps) :
    ∃ x : Dc, v = dcV x ∧ x.d.length ≤ 9223372036854775807 ∧ I64 x.e := by
  obtain ⟨cs, rfl, hsz⟩ := okWide_struct Tryd.underlying23 hval
  have hc : Tryd.prog.cellsOf 23 = 3 := by kernel_rfl
  rw [hc] at hsz
  obtain ⟨l⟩ := cs
  match l, hsz with
  | [c0, c1, c2], _ =>
  obtain ⟨fuel, hf⟩ := hd
  obtain ⟨y0, y1, y2, m, hx, _, hy0, hy1, hy2⟩ := Go.Deep.trod_struct3 Tryd.underlying23 hf
  obtain ⟨n, e0, -⟩ := DataW.trod_bool Tryd.underlying4 hy0
  obtain ⟨s, e1, -, hs⟩ := DataW.trod_string Tryd.underlying9 hy1
  obtain ⟨e, e2, -, hw⟩ := DataW.trod_int Tryd.underlying3 hy2
  have c0' : Tryd.prog.cellsOf 4 = 1 := by kernel_rfl
  have c1' : Tryd.prog.cellsOf 9 = 1 := by kernel_rfl
  have c2' : Tryd.prog.cellsOf 3 = 1 := by kernel_rfl
  simp [Value.cells, c0', c1', c2'] at e0 e1 e2
  subst e0 e1 e2
  refine ⟨⟨n, L8 s, e⟩, ?_, ?_, bounds_i64 hw⟩
  · unfold dcV; dsimp only; rw [bs_L8]
  · dsimp only; rw [L8_len]; unfold maxLen at hs; omega
end Go.Proofs.YtadbnajodpfpgaaDoor
