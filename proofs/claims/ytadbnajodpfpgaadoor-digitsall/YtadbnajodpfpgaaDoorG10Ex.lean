/- Layer 10: the chapter's examples. -/
import Derived.Test.YtadbnajodpfpgaaDoorG10Ok
namespace Go.Proofs.YtadbnajodpfpgaaDoor
set_option maxRecDepth 100000

theorem gx_r1 : readF [49, 48, 101, 45, 49] = some ⟨false, [49], 0⟩ := by rfl
theorem gx_r2 : readF [45, 48, 46, 48] = some ⟨false, [], 0⟩ := by rfl
theorem gx_r3 : readF [57, 48, 48, 55, 49, 57, 57, 50, 53, 52, 55, 52, 48, 57, 57, 50] = some ⟨false, [57, 48, 48, 55, 49, 57, 57, 50, 53, 52, 55, 52, 48, 57, 57, 50], 0⟩ := by rfl
theorem gx_r4 : readF [48, 49] = none := by rfl
theorem gx_i1 : intF ⟨false, [57, 48, 48, 55, 49, 57, 57, 50, 53, 52, 55, 52, 48, 57, 57, 50], 0⟩ = (0, 8) := by rfl
theorem gx_i2 : intF ⟨false, [49, 53], -1⟩ = (0, 7) := by rfl
theorem gx_i3 : intF ⟨true, [49, 50], 1⟩ = (-120, 0) := by rfl
theorem gx_p : printF (-907) = [45, 57, 48, 55] := by
  unfold printF
  have e : (-907 : Int).natAbs = 907 := rfl
  rw [if_pos (by omega), e, dig_hi (by omega), dig_hi (n := 907 / 10) (by omega), dig_lo (n := 907 / 10 / 10) (by omega)]
  rfl
theorem gx_c1 : checkF ⟨false, [49], 0⟩ = true := by rfl
theorem gx_c2 : checkF ⟨false, [120], 0⟩ = false := by rfl
theorem gx_c3 : checkF ⟨false, [57, 48, 48, 55, 49, 57, 57, 50, 53, 52, 55, 52, 48, 57, 57, 50], 0⟩ = true := by rfl
theorem gx_c4 : checkF ⟨false, [49, 53], -1⟩ = true := by rfl
theorem gx_c5 : checkF ⟨true, [49, 50], 1⟩ = true := by rfl
theorem gx_c6 : checkF ⟨false, [], 0⟩ = true := by rfl
theorem gx_m : cmpF ⟨false, [49], 0⟩ ⟨false, [], 0⟩ = 1 := by rfl
theorem gx_w : wholeF ⟨false, [49], 0⟩ = true := by rfl
end Go.Proofs.YtadbnajodpfpgaaDoor
