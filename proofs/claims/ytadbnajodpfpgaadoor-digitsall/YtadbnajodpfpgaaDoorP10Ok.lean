/- The program's seven functions of layer 10 are what the walks ask. -/
import Derived.Test.YtadbnajodpfpgaaDoorG10Ok
import Derived.Test.YtadbnajodpfpgaaDoorP10Read
import Derived.Test.YtadbnajodpfpgaaDoorP10Print
import Derived.Test.YtadbnajodpfpgaaDoorP10Cmp
import Derived.Test.YtadbnajodpfpgaaDoorP10Int
namespace Go.Proofs.YtadbnajodpfpgaaDoor
set_option maxRecDepth 100000

theorem checkF_allD {x : Dc} (h : checkF x = true) : allD x.d ∧ -1000000000 ≤ x.e ∧ x.e ≤ 1000000000 := by
  unfold checkF allB at h
  simp only [Bool.and_eq_true, decide_eq_true_eq, List.all_eq_true] at h
  exact ⟨fun c hc => h.1 c hc, by omega, by omega⟩
theorem digits_ok : DigitsOk where
  check := fun x w hx _ => check_any x w (by omega)
  norm := fun x w hx hc => by
    obtain ⟨_, h1, h2⟩ := checkF_allD hc
    exact norm_any x w (by omega) (by omega) (by omega)
  read := fun s w hs => read_any s w (by omega)
  cmp := fun a b w ha hb hca hcb => by
    obtain ⟨_, h1, h2⟩ := checkF_allD hca
    obtain ⟨_, h3, h4⟩ := checkF_allD hcb
    exact cmp_any a b w (by omega) (by omega) (by omega) (by omega) (by omega) (by omega)
  whole := fun x w hx hc => by
    obtain ⟨_, h1, h2⟩ := checkF_allD hc
    exact whole_any x w (by omega) (by omega) (by omega)
  int := fun x w hx hc => by
    obtain ⟨h0, h1, h2⟩ := checkF_allD hc
    exact int_any x w h0 (by omega) (by omega) (by omega)
  print := fun n w hn => print_any n w hn.1 hn.2
end Go.Proofs.YtadbnajodpfpgaaDoor
