/-
  DERIVED. GIVEN WITH THE SEED: THE PROGRAM's TIES (one call each: nine closed facts by the kernel) AND EACH ROW's TIE, after the 31st guide's Derived/Test/Toyas{Tie, Card}.lean. No idea stands in it: it is a product of the set-up. Laid BY PROGRAM, IN A SANDBOX (cutbox-door.mjs). By AI agents, Wed Nov 11 2026. No macro, syntax, notation, axiom, sorry.
-/
import Derived.Test.YtakbbhhhdcnlnaaDoorRows
import Derived.LaidByTextLater
import Derived.SevenTiedAt
import Derived.LaidSub
import Derived.LaidOnce
namespace Go.Proofs.YtakbbhhhdcnlnaaDoor
open Go
set_option maxRecDepth 100000
theorem seatTie1 : Tryd.prog.laidByTextLater [("errors.errorType", Rows.laid_errors_errorType), ("orthoepy/fault.names", Rows.laid_orthoepy_fault_names)] [.handle, .data] true :=
  Program.laidByTextLater_by_one 21 8 21 (by kernel_rfl) (by kernel_rfl) (by kernel_rfl) (by kernel_rfl) (by kernel_rfl) (by kernel_rfl) (fun _ _ => by kernel_rfl)
theorem noOwnUnsafe : Tryd.pinned.checked.prog.headLifts.contains "ownunsafe" = false := by kernel_rfl
theorem tie : Tryd.prog.laidByTextLater [("errors.errorType", Rows.laid_errors_errorType), ("orthoepy/fault.names", Rows.laid_orthoepy_fault_names)] [.handle, .data] true :=
  Program.laidByTextLater.sub seatTie1 ["errors.errorType", "orthoepy/fault.names"] (by kernel_rfl) (by kernel_rfl)
theorem faultPlays_row_tie : Rows.faultPlaysRow.laidByTextAt .later Tryd.pinned [.handle, .data] true :=
  OpenClaim.laidByTextAt_later rfl rfl tie noOwnUnsafe
theorem faultNames_row_tie : Rows.faultNamesRow.laidByTextAt .later Tryd.pinned [.handle, .data] true :=
  OpenClaim.laidByTextAt_later rfl rfl tie noOwnUnsafe
theorem faultDeep_row_tie : Rows.faultDeepRow.laidByTextAt .later Tryd.pinned [.handle, .data] true :=
  OpenClaim.laidByTextAt_later rfl rfl tie noOwnUnsafe
theorem faultNone_row_tie : Rows.faultNoneRow.laidByTextAt .later Tryd.pinned [.handle, .data] true :=
  OpenClaim.laidByTextAt_later rfl rfl tie noOwnUnsafe
theorem faultPlaysUpto_row_tie : Rows.faultPlaysUptoRow.laidByTextAt .later Tryd.pinned [.handle, .data] true :=
  OpenClaim.laidByTextAt_later rfl rfl tie noOwnUnsafe
theorem faultNamesUpto_row_tie : Rows.faultNamesUptoRow.laidByTextAt .later Tryd.pinned [.handle, .data] true :=
  OpenClaim.laidByTextAt_later rfl rfl tie noOwnUnsafe
theorem faultDeepUpto_row_tie : Rows.faultDeepUptoRow.laidByTextAt .later Tryd.pinned [.handle, .data] true :=
  OpenClaim.laidByTextAt_later rfl rfl tie noOwnUnsafe
theorem faultNoneUpto_row_tie : Rows.faultNoneUptoRow.laidByTextAt .later Tryd.pinned [.handle, .data] true :=
  OpenClaim.laidByTextAt_later rfl rfl tie noOwnUnsafe
end Go.Proofs.YtakbbhhhdcnlnaaDoor
