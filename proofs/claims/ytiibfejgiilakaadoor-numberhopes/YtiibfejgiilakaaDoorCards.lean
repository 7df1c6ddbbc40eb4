/-
  DERIVED. GIVEN WITH THE SEED: THE CARDS: each row of YtiibfejgiilakaaDoorRows.lean that lists a variable, with what it lists TIED to the program's text (the seventh form; the later family's looks); each row that meets fmt, with fmt's text TOLD by the authors' own Lean function (tested against real Go, not proved from fmt's source: count such statements apart). THE CARD IS WHAT COUNTS. Prove the row's statement (the work); the ties are given (YtiibfejgiilakaaDoorTie.lean); close each card by the builder's one call (the guide's Derived/Test/ToyasCard.lean, 'card_holds'). Laid BY PROGRAM, IN A SANDBOX (cutbox-door.mjs). By AI agents, Wed Nov 11 2026. No macro, syntax, notation, axiom, sorry.
-/
import Derived.Test.YtiibfejgiilakaaDoorRows
import GoSem.ClaimSeven
namespace Go.Proofs.YtiibfejgiilakaaDoor
namespace Rows

/-- THE TIED CARD OF 'orthoepylaw11.NumberPlays'. -/
def numberPlaysCard : Claim7 := { stood := { row := numberPlaysRow, standIns := [], harness := (true, "cd9c5585d810bf90d8530aa22ad69318d6abc78f6d495e3566214dc301c71e3e"), looks := false }, kinds := [], alts := [], laidByText := true, laidKinds := [.data, .pinned], laidTests := true, laidLooks := .later }
def NumberPlaysCardSaid : Prop := Claim7.holds Tryd.pinned (.plain (OpenSpec.ofChange numberPlaysSpec)) numberPlaysCard

/-- THE TIED CARD OF 'orthoepylaw11.NumberHopes'. -/
def numberHopesCard : Claim7 := { stood := { row := numberHopesRow, standIns := [], harness := (true, "cd9c5585d810bf90d8530aa22ad69318d6abc78f6d495e3566214dc301c71e3e"), looks := false }, kinds := [], alts := [], laidByText := true, laidKinds := [.data, .pinned], laidTests := true, laidLooks := .later }
def NumberHopesCardSaid : Prop := Claim7.holds Tryd.pinned (.plain (OpenSpec.ofChange numberHopesSpec)) numberHopesCard

/-- THE TIED CARD OF 'orthoepylaw11.NumberEdges'. -/
def numberEdgesCard : Claim7 := { stood := { row := numberEdgesRow, standIns := [], harness := (true, "cd9c5585d810bf90d8530aa22ad69318d6abc78f6d495e3566214dc301c71e3e"), looks := false }, kinds := [], alts := [], laidByText := true, laidKinds := [.data, .pinned], laidTests := true, laidLooks := .later }
def NumberEdgesCardSaid : Prop := Claim7.holds Tryd.pinned (.plain (OpenSpec.ofChange numberEdgesSpec)) numberEdgesCard

/-- THE SECOND FORM's CARD OF 'orthoepylaw11.NumberPlays'. -/
def numberPlaysUptoCard : Claim7 := { stood := { row := numberPlaysUptoRow, standIns := [], harness := (true, "cd9c5585d810bf90d8530aa22ad69318d6abc78f6d495e3566214dc301c71e3e"), looks := false }, kinds := [], alts := [], laidByText := true, laidKinds := [.data, .pinned], laidTests := true, laidLooks := .later }
def NumberPlaysUptoCardSaid : Prop := Claim7.holds Tryd.pinned (.plain (OpenSpec.upto numberPlaysSpec)) numberPlaysUptoCard

/-- THE SECOND FORM's CARD OF 'orthoepylaw11.NumberHopes'. -/
def numberHopesUptoCard : Claim7 := { stood := { row := numberHopesUptoRow, standIns := [], harness := (true, "cd9c5585d810bf90d8530aa22ad69318d6abc78f6d495e3566214dc301c71e3e"), looks := false }, kinds := [], alts := [], laidByText := true, laidKinds := [.data, .pinned], laidTests := true, laidLooks := .later }
def NumberHopesUptoCardSaid : Prop := Claim7.holds Tryd.pinned (.plain (OpenSpec.upto numberHopesSpec)) numberHopesUptoCard

/-- THE SECOND FORM's CARD OF 'orthoepylaw11.NumberEdges'. -/
def numberEdgesUptoCard : Claim7 := { stood := { row := numberEdgesUptoRow, standIns := [], harness := (true, "cd9c5585d810bf90d8530aa22ad69318d6abc78f6d495e3566214dc301c71e3e"), looks := false }, kinds := [], alts := [], laidByText := true, laidKinds := [.data, .pinned], laidTests := true, laidLooks := .later }
def NumberEdgesUptoCardSaid : Prop := Claim7.holds Tryd.pinned (.plain (OpenSpec.upto numberEdgesSpec)) numberEdgesUptoCard
end Rows
end Go.Proofs.YtiibfejgiilakaaDoor
