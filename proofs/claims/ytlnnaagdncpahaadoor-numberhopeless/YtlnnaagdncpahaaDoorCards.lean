/-
  DERIVED. GIVEN WITH THE SEED: THE CARDS: each row of YtlnnaagdncpahaaDoorRows.lean that lists a variable, with what it lists TIED to the program's text (the seventh form; the later family's looks); each row that meets fmt, with fmt's text TOLD by the authors' own Lean function (tested against real Go, not proved from fmt's source: count such statements apart). THE CARD IS WHAT COUNTS. Prove the row's statement (the work); the ties are given (YtlnnaagdncpahaaDoorTie.lean); close each card by the builder's one call (the guide's Derived/Test/ToyasCard.lean, 'card_holds'). Laid BY PROGRAM, IN A SANDBOX (cutbox-door.mjs). By AI agents, Wed Nov 11 2026. No macro, syntax, notation, axiom, sorry.
-/
import Derived.Test.YtlnnaagdncpahaaDoorRows
import GoSem.ClaimSeven
namespace Go.Proofs.YtlnnaagdncpahaaDoor
namespace Rows

/-- THE TIED CARD OF 'orthoepylaw11.NumberPlays'. -/
def numberPlaysCard : Claim7 := { stood := { row := numberPlaysRow, standIns := [], harness := (true, "703164ac37260188b5e2385c8c6b315a10612183d7e2c78d573a462153bf0e86"), looks := false }, kinds := [], alts := [], laidByText := true, laidKinds := [.data, .pinned], laidTests := true, laidLooks := .later }
def NumberPlaysCardSaid : Prop := Claim7.holds Tryd.pinned (.plain (OpenSpec.ofChange numberPlaysSpec)) numberPlaysCard

/-- THE TIED CARD OF 'orthoepylaw11.NumberHopes'. -/
def numberHopesCard : Claim7 := { stood := { row := numberHopesRow, standIns := [], harness := (true, "703164ac37260188b5e2385c8c6b315a10612183d7e2c78d573a462153bf0e86"), looks := false }, kinds := [], alts := [], laidByText := true, laidKinds := [.data, .pinned], laidTests := true, laidLooks := .later }
def NumberHopesCardSaid : Prop := Claim7.holds Tryd.pinned (.plain (OpenSpec.ofChange numberHopesSpec)) numberHopesCard

/-- THE TIED CARD OF 'orthoepylaw11.NumberReads'. -/
def numberReadsCard : Claim7 := { stood := { row := numberReadsRow, standIns := [], harness := (true, "703164ac37260188b5e2385c8c6b315a10612183d7e2c78d573a462153bf0e86"), looks := false }, kinds := [], alts := [], laidByText := true, laidKinds := [.data, .pinned], laidTests := true, laidLooks := .later }
def NumberReadsCardSaid : Prop := Claim7.holds Tryd.pinned (.plain (OpenSpec.ofChange numberReadsSpec)) numberReadsCard

/-- THE TIED CARD OF 'orthoepylaw11.NumberHopeless'. -/
def numberHopelessCard : Claim7 := { stood := { row := numberHopelessRow, standIns := [], harness := (true, "703164ac37260188b5e2385c8c6b315a10612183d7e2c78d573a462153bf0e86"), looks := false }, kinds := [], alts := [], laidByText := true, laidKinds := [.data, .pinned], laidTests := true, laidLooks := .later }
def NumberHopelessCardSaid : Prop := Claim7.holds Tryd.pinned (.plain (OpenSpec.ofChange numberHopelessSpec)) numberHopelessCard

/-- THE TIED CARD OF 'orthoepylaw11.NumberEdges'. -/
def numberEdgesCard : Claim7 := { stood := { row := numberEdgesRow, standIns := [], harness := (true, "703164ac37260188b5e2385c8c6b315a10612183d7e2c78d573a462153bf0e86"), looks := false }, kinds := [], alts := [], laidByText := true, laidKinds := [.data, .pinned], laidTests := true, laidLooks := .later }
def NumberEdgesCardSaid : Prop := Claim7.holds Tryd.pinned (.plain (OpenSpec.ofChange numberEdgesSpec)) numberEdgesCard

/-- THE TIED CARD OF 'orthoepylaw11.NumberCopies'. -/
def numberCopiesCard : Claim7 := { stood := { row := numberCopiesRow, standIns := [], harness := (true, "703164ac37260188b5e2385c8c6b315a10612183d7e2c78d573a462153bf0e86"), looks := false }, kinds := [], alts := [], laidByText := true, laidKinds := [.data, .pinned], laidTests := true, laidLooks := .later }
def NumberCopiesCardSaid : Prop := Claim7.holds Tryd.pinned (.plain (OpenSpec.ofChange numberCopiesSpec)) numberCopiesCard

/-- THE SECOND FORM's CARD OF 'orthoepylaw11.NumberPlays'. -/
def numberPlaysUptoCard : Claim7 := { stood := { row := numberPlaysUptoRow, standIns := [], harness := (true, "703164ac37260188b5e2385c8c6b315a10612183d7e2c78d573a462153bf0e86"), looks := false }, kinds := [], alts := [], laidByText := true, laidKinds := [.data, .pinned], laidTests := true, laidLooks := .later }
def NumberPlaysUptoCardSaid : Prop := Claim7.holds Tryd.pinned (.plain (OpenSpec.upto numberPlaysSpec)) numberPlaysUptoCard

/-- THE SECOND FORM's CARD OF 'orthoepylaw11.NumberHopes'. -/
def numberHopesUptoCard : Claim7 := { stood := { row := numberHopesUptoRow, standIns := [], harness := (true, "703164ac37260188b5e2385c8c6b315a10612183d7e2c78d573a462153bf0e86"), looks := false }, kinds := [], alts := [], laidByText := true, laidKinds := [.data, .pinned], laidTests := true, laidLooks := .later }
def NumberHopesUptoCardSaid : Prop := Claim7.holds Tryd.pinned (.plain (OpenSpec.upto numberHopesSpec)) numberHopesUptoCard

/-- THE SECOND FORM's CARD OF 'orthoepylaw11.NumberReads'. -/
def numberReadsUptoCard : Claim7 := { stood := { row := numberReadsUptoRow, standIns := [], harness := (true, "703164ac37260188b5e2385c8c6b315a10612183d7e2c78d573a462153bf0e86"), looks := false }, kinds := [], alts := [], laidByText := true, laidKinds := [.data, .pinned], laidTests := true, laidLooks := .later }
def NumberReadsUptoCardSaid : Prop := Claim7.holds Tryd.pinned (.plain (OpenSpec.upto numberReadsSpec)) numberReadsUptoCard

/-- THE SECOND FORM's CARD OF 'orthoepylaw11.NumberHopeless'. -/
def numberHopelessUptoCard : Claim7 := { stood := { row := numberHopelessUptoRow, standIns := [], harness := (true, "703164ac37260188b5e2385c8c6b315a10612183d7e2c78d573a462153bf0e86"), looks := false }, kinds := [], alts := [], laidByText := true, laidKinds := [.data, .pinned], laidTests := true, laidLooks := .later }
def NumberHopelessUptoCardSaid : Prop := Claim7.holds Tryd.pinned (.plain (OpenSpec.upto numberHopelessSpec)) numberHopelessUptoCard

/-- THE SECOND FORM's CARD OF 'orthoepylaw11.NumberEdges'. -/
def numberEdgesUptoCard : Claim7 := { stood := { row := numberEdgesUptoRow, standIns := [], harness := (true, "703164ac37260188b5e2385c8c6b315a10612183d7e2c78d573a462153bf0e86"), looks := false }, kinds := [], alts := [], laidByText := true, laidKinds := [.data, .pinned], laidTests := true, laidLooks := .later }
def NumberEdgesUptoCardSaid : Prop := Claim7.holds Tryd.pinned (.plain (OpenSpec.upto numberEdgesSpec)) numberEdgesUptoCard

/-- THE SECOND FORM's CARD OF 'orthoepylaw11.NumberCopies'. -/
def numberCopiesUptoCard : Claim7 := { stood := { row := numberCopiesUptoRow, standIns := [], harness := (true, "703164ac37260188b5e2385c8c6b315a10612183d7e2c78d573a462153bf0e86"), looks := false }, kinds := [], alts := [], laidByText := true, laidKinds := [.data, .pinned], laidTests := true, laidLooks := .later }
def NumberCopiesUptoCardSaid : Prop := Claim7.holds Tryd.pinned (.plain (OpenSpec.upto numberCopiesSpec)) numberCopiesUptoCard
end Rows
end Go.Proofs.YtlnnaagdncpahaaDoor
