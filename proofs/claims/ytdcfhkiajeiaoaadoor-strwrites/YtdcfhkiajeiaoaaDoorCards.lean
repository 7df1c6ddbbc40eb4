/-
  DERIVED. GIVEN WITH THE SEED: THE CARDS: each row of YtdcfhkiajeiaoaaDoorRows.lean that lists a variable, with what it lists TIED to the program's text (the seventh form; the later family's looks); each row that meets fmt, with fmt's text TOLD by the authors' own Lean function (tested against real Go, not proved from fmt's source: count such statements apart). THE CARD IS WHAT COUNTS. Prove the row's statement (the work); the ties are given (YtdcfhkiajeiaoaaDoorTie.lean); close each card by the builder's one call (the guide's Derived/Test/ToyasCard.lean, 'card_holds'). Laid BY PROGRAM, IN A SANDBOX (cutbox-door.mjs). By AI agents, Wed Nov 11 2026. No macro, syntax, notation, axiom, sorry.
-/
import Derived.Test.YtdcfhkiajeiaoaaDoorRows
import GoSem.ClaimSeven
namespace Go.Proofs.YtdcfhkiajeiaoaaDoor
namespace Rows

/-- THE TIED CARD OF 'orthoepylaw12.StrPlays'. -/
def strPlaysCard : Claim7 := { stood := { row := strPlaysRow, standIns := [], harness := (true, "07e0ca1aaac9f8b52dc9a0f3153d5de0e85cc2096125c4dab4bef1c43dbeef4c"), looks := false }, kinds := [], alts := [], laidByText := true, laidKinds := [.data], laidTests := true, laidLooks := .later }
def StrPlaysCardSaid : Prop := Claim7.holds Tryd.pinned (.plain (OpenSpec.ofChange strPlaysSpec)) strPlaysCard

/-- THE TIED CARD OF 'orthoepylaw12.StrHopes'. -/
def strHopesCard : Claim7 := { stood := { row := strHopesRow, standIns := [], harness := (true, "07e0ca1aaac9f8b52dc9a0f3153d5de0e85cc2096125c4dab4bef1c43dbeef4c"), looks := false }, kinds := [], alts := [], laidByText := true, laidKinds := [.data], laidTests := true, laidLooks := .later }
def StrHopesCardSaid : Prop := Claim7.holds Tryd.pinned (.plain (OpenSpec.ofChange strHopesSpec)) strHopesCard

/-- THE TIED CARD OF 'orthoepylaw12.StrWrites'. -/
def strWritesCard : Claim7 := { stood := { row := strWritesRow, standIns := [], harness := (true, "07e0ca1aaac9f8b52dc9a0f3153d5de0e85cc2096125c4dab4bef1c43dbeef4c"), looks := false }, kinds := [], alts := [], laidByText := true, laidKinds := [.data], laidTests := true, laidLooks := .later }
def StrWritesCardSaid : Prop := Claim7.holds Tryd.pinned (.plain (OpenSpec.ofChange strWritesSpec)) strWritesCard

/-- THE TIED CARD OF 'orthoepylaw12.StrUnits'. -/
def strUnitsCard : Claim7 := { stood := { row := strUnitsRow, standIns := [], harness := (true, "07e0ca1aaac9f8b52dc9a0f3153d5de0e85cc2096125c4dab4bef1c43dbeef4c"), looks := false }, kinds := [], alts := [], laidByText := true, laidKinds := [.data], laidTests := true, laidLooks := .later }
def StrUnitsCardSaid : Prop := Claim7.holds Tryd.pinned (.plain (OpenSpec.ofChange strUnitsSpec)) strUnitsCard

/-- THE TIED CARD OF 'orthoepylaw12.StrScalars'. -/
def strScalarsCard : Claim7 := { stood := { row := strScalarsRow, standIns := [], harness := (true, "07e0ca1aaac9f8b52dc9a0f3153d5de0e85cc2096125c4dab4bef1c43dbeef4c"), looks := false }, kinds := [], alts := [], laidByText := true, laidKinds := [.data], laidTests := true, laidLooks := .later }
def StrScalarsCardSaid : Prop := Claim7.holds Tryd.pinned (.plain (OpenSpec.ofChange strScalarsSpec)) strScalarsCard

/-- THE SECOND FORM's CARD OF 'orthoepylaw12.StrPlays'. -/
def strPlaysUptoCard : Claim7 := { stood := { row := strPlaysUptoRow, standIns := [], harness := (true, "07e0ca1aaac9f8b52dc9a0f3153d5de0e85cc2096125c4dab4bef1c43dbeef4c"), looks := false }, kinds := [], alts := [], laidByText := true, laidKinds := [.data], laidTests := true, laidLooks := .later }
def StrPlaysUptoCardSaid : Prop := Claim7.holds Tryd.pinned (.plain (OpenSpec.upto strPlaysSpec)) strPlaysUptoCard

/-- THE SECOND FORM's CARD OF 'orthoepylaw12.StrHopes'. -/
def strHopesUptoCard : Claim7 := { stood := { row := strHopesUptoRow, standIns := [], harness := (true, "07e0ca1aaac9f8b52dc9a0f3153d5de0e85cc2096125c4dab4bef1c43dbeef4c"), looks := false }, kinds := [], alts := [], laidByText := true, laidKinds := [.data], laidTests := true, laidLooks := .later }
def StrHopesUptoCardSaid : Prop := Claim7.holds Tryd.pinned (.plain (OpenSpec.upto strHopesSpec)) strHopesUptoCard

/-- THE SECOND FORM's CARD OF 'orthoepylaw12.StrWrites'. -/
def strWritesUptoCard : Claim7 := { stood := { row := strWritesUptoRow, standIns := [], harness := (true, "07e0ca1aaac9f8b52dc9a0f3153d5de0e85cc2096125c4dab4bef1c43dbeef4c"), looks := false }, kinds := [], alts := [], laidByText := true, laidKinds := [.data], laidTests := true, laidLooks := .later }
def StrWritesUptoCardSaid : Prop := Claim7.holds Tryd.pinned (.plain (OpenSpec.upto strWritesSpec)) strWritesUptoCard

/-- THE SECOND FORM's CARD OF 'orthoepylaw12.StrUnits'. -/
def strUnitsUptoCard : Claim7 := { stood := { row := strUnitsUptoRow, standIns := [], harness := (true, "07e0ca1aaac9f8b52dc9a0f3153d5de0e85cc2096125c4dab4bef1c43dbeef4c"), looks := false }, kinds := [], alts := [], laidByText := true, laidKinds := [.data], laidTests := true, laidLooks := .later }
def StrUnitsUptoCardSaid : Prop := Claim7.holds Tryd.pinned (.plain (OpenSpec.upto strUnitsSpec)) strUnitsUptoCard

/-- THE SECOND FORM's CARD OF 'orthoepylaw12.StrScalars'. -/
def strScalarsUptoCard : Claim7 := { stood := { row := strScalarsUptoRow, standIns := [], harness := (true, "07e0ca1aaac9f8b52dc9a0f3153d5de0e85cc2096125c4dab4bef1c43dbeef4c"), looks := false }, kinds := [], alts := [], laidByText := true, laidKinds := [.data], laidTests := true, laidLooks := .later }
def StrScalarsUptoCardSaid : Prop := Claim7.holds Tryd.pinned (.plain (OpenSpec.upto strScalarsSpec)) strScalarsUptoCard
end Rows
end Go.Proofs.YtdcfhkiajeiaoaaDoor
