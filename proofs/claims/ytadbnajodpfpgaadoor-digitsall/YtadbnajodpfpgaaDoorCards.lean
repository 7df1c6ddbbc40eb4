/-
  DERIVED. GIVEN WITH THE SEED: THE CARDS: each row of YtadbnajodpfpgaaDoorRows.lean that lists a variable, with what it lists TIED to the program's text (the seventh form; the later family's looks); each row that meets fmt, with fmt's text TOLD by the authors' own Lean function (tested against real Go, not proved from fmt's source: count such statements apart). THE CARD IS WHAT COUNTS. Prove the row's statement (the work); the ties are given (YtadbnajodpfpgaaDoorTie.lean); close each card by the builder's one call (the guide's Derived/Test/ToyasCard.lean, 'card_holds'). Laid BY PROGRAM, IN A SANDBOX (cutbox-door.mjs). By AI agents, Wed Nov 11 2026. No macro, syntax, notation, axiom, sorry.
-/
import Derived.Test.YtadbnajodpfpgaaDoorRows
import GoSem.ClaimSeven
namespace Go.Proofs.YtadbnajodpfpgaaDoor
namespace Rows

/-- THE TIED CARD OF 'orthoepylaw10.DigitsAll'. -/
def digitsAllCard : Claim7 := { stood := { row := digitsAllRow, standIns := [], harness := (true, "e54eb6d4367e9e4c861c68fa0d0ee9c77bfd3c378a9f3ecdea68f69905b7ee38"), looks := false }, kinds := [], alts := [], laidByText := true, laidKinds := [.data, .pinned], laidTests := true, laidLooks := .later }
def DigitsAllCardSaid : Prop := Claim7.holds Tryd.pinned (.plain (OpenSpec.ofChange digitsAllSpec)) digitsAllCard

/-- THE TIED CARD OF 'orthoepylaw10.DigitsBack'. -/
def digitsBackCard : Claim7 := { stood := { row := digitsBackRow, standIns := [], harness := (true, "e54eb6d4367e9e4c861c68fa0d0ee9c77bfd3c378a9f3ecdea68f69905b7ee38"), looks := false }, kinds := [], alts := [], laidByText := true, laidKinds := [.data, .pinned], laidTests := true, laidLooks := .later }
def DigitsBackCardSaid : Prop := Claim7.holds Tryd.pinned (.plain (OpenSpec.ofChange digitsBackSpec)) digitsBackCard

/-- THE TIED CARD OF 'orthoepylaw10.DigitsForms'. -/
def digitsFormsCard : Claim7 := { stood := { row := digitsFormsRow, standIns := [], harness := (true, "e54eb6d4367e9e4c861c68fa0d0ee9c77bfd3c378a9f3ecdea68f69905b7ee38"), looks := false }, kinds := [], alts := [], laidByText := true, laidKinds := [.data, .pinned], laidTests := true, laidLooks := .later }
def DigitsFormsCardSaid : Prop := Claim7.holds Tryd.pinned (.plain (OpenSpec.ofChange digitsFormsSpec)) digitsFormsCard

/-- THE TIED CARD OF 'orthoepylaw10.DigitsNorms'. -/
def digitsNormsCard : Claim7 := { stood := { row := digitsNormsRow, standIns := [], harness := (true, "e54eb6d4367e9e4c861c68fa0d0ee9c77bfd3c378a9f3ecdea68f69905b7ee38"), looks := false }, kinds := [], alts := [], laidByText := true, laidKinds := [.data, .pinned], laidTests := true, laidLooks := .later }
def DigitsNormsCardSaid : Prop := Claim7.holds Tryd.pinned (.plain (OpenSpec.ofChange digitsNormsSpec)) digitsNormsCard

/-- THE TIED CARD OF 'orthoepylaw10.DigitsOrder'. -/
def digitsOrderCard : Claim7 := { stood := { row := digitsOrderRow, standIns := [], harness := (true, "e54eb6d4367e9e4c861c68fa0d0ee9c77bfd3c378a9f3ecdea68f69905b7ee38"), looks := false }, kinds := [], alts := [], laidByText := true, laidKinds := [.data, .pinned], laidTests := true, laidLooks := .later }
def DigitsOrderCardSaid : Prop := Claim7.holds Tryd.pinned (.plain (OpenSpec.ofChange digitsOrderSpec)) digitsOrderCard

/-- THE SECOND FORM's CARD OF 'orthoepylaw10.DigitsAll'. -/
def digitsAllUptoCard : Claim7 := { stood := { row := digitsAllUptoRow, standIns := [], harness := (true, "e54eb6d4367e9e4c861c68fa0d0ee9c77bfd3c378a9f3ecdea68f69905b7ee38"), looks := false }, kinds := [], alts := [], laidByText := true, laidKinds := [.data, .pinned], laidTests := true, laidLooks := .later }
def DigitsAllUptoCardSaid : Prop := Claim7.holds Tryd.pinned (.plain (OpenSpec.upto digitsAllSpec)) digitsAllUptoCard

/-- THE SECOND FORM's CARD OF 'orthoepylaw10.DigitsBack'. -/
def digitsBackUptoCard : Claim7 := { stood := { row := digitsBackUptoRow, standIns := [], harness := (true, "e54eb6d4367e9e4c861c68fa0d0ee9c77bfd3c378a9f3ecdea68f69905b7ee38"), looks := false }, kinds := [], alts := [], laidByText := true, laidKinds := [.data, .pinned], laidTests := true, laidLooks := .later }
def DigitsBackUptoCardSaid : Prop := Claim7.holds Tryd.pinned (.plain (OpenSpec.upto digitsBackSpec)) digitsBackUptoCard

/-- THE SECOND FORM's CARD OF 'orthoepylaw10.DigitsForms'. -/
def digitsFormsUptoCard : Claim7 := { stood := { row := digitsFormsUptoRow, standIns := [], harness := (true, "e54eb6d4367e9e4c861c68fa0d0ee9c77bfd3c378a9f3ecdea68f69905b7ee38"), looks := false }, kinds := [], alts := [], laidByText := true, laidKinds := [.data, .pinned], laidTests := true, laidLooks := .later }
def DigitsFormsUptoCardSaid : Prop := Claim7.holds Tryd.pinned (.plain (OpenSpec.upto digitsFormsSpec)) digitsFormsUptoCard

/-- THE SECOND FORM's CARD OF 'orthoepylaw10.DigitsNorms'. -/
def digitsNormsUptoCard : Claim7 := { stood := { row := digitsNormsUptoRow, standIns := [], harness := (true, "e54eb6d4367e9e4c861c68fa0d0ee9c77bfd3c378a9f3ecdea68f69905b7ee38"), looks := false }, kinds := [], alts := [], laidByText := true, laidKinds := [.data, .pinned], laidTests := true, laidLooks := .later }
def DigitsNormsUptoCardSaid : Prop := Claim7.holds Tryd.pinned (.plain (OpenSpec.upto digitsNormsSpec)) digitsNormsUptoCard

/-- THE SECOND FORM's CARD OF 'orthoepylaw10.DigitsOrder'. -/
def digitsOrderUptoCard : Claim7 := { stood := { row := digitsOrderUptoRow, standIns := [], harness := (true, "e54eb6d4367e9e4c861c68fa0d0ee9c77bfd3c378a9f3ecdea68f69905b7ee38"), looks := false }, kinds := [], alts := [], laidByText := true, laidKinds := [.data, .pinned], laidTests := true, laidLooks := .later }
def DigitsOrderUptoCardSaid : Prop := Claim7.holds Tryd.pinned (.plain (OpenSpec.upto digitsOrderSpec)) digitsOrderUptoCard
end Rows
end Go.Proofs.YtadbnajodpfpgaaDoor
