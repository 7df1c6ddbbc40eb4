/-
  DERIVED. GIVEN WITH THE SEED: THE CARDS: each row of YtbmeinicjfmjlaaDoorRows.lean that lists a variable, with what it lists TIED to the program's text (the seventh form; the later family's looks); each row that meets fmt, with fmt's text TOLD by the authors' own Lean function (tested against real Go, not proved from fmt's source: count such statements apart). THE CARD IS WHAT COUNTS. Prove the row's statement (the work); the ties are given (YtbmeinicjfmjlaaDoorTie.lean); close each card by the builder's one call (the guide's Derived/Test/ToyasCard.lean, 'card_holds'). Laid BY PROGRAM, IN A SANDBOX (cutbox-door.mjs). By AI agents, Wed Nov 11 2026. No macro, syntax, notation, axiom, sorry.
-/
import Derived.Test.YtbmeinicjfmjlaaDoorRows
import GoSem.ClaimSeven
namespace Go.Proofs.YtbmeinicjfmjlaaDoor
namespace Rows

/-- THE TIED CARD OF 'orthoepylaw02.Utf8All'. -/
def utf8AllCard : Claim7 := { stood := { row := utf8AllRow, standIns := [], harness := (true, "bb6f30fa91d38be69d30c06102f9231cc251790694d2310ff465ce891070c284"), looks := false }, kinds := [], alts := [], laidByText := true, laidKinds := [.data], laidTests := true, laidLooks := .later }
def Utf8AllCardSaid : Prop := Claim7.holds Tryd.pinned (.plain (OpenSpec.ofChange utf8AllSpec)) utf8AllCard

/-- THE TIED CARD OF 'orthoepylaw02.Utf8Back'. -/
def utf8BackCard : Claim7 := { stood := { row := utf8BackRow, standIns := [], harness := (true, "bb6f30fa91d38be69d30c06102f9231cc251790694d2310ff465ce891070c284"), looks := false }, kinds := [], alts := [], laidByText := true, laidKinds := [.data], laidTests := true, laidLooks := .later }
def Utf8BackCardSaid : Prop := Claim7.holds Tryd.pinned (.plain (OpenSpec.ofChange utf8BackSpec)) utf8BackCard

/-- THE TIED CARD OF 'orthoepylaw02.Utf8Longest'. -/
def utf8LongestCard : Claim7 := { stood := { row := utf8LongestRow, standIns := [], harness := (true, "bb6f30fa91d38be69d30c06102f9231cc251790694d2310ff465ce891070c284"), looks := false }, kinds := [], alts := [], laidByText := true, laidKinds := [.data], laidTests := true, laidLooks := .later }
def Utf8LongestCardSaid : Prop := Claim7.holds Tryd.pinned (.plain (OpenSpec.ofChange utf8LongestSpec)) utf8LongestCard

/-- THE TIED CARD OF 'orthoepylaw02.Utf8Reader'. -/
def utf8ReaderCard : Claim7 := { stood := { row := utf8ReaderRow, standIns := [], harness := (true, "bb6f30fa91d38be69d30c06102f9231cc251790694d2310ff465ce891070c284"), looks := false }, kinds := [], alts := [], laidByText := true, laidKinds := [.data], laidTests := true, laidLooks := .later }
def Utf8ReaderCardSaid : Prop := Claim7.holds Tryd.pinned (.plain (OpenSpec.ofChange utf8ReaderSpec)) utf8ReaderCard

/-- THE TIED CARD OF 'orthoepylaw02.Utf8Turned'. -/
def utf8TurnedCard : Claim7 := { stood := { row := utf8TurnedRow, standIns := [], harness := (true, "bb6f30fa91d38be69d30c06102f9231cc251790694d2310ff465ce891070c284"), looks := false }, kinds := [], alts := [], laidByText := true, laidKinds := [.data], laidTests := true, laidLooks := .later }
def Utf8TurnedCardSaid : Prop := Claim7.holds Tryd.pinned (.plain (OpenSpec.ofChange utf8TurnedSpec)) utf8TurnedCard

/-- THE SECOND FORM's CARD OF 'orthoepylaw02.Utf8All'. -/
def utf8AllUptoCard : Claim7 := { stood := { row := utf8AllUptoRow, standIns := [], harness := (true, "bb6f30fa91d38be69d30c06102f9231cc251790694d2310ff465ce891070c284"), looks := false }, kinds := [], alts := [], laidByText := true, laidKinds := [.data], laidTests := true, laidLooks := .later }
def Utf8AllUptoCardSaid : Prop := Claim7.holds Tryd.pinned (.plain (OpenSpec.upto utf8AllSpec)) utf8AllUptoCard

/-- THE SECOND FORM's CARD OF 'orthoepylaw02.Utf8Back'. -/
def utf8BackUptoCard : Claim7 := { stood := { row := utf8BackUptoRow, standIns := [], harness := (true, "bb6f30fa91d38be69d30c06102f9231cc251790694d2310ff465ce891070c284"), looks := false }, kinds := [], alts := [], laidByText := true, laidKinds := [.data], laidTests := true, laidLooks := .later }
def Utf8BackUptoCardSaid : Prop := Claim7.holds Tryd.pinned (.plain (OpenSpec.upto utf8BackSpec)) utf8BackUptoCard

/-- THE SECOND FORM's CARD OF 'orthoepylaw02.Utf8Longest'. -/
def utf8LongestUptoCard : Claim7 := { stood := { row := utf8LongestUptoRow, standIns := [], harness := (true, "bb6f30fa91d38be69d30c06102f9231cc251790694d2310ff465ce891070c284"), looks := false }, kinds := [], alts := [], laidByText := true, laidKinds := [.data], laidTests := true, laidLooks := .later }
def Utf8LongestUptoCardSaid : Prop := Claim7.holds Tryd.pinned (.plain (OpenSpec.upto utf8LongestSpec)) utf8LongestUptoCard

/-- THE SECOND FORM's CARD OF 'orthoepylaw02.Utf8Reader'. -/
def utf8ReaderUptoCard : Claim7 := { stood := { row := utf8ReaderUptoRow, standIns := [], harness := (true, "bb6f30fa91d38be69d30c06102f9231cc251790694d2310ff465ce891070c284"), looks := false }, kinds := [], alts := [], laidByText := true, laidKinds := [.data], laidTests := true, laidLooks := .later }
def Utf8ReaderUptoCardSaid : Prop := Claim7.holds Tryd.pinned (.plain (OpenSpec.upto utf8ReaderSpec)) utf8ReaderUptoCard

/-- THE SECOND FORM's CARD OF 'orthoepylaw02.Utf8Turned'. -/
def utf8TurnedUptoCard : Claim7 := { stood := { row := utf8TurnedUptoRow, standIns := [], harness := (true, "bb6f30fa91d38be69d30c06102f9231cc251790694d2310ff465ce891070c284"), looks := false }, kinds := [], alts := [], laidByText := true, laidKinds := [.data], laidTests := true, laidLooks := .later }
def Utf8TurnedUptoCardSaid : Prop := Claim7.holds Tryd.pinned (.plain (OpenSpec.upto utf8TurnedSpec)) utf8TurnedUptoCard
end Rows
end Go.Proofs.YtbmeinicjfmjlaaDoor
