package compose

import (
	"math"
	"slices"
	"sync"
	"testing"

	"orthoepy/decomp"
	"orthoepy/hangul"
	"orthoepy/ucd"
)

// The tests hold the package against answers written out by hand, and against the promises' letters: the starter is looked for anew for each one of a row, and what two are put together to is read backwards from what has parts.

// tables are built once, since they never change.
var tables = sync.OnceValue(ucd.Build)

// noScalars are halves, negative numbers and numbers beyond the scalars; the lowest bits of some are those of a scalar that is joined or has a class.
var noScalars = []rune{
	0xD800, 0xD801, 0xDBFF, 0xDC00, 0xDFFE, 0xDFFF,
	-1, -2, -0x65, -0x301, -0x1100, -0xAC00, -0x110000, -0x110000 + 0x65, -0x110000 + 0x301, math.MinInt32, math.MinInt32 + 1, math.MinInt32 + 0x65, math.MinInt32 + 0x301,
	0x110000, 0x110001, 0x110065, 0x110301, 0x111100, 0x111161, 0x11AC00, 0x200000, 0x200065, 0x200301, 0x7FFF0301, math.MaxInt32 - 1, math.MaxInt32,
}

// wholes are what each two are put together to: of a syllable all but its last part, and that part; of a Pair its two, unless it is left out.
var wholes = sync.OnceValue(func() map[[2]rune]rune {
	x := tables()
	w := map[[2]rune]rune{}
	for c := rune(0xAC00); c <= 0xD7A3; c++ {
		parts := hangul.Split(c)
		first := parts[0]
		if len(parts) == 3 {
			first = w[[2]rune{parts[0], parts[1]}]
		}
		w[[2]rune{first, parts[len(parts)-1]}] = c
	}
	for c := rune(0); c <= 0x10FFFF; c++ {
		if a, b, ok := x.Pair(c); ok {
			if back, ok := x.Joined(a, b); ok && back == c {
				w[[2]rune{a, b}] = c
			}
		}
	}
	return w
})

// starterOf answers where the last one of class 0 stands in row, -1 if there is none.
func starterOf(row []rune) int {
	for i, c := range slices.Backward(row) {
		if tables().Class(c) == 0 {
			return i
		}
	}
	return -1
}

// barred tells whether c is barred from the one at place starter of row.
func barred(row []rune, starter int, c rune) bool {
	if starter == len(row)-1 {
		return false
	}
	last := tables().Class(row[len(row)-1])
	return last == 0 || last >= tables().Class(c)
}

// byTheLetter answers what Compose of l is to be.
func byTheLetter(l []rune) []rune {
	var row []rune
	for _, c := range l {
		at := starterOf(row)
		if at >= 0 {
			if whole, ok := wholes()[[2]rune{row[at], c}]; ok && !barred(row, at, c) {
				row[at] = whole
				continue
			}
		}
		row = append(row, c)
	}
	return row
}

// rows calls do with each row of at most most of those.
func rows(those []rune, most int, do func([]rune)) {
	var grow func(l []rune)
	grow = func(l []rune) {
		do(l)
		if len(l) == most {
			return
		}
		for _, c := range those {
			grow(append(slices.Clone(l), c))
		}
	}
	grow(nil)
}

// P8.1

func TestTwoByHand(t *testing.T) {
	list := []struct {
		name       string
		a, b, want rune
	}{
		{"a syllable's first two", 0x1100, 0x1161, 0xAC00},
		{"a syllable's first two", 0x1112, 0x1175, 0xD788},
		{"a syllable and its third", 0xAC00, 0x11A8, 0xAC01},
		{"a syllable and its third", 0xD788, 0x11C2, 0xD7A3},
		{"the first Pair", 0x41, 0x300, 0xC0},
		{"a letter and a mark", 0x65, 0x301, 0xE9},
		{"a letter that has parts", 0xE2, 0x301, 0x1EA5},
		{"a letter that has parts", 0x1F02, 0x345, 0x1F82},
		{"two of class 0", 0x9C7, 0x9BE, 0x9CB},
		{"two of class 0", 0x1025, 0x102E, 0x1026},
		{"two of class 0, the first with parts", 0xCCA, 0xCD5, 0xCCB},
		{"sound marks", 0x304B, 0x3099, 0x304C},
		{"of plane 1", 0x11099, 0x110BA, 0x1109A},
		{"of plane 1, two of class 0", 0x11131, 0x11127, 0x1112E},
		{"the last one", 0x11935, 0x11930, 0x11938},
	}
	for _, r := range list {
		if got, ok := Two(tables(), r.a, r.b); got != r.want || !ok {
			t.Errorf("%s: Two(%X, %X) is %X, %v, not %X, true", r.name, r.a, r.b, got, ok, r.want)
		}
	}
}

func TestTwoOfOthersByHand(t *testing.T) {
	list := []struct {
		name string
		a, b rune
	}{
		{"a syllable with three parts and a third", 0xAC01, 0x11A8},
		{"a first and a third", 0x1100, 0x11A8},
		{"no third", 0xAC00, 0x11A7},
		{"a syllable and a mark", 0xAC00, 0x301},
		{"a letter and a third", 0x65, 0x11A8},
		{"the other way round", 0x301, 0x65},
		{"the other way round", 0x1161, 0x1100},
		{"two letters", 'a', 'b'},
		{"a letter that takes no such mark", 'a', 0x327},
		{"two marks", 0x300, 0x301},
		{"left out", 0x915, 0x93C},
		{"left out, of two marks", 0x308, 0x301},
		{"left out, of two marks", 0xF71, 0xF72},
		{"left out", 0x5E9, 0x5C1},
		{"left out, of plane 1", 0x1D157, 0x1D165},
		{"left out", 0x2ADD, 0x338},
		{"none", 0, 0},
		{"no scalar ahead", -1, 0x301},
		{"no scalar behind", 'e', -1},
		{"halves", 0xD83D, 0xDE00},
		{"beyond the scalars", 0x110065, 0x110301},
		{"beyond the scalars", 0x110065, 0x301},
		{"beyond the scalars", 0x65, 0x110301},
		{"beyond the scalars", 0x111100, 0x111161},
	}
	for _, r := range list {
		if got, ok := Two(tables(), r.a, r.b); got != 0 || ok {
			t.Errorf("%s: Two(%X, %X) is %X, %v, not 0, false", r.name, r.a, r.b, got, ok)
		}
	}
}

// All numbers up to those that are put together, with all that are the second of two.
func TestTwoOfAll(t *testing.T) {
	var seconds []rune
	for c := rune(0); c <= 0x10FFFF; c++ {
		if k := hangul.Kind(c); k == 2 || k == 3 || tables().Second(c) {
			seconds = append(seconds, c)
		}
	}
	known := 0
	for a := rune(-0x1000); a <= 0x12000; a++ {
		for _, b := range seconds {
			got, ok := Two(tables(), a, b)
			want := wholes()[[2]rune{a, b}]
			if got != want || ok != (want != 0) {
				t.Fatalf("Two(%X, %X) is %X, %v, not %X", a, b, got, ok, want)
			}
			if ok {
				known++
			}
		}
	}
	if known != 11172+1026-85 || known != len(wholes()) {
		t.Errorf("%d are known", known)
	}
}

func TestTwoOfNoScalars(t *testing.T) {
	others := slices.Concat(noScalars, []rune{0, 'e', 0x301, 0x3099, 0x9C7, 0x9BE, 0x1100, 0x1161, 0x11A8, 0xAC00, 0xAC01, 0x10FFFF})
	for _, a := range noScalars {
		for _, b := range others {
			if got, ok := Two(tables(), a, b); got != 0 || ok {
				t.Errorf("Two(%X, %X) is %X, %v", a, b, got, ok)
			}
			if got, ok := Two(tables(), b, a); got != 0 || ok {
				t.Errorf("Two(%X, %X) is %X, %v", b, a, got, ok)
			}
		}
	}
}

// P8.2

func TestComposeByHand(t *testing.T) {
	list := []struct {
		name    string
		l, want []rune
	}{
		{"the empty row", nil, nil},
		{"the empty row", []rune{}, nil},
		{"the chapter's examples", []rune{0x61, 0x302, 0x301}, []rune{0x1EA5}},
		{"the chapter's examples", []rune{0x1100, 0x1161, 0x11A8}, []rune{0xAC01}},
		{"the chapter's examples", []rune{0x65, 0x327, 0x301}, []rune{0x229, 0x301}},

		{"without a starter", []rune{0x301}, []rune{0x301}},
		{"without a starter", []rune{0x327, 0x301}, []rune{0x327, 0x301}},
		{"without a starter, of a Pair left out", []rune{0x308, 0x301}, []rune{0x308, 0x301}},
		{"a starter alone", []rune{'e'}, []rune{'e'}},
		{"a starter with others ahead", []rune{0x301, 'e', 0x301}, []rune{0x301, 0xE9}},
		{"a starter with others ahead", []rune{0x345, 0x327, 'e', 0x301}, []rune{0x345, 0x327, 0xE9}},
		{"a starter with starters ahead", []rune{'e', 'a', 0x301}, []rune{'e', 0xE1}},
		{"the first starter is left when the second is there", []rune{'e', 'x', 0x301}, []rune{'e', 'x', 0x301}},
		{"each starter takes its own", []rune{'a', 0x301, 'e', 0x301}, []rune{0xE1, 0xE9}},

		{"right behind", []rune{'e', 0x301}, []rune{0xE9}},
		{"right behind, not taken", []rune{'x', 0x301}, []rune{'x', 0x301}},
		{"right behind, of class 0", []rune{0x9C7, 0x9BE}, []rune{0x9CB}},
		{"right behind, of class 0, not taken", []rune{'a', 'b'}, []rune{'a', 'b'}},
		{"between: a class below c's", []rune{'a', 0x334, 0x301}, []rune{0xE1, 0x334}},
		{"between: a class 1 below c's", []rune{0x304B, 0x93C, 0x3099}, []rune{0x304C, 0x93C}},
		{"between: a class 1 below c's", []rune{0xDD9, 0x3099, 0xDCA}, []rune{0xDDA, 0x3099}},
		{"between: two classes below c's", []rune{'a', 0x334, 0x321, 0x301}, []rune{0xE1, 0x334, 0x321}},
		{"between: c's own class", []rune{'a', 0x30D, 0x301}, []rune{'a', 0x30D, 0x301}},
		{"between: c's own class, c itself", []rune{'x', 0x301, 0x301}, []rune{'x', 0x301, 0x301}},
		{"between: a greater class", []rune{'a', 0x345, 0x301}, []rune{'a', 0x345, 0x301}},
		{"between: a class 1 greater", []rune{0x304B, 0x94D, 0x3099}, []rune{0x304B, 0x94D, 0x3099}},
		{"between: a class 1 greater", []rune{0x928, 0x3099, 0x93C}, []rune{0x928, 0x3099, 0x93C}},
		{"between: class 0", []rune{'a', 0x34F, 0x301}, []rune{'a', 0x34F, 0x301}},
		{"between: class 0, and then a class below", []rune{'a', 0x34F, 0x334, 0x301}, []rune{'a', 0x34F, 0x334, 0x301}},
		{"c of class 0, something between", []rune{0x9C7, 0x334, 0x9BE}, []rune{0x9C7, 0x334, 0x9BE}},
		{"c of class 0, something between", []rune{0xAC00, 0x327, 0x11A8}, []rune{0xAC00, 0x327, 0x11A8}},
		{"c of class 0, something between", []rune{0x1100, 0x302E, 0x1161}, []rune{0x1100, 0x302E, 0x1161}},
		{"what was barred bars", []rune{'a', 0x30D, 0x301, 0x302}, []rune{'a', 0x30D, 0x301, 0x302}},
		{"what was taken does not bar", []rune{'a', 0x323, 0x302, 0x30D}, []rune{0x1EAD, 0x30D}},

		{"becomes another, and goes on", []rune{0x3B1, 0x313, 0x300, 0x345}, []rune{0x1F82}},
		{"becomes another, and goes on behind others", []rune{0x3B1, 0x334, 0x313, 0x327, 0x345}, []rune{0x1F80, 0x334, 0x327}},
		{"becomes another that takes no more", []rune{'e', 0x301, 0x302}, []rune{0xE9, 0x302}},
		{"becomes another that takes what the first does not", []rune{'u', 0x308, 0x304}, []rune{0x1D6}},
		{"becomes another that does not take what the first does", []rune{'a', 0x301, 0x323}, []rune{0xE1, 0x323}},
		{"two of class 0 behind it", []rune{0xCC6, 0xCC2, 0xCD5}, []rune{0xCCB}},
		{"a starter that has parts", []rune{0xE2, 0x301}, []rune{0x1EA5}},
		{"a syllable that has two parts", []rune{0xAC00, 0x11A8}, []rune{0xAC01}},
		{"a syllable that has three parts", []rune{0xAC01, 0x11A8}, []rune{0xAC01, 0x11A8}},
		{"a third too many", []rune{0x1100, 0x1161, 0x11A8, 0x11A8}, []rune{0xAC01, 0x11A8}},
		{"two syllables", []rune{0x1100, 0x1161, 0x1100, 0x1161, 0x11A8}, []rune{0xAC00, 0xAC01}},
		{"marks behind a syllable", []rune{0x1100, 0x1161, 0x11A8, 0x302A, 0x302E}, []rune{0xAC01, 0x302A, 0x302E}},

		{"left out", []rune{0x915, 0x93C}, []rune{0x915, 0x93C}},
		{"left out, with a mark behind", []rune{0x928, 0x93C, 0x915, 0x93C, 0x301}, []rune{0x929, 0x915, 0x93C, 0x301}},
		{"left out, of plane 1", []rune{0x1D158, 0x1D165, 0x1D16E}, []rune{0x1D158, 0x1D165, 0x1D16E}},
		{"what is left out stays whole", []rune{0x958, 0x344, 'e', 0x301}, []rune{0x958, 0x344, 0xE9}},
		{"a Single stays", []rune{0x212B, 0x301, 0x340}, []rune{0x212B, 0x301, 0x340}},

		{"not in order", []rune{'e', 0x301, 0x327}, []rune{0xE9, 0x327}},
		{"not in order: the last one alone bars", []rune{'a', 0x345, 0x334, 0x301}, []rune{0xE1, 0x345, 0x334}},
		{"not in order: the last one alone bars", []rune{'a', 0x30D, 0x334, 0x301}, []rune{0xE1, 0x30D, 0x334}},
		{"not in order: a greater class ahead of c", []rune{'e', 0x345, 0x327}, []rune{'e', 0x345, 0x327}},
	}
	for _, r := range list {
		if got := Compose(tables(), r.l); !slices.Equal(got, r.want) {
			t.Errorf("%s: Compose(%X) is %X, not %X", r.name, r.l, got, r.want)
		}
	}
}

func TestComposeOfNoScalarsByHand(t *testing.T) {
	list := []struct {
		name    string
		l, want []rune
	}{
		{"a negative one takes nothing", []rune{-1, 0x301}, []rune{-1, 0x301}},
		{"half of a pair takes nothing", []rune{0xD800, 0x301, 0xDC00, 0x327}, []rune{0xD800, 0x301, 0xDC00, 0x327}},
		{"two halves stay two", []rune{0xD83D, 0xDE00}, []rune{0xD83D, 0xDE00}},
		{"beyond the scalars", []rune{0x110065, 0x301, 'e', 0x110301}, []rune{0x110065, 0x301, 'e', 0x110301}},
		{"a negative one is of class 0, and so the starter", []rune{'e', -1, 0x301}, []rune{'e', -1, 0x301}},
		{"half of a pair between", []rune{'e', 0xDC00, 0x301}, []rune{'e', 0xDC00, 0x301}},
		{"110000 between", []rune{0x1100, 0x110000, 0x1161}, []rune{0x1100, 0x110000, 0x1161}},
		{"ahead of a starter", []rune{0xD800, 'e', 0x301}, []rune{0xD800, 0xE9}},
		{"behind a starter", []rune{'e', 0x301, -1, 'a', 0x302, 0x301, 0x110000}, []rune{0xE9, -1, 0x1EA5, 0x110000}},
	}
	for _, r := range list {
		if got := Compose(tables(), r.l); !slices.Equal(got, r.want) {
			t.Errorf("%s: Compose(%X) is %X, not %X", r.name, r.l, got, r.want)
		}
	}
	if got := Compose(tables(), noScalars); !slices.Equal(got, noScalars) {
		t.Errorf("of all of them: %X", got)
	}
	for _, c := range noScalars {
		for _, l := range [][]rune{{c}, {c, c}, {c, 0x301}, {0x301, c}, {'e', c, 0x301}, {0x1100, c, 0x1161}, {0xAC00, c, 0x11A8}, {0x9C7, c, 0x9BE}} {
			if got := Compose(tables(), l); !slices.Equal(got, l) {
				t.Errorf("Compose(%X) is %X", l, got)
			}
		}
	}
}

// Compose takes it from the tables that a starter which becomes another is one still.
func TestWhatIsPutTogetherHasClass0(t *testing.T) {
	for two, c := range wholes() {
		if tables().Class(c) != 0 {
			t.Errorf("%X, of %X, has class %d", c, two, tables().Class(c))
		}
	}
}

func TestComposeOfSmallRows(t *testing.T) {
	for _, those := range [][]rune{
		{'a', 'x', 0x334, 0x323, 0x302, 0x301, 0x345},
		{0x3B1, 0x334, 0x313, 0x300, 0x345, -1, 0x1F00},
		{0x1100, 0x1161, 0x11A8, 0xAC00, 0xAC01, 0x302E, 0xD800},
		{0x9C7, 0x9BE, 0xCC6, 0xCC2, 0xCD5, 0x334, 0x34F},
		{0x915, 0x928, 0x93C, 0x308, 0x301, 0x344, 0x110000},
	} {
		rows(those, 6, func(l []rune) {
			if got, want := Compose(tables(), l), byTheLetter(l); !slices.Equal(got, want) {
				t.Fatalf("Compose(%X) is %X, not %X", l, got, want)
			}
		})
	}
}

// Each two that are put together, with one of each class between, and two.
func TestComposeWithEachClassBetween(t *testing.T) {
	ofClass := map[int]rune{}
	for c := rune(0); c <= 0x10FFFF; c++ {
		if n := tables().Class(c); ofClass[n] == 0 && !tables().Second(c) {
			ofClass[n] = c
		}
	}
	taken := 0
	for two, whole := range wholes() {
		if hangul.Kind(two[0]) == 4 && two[0] != 0xAC00 {
			continue
		}
		for n, between := range ofClass {
			if _, ok := wholes()[[2]rune{two[0], between}]; ok {
				continue
			}
			l := []rune{two[0], between, two[1]}
			want := l
			if 0 < n && n < tables().Class(two[1]) {
				want = []rune{whole, between}
				taken++
			}
			if got := Compose(tables(), l); !slices.Equal(got, want) {
				t.Fatalf("Compose(%X) is %X, not %X", l, got, want)
			}
		}
	}
	if len(ofClass) < 40 || taken == 0 {
		t.Errorf("%d classes, %d taken", len(ofClass), taken)
	}
}

// Each number alone, ahead of what may be taken, between two that are put together, and behind a starter.
func TestComposeOfEachAmongOthers(t *testing.T) {
	for c := rune(-0x1000); c <= 0x111000; c++ {
		if got := Compose(tables(), []rune{c}); !slices.Equal(got, []rune{c}) {
			t.Fatalf("Compose(%X) is %X", c, got)
		}
		for _, l := range [][]rune{{0x345, c, 0x323, 0x301}, {'a', c, 0x302, 0x301}, {0x1100, c, 0x11A8}} {
			if got, want := Compose(tables(), l), byTheLetter(l); !slices.Equal(got, want) {
				t.Fatalf("Compose(%X) is %X, not %X", l, got, want)
			}
		}
	}
}

// The starter is far from what it takes, and a row of many starters is as long as a text.
func TestComposeOfLongRows(t *testing.T) {
	const many = 1 << 18
	overlay := slices.Repeat([]rune{0x334}, many)
	if got, want := Compose(tables(), slices.Concat([]rune{'a'}, overlay, []rune{0x302, 0x301, 'b'})), slices.Concat([]rune{0x1EA5}, overlay, []rune{'b'}); !slices.Equal(got, want) {
		t.Errorf("%d marks between: %d are left, and the first is %X", many, len(got), got[0])
	}
	if got, want := Compose(tables(), slices.Repeat([]rune{'a', 0x302, 0x301, 0x327}, many)), slices.Repeat([]rune{0x1EA5, 0x327}, many); !slices.Equal(got, want) {
		t.Errorf("%d starters became %d", many, len(got))
	}
	if got := Compose(tables(), overlay); !slices.Equal(got, overlay) {
		t.Errorf("%d marks became %d", many, len(got))
	}
}

// P8.3

// comesBack fails, if what is put together of l, as All tells it, is not that in parts again.
func comesBack(t testing.TB, l []rune) {
	t.Helper()
	parts := decomp.All(tables(), l)
	whole := Compose(tables(), parts)
	if again := decomp.All(tables(), whole); !slices.Equal(again, parts) {
		t.Fatalf("%X is %X, put together, and %X in parts again", parts, whole, again)
	}
}

func TestInPartsAgainItIsWhatItWas(t *testing.T) {
	for _, those := range [][]rune{
		{'a', 0x1EA5, 0x334, 0x323, 0x302, 0x301, 0x345, -1},
		{0x1F82, 0x3B9, 0x344, 0x308, 0x301, 0x345, 0x327},
		{0x1100, 0x1161, 0x11A8, 0xAC00, 0xAC01, 0x302E, 0xDC00},
		{0x9CB, 0x9C7, 0x9BE, 0xCCB, 0xCD5, 0x958, 0x93C},
	} {
		rows(those, 5, func(l []rune) { comesBack(t, l) })
	}
}

func TestEachInPartsAgainIsWhatItWas(t *testing.T) {
	for c := rune(-0x1000); c <= 0x111000; c++ {
		comesBack(t, []rune{c})
		comesBack(t, []rune{0xE9, c, 0x344, 0x327, 0x334, 0x3099, 0x11A8})
	}
}

// What has a Pair that is not left out, or is a syllable, comes whole of its parts; all that has other parts stays without it.
func TestWhichComeWholeOfTheirParts(t *testing.T) {
	whole, other := 0, 0
	for c := rune(0); c <= 0x10FFFF; c++ {
		parts := decomp.All(tables(), []rune{c})
		if slices.Equal(parts, []rune{c}) {
			continue
		}
		a, b, pair := tables().Pair(c)
		back, ok := tables().Joined(a, b)
		want := hangul.Kind(c) >= 4 || pair && ok && back == c
		if got := slices.Equal(Compose(tables(), parts), []rune{c}); got != want {
			t.Fatalf("%X of its parts %X: %v", c, parts, got)
		}
		if want {
			whole++
		} else {
			other++
		}
	}
	if whole != 11172+1026-85 || other != 1035+85 {
		t.Errorf("%d come whole, %d don't", whole, other)
	}
}

// R3, R4

// handed are rows in which something is taken, and some in which nothing is.
func handed() [][]rune {
	return [][]rune{
		{}, {'a'}, {0x301}, {'e', 0x301}, {'a', 0x302, 0x301}, {'a', 0x334, 0x301, 'b'}, {0x1100, 0x1161, 0x11A8}, {0x301, 'x', 0x327}, {-1, 0xD800, 0x110000}, {0xE2, 0x301},
	}
}

func TestWhatIsHandedInStays(t *testing.T) {
	for _, l := range handed() {
		room := append(slices.Clone(l), 0x301, 0x11A8, 0x345, 'x')
		was := slices.Clone(room)
		Compose(tables(), room[:len(l)])
		if !slices.Equal(room, was) {
			t.Errorf("Compose of %X has made %X of it and of what lies behind it", l, room)
		}
	}
}

func TestAnswersAreTheirOwn(t *testing.T) {
	for _, l := range handed() {
		was := slices.Clone(l)
		first := Compose(tables(), l)
		kept := slices.Clone(first)
		second := Compose(tables(), l)
		for i := range second {
			second[i] = 'x'
		}
		_ = append(second[:0], slices.Repeat([]rune{'y'}, cap(second))...)
		if !slices.Equal(first, kept) || !slices.Equal(l, was) {
			t.Errorf("an answer was written to, and %X became %X, %X became %X", was, l, kept, first)
		}
		for i := range l {
			l[i] = 'z'
		}
		if !slices.Equal(first, kept) {
			t.Errorf("%X was written to, and its answer became %X", was, first)
		}
	}
}

func TestOtherTablesAnswerTheSame(t *testing.T) {
	other := ucd.Build()
	l := []rune{'a', 0x302, 0x301, 0x1100, 0x1161, 0x327, 0x11A8}
	before := Compose(other, l)
	Compose(tables(), []rune{'e', 0x301})
	if after := Compose(other, l); !slices.Equal(before, after) || !slices.Equal(before, Compose(tables(), l)) {
		t.Errorf("%X, then %X", before, after)
	}
}

func FuzzRow(f *testing.F) {
	f.Add("", rune(0))
	f.Add("a\u0302\u0301", rune(-1))
	f.Add("e\u0327\u0301", rune(0x334))
	f.Add("\u1100\u1161\u11a8\u11a8", rune(0x302E))
	f.Add("\u09c7\u09be\u0334", rune(0xD800))
	f.Add("\u03b1\u0313\u0300\u0345", rune(0x110000))
	f.Fuzz(func(t *testing.T, text string, c rune) {
		l := []rune(text)
		if len(l) > 200 {
			return
		}
		l = slices.Insert(l, len(l)/2, c)
		was := slices.Clone(l)
		if got, want := Compose(tables(), l), byTheLetter(l); !slices.Equal(got, want) {
			t.Errorf("Compose(%X) is %X, not %X", l, got, want)
		}
		comesBack(t, l)
		if !slices.Equal(l, was) {
			t.Errorf("%X became %X", was, l)
		}
	})
}
