package decomp

import (
	"math"
	"slices"
	"sync"
	"testing"

	"orthoepy/hangul"
	"orthoepy/ucd"
)

// The tests hold the package against answers written out by hand, and against the promises' letters reckoned in another way: parts are replaced one at a time till nothing is left to replace, and what is out of order is exchanged with its neighbour.

// tables are built once, since they never change.
var tables = sync.OnceValue(ucd.Build)

// noScalars are halves, negative numbers and numbers beyond the scalars; the lowest bits of some are those of a scalar that has parts or a class.
var noScalars = []rune{
	0xD800, 0xD801, 0xDBFF, 0xDC00, 0xDFFE, 0xDFFF,
	-1, -2, -0xE9, -0x301, -0xAC00, -0x212B, -0x110000, -0x110000 + 0xE9, math.MinInt32, math.MinInt32 + 1, math.MinInt32 + 0xE9, math.MinInt32 + 0xAC00,
	0x110000, 0x110001, 0x1100E9, 0x110301, 0x11212B, 0x11AC00, 0x200000, 0x2000E9, 0x7FFF00E9, math.MaxInt32 - 1, math.MaxInt32,
}

// plain are scalars that have no parts.
var plain = []rune{
	0, 1, 'a', 'z', 0x7F, 0x80, 0xBF, 0xC6, 0x300, 0x301, 0x327, 0x345, 0x915, 0x93C, 0x1100, 0x1161, 0x11A8, 0x3042, 0x4E3D, 0xABFF, 0xD7A4, 0xD7FF,
	0xE000, 0xFB01, 0xFFFE, 0xFFFF, 0x10000, 0x1D157, 0x1D165, 0x1F600, 0x10FFFF,
}

// replaced answers c with the first of its row that has parts replaced by them, again and again.
func replaced(c rune) []rune {
	x := tables()
	l := []rune{c}
	for i := 0; i < len(l); {
		parts := hangul.Split(l[i])
		if one, ok := x.Single(l[i]); ok {
			parts = []rune{one}
		}
		if a, b, ok := x.Pair(l[i]); ok {
			parts = []rune{a, b}
		}
		if len(parts) == 0 {
			i++
			continue
		}
		l = slices.Replace(l, i, i+1, parts...)
	}
	return l
}

// exchanged answers l with neighbours exchanged as long as there are two whose classes are above 0 and fall.
func exchanged(l []rune) []rune {
	x := tables()
	l = slices.Clone(l)
	for again := true; again; {
		again = false
		for i := 1; i < len(l); i++ {
			if b := x.Class(l[i]); b > 0 && x.Class(l[i-1]) > b {
				l[i-1], l[i] = l[i], l[i-1]
				again = true
			}
		}
	}
	return l
}

// allReplaced answers what All of l is to be.
func allReplaced(l []rune) []rune {
	var parts []rune
	for _, c := range l {
		parts = append(parts, replaced(c)...)
	}
	return exchanged(parts)
}

// rows calls do with each row of at most most of those.
func rows(those []rune, most int, do func([]rune)) {
	var grow func(l []rune)
	grow = func(l []rune) {
		do(l)
		if len(l) == most {
			return
		}
		for _, c := range those {
			grow(append(slices.Clone(l), c))
		}
	}
	grow(nil)
}

// P7.1

func TestFullByHand(t *testing.T) {
	list := []struct {
		name string
		c    rune
		want []rune
	}{
		{"the chapter's example", 0x1EA5, []rune{0x61, 0x302, 0x301}},
		{"a Pair", 0xC0, []rune{0x41, 0x300}},
		{"a Pair", 0xE9, []rune{0x65, 0x301}},
		{"a Pair of two with a class", 0x344, []rune{0x308, 0x301}},
		{"a Pair of two with a class", 0xF73, []rune{0xF71, 0xF72}},
		{"a Pair that is left out", 0x958, []rune{0x915, 0x93C}},
		{"a Pair of two of class 0", 0x9CB, []rune{0x9C7, 0x9BE}},
		{"a Pair of the last plane that has any", 0x1D15E, []rune{0x1D157, 0x1D165}},
		{"a Pair whose first has a Pair", 0x1E69, []rune{0x73, 0x323, 0x307}},
		{"a Pair whose first has a Pair", 0x1D5, []rune{0x55, 0x308, 0x304}},
		{"a Pair whose first has a Pair", 0x1D160, []rune{0x1D158, 0x1D165, 0x1D16E}},
		{"a Pair whose first has a Pair", 0xFB2C, []rune{0x5E9, 0x5BC, 0x5C1}},
		{"three Pairs deep", 0x1F82, []rune{0x3B1, 0x313, 0x300, 0x345}},
		{"three Pairs deep", 0x1FAF, []rune{0x3A9, 0x314, 0x342, 0x345}},
		{"a Single", 0x340, []rune{0x300}},
		{"a Single", 0x37E, []rune{0x3B}},
		{"a Single", 0x2126, []rune{0x3A9}},
		{"a Single", 0xF900, []rune{0x8C48}},
		{"the first Single of plane 2", 0x2F800, []rune{0x4E3D}},
		{"the last Single", 0x2FA1D, []rune{0x2A600}},
		{"a Single that has a Pair", 0x212B, []rune{0x41, 0x30A}},
		{"a Single that has a Pair", 0x1F71, []rune{0x3B1, 0x301}},
		{"a Single that has a Pair whose first has a Pair", 0x1FD3, []rune{0x3B9, 0x308, 0x301}},
		{"a Single that has a Pair whose first has a Pair", 0x1FE3, []rune{0x3C5, 0x308, 0x301}},
		{"a syllable of two parts", 0xAC00, []rune{0x1100, 0x1161}},
		{"a syllable of two parts", 0xD788, []rune{0x1112, 0x1175}},
		{"a syllable of three parts", 0xAC01, []rune{0x1100, 0x1161, 0x11A8}},
		{"a syllable of three parts", 0xD55C, []rune{0x1112, 0x1161, 0x11AB}},
		{"the last syllable", 0xD7A3, []rune{0x1112, 0x1175, 0x11C2}},
	}
	for _, r := range list {
		if got := Full(tables(), r.c); !slices.Equal(got, r.want) {
			t.Errorf("%s: Full(%X) is %X, not %X", r.name, r.c, got, r.want)
		}
	}
}

func TestFullOfOthersIsThatAlone(t *testing.T) {
	for _, c := range slices.Concat(plain, noScalars) {
		if got := Full(tables(), c); !slices.Equal(got, []rune{c}) {
			t.Errorf("Full(%X) is %X", c, got)
		}
	}
}

func TestFullOfAll(t *testing.T) {
	many, most := 0, 0
	for c := rune(-0x20000); c <= 0x120000; c++ {
		want := replaced(c)
		if got := Full(tables(), c); !slices.Equal(got, want) {
			t.Fatalf("Full(%X) is %X, not %X", c, got, want)
		}
		if !slices.Equal(want, []rune{c}) {
			many++
			most = max(most, len(want))
		}
	}
	if many != 1026+1035+11172 || most != 4 {
		t.Errorf("%d have parts, %d at most", many, most)
	}
}

func TestFullFarAway(t *testing.T) {
	for n := int64(math.MinInt32); n <= math.MaxInt32; n += 1009 {
		if 0 <= n && n <= 0x10FFFF {
			continue
		}
		if got := Full(tables(), rune(n)); !slices.Equal(got, []rune{rune(n)}) {
			t.Fatalf("Full(%X) is %X", n, got)
		}
	}
}

// P7.2

func TestOrderByHand(t *testing.T) {
	list := []struct {
		name    string
		l, want []rune
	}{
		{"the empty row", nil, nil},
		{"the empty row", []rune{}, nil},
		{"the chapter's example", []rune{0x61, 0x301, 0x327}, []rune{0x61, 0x327, 0x301}},
		{"one of class 0", []rune{'a'}, []rune{'a'}},
		{"one of a class", []rune{0x301}, []rune{0x301}},
		{"a run at the beginning", []rune{0x301, 0x327, 'a'}, []rune{0x327, 0x301, 'a'}},
		{"a run at the end", []rune{'a', 'b', 0x301, 0x327}, []rune{'a', 'b', 0x327, 0x301}},
		{"a run between two of class 0", []rune{'a', 0x301, 0x327, 'b'}, []rune{'a', 0x327, 0x301, 'b'}},
		{"a run that is all", []rune{0x345, 0x301, 0x327, 0x334}, []rune{0x334, 0x327, 0x301, 0x345}},
		{"two runs", []rune{0x301, 0x327, 'a', 0x345, 0x334}, []rune{0x327, 0x301, 'a', 0x334, 0x345}},
		{"one of class 0 parts two runs", []rune{0x301, 'a', 0x327}, []rune{0x301, 'a', 0x327}},
		{"no scalar parts two runs", []rune{0x301, -1, 0x327}, []rune{0x301, -1, 0x327}},
		{"34F, of class 0, parts two runs", []rune{'a', 0x301, 0x34F, 0x327}, []rune{'a', 0x301, 0x34F, 0x327}},
		{"in order", []rune{'a', 0x334, 0x93C, 0x5B0, 0x327, 0x323, 0x301, 0x345}, []rune{'a', 0x334, 0x93C, 0x5B0, 0x327, 0x323, 0x301, 0x345}},
		{"falling", []rune{'a', 0x345, 0x301, 0x323, 0x327, 0x5B0, 0x93C, 0x334}, []rune{'a', 0x334, 0x93C, 0x5B0, 0x327, 0x323, 0x301, 0x345}},
		{"of one class", []rune{'a', 0x301, 0x300}, []rune{'a', 0x301, 0x300}},
		{"of one class", []rune{'a', 0x300, 0x301}, []rune{'a', 0x300, 0x301}},
		{"of one class, about another", []rune{'a', 0x301, 0x327, 0x300}, []rune{'a', 0x327, 0x301, 0x300}},
		{"of one class, behind another", []rune{'a', 0x345, 0x301, 0x300}, []rune{'a', 0x301, 0x300, 0x345}},
		{"two of two classes", []rune{0x304, 0x323, 0x301, 0x316}, []rune{0x323, 0x316, 0x304, 0x301}},
		{"many of two classes", []rune{0x308, 0x328, 0x300, 0x327, 0x302, 0x321, 0x301, 0x322}, []rune{0x328, 0x327, 0x321, 0x322, 0x308, 0x300, 0x302, 0x301}},
		{"classes 1 apart", []rune{0x5B2, 0x5B1, 0x5B0}, []rune{0x5B0, 0x5B1, 0x5B2}},
		{"of two planes", []rune{0x1D165, 0x327, 0x1D167}, []rune{0x1D167, 0x327, 0x1D165}},
		{"those of class 0 stay", []rune{'c', 'b', 'a', 'c'}, []rune{'c', 'b', 'a', 'c'}},
		{"what has parts keeps them", []rune{0xE9, 0x327}, []rune{0xE9, 0x327}},
		{"344 is of class 230 itself", []rune{0x344, 0x327}, []rune{0x327, 0x344}},
		{"a Single keeps its place", []rune{0x212B, 0x301, 0x327}, []rune{0x212B, 0x327, 0x301}},
		{"a syllable", []rune{0xAC01, 0x301, 0x327}, []rune{0xAC01, 0x327, 0x301}},
		{"syllable's parts stay", []rune{0x11A8, 0x1161, 0x1100}, []rune{0x11A8, 0x1161, 0x1100}},
	}
	for _, r := range list {
		if got := Order(tables(), r.l); !slices.Equal(got, r.want) {
			t.Errorf("%s: Order(%X) is %X, not %X", r.name, r.l, got, r.want)
		}
	}
}

func TestOrderOfSmallRows(t *testing.T) {
	those := []rune{'a', 0x334, 0x327, 0x323, 0x300, 0x301, -1}
	rows(those, 6, func(l []rune) {
		if got, want := Order(tables(), l), exchanged(l); !slices.Equal(got, want) {
			t.Fatalf("Order(%X) is %X, not %X", l, got, want)
		}
	})
}

// Each two that have a class, of all classes there are: one of each class with one of each other, and with another of its own.
func TestOrderOfAllClasses(t *testing.T) {
	ofClass := map[int][]rune{}
	for c := rune(0); c <= 0x10FFFF; c++ {
		if n := tables().Class(c); n > 0 && len(ofClass[n]) < 2 {
			ofClass[n] = append(ofClass[n], c)
		}
	}
	var those []rune
	for _, two := range ofClass {
		those = append(those, two...)
	}
	slices.Sort(those)
	for _, a := range those {
		for _, b := range those {
			want := []rune{'a', a, b, 'b'}
			if tables().Class(a) > tables().Class(b) {
				want = []rune{'a', b, a, 'b'}
			}
			if got := Order(tables(), []rune{'a', a, b, 'b'}); !slices.Equal(got, want) {
				t.Fatalf("of 61, %X, %X, 62: %X", a, b, got)
			}
		}
	}
	if len(ofClass) < 50 {
		t.Errorf("%d classes", len(ofClass))
	}
}

// Whatever has a class is moved, and whatever has none is not, wherever it lies.
func TestOrderMovesJustWhatHasAClass(t *testing.T) {
	moved := 0
	for c := rune(-0x1000); c <= 0x111000; c++ {
		got := Order(tables(), []rune{0x345, c})
		switch n := tables().Class(c); {
		case 0 < n && n < 240:
			moved++
			if got[0] != c || got[1] != 0x345 {
				t.Fatalf("Order(345, %X) is %X", c, got)
			}
		default:
			if got[0] != 0x345 || got[1] != c {
				t.Fatalf("Order(345, %X) is %X", c, got)
			}
		}
	}
	if moved != 921 { // 345 alone has class 240
		t.Errorf("%d moved", moved)
	}
}

// A run as long as a text, and one whose length is about a power of two.
func TestOrderOfLongRuns(t *testing.T) {
	marks := []rune{0x345, 0x301, 0x323, 0x300, 0x327, 0x334, 0x316, 0x5B0}
	for _, n := range []int{7, 8, 9, 15, 16, 17, 31, 33, 63, 64, 65, 1000} {
		l := slices.Repeat(marks, n)[:n]
		if got, want := Order(tables(), l), exchanged(l); !slices.Equal(got, want) {
			t.Errorf("a run of %d is %X, not %X", n, got, want)
		}
	}
	const many = 1 << 16
	got := Order(tables(), slices.Concat([]rune{'a'}, slices.Repeat(marks, many), []rune{'b'}))
	want := []rune{'a'}
	for _, oneClass := range [][]rune{{0x334}, {0x5B0}, {0x327}, {0x323, 0x316}, {0x301, 0x300}, {0x345}} {
		want = append(want, slices.Repeat(oneClass, many)...)
	}
	if want = append(want, 'b'); !slices.Equal(got, want) {
		t.Errorf("a run of %d is not in order", many*len(marks))
	}
}

func TestAllByHand(t *testing.T) {
	list := []struct {
		name    string
		l, want []rune
	}{
		{"the empty row", nil, nil},
		{"the empty row", []rune{}, nil},
		{"the chapter's examples", []rune{0x1EA5}, []rune{0x61, 0x302, 0x301}},
		{"the chapter's examples", []rune{0x61, 0x301, 0x327}, []rune{0x61, 0x327, 0x301}},
		{"one without parts", []rune{'a'}, []rune{'a'}},
		{"one behind the other", []rune{0xE9, 'a', 0xC0, 0x212B}, []rune{0x65, 0x301, 'a', 0x41, 0x300, 0x41, 0x30A}},
		{"parts first, then order", []rune{0xE9, 0x327}, []rune{0x65, 0x327, 0x301}},
		{"parts first, then order", []rune{0x212B, 0x323, 0x327}, []rune{0x41, 0x327, 0x323, 0x30A}},
		{"the marks of two deep", []rune{0x1EA5, 0x323}, []rune{0x61, 0x323, 0x302, 0x301}},
		{"a mark with parts", []rune{0x344, 0x327}, []rune{0x327, 0x308, 0x301}},
		{"a mark that stands for one", []rune{'a', 0x341, 0x327, 0x340}, []rune{'a', 0x327, 0x301, 0x300}},
		{"a mark ahead", []rune{0x301, 0x327, 0xE9}, []rune{0x327, 0x301, 0x65, 0x301}},
		{"syllables", []rune{0xAC00, 0xAC01, 0xAC00, 0x11A8}, []rune{0x1100, 0x1161, 0x1100, 0x1161, 0x11A8, 0x1100, 0x1161, 0x11A8}},
		{"marks behind a syllable", []rune{0xAC01, 0x302E, 0x302A}, []rune{0x1100, 0x1161, 0x11A8, 0x302A, 0x302E}},
		{"no scalars among others", []rune{0xD800, 0xE9, -1, 0x327, 0x110000}, []rune{0xD800, 0x65, 0x301, -1, 0x327, 0x110000}},
	}
	for _, r := range list {
		if got := All(tables(), r.l); !slices.Equal(got, r.want) {
			t.Errorf("%s: All(%X) is %X, not %X", r.name, r.l, got, r.want)
		}
	}
}

func TestAllOfSmallRows(t *testing.T) {
	those := []rune{'a', 0x1E69, 0x212B, 0x344, 0x327, 0x340, 0x1F82, 0xAC01, 0xDC00}
	rows(those, 4, func(l []rune) {
		if got, want := All(tables(), l), allReplaced(l); !slices.Equal(got, want) {
			t.Fatalf("All(%X) is %X, not %X", l, got, want)
		}
	})
}

func TestAllOfNoScalarsIsTheSame(t *testing.T) {
	if got := All(tables(), noScalars); !slices.Equal(got, noScalars) {
		t.Errorf("All is %X", got)
	}
	if got := Order(tables(), noScalars); !slices.Equal(got, noScalars) {
		t.Errorf("Order is %X", got)
	}
}

// Each scalar among marks that go ahead of its own, and behind them.
func TestAllOfEachAmongMarks(t *testing.T) {
	for c := rune(0); c <= 0x10FFFF; c++ {
		l := []rune{0x345, c, 0x334, 0x301}
		if got, want := All(tables(), l), allReplaced(l); !slices.Equal(got, want) {
			t.Fatalf("All(%X) is %X, not %X", l, got, want)
		}
	}
}

// P7.3

func TestAllOfAllIsTheSame(t *testing.T) {
	those := []rune{'a', 0x1E69, 0x1FD3, 0x344, 0x327, 0x340, 0xAC01, 0x11A8, -1}
	rows(those, 4, func(l []rune) {
		once := All(tables(), l)
		if twice := All(tables(), once); !slices.Equal(once, twice) {
			t.Fatalf("All of %X is %X, and All of that %X", l, once, twice)
		}
	})
	for c := rune(-0x1000); c <= 0x111000; c++ {
		once := All(tables(), []rune{c})
		if twice := All(tables(), once); !slices.Equal(once, twice) {
			t.Fatalf("All of %X is %X, and All of that %X", c, once, twice)
		}
	}
}

// among answers l among others, which the marks of l pass and are passed by.
func among(l ...rune) []rune {
	return slices.Concat([]rune{0xE9, 0x345}, l, []rune{0x344, 0x327, 0x334, 0xAC00})
}

func TestWhatJoinedOrSingleStandsForIsTheSameInParts(t *testing.T) {
	x := tables()
	joined, singles := 0, 0
	same := func(c rune, l ...rune) {
		t.Helper()
		if got, want := All(x, []rune{c}), All(x, l); !slices.Equal(got, want) {
			t.Fatalf("All of %X is %X, but of %X %X", c, got, l, want)
		}
		if got, want := All(x, among(c)), All(x, among(l...)); !slices.Equal(got, want) {
			t.Fatalf("All of %X among others is %X, but of %X %X", c, got, l, want)
		}
	}
	for c := rune(0); c <= 0x10FFFF; c++ {
		if one, ok := x.Single(c); ok {
			singles++
			same(c, one)
		}
		a, b, ok := x.Pair(c)
		if !ok {
			continue
		}
		same(c, a, b)
		if whole, ok := x.Joined(a, b); ok {
			joined++
			same(whole, a, b)
		}
	}
	if joined != 1026-85 || singles != 1035 {
		t.Errorf("%d joined, %d singles", joined, singles)
	}
}

func TestSyllablesJoinedAreTheSameInParts(t *testing.T) {
	for c := rune(0xAC00); c <= 0xD7A3; c++ {
		l := hangul.Split(c)
		if got := All(tables(), []rune{c}); !slices.Equal(got, l) || !slices.Equal(All(tables(), l), l) {
			t.Fatalf("All of %X is %X, and of its parts %X", c, got, All(tables(), l))
		}
	}
}

// R3, R4

// calls are those that take a row.
var calls = map[string]func(*ucd.Tables, []rune) []rune{"Order": Order, "All": All}

func TestWhatIsHandedInStays(t *testing.T) {
	for name, call := range calls {
		for _, l := range [][]rune{
			{}, {'a'}, {0x301}, {0x301, 0x327}, {0x345, 0x301, 0x327, 0x334}, {0x61, 0x301, 0x327, 0x301}, {0xE9, 0x327}, {0x1F82, 0x323}, {0xAC01, -1, 0xD800},
		} {
			room := append(slices.Clone(l), 0x327, 0x334, 0xE9, 'x')
			was := slices.Clone(room)
			call(tables(), room[:len(l)])
			if !slices.Equal(room, was) {
				t.Errorf("%s of %X has made %X of it and of what lies behind it", name, l, room)
			}
		}
	}
}

func TestAnswersAreTheirOwn(t *testing.T) {
	for name, call := range calls {
		for _, l := range [][]rune{{'a'}, {0x301}, {'a', 'b'}, {0x327, 0x301}, {0x301, 0x327}, {'a', 0x301, 0x327, 'b'}, {-1}} {
			was := slices.Clone(l)
			first := call(tables(), l)
			kept := slices.Clone(first)
			second := call(tables(), l)
			for i := range second {
				second[i] = 'x'
			}
			_ = append(second[:0], slices.Repeat([]rune{'y'}, cap(second))...)
			if !slices.Equal(first, kept) || !slices.Equal(l, was) {
				t.Errorf("%s: an answer was written to, and %X became %X, %X became %X", name, was, l, kept, first)
			}
			l[0] = 'z'
			if !slices.Equal(first, kept) {
				t.Errorf("%s: %X was written to, and its answer became %X", name, was, first)
			}
		}
	}
}

func TestFullsAreTheirOwn(t *testing.T) {
	for _, c := range []rune{'a', 0xE9, 0x1EA5, 0x212B, 0x2F800, 0xAC00, 0xAC01, -1} {
		first := Full(tables(), c)
		kept := slices.Clone(first)
		second := Full(tables(), c)
		for i := range second {
			second[i] = 'x'
		}
		_ = append(first, 'y')
		if again := Full(tables(), c); !slices.Equal(first, kept) || !slices.Equal(again, kept) {
			t.Errorf("Full(%X) was %X, became %X, and is %X", c, kept, first, again)
		}
	}
}

func TestOtherTablesAnswerTheSame(t *testing.T) {
	other := ucd.Build()
	l := []rune{0x1EA5, 0x327, 0x212B, 0x344, 0x334, 0xAC01}
	before := All(other, l)
	All(tables(), []rune{0x301, 0x327})
	if after := All(other, l); !slices.Equal(before, after) || !slices.Equal(before, All(tables(), l)) {
		t.Errorf("%X, then %X", before, after)
	}
}

func FuzzRow(f *testing.F) {
	f.Add("", rune(0))
	f.Add("\u1ea5\u0327", rune(-1))
	f.Add("a\u0301\u0327", rune(0x344))
	f.Add("\u212b\u0323\u0334", rune(0xAC01))
	f.Add("\u0345\u0301\u0300\u0327", rune(0xD800))
	f.Add("\U0001d160\u05b0\u05bc\u05c1", rune(0x110000))
	f.Fuzz(func(t *testing.T, text string, c rune) {
		l := []rune(text)
		if len(l) > 200 {
			return
		}
		l = slices.Insert(l, len(l)/2, c)
		was := slices.Clone(l)
		if got := Full(tables(), c); !slices.Equal(got, replaced(c)) {
			t.Errorf("Full(%X) is %X", c, got)
		}
		if got := Order(tables(), l); !slices.Equal(got, exchanged(l)) {
			t.Errorf("Order(%X) is %X", l, got)
		}
		all := All(tables(), l)
		if !slices.Equal(all, allReplaced(l)) {
			t.Errorf("All(%X) is %X", l, all)
		}
		if again := All(tables(), all); !slices.Equal(again, all) {
			t.Errorf("All(%X) is %X, and All of that %X", l, all, again)
		}
		if !slices.Equal(l, was) {
			t.Errorf("%X became %X", was, l)
		}
	})
}
