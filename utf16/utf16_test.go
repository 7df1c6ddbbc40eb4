package utf16

import (
	"math"
	"slices"
	"testing"
)

// The tests hold the package against lists written out by hand and against the promises' letters, reckoned here anew; none of them leans on package scalar.

// edgeScalars are scalars about the places where something changes, and some ordinary ones.
var edgeScalars = []rune{
	0, 1, 'a', 'b', 0x7F, 0x80, 0xE9, 0x20AC, 0xD7FE, 0xD7FF, 0xE000, 0xE001, 0xFB33, 0xFDD0, 0xFFFD, 0xFFFE, 0xFFFF,
	0x10000, 0x10001, 0x103FE, 0x103FF, 0x10400, 0x10401, 0x1D800, 0x1DC00, 0x1F600, 0xFFFFF, 0x100000, 0x10FBFF, 0x10FC00, 0x10FFFE, 0x10FFFF,
}

// noScalars are numbers that are none; the lowest 16 bits of some are those of a scalar or of a half.
var noScalars = []rune{
	0xD800, 0xD801, 0xDBFE, 0xDBFF, 0xDC00, 0xDC01, 0xDFFE, 0xDFFF, 0x110000, 0x110041, 0x11D800, 0x11DC00, 0x1FFFFF, 0x7FFF0041, math.MaxInt32,
	-1, -2, -0x41, -0x2000, -0x2400, -0x2800, -0x10000, -0x10FFFF, math.MinInt32 + 0x41, math.MinInt32,
}

// edgeUnits are units about the places where something changes.
var edgeUnits = []uint16{0, 'a', 0xD7FF, 0xD800, 0xD83D, 0xDBFF, 0xDC00, 0xDE00, 0xDFFF, 0xE000, 0xFFFF}

func isScalar(c rune) bool { return 0 <= c && c < 0xD800 || 0xE000 <= c && c <= 0x10FFFF }

func isHigh(u uint16) bool { return 0xD800 <= u && u <= 0xDBFF }

func isLow(u uint16) bool { return 0xDC00 <= u && u <= 0xDFFF }

func eachScalar(f func(c rune)) {
	for c := rune(0); c <= 0x10FFFF; c++ {
		if isScalar(c) {
			f(c)
		}
	}
}

// eachRow calls f with all rows of n of these elements; f must not keep the row.
func eachRow[E any](elements []E, n int, f func(row []E)) {
	row := make([]E, n)
	var fill func(at int)
	fill = func(at int) {
		if at == n {
			f(row)
			return
		}
		for _, e := range elements {
			row[at] = e
			fill(at + 1)
		}
	}
	fill(0)
}

// rowsUpTo answers all rows of at most n of these elements.
func rowsUpTo(elements []rune, n int) [][]rune {
	var all [][]rune
	for k := range n + 1 {
		eachRow(elements, k, func(row []rune) { all = append(all, slices.Clone(row)) })
	}
	return all
}

// wantUnits is P3.1's Units by its letters.
func wantUnits(l []rune) []uint16 {
	var u []uint16
	for _, c := range l {
		switch {
		case isScalar(c) && c < 0x10000:
			u = append(u, uint16(c))
		case isScalar(c):
			u = append(u, uint16(0xD800+(c-0x10000)/0x400), uint16(0xDC00+(c-0x10000)%0x400))
		}
	}
	return u
}

// wantAt is P3.1's place of the first half that is alone, by its letters; -1 if there is none.
func wantAt(u []uint16) int {
	for i, x := range u {
		if isHigh(x) && (i == len(u)-1 || !isLow(u[i+1])) {
			return i
		}
		if isLow(x) && (i == 0 || !isHigh(u[i-1])) {
			return i
		}
	}
	return -1
}

// wantCompare is P3.2 by its letters, asked of what wantUnits answers.
func wantCompare(a, b []uint16) int {
	for i := 0; i < len(a) && i < len(b); i++ {
		if a[i] < b[i] {
			return -1
		}
		if a[i] > b[i] {
			return 1
		}
	}
	switch {
	case len(a) < len(b):
		return -1
	case len(a) > len(b):
		return 1
	}
	return 0
}

func checkUnits(t *testing.T, l []rune) {
	t.Helper()
	was := slices.Clone(l)
	if got, want := Units(l), wantUnits(was); !slices.Equal(got, want) {
		t.Errorf("Units(%X) = %X, want %X", was, got, want)
	}
	if !slices.Equal(l, was) {
		t.Errorf("Units changed %X to %X", was, l)
	}
}

func checkScalars(t *testing.T, u []uint16) {
	t.Helper()
	was := slices.Clone(u)
	l, n, ok := Scalars(u)
	if at := wantAt(was); at >= 0 {
		if len(l) != 0 || n != at || ok {
			t.Errorf("Scalars(%X) = %X, %d, %v, want none, %d, false", was, l, n, ok, at)
		}
	} else if !slices.Equal(wantUnits(l), was) || slices.ContainsFunc(l, func(c rune) bool { return !isScalar(c) }) || n != len(was) || !ok {
		t.Errorf("Scalars(%X) = %X, %d, %v", was, l, n, ok)
	}
	if !slices.Equal(u, was) {
		t.Errorf("Scalars changed %X to %X", was, u)
	}
}

func checkCompare(t *testing.T, a, b []rune, want int) {
	t.Helper()
	if got := Compare(a, b); got != want {
		t.Errorf("Compare(%X, %X) = %d, want %d", a, b, got, want)
	}
	if got := Compare(b, a); got != -want {
		t.Errorf("Compare(%X, %X) = %d, want %d", b, a, got, -want)
	}
}

// P3.1: Units

func TestUnitsByHand(t *testing.T) {
	for _, x := range []struct {
		l    []rune
		want []uint16
	}{
		{nil, nil}, {[]rune{}, nil}, {[]rune{0}, []uint16{0}}, {[]rune{'a'}, []uint16{'a'}}, {[]rune{'a', 0xE9, 0x20AC}, []uint16{'a', 0xE9, 0x20AC}},
		{[]rune{0xD7FF}, []uint16{0xD7FF}}, {[]rune{0xE000}, []uint16{0xE000}}, {[]rune{0xFFFF}, []uint16{0xFFFF}}, {[]rune{0xFFFE, 0xFDD0}, []uint16{0xFFFE, 0xFDD0}},
		{[]rune{0x10000}, []uint16{0xD800, 0xDC00}}, {[]rune{0x103FF}, []uint16{0xD800, 0xDFFF}}, {[]rune{0x10400}, []uint16{0xD801, 0xDC00}},
		{[]rune{0x1F600}, []uint16{0xD83D, 0xDE00}}, {[]rune{0x10FC00}, []uint16{0xDBFF, 0xDC00}}, {[]rune{0x10FFFF}, []uint16{0xDBFF, 0xDFFF}},
		{[]rune{0x1F600, 0xFB33, 0x1F600}, []uint16{0xD83D, 0xDE00, 0xFB33, 0xD83D, 0xDE00}}, {[]rune{'a', 'a', 'a'}, []uint16{'a', 'a', 'a'}},
		{[]rune{0xD800}, nil}, {[]rune{0xDBFF}, nil}, {[]rune{0xDC00}, nil}, {[]rune{0xDFFF}, nil}, {[]rune{0xD83D, 0xDE00}, nil}, {[]rune{-1}, nil}, {[]rune{0x110000}, nil},
		{[]rune{0xD800, 'a', 0xDC00, 'b', -1}, []uint16{'a', 'b'}}, {[]rune{'a', 0x110000, 0x10000}, []uint16{'a', 0xD800, 0xDC00}}, {[]rune{math.MinInt32, 0xD7FF, math.MaxInt32}, []uint16{0xD7FF}},
	} {
		if got := Units(x.l); !slices.Equal(got, x.want) {
			t.Errorf("Units(%X) = %X, want %X", x.l, got, x.want)
		}
	}
}

func TestUnitsOfEveryNumber(t *testing.T) {
	for c := rune(-0x20000); c <= 0x12FFFF; c++ {
		checkUnits(t, []rune{c})
	}
	for _, c := range noScalars {
		checkUnits(t, []rune{c})
	}
}

func TestUnitsOfRows(t *testing.T) {
	all := slices.Concat(edgeScalars, noScalars)
	for n := range 4 {
		eachRow(all, n, func(row []rune) { checkUnits(t, row) })
	}
}

// What is no scalar is left out wherever it stands, and takes nothing with it.
func TestUnitsWithoutWhatIsNone(t *testing.T) {
	want := wantUnits(edgeScalars)
	for _, c := range noScalars {
		for i := range len(edgeScalars) + 1 {
			l := slices.Insert(slices.Clone(edgeScalars), i, c, c)
			if got := Units(l); !slices.Equal(got, want) {
				t.Errorf("%X at %d: %X", c, i, got)
			}
		}
	}
	if got := Units(noScalars); len(got) != 0 {
		t.Errorf("%X", got)
	}
}

// P3.1: Scalars

func TestScalarsByHand(t *testing.T) {
	for _, x := range []struct {
		u    []uint16
		want []rune
	}{
		{nil, nil}, {[]uint16{}, nil}, {[]uint16{0}, []rune{0}}, {[]uint16{'a', 'b'}, []rune{'a', 'b'}}, {[]uint16{0xD7FF, 0xE000, 0xFFFF}, []rune{0xD7FF, 0xE000, 0xFFFF}},
		{[]uint16{0xD800, 0xDC00}, []rune{0x10000}}, {[]uint16{0xD800, 0xDFFF}, []rune{0x103FF}}, {[]uint16{0xDBFF, 0xDC00}, []rune{0x10FC00}}, {[]uint16{0xDBFF, 0xDFFF}, []rune{0x10FFFF}},
		{[]uint16{0xD83D, 0xDE00}, []rune{0x1F600}}, {[]uint16{'a', 0xD83D, 0xDE00}, []rune{'a', 0x1F600}}, {[]uint16{0xD83D, 0xDE00, 'a'}, []rune{0x1F600, 'a'}},
		{[]uint16{0xD83D, 0xDE00, 0xD83D, 0xDE00, 0xFB33}, []rune{0x1F600, 0x1F600, 0xFB33}}, {[]uint16{0xFDD0, 0xFFFE}, []rune{0xFDD0, 0xFFFE}},
	} {
		if l, n, ok := Scalars(x.u); !slices.Equal(l, x.want) || n != len(x.u) || !ok {
			t.Errorf("Scalars(%X) = %X, %d, %v", x.u, l, n, ok)
		}
	}
}

func TestScalarsWrongByHand(t *testing.T) {
	for _, x := range []struct {
		u  []uint16
		at int
	}{
		// a half is all there is
		{[]uint16{0xD800}, 0}, {[]uint16{0xDBFF}, 0}, {[]uint16{0xDC00}, 0}, {[]uint16{0xDFFF}, 0},
		// a half at the first place
		{[]uint16{0xD800, 'a'}, 0}, {[]uint16{0xDBFF, 0xD7FF}, 0}, {[]uint16{0xDBFF, 0xE000}, 0}, {[]uint16{0xDC00, 'a'}, 0}, {[]uint16{0xDFFF, 0xD83D, 0xDE00}, 0}, {[]uint16{0xD800, 0xFFFF, 0xDC00}, 0},
		// a half at the last place
		{[]uint16{'a', 0xD800}, 1}, {[]uint16{'a', 0xDBFF}, 1}, {[]uint16{'a', 0xDC00}, 1}, {[]uint16{0xE000, 0xDFFF}, 1}, {[]uint16{0xD7FF, 0xDC00}, 1}, {[]uint16{'a', 'b', 'c', 0xD83D}, 3},
		{[]uint16{0xD83D, 0xDE00, 0xD83D}, 2}, {[]uint16{'a', 0xD83D, 0xDE00, 0xDBFF}, 3},
		// a High behind a High
		{[]uint16{0xD800, 0xD800}, 0}, {[]uint16{0xD800, 0xDBFF, 0xDC00}, 0}, {[]uint16{'a', 0xD800, 0xD800, 0xDC00}, 1}, {[]uint16{0xD800, 0xDC00, 0xD800, 0xD800, 0xDC00}, 2},
		// a Low behind a Low
		{[]uint16{0xDC00, 0xDC00}, 0}, {[]uint16{0xD83D, 0xDE00, 0xDE00}, 2}, {[]uint16{'a', 0xDBFF, 0xDFFF, 0xDC00, 'a'}, 3},
		// a Low ahead of a High
		{[]uint16{0xDC00, 0xD800}, 0}, {[]uint16{0xDE00, 0xD83D, 0xDE00}, 0}, {[]uint16{'a', 0xDFFF, 0xDBFF}, 1},
		// the first one is told, not a later one
		{[]uint16{'a', 0xD800, 'a', 0xDC00}, 1}, {[]uint16{'a', 0xDC00, 0xD800}, 1},
	} {
		if l, n, ok := Scalars(x.u); len(l) != 0 || n != x.at || ok {
			t.Errorf("Scalars(%X) = %X, %d, %v, want none, %d, false", x.u, l, n, ok, x.at)
		}
	}
}

func TestScalarsOfEveryUnit(t *testing.T) {
	for x := range 0x10000 {
		u := uint16(x)
		checkScalars(t, []uint16{u})
		for _, e := range edgeUnits {
			checkScalars(t, []uint16{u, e})
			checkScalars(t, []uint16{e, u})
		}
	}
}

func TestScalarsOfRows(t *testing.T) {
	for n := range 6 {
		eachRow(edgeUnits, n, func(row []uint16) { checkScalars(t, row) })
	}
}

func TestScalarsOfEveryPair(t *testing.T) {
	want := rune(0x10000)
	for h := 0xD800; h <= 0xDBFF; h++ {
		for l := 0xDC00; l <= 0xDFFF; l++ {
			got, n, ok := Scalars([]uint16{uint16(h), uint16(l)})
			if len(got) != 1 || got[0] != want || n != 2 || !ok {
				t.Fatalf("Scalars(%X %X) = %X, %d, %v, want %X", h, l, got, n, ok, want)
			}
			want++
		}
	}
}

func TestScalarsIsTheWayBackOfUnits(t *testing.T) {
	var all []rune
	eachScalar(func(c rune) { all = append(all, c) })
	u := Units(all)
	l, n, ok := Scalars(u)
	if !slices.Equal(l, all) || n != len(u) || n != 0xF800+2*0x100000 || !ok {
		t.Errorf("%d scalars, %d, %v", len(l), n, ok)
	}
	if l, n, ok := Scalars(u[:len(u)-1]); len(l) != 0 || n != len(u)-2 || ok {
		t.Errorf("without the last half: %d scalars, %d, %v", len(l), n, ok)
	}
}

// P3.2

func TestCompareByHand(t *testing.T) {
	for _, x := range []struct {
		a, b []rune
		want int
	}{
		{nil, nil, 0}, {nil, []rune{}, 0}, {nil, []rune{0}, -1}, {nil, []rune{'a'}, -1}, {[]rune{'a'}, []rune{'a'}, 0}, {[]rune{'a'}, []rune{'b'}, -1}, {[]rune{0x10FFFF}, []rune{0x10FFFF}, 0},
		// a row that is the other one's beginning
		{[]rune{'a'}, []rune{'a', 'b'}, -1}, {[]rune{'a'}, []rune{'a', 0}, -1}, {[]rune{0x1F600}, []rune{0x1F600, 'a'}, -1}, {[]rune{'a', 0x1F600}, []rune{'a', 0x1F600, 0x1F600}, -1},
		// where they differ first counts, not how long they are, nor what comes later
		{[]rune{'a', 'b', 'c'}, []rune{'b'}, -1}, {[]rune{'a', 'z'}, []rune{'b', 'a'}, -1}, {[]rune{'a', 'b', 'z'}, []rune{'a', 'c', 'a'}, -1}, {[]rune{'a', 0x10000}, []rune{'a', 0xFFFF, 'a'}, -1},
		// both halves count
		{[]rune{0x10000}, []rune{0x10001}, -1}, {[]rune{0x10000}, []rune{0x103FF}, -1}, {[]rune{0x103FF}, []rune{0x10400}, -1}, {[]rune{0x10FFFE}, []rune{0x10FFFF}, -1}, {[]rune{0x10000, 'z'}, []rune{0x10001, 'a'}, -1},
		// the halves' own place among the units
		{[]rune{0xD7FF}, []rune{0x10000}, -1}, {[]rune{0x10000}, []rune{0xE000}, -1}, {[]rune{0x10FFFF}, []rune{0xE000}, -1}, {[]rune{0x10FFFF}, []rune{0xFFFF}, -1}, {[]rune{0x1F600}, []rune{0xFB33}, -1},
		{[]rune{0xD7FF}, []rune{0xE000}, -1}, {[]rune{0xE000}, []rune{0xFFFF}, -1}, {[]rune{'a'}, []rune{0x1F600}, -1},
		// what is no scalar is left out
		{[]rune{0xD800}, nil, 0}, {[]rune{-1}, []rune{0x110000}, 0}, {[]rune{0xD800, 'a'}, []rune{'a', -1}, 0}, {[]rune{'a', 0xDFFF}, []rune{'a', 'b'}, -1}, {[]rune{0xDFFF, 'a'}, []rune{'b'}, -1},
		{[]rune{0xD83D, 0xDE00}, []rune{0x1F600}, -1}, {[]rune{0xDC00}, []rune{'a'}, -1}, {[]rune{'a', 0xDBFF, 'b'}, []rune{'a', 'b', 0xDBFF, 'c'}, -1}, {[]rune{0x10000, 0xDC00}, []rune{0x10000}, 0},
	} {
		checkCompare(t, x.a, x.b, x.want)
	}
}

// compareAll holds each of the rows against each other one.
func compareAll(t *testing.T, rows [][]rune) {
	t.Helper()
	var units [][]uint16
	for _, r := range rows {
		units = append(units, wantUnits(r))
	}
	for i, a := range rows {
		for k, b := range rows {
			if got, want := Compare(a, b), wantCompare(units[i], units[k]); got != want {
				t.Errorf("Compare(%X, %X) = %d, want %d", a, b, got, want)
			}
		}
	}
}

func TestCompareShortRows(t *testing.T) {
	compareAll(t, rowsUpTo(slices.Concat(edgeScalars, noScalars), 1))
	compareAll(t, rowsUpTo([]rune{0, 'a', 0xD7FF, 0xD800, 0xDBFF, 0xDC00, 0xDFFF, 0xE000, 0xFB33, 0xFFFF, 0x10000, 0x103FF, 0x10400, 0x1F600, 0x10FFFF, 0x110000, -1}, 2))
	compareAll(t, rowsUpTo([]rune{'a', 0xD7FF, 0xDC00, 0xFFFF, 0x10000, 0x10001, 0x10FFFF, -1}, 3))
}

// Behind and ahead of what is the same, of whatever size, all comes as it does alone.
func TestCompareBehindTheSame(t *testing.T) {
	for _, same := range [][]rune{{'a'}, {0x1F600}, {'a', 0x10FFFF, 0xFFFF}, edgeScalars, slices.Concat(noScalars, edgeScalars)} {
		for _, c := range edgeScalars {
			for _, d := range edgeScalars {
				want := wantCompare(wantUnits([]rune{c}), wantUnits([]rune{d}))
				checkCompare(t, slices.Concat(same, []rune{c}), slices.Concat(same, []rune{d}), want)
				checkCompare(t, slices.Concat([]rune{c}, same), slices.Concat([]rune{d}, same), want)
			}
		}
	}
}

func TestCompareBeginnings(t *testing.T) {
	for i := range len(edgeScalars) + 1 {
		for k := range len(edgeScalars) + 1 {
			want := 0
			if i < k {
				want = -1
			} else if i > k {
				want = 1
			}
			checkCompare(t, edgeScalars[:i], edgeScalars[:k], want)
		}
	}
}

func TestCompareWithoutWhatIsNone(t *testing.T) {
	for _, c := range noScalars {
		checkCompare(t, []rune{c}, nil, 0)
		for i := range len(edgeScalars) + 1 {
			l := slices.Insert(slices.Clone(edgeScalars), i, c)
			checkCompare(t, l, edgeScalars, 0)
			checkCompare(t, l, edgeScalars[:len(edgeScalars)-1], 1)
			checkCompare(t, l, slices.Concat(edgeScalars, []rune{0}), -1)
		}
	}
}

// P3.3

func TestFrom10000IsBelowFromE000(t *testing.T) {
	for c := rune(0x10000); c <= 0x10FFFF; c++ {
		if Compare([]rune{c}, []rune{0xE000}) != -1 || Compare([]rune{0xE000}, []rune{c}) != 1 {
			t.Errorf("%X is not below E000", c)
		}
	}
	for d := rune(0xE000); d <= 0xFFFF; d++ {
		for _, c := range []rune{0x10000, 0x1F600, 0x10FFFF} {
			if Compare([]rune{c}, []rune{d}) != -1 || Compare([]rune{d}, []rune{c}) != 1 {
				t.Errorf("%X is not below %X", c, d)
			}
		}
	}
}

// All scalars in the order of the units: below D800, then from 10000 on, then from E000 to FFFF.
func TestOrderOfEveryScalar(t *testing.T) {
	last, count := rune(0), 1
	next := func(from, to rune) {
		for c := from; c <= to; c++ {
			if Compare([]rune{last}, []rune{c}) != -1 || Compare([]rune{c}, []rune{last}) != 1 || Compare([]rune{c}, []rune{c}) != 0 {
				t.Errorf("%X is not right below %X", last, c)
			}
			last = c
			count++
		}
	}
	next(1, 0xD7FF)
	next(0x10000, 0x10FFFF)
	next(0xE000, 0xFFFF)
	if count != 0x110000-0x800 {
		t.Errorf("%d scalars", count)
	}
}

// R1, R3

// What is handed in stays as it is, also what lies behind a list's length.
func TestHandedInStays(t *testing.T) {
	room := slices.Concat(edgeScalars, noScalars)
	was := slices.Clone(room)
	halves := []uint16{0xD83D, 0xDE00, 'a', 0xD800, 0xDC00, 0xDC00, 0xDFFF}
	hadHalves := slices.Clone(halves)
	for i := range room {
		for k := range room {
			Compare(room[:i], room[k:])
		}
		Units(room[:i])
	}
	for i := range halves {
		Scalars(halves[:i])
		Scalars(halves[i:])
	}
	if !slices.Equal(room, was) || !slices.Equal(halves, hadHalves) {
		t.Errorf("changed to %X, %X", room, halves)
	}
}

// An answer is new memory: to change it, or what was handed in, changes no other.
func TestAnswersAreTheirOwn(t *testing.T) {
	l := []rune{'a', 0x1F600, 0xFFFF}
	want := wantUnits(l)
	u, other := Units(l), Units(l)
	clear(u)
	if !slices.Equal(other, want) || !slices.Equal(Units(l), want) {
		t.Errorf("%X, %X", other, Units(l))
	}
	back, _, _ := Scalars(other)
	clear(other)
	if !slices.Equal(back, l) {
		t.Errorf("%X", back)
	}
	again, _, _ := Scalars(want)
	clear(back)
	if !slices.Equal(again, l) || !slices.Equal(want, wantUnits(l)) {
		t.Errorf("%X, %X", again, want)
	}
}

func FuzzAll(f *testing.F) {
	f.Add([]byte{0xD8, 0x3D, 0xDE, 0x00, 0x00, 0x61}, []byte{0xFB, 0x33})
	f.Add([]byte{0xDC, 0x00, 0xD8, 0x00}, []byte{})
	units := func(b []byte) (u []uint16, l []rune) {
		for i := 0; i+1 < len(b); i += 2 {
			x := uint16(b[i])<<8 | uint16(b[i+1])
			u = append(u, x)
			l = append(l, rune(x), rune(x)<<5, -rune(x))
		}
		return u, l
	}
	f.Fuzz(func(t *testing.T, x, y []byte) {
		u, a := units(x)
		v, b := units(y)
		checkScalars(t, u)
		checkScalars(t, v)
		checkUnits(t, a)
		checkUnits(t, b)
		checkCompare(t, a, b, wantCompare(wantUnits(a), wantUnits(b)))
	})
}
