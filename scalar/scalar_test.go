package scalar

import (
	"math"
	"testing"

	"orthoepy/api"
)

// far holds numbers that are no scalars, beyond those that eachRune goes through.
var far = []rune{math.MinInt32, math.MinInt32 + 1, -0x10FFFF, -0x10000, -0x2800, 0x20FFFF, 0x7FFFFFFE, math.MaxInt32}

// eachRune calls f with all scalars, what lies around them, and the numbers of far.
func eachRune(f func(c rune)) {
	for c := rune(-0x20000); c <= 0x12FFFF; c++ {
		f(c)
	}
	for _, c := range far {
		f(c)
	}
}

// between is the tests' own way to tell a range, so that none of them leans on the package's bounds.
func between(c, first, last int64) bool { return first <= c && c <= last }

func wantIs(c rune) bool {
	return between(int64(c), 0, 0x10FFFF) && !between(int64(c), 0xD800, 0xDFFF)
}

// nonchars are all of them, counted out: 32 in one row, and the last two of 17 planes.
func nonchars() map[rune]int {
	all := map[rune]int{}
	for c := rune(0xFDD0); c <= 0xFDEF; c++ {
		all[c]++
	}
	for plane := rune(0); plane <= 16; plane++ {
		all[plane*0x10000+0xFFFE]++
		all[plane*0x10000+0xFFFF]++
	}
	return all
}

// P1.1

func TestIsEdges(t *testing.T) {
	for _, x := range []struct {
		c    rune
		want bool
	}{
		{0, true}, {'a', true}, {0x7F, true}, {0x80, true}, {0xD7FF, true},
		{0xD800, false}, {0xD801, false}, {0xDBFF, false}, {0xDC00, false}, {0xDFFE, false}, {0xDFFF, false},
		{0xE000, true}, {0xFDD0, true}, {0xFFFD, true}, {0xFFFE, true}, {0xFFFF, true},
		{0x10000, true}, {0x1D800, true}, {0x1F600, true}, {0x10FFFE, true}, {0x10FFFF, true}, {api.MaxScalar, true},
		{0x110000, false}, {0x110041, false}, {-1, false}, {-0x2800, false}, {math.MinInt32, false}, {math.MaxInt32, false},
	} {
		if got := Is(x.c); got != x.want {
			t.Errorf("Is(%X) = %v", x.c, got)
		}
	}
}

func TestIsAll(t *testing.T) {
	n := 0
	eachRune(func(c rune) {
		got := Is(c)
		if got != wantIs(c) {
			t.Errorf("Is(%X) = %v", c, got)
		}
		if got {
			n++
		}
	})
	if n != 0x110000-0x800 {
		t.Errorf("%d scalars", n)
	}
}

func TestNoncharEdges(t *testing.T) {
	for _, x := range []struct {
		c    rune
		want bool
	}{
		{0, false}, {'a', false}, {0xFFFC, false}, {0xFFFD, false}, {0xFFFE, true}, {0xFFFF, true}, {0x10000, false},
		{0xFDCF, false}, {0xFDD0, true}, {0xFDD1, true}, {0xFDEE, true}, {0xFDEF, true}, {0xFDF0, false},
		{0x1FDD0, false}, {0x1FDEF, false}, {0x10FDD0, false},
		{0x10FFFD, false}, {0x10FFFE, true}, {0x10FFFF, true},
		{0x110000, false}, {0x11FFFE, false}, {0x11FFFF, false}, {0x7FFFFFFE, false}, {math.MaxInt32, false},
		{-1, false}, {-2, false}, {-3, false}, {-0x10001, false}, {-0x10002, false},
		{0xD800, false}, {0xDFFE, false}, {0xDFFF, false},
	} {
		if got := Nonchar(x.c); got != x.want {
			t.Errorf("Nonchar(%X) = %v", x.c, got)
		}
	}
}

func TestNoncharAll(t *testing.T) {
	all := nonchars()
	if len(all) != 66 {
		t.Fatalf("%d noncharacters", len(all))
	}
	eachRune(func(c rune) {
		if got := Nonchar(c); got != (all[c] > 0) {
			t.Errorf("Nonchar(%X) = %v", c, got)
		}
	})
}

// P1.2

func TestHighLowEdges(t *testing.T) {
	for _, x := range []struct {
		u         uint16
		high, low bool
	}{
		{0, false, false}, {'a', false, false}, {0xD7FF, false, false},
		{0xD800, true, false}, {0xD801, true, false}, {0xDBFE, true, false}, {0xDBFF, true, false},
		{0xDC00, false, true}, {0xDC01, false, true}, {0xDFFE, false, true}, {0xDFFF, false, true},
		{0xE000, false, false}, {0xFDD0, false, false}, {0xFFFE, false, false}, {0xFFFF, false, false},
	} {
		if h, l := High(x.u), Low(x.u); h != x.high || l != x.low {
			t.Errorf("%X: High %v, Low %v", x.u, h, l)
		}
	}
}

func TestHighLowAll(t *testing.T) {
	for c := int64(0); c <= 0xFFFF; c++ {
		u := uint16(c)
		if got := High(u); got != between(c, 0xD800, 0xDBFF) {
			t.Errorf("High(%X) = %v", u, got)
		}
		if got := Low(u); got != between(c, 0xDC00, 0xDFFF) {
			t.Errorf("Low(%X) = %v", u, got)
		}
	}
}

func TestSplitJoinEdges(t *testing.T) {
	for _, x := range []struct {
		c    rune
		h, l uint16
	}{
		{0x10000, 0xD800, 0xDC00}, {0x10001, 0xD800, 0xDC01},
		{0x103FF, 0xD800, 0xDFFF}, {0x10400, 0xD801, 0xDC00},
		{0x1F600, 0xD83D, 0xDE00}, {0x1FFFF, 0xD83F, 0xDFFF}, {0x20000, 0xD840, 0xDC00},
		{0x10FBFF, 0xDBFE, 0xDFFF}, {0x10FC00, 0xDBFF, 0xDC00}, {0x10FFFE, 0xDBFF, 0xDFFE}, {0x10FFFF, 0xDBFF, 0xDFFF},
	} {
		if h, l, ok := Split(x.c); h != x.h || l != x.l || !ok {
			t.Errorf("Split(%X) = %X, %X, %v", x.c, h, l, ok)
		}
		if c, ok := Join(x.h, x.l); c != x.c || !ok {
			t.Errorf("Join(%X, %X) = %X, %v", x.h, x.l, c, ok)
		}
	}
}

func TestSplitRefuses(t *testing.T) {
	eachRune(func(c rune) {
		if between(int64(c), 0x10000, 0x10FFFF) {
			return
		}
		if h, l, ok := Split(c); h != 0 || l != 0 || ok {
			t.Errorf("Split(%X) = %X, %X, %v", c, h, l, ok)
		}
	})
}

// TestJoinRefuses holds every unit against the edges, on either side.
func TestJoinRefuses(t *testing.T) {
	edges := []uint16{0, 'a', 0xD7FF, 0xD800, 0xD801, 0xDBFE, 0xDBFF, 0xDC00, 0xDC01, 0xDFFE, 0xDFFF, 0xE000, 0xFFFF}
	refused := func(h, l uint16) {
		if between(int64(h), 0xD800, 0xDBFF) && between(int64(l), 0xDC00, 0xDFFF) {
			return
		}
		if c, ok := Join(h, l); c != 0 || ok {
			t.Errorf("Join(%X, %X) = %X, %v", h, l, c, ok)
		}
	}
	for u := 0; u <= 0xFFFF; u++ {
		for _, e := range edges {
			refused(uint16(u), e)
			refused(e, uint16(u))
		}
	}
}

func TestUnitsEdges(t *testing.T) {
	for _, x := range []struct {
		c    rune
		want int
	}{
		{0, 1}, {'a', 1}, {0xD7FF, 1}, {0xD800, 0}, {0xDBFF, 0}, {0xDC00, 0}, {0xDFFF, 0}, {0xE000, 1},
		{0xFDD0, 1}, {0xFFFE, 1}, {0xFFFF, 1}, {0x10000, 2}, {0x1F600, 2}, {0x1FFFE, 2}, {0x10FFFF, 2},
		{0x110000, 0}, {-1, 0}, {math.MinInt32, 0}, {math.MaxInt32, 0},
	} {
		if got := Units(x.c); got != x.want {
			t.Errorf("Units(%X) = %d", x.c, got)
		}
	}
}

func TestUnitsAll(t *testing.T) {
	eachRune(func(c rune) {
		want := 0
		if wantIs(c) {
			want = 1
			if c > 0xFFFF {
				want = 2
			}
		}
		if got := Units(c); got != want {
			t.Errorf("Units(%X) = %d", c, got)
		}
	})
}

// P1.3

func TestSplitThenJoin(t *testing.T) {
	for c := rune(0x10000); c <= 0x10FFFF; c++ {
		h, l, ok := Split(c)
		if !ok || !High(h) || !Low(l) {
			t.Fatalf("Split(%X) = %X, %X, %v", c, h, l, ok)
		}
		if d, ok := Join(h, l); d != c || !ok {
			t.Fatalf("Join(Split(%X)) = %X, %v", c, d, ok)
		}
	}
}

func TestJoinThenSplit(t *testing.T) {
	next := rune(0x10000) // pairs in their order are the scalars in theirs
	for h := uint16(0xD800); h <= 0xDBFF; h++ {
		for l := uint16(0xDC00); l <= 0xDFFF; l++ {
			c, ok := Join(h, l)
			if !ok || c != next {
				t.Fatalf("Join(%X, %X) = %X, %v", h, l, c, ok)
			}
			if a, b, ok := Split(c); a != h || b != l || !ok {
				t.Fatalf("Split(Join(%X, %X)) = %X, %X, %v", h, l, a, b, ok)
			}
			next++
		}
	}
	if next != 0x110000 {
		t.Errorf("pairs end at %X", next)
	}
}
