package utf8

import (
	"bytes"
	"math"
	"slices"
	"testing"

	"orthoepy/scalar"
)

// The tests hold the package against the language's own conversions of string, and against lists written out by hand; none of them reads the package's table.

// edgeBytes are the bytes at which something changes, what lies about them, and some ordinary ones.
var edgeBytes = []byte{
	0x00, 0x01, 0x28, 0x41, 0x7E, 0x7F, 0x80, 0x81, 0x8E, 0x8F, 0x90, 0x91, 0x9E, 0x9F, 0xA0, 0xA1, 0xA9, 0xBE, 0xBF,
	0xC0, 0xC1, 0xC2, 0xC3, 0xDE, 0xDF, 0xE0, 0xE1, 0xE2, 0xEC, 0xED, 0xEE, 0xEF, 0xF0, 0xF1, 0xF3, 0xF4, 0xF5, 0xF7, 0xF8, 0xFE, 0xFF,
}

// edgeScalars are scalars about the places where something changes.
var edgeScalars = []rune{
	0, 1, 'a', 0x7E, 0x7F, 0x80, 0x81, 0xE9, 0x7FE, 0x7FF, 0x800, 0x801, 0xFFF, 0x1000, 0x20AC, 0xCFFF, 0xD000, 0xD7FE, 0xD7FF,
	0xE000, 0xE001, 0xFFFD, 0xFFFE, 0xFFFF, 0x10000, 0x10001, 0x1F600, 0x3FFFF, 0x40000, 0xFFFFF, 0x100000, 0x10FFFE, 0x10FFFF,
}

// noScalars are numbers that are none.
var noScalars = []rune{
	0xD800, 0xD801, 0xDBFF, 0xDC00, 0xDFFE, 0xDFFF, 0x110000, 0x110041, 0x1FFFFF, 0x200000, 0x3FFFFFF, math.MaxInt32,
	-1, -2, -0x41, -0x80, -0x800, -0x10000, -0x10FFFF, math.MinInt32 + 0x41, math.MinInt32,
}

func eachScalar(f func(c rune)) {
	for c := rune(0); c <= 0x10FFFF; c++ {
		if c < 0xD800 || c > 0xDFFF {
			f(c)
		}
	}
}

// isText tells whether s is UTF-8: going to runes and back turns all else into FFFD, which has other bytes.
func isText(s string) bool { return string([]rune(s)) == s }

func isWhole(s string) bool { return isText(s) && len([]rune(s)) == 1 }

// beginnings are those of all scalars' bytes, without none of them and all of them.
func beginnings() map[string]int {
	all := map[string]int{}
	eachScalar(func(c rune) {
		for s := string(c); len(s) > 1; {
			s = s[:len(s)-1]
			if all[s]++; all[s] > 1 {
				break // its own beginnings are there since the first time
			}
		}
	})
	return all
}

// wantFirst is P2.2's First by its letters.
func wantFirst(begins map[string]int, b string) (rune, int, bool) {
	longest := 0
	for n := 1; n <= 4 && n <= len(b); n++ {
		if isWhole(b[:n]) {
			return []rune(b[:n])[0], n, true
		}
		if begins[b[:n]] > 0 {
			longest = n
		}
	}
	return 0, longest, false
}

// wantAll is P2.2's All by its letters: the longest part that is a text, and at most three bytes of one more scalar.
func wantAll(begins map[string]int, b string) ([]rune, int, bool) {
	if isText(b) {
		return []rune(b), len(b), true
	}
	for n := len(b); n > 0; n-- {
		for k := 0; k <= 3 && k <= n; k++ {
			if (k == 0 || begins[b[n-k:n]] > 0) && isText(b[:n-k]) {
				return nil, n, false
			}
		}
	}
	return nil, 0, false
}

func checkFirst(t *testing.T, begins map[string]int, b []byte) {
	t.Helper()
	was := string(b)
	c, n, ok := First(b)
	if wc, wn, wok := wantFirst(begins, was); c != wc || n != wn || ok != wok {
		t.Errorf("First(% X) = %X, %d, %v, want %X, %d, %v", was, c, n, ok, wc, wn, wok)
	}
	if string(b) != was {
		t.Errorf("First changed % X to % X", was, b)
	}
}

func checkAll(t *testing.T, begins map[string]int, b []byte) {
	t.Helper()
	was := string(b)
	l, n, ok := All(b)
	if wl, wn, wok := wantAll(begins, was); !slices.Equal(l, wl) || n != wn || ok != wok {
		t.Errorf("All(% X) = %X, %d, %v, want %X, %d, %v", was, l, n, ok, wl, wn, wok)
	}
	if string(b) != was {
		t.Errorf("All changed % X to % X", was, b)
	}
}

// eachEdgeText calls f with all texts of n edge bytes.
func eachEdgeText(n int, f func(b []byte)) {
	b := make([]byte, n)
	var fill func(i int)
	fill = func(i int) {
		if i == n {
			f(b)
			return
		}
		for _, x := range edgeBytes {
			b[i] = x
			fill(i + 1)
		}
	}
	fill(0)
}

// P2.1

func TestBytesEdges(t *testing.T) {
	for _, x := range []struct {
		c    rune
		want []byte
	}{
		{0, []byte{0}}, {1, []byte{1}}, {'a', []byte{0x61}}, {0x7E, []byte{0x7E}}, {0x7F, []byte{0x7F}},
		{0x80, []byte{0xC2, 0x80}}, {0x81, []byte{0xC2, 0x81}}, {0xBF, []byte{0xC2, 0xBF}}, {0xC0, []byte{0xC3, 0x80}},
		{0xE9, []byte{0xC3, 0xA9}}, {0x7FE, []byte{0xDF, 0xBE}}, {0x7FF, []byte{0xDF, 0xBF}},
		{0x800, []byte{0xE0, 0xA0, 0x80}}, {0x801, []byte{0xE0, 0xA0, 0x81}}, {0xFFF, []byte{0xE0, 0xBF, 0xBF}}, {0x1000, []byte{0xE1, 0x80, 0x80}},
		{0x20AC, []byte{0xE2, 0x82, 0xAC}}, {0xD000, []byte{0xED, 0x80, 0x80}}, {0xD7FF, []byte{0xED, 0x9F, 0xBF}},
		{0xE000, []byte{0xEE, 0x80, 0x80}}, {0xFFFD, []byte{0xEF, 0xBF, 0xBD}}, {0xFFFE, []byte{0xEF, 0xBF, 0xBE}}, {0xFFFF, []byte{0xEF, 0xBF, 0xBF}},
		{0x10000, []byte{0xF0, 0x90, 0x80, 0x80}}, {0x1F600, []byte{0xF0, 0x9F, 0x98, 0x80}}, {0x3FFFF, []byte{0xF0, 0xBF, 0xBF, 0xBF}},
		{0x40000, []byte{0xF1, 0x80, 0x80, 0x80}}, {0xFFFFF, []byte{0xF3, 0xBF, 0xBF, 0xBF}}, {0x100000, []byte{0xF4, 0x80, 0x80, 0x80}},
		{0x10FFFE, []byte{0xF4, 0x8F, 0xBF, 0xBE}}, {0x10FFFF, []byte{0xF4, 0x8F, 0xBF, 0xBF}},
	} {
		if got := Bytes(x.c); !bytes.Equal(got, x.want) {
			t.Errorf("Bytes(%X) = % X", x.c, got)
		}
	}
}

func TestBytesOfNoScalar(t *testing.T) {
	for _, c := range noScalars {
		if got := Bytes(c); len(got) != 0 {
			t.Errorf("Bytes(%X) = % X", c, got)
		}
	}
	for c := rune(0xD800); c <= 0xDFFF; c++ {
		if got := Bytes(c); len(got) != 0 {
			t.Errorf("Bytes(%X) = % X", c, got)
		}
	}
}

func TestBytesAll(t *testing.T) {
	eachScalar(func(c rune) {
		if got := string(Bytes(c)); got != string(c) {
			t.Errorf("Bytes(%X) = % X", c, got)
		}
	})
}

func TestText(t *testing.T) {
	for _, x := range []struct {
		l    []rune
		want string
	}{
		{nil, ""}, {[]rune{}, ""}, {[]rune{0}, "\x00"}, {[]rune{'a', 'b'}, "ab"}, {[]rune{0, 0}, "\x00\x00"},
		{[]rune{'a', 0xE9, 0x20AC, 0x1F600}, "a\xc3\xa9\xe2\x82\xac\xf0\x9f\x98\x80"},
		{[]rune{0x1F600, 0x20AC, 0xE9, 'a'}, "\xf0\x9f\x98\x80\xe2\x82\xac\xc3\xa9a"},
		{[]rune{0xD83D, 0xDE00}, ""}, {[]rune{-1, 'a', 0xD800, 'b', 0x110000}, "ab"},
		{[]rune{'e', 0x301}, "e\xcc\x81"},
	} {
		was := slices.Clone(x.l)
		if got := string(Text(x.l)); got != x.want {
			t.Errorf("Text(%X) = % X", x.l, got)
		}
		if !slices.Equal(x.l, was) {
			t.Errorf("Text changed %X to %X", was, x.l)
		}
	}
}

func TestTextIsAllBytes(t *testing.T) {
	var all []rune
	for c := rune(-3); c <= 0x110003; c += 7 {
		all = append(all, c)
	}
	all = append(all, edgeScalars...)
	all = append(all, noScalars...)
	var want []byte
	for _, c := range all {
		want = append(want, Bytes(c)...)
	}
	if !bytes.Equal(Text(all), want) {
		t.Error("Text is not the Bytes one behind the other")
	}
}

// An answer is new memory: to change it changes no other.
func TestAnswersAreTheirOwn(t *testing.T) {
	for _, c := range edgeScalars {
		b := Bytes(c)
		l := []rune{c}
		text := Text(l)
		clear(b)
		clear(text)
		if string(Bytes(c)) != string(c) || string(Text(l)) != string(c) {
			t.Errorf("%X is not told again", c)
		}
		in := []byte(string(c))
		got, _, _ := All(in)
		clear(in)
		if got[0] != c {
			t.Errorf("All of %X is changed later", c)
		}
	}
}

// P2.2

func TestFirstRight(t *testing.T) {
	for b, want := range map[string][2]int{
		"\x00": {0, 1}, "a": {'a', 1}, "ab": {'a', 1}, "\x7f": {0x7F, 1}, "\x7f\x80": {0x7F, 1}, "a\xff": {'a', 1}, "\x00\x00": {0, 1},
		"\xc2\x80": {0x80, 2}, "\xc3\xa9": {0xE9, 2}, "\xc3\xa9\xa9": {0xE9, 2}, "\xdf\xbf": {0x7FF, 2}, "\xdf\xbf\xe0": {0x7FF, 2},
		"\xe0\xa0\x80": {0x800, 3}, "\xe2\x82\xac(": {0x20AC, 3}, "\xed\x9f\xbf": {0xD7FF, 3}, "\xed\x9f\xbf\xed\xa0": {0xD7FF, 3},
		"\xee\x80\x80": {0xE000, 3}, "\xef\xbf\xbd": {0xFFFD, 3}, "\xef\xbf\xbf": {0xFFFF, 3},
		"\xf0\x90\x80\x80": {0x10000, 4}, "\xf0\x9f\x98\x80\xf0": {0x1F600, 4}, "\xf4\x8f\xbf\xbf": {0x10FFFF, 4}, "\xf4\x8f\xbf\xbf\xbf": {0x10FFFF, 4},
	} {
		if c, n, ok := First([]byte(b)); int(c) != want[0] || n != want[1] || !ok {
			t.Errorf("First(% X) = %X, %d, %v", b, c, n, ok)
		}
	}
}

func TestFirstWrong(t *testing.T) {
	for b, want := range map[string]int{
		"": 0, "\x80": 0, "\x80a": 0, "\xbf": 0, "\xc0": 0, "\xc0\x80": 0, "\xc1": 0, "\xc1\xbf": 0,
		"\xf5": 0, "\xf5\x80\x80\x80": 0, "\xf7\xbf\xbf\xbf": 0, "\xf8\x88\x80\x80\x80": 0, "\xfe": 0, "\xff": 0, "\xffa": 0,
		"\xc2": 1, "\xc2\x7f": 1, "\xc2\xc0": 1, "\xc3": 1, "\xc3(": 1, "\xc3\xc3": 1, "\xdf": 1, "\xdf\xff": 1,
		"\xe0": 1, "\xe0\x80\x80": 1, "\xe0\x9f\xbf": 1, "\xe0\xa0": 2, "\xe0\xa0\x7f": 2, "\xe0\xa0\xc0": 2, "\xe0\xc0": 1,
		"\xe1": 1, "\xe1\x7f": 1, "\xe1\x80": 2, "\xec\xbf(": 2, "\xed": 1, "\xed\x7f": 1, "\xed\x9f": 2, "\xed\xa0": 1, "\xed\xa0\x80": 1, "\xed\xbf\xbf": 1,
		"\xee\x80": 2, "\xef\xbf": 2, "\xef\xbf\xc0": 2, "\xef\xc0": 1,
		"\xf0": 1, "\xf0\x80\x80\x80": 1, "\xf0\x8f\xbf\xbf": 1, "\xf0\x90": 2, "\xf0\x90\x80": 3, "\xf0\x90\x80\x7f": 3, "\xf0\x90(": 2, "\xf0\x9f\x98\xc0": 3,
		"\xf1\x80": 2, "\xf3\xbf\xbf": 3, "\xf4": 1, "\xf4\x8f": 2, "\xf4\x8f\xbf": 3, "\xf4\x8f\xbf\x7f": 3, "\xf4\x90": 1, "\xf4\x90\x80\x80": 1, "\xf4\xbf": 1,
	} {
		if c, n, ok := First([]byte(b)); c != 0 || n != want || ok {
			t.Errorf("First(% X) = %X, %d, %v", b, c, n, ok)
		}
	}
	if c, n, ok := First(nil); c != 0 || n != 0 || ok {
		t.Errorf("First(nil) = %X, %d, %v", c, n, ok)
	}
}

func TestFirstOfEveryScalar(t *testing.T) {
	eachScalar(func(c rune) {
		b := []byte(string(c))
		if got, n, ok := First(b); got != c || n != len(b) || !ok {
			t.Errorf("First(% X) = %X, %d, %v", b, got, n, ok)
		}
		for k := range b {
			if got, n, ok := First(b[:k]); got != 0 || n != k || ok {
				t.Errorf("First(% X) = %X, %d, %v", b[:k], got, n, ok)
			}
		}
	})
}

func TestFirstOfShortTexts(t *testing.T) {
	begins := beginnings()
	for x := range 0x10000 {
		checkFirst(t, begins, []byte{byte(x >> 8)})
		checkFirst(t, begins, []byte{byte(x >> 8), byte(x)})
	}
	for n := 3; n <= 4; n++ {
		eachEdgeText(n, func(b []byte) { checkFirst(t, begins, b) })
	}
}

func TestAllRight(t *testing.T) {
	for _, want := range [][]rune{
		{}, {0}, {'a'}, {'a', 'b', 'c'}, {'a', 0xE9, 0x20AC, 0x1F600}, {0x1F600, 0x20AC, 0xE9, 'a'}, {0xE9, 'a', 0xE9}, {0xFFFD, 0xFFFD},
		{'e', 0x301}, edgeScalars,
	} {
		b := []byte(string(want))
		if l, n, ok := All(b); !slices.Equal(l, want) || n != len(b) || !ok {
			t.Errorf("All(% X) = %X, %d, %v", b, l, n, ok)
		}
	}
	if l, n, ok := All(nil); len(l) != 0 || n != 0 || !ok {
		t.Errorf("All(nil) = %X, %d, %v", l, n, ok)
	}
}

func TestAllWrong(t *testing.T) {
	for b, want := range map[string]int{
		"\x80": 0, "\xff": 0, "\xc0\x80": 0, "\xc3": 1, "\xc3(": 1, "\xed\xa0": 1, "\xed\xa0\x80\xed\xb0\x80": 1,
		"ab\xff": 2, "ab\xffab": 2, "a\xc3": 2, "a\xc3(": 2, "a\xe2\x82": 3, "a\xe2(": 2, "a\xe2\x82(": 3, "\xc3\xa9\x80": 2, "\xc3\xa9\xa9": 2, "\xc3\xa9\xc3": 3,
		"\xe2\x82\xac\xf0\x9f\x98": 6, "a\xf0\x9f\x98a": 4, "\xf4\x8f\xbf\xbf\xf4\x90": 5, "\xc3\xa9\xc3\xa9\xc1": 4, "a\xff\xc3": 1,
	} {
		if l, n, ok := All([]byte(b)); len(l) != 0 || n != want || ok {
			t.Errorf("All(% X) = %X, %d, %v", b, l, n, ok)
		}
	}
}

func TestAllOfShortTexts(t *testing.T) {
	begins := beginnings()
	checkAll(t, begins, nil)
	for x := range 0x10000 {
		checkAll(t, begins, []byte{byte(x >> 8)})
		checkAll(t, begins, []byte{byte(x >> 8), byte(x)})
	}
	eachEdgeText(3, func(b []byte) { checkAll(t, begins, b) })
}

// Behind right scalars, of whatever size, all comes as it does at the beginning.
func TestAllBehindScalars(t *testing.T) {
	begins := beginnings()
	for _, c := range edgeScalars {
		for _, d := range edgeScalars {
			head := string(c) + string(d)
			eachEdgeText(1, func(b []byte) { checkAll(t, begins, []byte(head+string(b))) })
			eachEdgeText(2, func(b []byte) { checkAll(t, begins, []byte(string(c)+string(b)+string(d))) })
		}
	}
}

func TestAllIsTheWayBackOfText(t *testing.T) {
	var want []rune
	eachScalar(func(c rune) { want = append(want, c) })
	b := Text(want)
	if l, n, ok := All(b); !slices.Equal(l, want) || n != len(b) || !ok {
		t.Errorf("%d scalars, %d, %v", len(l), n, ok)
	}
	for cut := len(b) - 9; cut < len(b); cut++ {
		l, n, ok := All(b[:cut])
		if (cut%4 == len(b)%4) != ok || n != cut || ok != (len(l) > 0) {
			t.Errorf("cut at %d of %d: %d scalars, %d, %v", cut, len(b), len(l), n, ok)
		}
	}
}

// P2.3

// pushAll hands b to a new reader.
func pushAll(b string) *Reader {
	r := New()
	for i := range len(b) {
		r.Push(b[i])
	}
	return r
}

func TestNewHasNothingBegun(t *testing.T) {
	if r := New(); r == nil || r.Left() != 0 {
		t.Fatal("something is begun")
	}
}

func TestPushScalars(t *testing.T) {
	r := New()
	for _, c := range edgeScalars {
		b := string(c)
		last := len(b) - 1
		for i := range last {
			if got, told := r.Push(b[i]); got != 0 || told != 1 || r.Left() != i+1 {
				t.Errorf("%X, byte %d: %X, %d, left %d", c, i, got, told, r.Left())
			}
		}
		if got, told := r.Push(b[last]); got != c || told != 2 || r.Left() != 0 {
			t.Errorf("%X: %X, %d, left %d", c, got, told, r.Left())
		}
	}
}

func TestPushSteps(t *testing.T) {
	r := New()
	for i, s := range []struct {
		x    byte
		c    rune
		told int
		left int
	}{
		{0x80, 0, 3, 0}, {0xC0, 0, 3, 0}, {0xC1, 0, 3, 0}, {0xF5, 0, 3, 0}, {0xFF, 0, 3, 0}, {'a', 'a', 2, 0},
		{0xC3, 0, 1, 1}, {'(', 0, 3, 1}, {0xC3, 0, 3, 1}, {0xFF, 0, 3, 1}, {0x00, 0, 3, 1}, {0xA9, 0xE9, 2, 0}, {0xA9, 0, 3, 0},
		{0xE0, 0, 1, 1}, {0x9F, 0, 3, 1}, {0xC0, 0, 3, 1}, {0xA0, 0, 1, 2}, {0x7F, 0, 3, 2}, {0xC0, 0, 3, 2}, {0x80, 0x800, 2, 0},
		{0xED, 0, 1, 1}, {0xA0, 0, 3, 1}, {0x9F, 0, 1, 2}, {0xC0, 0, 3, 2}, {0xBF, 0xD7FF, 2, 0},
		{0xF0, 0, 1, 1}, {0x8F, 0, 3, 1}, {0x90, 0, 1, 2}, {'a', 0, 3, 2}, {0x80, 0, 1, 3}, {0xF0, 0, 3, 3}, {0x80, 0x10000, 2, 0},
		{0xF4, 0, 1, 1}, {0x90, 0, 3, 1}, {0x8F, 0, 1, 2}, {0xBF, 0, 1, 3}, {0xC0, 0, 3, 3}, {0xBF, 0x10FFFF, 2, 0}, {0x00, 0, 2, 0},
	} {
		if c, told := r.Push(s.x); c != s.c || told != s.told || r.Left() != s.left {
			t.Errorf("step %d, %X: %X, %d, left %d", i, s.x, c, told, r.Left())
		}
	}
}

// checkPush hands x to a reader that has b begun.
func checkPush(t *testing.T, begins map[string]int, b string, x byte) {
	t.Helper()
	r := pushAll(b)
	with := b + string([]byte{x})
	c, told := r.Push(x)
	wc, wtold, wleft := rune(0), 3, len(b)
	if isWhole(with) {
		wc, wtold, wleft = []rune(with)[0], 2, 0
	} else if begins[with] > 0 {
		wtold, wleft = 1, len(with)
	}
	if c != wc || told != wtold || r.Left() != wleft {
		t.Errorf("% X, then %X: %X, %d, left %d, want %X, %d, left %d", b, x, c, told, r.Left(), wc, wtold, wleft)
	}
}

func TestPushEveryByteBehindEveryBeginning(t *testing.T) {
	begins := beginnings()
	for x := range 0x100 {
		checkPush(t, begins, "", byte(x))
	}
	for b := range begins {
		if len(b) < 3 {
			for x := range 0x100 {
				checkPush(t, begins, b, byte(x))
			}
			continue
		}
		for _, x := range edgeBytes {
			checkPush(t, begins, b, x)
		}
	}
}

// What is refused, however often and wherever, changes nothing: the scalar that was begun comes as if it had not been there.
func TestRefusedChangesNothing(t *testing.T) {
	begins := beginnings()
	for _, c := range edgeScalars {
		b := string(c)
		r := New()
		for i := range len(b) {
			for x := range 0x100 {
				with := b[:i] + string([]byte{byte(x)})
				if isWhole(with) || begins[with] > 0 {
					continue
				}
				if got, told := r.Push(byte(x)); got != 0 || told != 3 || r.Left() != i {
					t.Errorf("% X, then %X: %X, %d, left %d", b[:i], x, got, told, r.Left())
				}
			}
			got, told := r.Push(b[i])
			if i == len(b)-1 && (got != c || told != 2) {
				t.Errorf("%X: %X, %d", c, got, told)
			}
		}
	}
}

func TestReadersHaveNothingInCommon(t *testing.T) {
	r, s := New(), New()
	for _, x := range []struct {
		x, y         byte
		rLeft, sLeft int
	}{{0xF0, 0xE2, 1, 1}, {0x9F, 0x82, 2, 2}, {0x98, 0xFF, 3, 2}} {
		r.Push(x.x)
		s.Push(x.y)
		if r.Left() != x.rLeft || s.Left() != x.sLeft || New().Left() != 0 {
			t.Errorf("%X, %X: left %d, %d", x.x, x.y, r.Left(), s.Left())
		}
	}
	if c, told := s.Push(0xAC); c != 0x20AC || told != 2 || r.Left() != 3 {
		t.Errorf("%X, %d, left %d", c, told, r.Left())
	}
	if c, told := r.Push(0x80); c != 0x1F600 || told != 2 {
		t.Errorf("%X, %d", c, told)
	}
}

// P2.4

// readAll tells of b what All tells, by pushing alone.
func readAll(b []byte) ([]rune, int, bool) {
	r := New()
	var l []rune
	for i, x := range b {
		switch c, told := r.Push(x); told {
		case 2:
			l = append(l, c)
		case 3:
			return nil, i, false
		}
	}
	if r.Left() > 0 {
		return nil, len(b), false
	}
	return l, len(b), true
}

func checkPushedIsAll(t *testing.T, b []byte) {
	t.Helper()
	l, n, ok := All(b)
	if rl, rn, rok := readAll(b); !slices.Equal(l, rl) || n != rn || ok != rok {
		t.Errorf("% X: All %X, %d, %v; pushed %X, %d, %v", b, l, n, ok, rl, rn, rok)
	}
}

func TestPushedIsAll(t *testing.T) {
	checkPushedIsAll(t, nil)
	for n := 1; n <= 4; n++ {
		eachEdgeText(n, func(b []byte) { checkPushedIsAll(t, b) })
	}
	for _, c := range edgeScalars {
		eachEdgeText(2, func(b []byte) {
			checkPushedIsAll(t, []byte(string(c)+string(b)))
			checkPushedIsAll(t, []byte(string(b)+string(c)))
		})
	}
}

func TestPushedIsAllOfLongTexts(t *testing.T) {
	b := []byte(string(edgeScalars) + "of the whole" + string(slices.Concat(edgeScalars, edgeScalars)))
	for n := range len(b) + 1 {
		checkPushedIsAll(t, b[:n])
	}
	for i := range b {
		for _, x := range edgeBytes {
			other := bytes.Clone(b)
			other[i] = x
			checkPushedIsAll(t, other)
		}
	}
}

// Bytes, First and Push speak of the same scalars as layer 1 does.
func TestScalarsAreThoseOfLayer1(t *testing.T) {
	for c := rune(-0x100); c <= 0x110100; c++ {
		b := Bytes(c)
		if scalar.Is(c) != (len(b) > 0) {
			t.Errorf("Bytes(%X) = % X", c, b)
		}
		if got, n, ok := First(b); len(b) > 0 && (got != c || n != len(b) || !ok) {
			t.Errorf("First(Bytes(%X)) = %X, %d, %v", c, got, n, ok)
		}
		if got, n, ok := readAll(b); len(b) > 0 && (len(got) != 1 || got[0] != c || n != len(b) || !ok) {
			t.Errorf("Bytes(%X) pushed: %X, %d, %v", c, got, n, ok)
		}
	}
}

// R1: no call panics at whatever texts.
func FuzzPushedIsAll(f *testing.F) {
	f.Add([]byte("a\xc3\xa9\xe2\x82\xac\xf0\x9f\x98\x80"))
	f.Add([]byte("\xed\xa0\x80"))
	f.Add([]byte{})
	begins := beginnings()
	f.Fuzz(func(t *testing.T, b []byte) {
		checkPushedIsAll(t, b)
		checkFirst(t, begins, b)
		checkAll(t, begins, b)
	})
}
