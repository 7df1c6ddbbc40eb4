package ucd

import (
	"crypto/sha256"
	"encoding/hex"
	"math"
	"slices"
	"strconv"
	"strings"
	"testing"
)

// The tests hold the package against answers written out by hand, and against the texts, read here anew by other means.

const places = 0x110000

// noPlaces are numbers that are no places; the lowest bits of some are those of a place that has a class, a pair or a single.
var noPlaces = []rune{
	-1, -2, -0x41, -0xC0, -0xE9, -0x300, -0x301, -0x212B, -0x10FFFF, -0x110000, -0x110000 + 0xE9, math.MinInt32, math.MinInt32 + 0xE9, math.MinInt32 + 0x301,
	0x110000, 0x110001, 0x1100E9, 0x110301, 0x11212B, 0x1FFFFF, 0x2000E9, 0x200301, 0x1000301, 0x7FFF00E9, math.MaxInt32,
}

// reckoned is what the texts say, read without the package's code.
type reckoned struct {
	class   map[rune]int
	pair    map[rune][2]rune
	single  map[rune]rune
	leftOut map[rune]bool
}

// rows answers the numbers of each entry of text, and of which entries a ! is the end.
func rows(t testing.TB, text string) (all [][]int, marked []bool) {
	t.Helper()
	for _, line := range strings.Split(strings.TrimSuffix(text, "\n"), "\n") {
		for _, e := range strings.Split(line, ",") {
			bare, mark := strings.CutSuffix(e, "!")
			var row []int
			for _, word := range strings.Split(bare, " ") {
				n, err := strconv.ParseInt(word, 16, 32)
				if err != nil {
					t.Fatal(err)
				}
				row = append(row, int(n))
			}
			all, marked = append(all, row), append(marked, mark)
		}
	}
	return all, marked
}

func reckon(t testing.TB) reckoned {
	t.Helper()
	r := reckoned{map[rune]int{}, map[rune][2]rune{}, map[rune]rune{}, map[rune]bool{}}
	end := 0
	all, _ := rows(t, classText)
	for _, row := range all {
		for i := range row[1] {
			r.class[rune(end+row[0]+i)] = row[2]
		}
		end += row[0] + row[1]
	}
	place := 0
	all, marked := rows(t, pairText)
	for i, row := range all {
		place += row[0]
		r.pair[rune(place)] = [2]rune{rune(row[1]), rune(row[2])}
		if marked[i] {
			r.leftOut[rune(place)] = true
		}
	}
	place = 0
	all, _ = rows(t, singleText)
	for _, row := range all {
		place += row[0]
		r.single[rune(place)] = rune(row[1])
	}
	return r
}

// joined answers what is made of two and not left out, by the letters of P5.2: all pairs are gone through.
func (r reckoned) joined(a, b rune) (found rune, ok bool) {
	for c, p := range r.pair {
		if p == [2]rune{a, b} && !r.leftOut[c] {
			return c, true
		}
	}
	return 0, false
}

// second tells whether c is the second of two that are Joined, by the letters of P5.2.
func (r reckoned) second(c rune) bool {
	for whole, p := range r.pair {
		if p[1] == c && !r.leftOut[whole] {
			return true
		}
	}
	return false
}

func wantClass(t testing.TB, x *Tables, c rune, want int) {
	t.Helper()
	if got := x.Class(c); got != want {
		t.Errorf("Class(%X) = %d, want %d", c, got, want)
	}
}

// wantPair: no pair is told by want of 0, 0.
func wantPair(t testing.TB, x *Tables, c rune, want [2]rune) {
	t.Helper()
	a, b, ok := x.Pair(c)
	if got := [2]rune{a, b}; got != want || ok != (want != [2]rune{}) {
		t.Errorf("Pair(%X) = %X, %v, want %X", c, got, ok, want)
	}
}

// wantSingle: no single is told by want of 0.
func wantSingle(t testing.TB, x *Tables, c, want rune) {
	t.Helper()
	if got, ok := x.Single(c); got != want || ok != (want != 0) {
		t.Errorf("Single(%X) = %X, %v, want %X", c, got, ok, want)
	}
}

// wantJoined: that nothing is joined is told by want of 0.
func wantJoined(t testing.TB, x *Tables, a, b, want rune) {
	t.Helper()
	if got, ok := x.Joined(a, b); got != want || ok != (want != 0) {
		t.Errorf("Joined(%X, %X) = %X, %v, want %X", a, b, got, ok, want)
	}
}

func wantSecond(t testing.TB, x *Tables, c rune, want bool) {
	t.Helper()
	if got := x.Second(c); got != want {
		t.Errorf("Second(%X) = %v, want %v", c, got, want)
	}
}

// wantAll holds all that is said of the one place c against r.
func wantAll(t testing.TB, x *Tables, r reckoned, c rune) {
	t.Helper()
	wantClass(t, x, c, r.class[c])
	wantPair(t, x, c, r.pair[c])
	wantSingle(t, x, c, r.single[c])
}

// P5.1

// The texts are the chapter's, byte by byte.
func TestTextsAreTheChapters(t *testing.T) {
	for _, x := range []struct{ name, text, sum string }{
		{"classes", classText, "c3aa6404602fc5b413a2f02f25631d3a2819617e061cbb98dfea7e3a74d9ff1c"},
		{"pairs", pairText, "c241f53adc8fbbbaf015c8bbb416f6bb8092f8134e2dca34a8a25d9bfa4c4acf"},
		{"singles", singleText, "389932869cd0781c3420ef9639327a8ca5a05d504d6d4d6d6d95f5a1be25d53a"},
	} {
		sum := sha256.Sum256([]byte(x.text))
		if got := hex.EncodeToString(sum[:]); got != x.sum {
			t.Errorf("%s: %s", x.name, got)
		}
	}
}

func TestEntriesEndWithACommaOrTheLine(t *testing.T) {
	three := func(a, b, c rune) entry { return entry{n: [3]rune{a, b, c}, last: 2} }
	two := func(a, b rune) entry { return entry{n: [3]rune{a, b}, last: 1} }
	out := func(e entry) entry { e.out = true; return e }
	for _, x := range []struct {
		text string
		want []entry
	}{
		{"", []entry{{}}},
		{"\n", []entry{{}, {}}},
		{"300 15 e6\n", []entry{three(0x300, 0x15, 0xE6), {}}},
		{"300 15 e6,0 1 e8\n", []entry{three(0x300, 0x15, 0xE6), three(0, 1, 0xE8), {}}},
		{"300 15 e6\n0 1 e8\n", []entry{three(0x300, 0x15, 0xE6), three(0, 1, 0xE8), {}}},
		{"111 308 301!,41 a8 301\n1 391 301!\n", []entry{out(three(0x111, 0x308, 0x301)), three(0x41, 0xA8, 0x301), out(three(1, 0x391, 0x301)), {}}},
		{"340 300,1 301\n2 313\n", []entry{two(0x340, 0x300), two(1, 0x301), two(2, 0x313), {}}},
		{"123456 789abc def\n", []entry{three(0x123456, 0x789ABC, 0xDEF), {}}},
		{"0 0", []entry{two(0, 0)}},
	} {
		var got []entry
		for e := range entries(x.text) {
			got = append(got, e)
		}
		if !slices.Equal(got, x.want) {
			t.Errorf("%q: %v, want %v", x.text, got, x.want)
		}
	}
}

func TestEntriesAreLeft(t *testing.T) {
	for stop := 1; stop <= 4; stop++ {
		told := 0
		for range entries("1 2,3 4\n5 6\n") {
			told++
			if told == stop {
				break
			}
		}
		if told != stop {
			t.Errorf("left at %d, told %d", stop, told)
		}
	}
}

func TestFirstAndLastEntries(t *testing.T) {
	x := Build()
	wantClass(t, x, 0x2FF, 0)
	wantClass(t, x, 0x300, 230)
	wantClass(t, x, 0x301, 230)
	wantClass(t, x, 0x314, 230)
	wantClass(t, x, 0x315, 232)
	wantClass(t, x, 0x1E943, 0)
	wantClass(t, x, 0x1E944, 230)
	wantClass(t, x, 0x1E949, 230)
	wantClass(t, x, 0x1E94A, 7)
	wantClass(t, x, 0x1E94B, 0)

	wantPair(t, x, 0xBF, [2]rune{})
	wantPair(t, x, 0xC0, [2]rune{'A', 0x300})
	wantPair(t, x, 0xC1, [2]rune{'A', 0x301})
	wantPair(t, x, 0x1D1BF, [2]rune{0x1D1BB, 0x1D16F})
	wantPair(t, x, 0x1D1C0, [2]rune{0x1D1BC, 0x1D16F})
	wantPair(t, x, 0x1D1C1, [2]rune{})

	wantSingle(t, x, 0x33F, 0)
	wantSingle(t, x, 0x340, 0x300)
	wantSingle(t, x, 0x341, 0x301)
	wantSingle(t, x, 0x342, 0)
	wantSingle(t, x, 0x2FA1C, 0x9F3B)
	wantSingle(t, x, 0x2FA1D, 0x2A600)
	wantSingle(t, x, 0x2FA1E, 0)
}

func TestEntriesAtALinesEnd(t *testing.T) {
	x := Build()
	// the first line of classes ends with `0 1 e6,0 3 dc`, the second begins with `0 3 e6,0 2 dc`
	wantClass(t, x, 0x346, 230)
	for c := rune(0x347); c <= 0x349; c++ {
		wantClass(t, x, c, 220)
	}
	for c := rune(0x34A); c <= 0x34C; c++ {
		wantClass(t, x, c, 230)
	}
	wantClass(t, x, 0x34D, 220)

	// of pairs: `1 45 308,1 49 300`, then `1 49 301`
	wantPair(t, x, 0xCB, [2]rune{'E', 0x308})
	wantPair(t, x, 0xCC, [2]rune{'I', 0x300})
	wantPair(t, x, 0xCD, [2]rune{'I', 0x301})
	// `5 f51 fb7!,5 f56 fb7!`, then `5 f5b fb7!,d f40 fb5!`: left out at a line's end
	wantPair(t, x, 0xF57, [2]rune{0xF56, 0xFB7})
	wantJoined(t, x, 0xF56, 0xFB7, 0)
	wantPair(t, x, 0xF5C, [2]rune{0xF5B, 0xFB7})
	// `57 1d1b9 1d165!` is the first one of the last line
	wantPair(t, x, 0x1D164, [2]rune{0x1D15F, 0x1D172})
	wantPair(t, x, 0x1D1BB, [2]rune{0x1D1B9, 0x1D165})

	// of singles: `3 3b9,b 388`, then `2 389`
	wantSingle(t, x, 0x1FBE, 0x3B9)
	wantSingle(t, x, 0x1FC9, 0x388)
	wantSingle(t, x, 0x1FCB, 0x389)
}

// The first and the last place of each entry of classes, and the places beside them.
func TestEndsOfEntriesOfClasses(t *testing.T) {
	x, r := Build(), reckon(t)
	end := rune(0)
	all, _ := rows(t, classText)
	several := 0
	for _, row := range all {
		first := end + rune(row[0])
		end = first + rune(row[1])
		if row[1] > 1 {
			several++
		}
		wantClass(t, x, first, row[2])
		wantClass(t, x, end-1, row[2])
		wantClass(t, x, first-1, r.class[first-1])
		wantClass(t, x, end, r.class[end])
		if row[0] > 0 {
			wantClass(t, x, first-1, 0)
		}
	}
	if several < 100 {
		t.Error(several)
	}
}

func TestAllPlacesAreAsTheTextsSay(t *testing.T) {
	x, r := Build(), reckon(t)
	for c := rune(0); c < places; c++ {
		wantAll(t, x, r, c)
	}
}

// P5.2

func TestClassByHand(t *testing.T) {
	x := Build()
	for c, want := range map[rune]int{
		0: 0, 'a': 0, 0xE9: 0, 0x301: 230, 0x31A: 232, 0x31B: 216, 0x327: 202, 0x334: 1, 0x345: 240, 0x34F: 0, 0x35C: 233, 0x35D: 234, 0x362: 233,
		0x5B0: 10, 0x5B1: 11, 0x5BF: 23, 0x5BE: 0, 0x64B: 27, 0x653: 230, 0x670: 35, 0x711: 36, 0x93C: 7, 0x94D: 9, 0xC55: 84, 0xC56: 91, 0xE38: 103, 0xE48: 107,
		0xEB8: 118, 0xEC8: 122, 0xF71: 129, 0xF72: 130, 0xF74: 132, 0x302A: 218, 0x302B: 228, 0x302C: 232, 0x302D: 222, 0x302E: 224, 0x3099: 8, 0x309A: 8,
		0xFB1E: 26, 0x1DCE: 214, 0x1D165: 216, 0x1D16D: 226, 0x16FF0: 6, 0xAC00: 0, 0xD800: 0, 0x10FFFF: 0,
		0x10EFD: 220, 0x1E08F: 230, 0x1E4EC: 232, 0x1E4EF: 230,
	} {
		wantClass(t, x, c, want)
	}
}

func TestPairByHand(t *testing.T) {
	x := Build()
	for c, want := range map[rune][2]rune{
		0xE9: {'e', 0x301}, 0xC5: {'A', 0x30A}, 0x1EA5: {0xE2, 0x301}, 0x344: {0x308, 0x301}, 0x385: {0xA8, 0x301}, 0x929: {0x928, 0x93C}, 0x958: {0x915, 0x93C},
		0x9CB: {0x9C7, 0x9BE}, 0x2260: {'=', 0x338}, 0x2ADC: {0x2ADD, 0x338}, 0x304C: {0x304B, 0x3099}, 0xFB1D: {0x5D9, 0x5B4}, 0xFB2C: {0xFB49, 0x5C1},
		0x1109A: {0x11099, 0x110BA}, 0x1D15E: {0x1D157, 0x1D165},
	} {
		wantPair(t, x, c, want)
	}
	for _, c := range []rune{0, 'a', 'e', 0x301, 0x212B, 0x340, 0xAC00, 0xAC01, 0xD7A3, 0xD800, 0x2F800, 0x10FFFF} {
		wantPair(t, x, c, [2]rune{})
	}
}

func TestSingleByHand(t *testing.T) {
	x := Build()
	for c, want := range map[rune]rune{
		0x212B: 0xC5, 0x2126: 0x3A9, 0x212A: 'K', 0x343: 0x313, 0x374: 0x2B9, 0x37E: ';', 0x387: 0xB7, 0x1F71: 0x3AC, 0x2000: 0x2002, 0x2329: 0x3008, 0xF900: 0x8C48, 0xFA10: 0x585A,
		0xFA6C: 0x242EE, 0x2F800: 0x4E3D,
	} {
		wantSingle(t, x, c, want)
	}
	for _, c := range []rune{0, 'a', 'K', 0xC5, 0xE9, 0x344, 0x958, 0xFA0E, 0xAC00, 0xD7A3, 0xDFFF, 0x10FFFF} {
		wantSingle(t, x, c, 0)
	}
}

func TestJoinedByHand(t *testing.T) {
	x := Build()
	for _, j := range [][3]rune{
		{'e', 0x301, 0xE9}, {'A', 0x300, 0xC0}, {'A', 0x30A, 0xC5}, {0xE2, 0x301, 0x1EA5}, {0xA8, 0x301, 0x385}, {0x928, 0x93C, 0x929}, {0x9C7, 0x9BE, 0x9CB}, {0x3B1, 0x345, 0x1FB3},
		{'=', 0x338, 0x2260}, {0x30FD, 0x3099, 0x30FE}, {0x11935, 0x11930, 0x11938},
	} {
		wantJoined(t, x, j[0], j[1], j[2])
	}
	for _, j := range [][2]rune{
		{0x915, 0x93C}, {0x308, 0x301}, {0x2ADD, 0x338}, {0xFB49, 0x5C1}, {0x1D157, 0x1D165}, {0x1D1BC, 0x1D16F},
		{0x301, 'e'}, {'e', 'e'}, {'e', 0}, {0, 0x301}, {0, 0}, {0xC5, 0}, {0xE9, 0x301}, {0x1100, 0x1161}, {0xAC00, 0x11A8}, {0xD800, 0xDC00}, {0x10FFFF, 0x10FFFF},
	} {
		wantJoined(t, x, j[0], j[1], 0)
	}
}

func TestSecondByHand(t *testing.T) {
	x := Build()
	for c, want := range map[rune]bool{
		0x300: true, 0x301: true, 0x338: true, 0x345: true, 0x93C: true, 0x9BE: true, 0x9D7: true, 0x1B35: true, 0x3099: true, 0x309A: true, 0x11930: true,
		0x9BC: false, 0xA3C: false, 0x5B4: false, 0x5B7: false, 0x5BC: false, 0xFB7: false, 0x1D165: false, 0x1D16E: false, // the seconds of such as are left out alone
		0: false, 1: false, 'e': false, 0xE9: false, 0x2FF: false, 0x305: false, 0x340: false, 0x1161: false, 0x11A8: false, 0xAC00: false, 0x10FFFF: false,
	} {
		wantSecond(t, x, c, want)
	}
}

func TestSecondOfAllPlaces(t *testing.T) {
	x, r := Build(), reckon(t)
	seconds := map[rune]bool{}
	for c, p := range r.pair {
		if !r.leftOut[c] {
			seconds[p[1]] = true
		}
	}
	for c := rune(0); c < places; c++ {
		wantSecond(t, x, c, seconds[c])
	}
}

func TestCounts(t *testing.T) {
	x, r := Build(), reckon(t)
	want := [4]int{922, 1026, 1035, 85}
	if got := x.Counts(); got != want {
		t.Error(got)
	}
	if got := [4]int{len(r.class), len(r.pair), len(r.single), len(r.leftOut)}; got != want {
		t.Error(got)
	}
	var told [4]int
	for c := rune(0); c < places; c++ {
		if x.Class(c) != 0 {
			told[0]++
		}
		if a, b, ok := x.Pair(c); ok {
			told[1]++
			if _, ok := x.Joined(a, b); !ok {
				told[3]++
			}
		}
		if _, ok := x.Single(c); ok {
			told[2]++
		}
	}
	if told != want {
		t.Error(told)
	}
}

func TestNumbersThatAreNoPlaces(t *testing.T) {
	x := Build()
	for _, c := range noPlaces {
		wantClass(t, x, c, 0)
		wantPair(t, x, c, [2]rune{})
		wantSingle(t, x, c, 0)
		wantSecond(t, x, c, false)
		for _, d := range append(noPlaces, 0, 'e', 'A', 0x301, 0x30A, 0xE9, 0x93C, 0x10FFFF) {
			wantJoined(t, x, c, d, 0)
			wantJoined(t, x, d, c, 0)
		}
	}
}

// P5.3

func TestJoinedAndPairAreEachOthersWayBack(t *testing.T) {
	x, r := Build(), reckon(t)
	ways := 0
	for c := rune(0); c < places; c++ {
		a, b, ok := x.Pair(c)
		if !ok {
			continue
		}
		back, ok := x.Joined(a, b)
		switch {
		case r.leftOut[c] && (ok || back != 0):
			t.Errorf("%X is left out, but joined of %X, %X: %X", c, a, b, back)
		case !r.leftOut[c] && (!ok || back != c):
			t.Errorf("%X is not joined of %X, %X: %X", c, a, b, back)
		}
		if ok {
			ways++
		}
	}
	if ways != 1026-85 {
		t.Error(ways)
	}
}

// All that is in a pair is joined with all that is: what comes of it has those two for its pair.
func TestWhateverIsJoinedHasThosePairs(t *testing.T) {
	x, r := Build(), reckon(t)
	var parts []rune
	for c, p := range r.pair {
		parts = append(parts, c, p[0], p[1])
	}
	slices.Sort(parts)
	parts = slices.Compact(parts)
	ways := 0
	for _, a := range parts {
		for _, b := range parts {
			c, ok := x.Joined(a, b)
			if !ok {
				if c != 0 {
					t.Errorf("Joined(%X, %X) = %X, false", a, b, c)
				}
				continue
			}
			ways++
			wantPair(t, x, c, [2]rune{a, b})
			if r.leftOut[c] || !x.Second(b) {
				t.Errorf("Joined(%X, %X) = %X", a, b, c)
			}
			if want, _ := r.joined(a, b); c != want {
				t.Errorf("Joined(%X, %X) = %X, want %X", a, b, c, want)
			}
		}
	}
	if ways != 1026-85 {
		t.Error(ways)
	}
}

func TestNoPlaceHasBothAPairAndASingle(t *testing.T) {
	x := Build()
	for c := rune(0); c < places; c++ {
		_, _, pair := x.Pair(c)
		_, single := x.Single(c)
		if pair && single {
			t.Errorf("%X has both", c)
		}
	}
}

func TestNoneIsOfHangulsSyllables(t *testing.T) {
	x := Build()
	hangul := func(c rune) bool { return 0xAC00 <= c && c <= 0xD7A3 }
	for c := rune(0xAC00); c <= 0xD7A3; c++ {
		wantClass(t, x, c, 0)
		wantPair(t, x, c, [2]rune{})
		wantSingle(t, x, c, 0)
		wantSecond(t, x, c, false)
	}
	for c := rune(0); c < places; c++ {
		a, b, _ := x.Pair(c)
		one, _ := x.Single(c)
		if hangul(a) || hangul(b) || hangul(one) {
			t.Errorf("%X: %X, %X, %X", c, a, b, one)
		}
	}
}

// R3, R4

// Asking changes nothing, and two tables have nothing in common.
func TestAskingChangesNothing(t *testing.T) {
	x, y, r := Build(), Build(), reckon(t)
	if x == y {
		t.Error("one table for two")
	}
	counts := x.Counts()
	counts[0] = 0
	for range 3 {
		for _, c := range append(noPlaces, 0, 'a', 0xE9, 0x301, 0x340, 0x958, 0x212B, 0x10FFFF) {
			for _, of := range []*Tables{x, y} {
				wantAll(t, of, r, c)
				wantSecond(t, of, c, c == 0x301)
				wantJoined(t, of, c, 0x30C, map[rune]rune{'a': 0x1CE}[c])
				of.Counts()
			}
		}
	}
	if x.Counts() != y.Counts() || x.Counts() != [4]int{922, 1026, 1035, 85} {
		t.Error(x.Counts(), y.Counts())
	}
}

func FuzzTables(f *testing.F) {
	for _, two := range [][2]rune{{'e', 0x301}, {0x915, 0x93C}, {0x212B, 0xAC00}, {-1, 0x110000}, {0, 0x10FFFF}, {math.MinInt32, math.MaxInt32}} {
		f.Add(two[0], two[1])
	}
	x, r := Build(), reckon(f)
	f.Fuzz(func(t *testing.T, a, b rune) {
		wantAll(t, x, r, a)
		wantAll(t, x, r, b)
		wantSecond(t, x, b, r.second(b))
		want, _ := r.joined(a, b)
		wantJoined(t, x, a, b, want)
	})
}
