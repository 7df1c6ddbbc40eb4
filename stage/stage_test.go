package stage

import (
	"fmt"
	"math"
	"slices"
	"strings"
	"testing"

	"orthoepy/api"
)

// The tests hold the package against answers written out by hand and against the promises' letters, reckoned here anew from the entries alone.

const places = 0x110000

// edgePlaces are places about which something changes: the ends of all places, of blocks, and of what scalars are.
var edgePlaces = []rune{
	0, 1, 'A', 254, 255, 256, 257, 511, 512, 'A' + 256, 0xD7FF, 0xD800, 0xDFFF, 0xE000, 0xFEFF, 0xFF00, 0xFFFE, 0xFFFF, 0x10000, 0x100FF, 0x10100,
	0x10FEFF, 0x10FF00, 0x10FF41, 0x10FFFE, 0x10FFFF,
}

// noPlaces are numbers at which no table has anything; the lowest bits of some, or what they leave when parted by the count of places, are those of a place.
var noPlaces = []rune{
	-1, -2, -'A', -255, -256, -257, -0x10000, -0x10FF00, -0x10FFFF, -0x110000, -0x110000 + 'A', math.MinInt32, math.MinInt32 + 'A',
	0x110000, 0x110001, 0x110041, 0x1100FF, 0x110100, 0x11FFFF, 0x1FFFFF, 0x200041, 0x1000041, 0x7FFF0041, math.MaxInt32,
}

// edgeValues are numbers that a lesser kind of numbers would take for one another.
var edgeValues = []int{
	0, 1, -1, 7, 127, 128, 255, 256, 1 << 15, 1 << 16, 1<<16 + 7, 1 << 31, 1 << 32, 1<<32 + 7, -1 << 31, 1 << 53, 1<<53 + 1, math.MaxInt, math.MinInt, math.MinInt + 7,
}

func isOne(c rune) bool { return 0 <= c && c < places }

// entries pairs places with one value.
func entries(v int, l ...rune) []api.Entry {
	var all []api.Entry
	for _, c := range l {
		all = append(all, api.Entry{C: c, V: v})
	}
	return all
}

// wantGet is P4.1 by its letters: the last entry of a place that there is.
func wantGet(l []api.Entry, c rune) int {
	for _, e := range slices.Backward(l) {
		if e.C == c && isOne(c) {
			return e.V
		}
	}
	return 0
}

// wantBlocks is P4.2 by its letters: a block is written out as a text of what it has, and the unlike texts are counted.
func wantBlocks(l []api.Entry) int {
	last := map[rune]int{}
	for _, e := range l {
		last[e.C] = e.V
	}
	named := map[rune]bool{}
	for c := range last {
		if isOne(c) {
			named[c>>8] = true
		}
	}
	texts := map[string]bool{}
	if len(named) < 4352 {
		texts[""] = true
	}
	for n := range named {
		var b strings.Builder
		for c := n << 8; c < (n+1)<<8; c++ {
			if v := last[c]; v != 0 {
				fmt.Fprintf(&b, "%d at %d,", v, c&0xFF)
			}
		}
		texts[b.String()] = true
	}
	return len(texts)
}

// checkAt holds what a table has of these places against what its entries say.
func checkAt(t *testing.T, x *Table, l []api.Entry, at []rune) {
	t.Helper()
	for _, c := range at {
		if got, want := x.Get(c), wantGet(l, c); got != want {
			t.Errorf("%s: Get(%#x) = %d, want %d", show(l), c, got, want)
		}
	}
}

// check builds the table of l and holds it, at the edges and about the entries, against the promises; and l must be as it was.
func check(t *testing.T, l []api.Entry) {
	t.Helper()
	was := slices.Clone(l)
	x := Build(l)
	checkAt(t, x, was, edgePlaces)
	checkAt(t, x, was, noPlaces)
	for _, e := range was {
		checkAt(t, x, was, []rune{e.C, e.C - 1, e.C + 1, e.C - 256, e.C + 256, e.C ^ 0x10000, -e.C})
	}
	if got, want := x.Blocks(), wantBlocks(was); got != want {
		t.Errorf("%s: %d blocks, want %d", show(was), got, want)
	}
	if !slices.Equal(l, was) {
		t.Errorf("%s has been changed to %s", show(was), show(l))
	}
}

// checkEveryPlace goes through all places there are.
func checkEveryPlace(t *testing.T, l []api.Entry) {
	t.Helper()
	want := make([]int, places)
	for _, e := range l {
		if isOne(e.C) {
			want[e.C] = e.V
		}
	}
	x := Build(l)
	for c, v := range want {
		if got := x.Get(rune(c)); got != v {
			t.Fatalf("%s: Get(%#x) = %d, want %d", show(l), c, got, v)
		}
	}
}

// sameTables holds two tables against each other by all that can be asked of them.
func sameTables(t *testing.T, what string, x, y *Table) {
	t.Helper()
	if x.Blocks() != y.Blocks() {
		t.Errorf("%s: %d blocks, %d blocks", what, x.Blocks(), y.Blocks())
	}
	for c := rune(-0x200); c < places+0x200; c++ {
		if x.Get(c) != y.Get(c) {
			t.Fatalf("%s: of %#x %d, %d", what, c, x.Get(c), y.Get(c))
		}
	}
}

// show writes short lists out, and of long ones their beginning.
func show(l []api.Entry) string {
	if len(l) > 8 {
		return fmt.Sprintf("%#x and %d more", l[:8], len(l)-8)
	}
	return fmt.Sprintf("%#x", l)
}

// eachRow calls f with all rows of n of these entries; f must not keep the row.
func eachRow(l []api.Entry, n int, f func(row []api.Entry)) {
	row := make([]api.Entry, n)
	var fill func(at int)
	fill = func(at int) {
		if at == n {
			f(row)
			return
		}
		for _, e := range l {
			row[at] = e
			fill(at + 1)
		}
	}
	fill(0)
}

// each answers the entries of all these places with all these values.
func each(at []rune, values ...int) []api.Entry {
	var l []api.Entry
	for _, c := range at {
		for _, v := range values {
			l = append(l, api.Entry{C: c, V: v})
		}
	}
	return l
}

// P4.1

func TestGetByHand(t *testing.T) {
	l := []api.Entry{
		{C: 0, V: 11}, {C: 255, V: 12}, {C: 256, V: 13}, {C: 0x10FFFF, V: 14}, {C: 'A', V: 3}, {C: 'B', V: -5}, {C: 'A', V: 7}, {C: 'C', V: 9}, {C: 'C', V: 0}, {C: 'D', V: 0}, {C: 'D', V: 8},
		{C: 0xD800, V: 15}, {C: 0xFFFF, V: 16}, {C: -1, V: 99}, {C: 0x110000, V: 99}, {C: math.MinInt32, V: 99}, {C: math.MaxInt32, V: 99}, {C: 0x10FF00, V: math.MaxInt}, {C: 0x10FE00, V: math.MinInt},
	}
	x := Build(l)
	for c, want := range map[rune]int{
		0: 11, 1: 0, 254: 0, 255: 12, 256: 13, 257: 0, 511: 0, 512: 0, 0x10FFFF: 14, 0x10FFFE: 0, 'A': 7, 'B': -5, 'C': 0, 'D': 8, 'E': 0, 'A' + 256: 0, 0x10FF41: 0,
		0xD800: 15, 0xFFFF: 16, 0x10000: 0, 0x10FF00: math.MaxInt, 0x10FE00: math.MinInt,
		-1: 0, -2: 0, -'A': 0, -255: 0, -256: 0, 0x110000: 0, 0x110001: 0, 0x110041: 0, 0x1100FF: 0, math.MinInt32: 0, math.MaxInt32: 0,
	} {
		if got := x.Get(c); got != want {
			t.Errorf("Get(%#x) = %d, want %d", c, got, want)
		}
	}
}

func TestGetOfNothing(t *testing.T) {
	for _, l := range [][]api.Entry{nil, {}, entries(9, noPlaces...)} {
		checkEveryPlace(t, l)
		check(t, l)
	}
}

// Each block is asked at its first and its last place, where the next one begins.
func TestGetAtTheEndsOfEveryBlock(t *testing.T) {
	for n := range rune(4352) {
		for _, c := range []rune{256 * n, 256*n + 255} {
			x := Build(entries(7, c))
			for d := c - 2; d <= c+2; d++ {
				want := 0
				if d == c {
					want = 7
				}
				if got := x.Get(d); got != want {
					t.Errorf("7 at %#x: Get(%#x) = %d, want %d", c, d, got, want)
				}
			}
		}
	}
}

// One entry is at its place and at no other one.
func TestGetEveryPlaceOfOneEntry(t *testing.T) {
	for _, c := range slices.Concat(edgePlaces, noPlaces) {
		checkEveryPlace(t, entries(-3, c))
	}
}

// Every place has a value of its own.
func TestGetAllPlacesUnlike(t *testing.T) {
	var l []api.Entry
	for c := rune(places - 1); c >= 0; c-- {
		l = append(l, api.Entry{C: c, V: int(c) - 0x88000})
	}
	checkEveryPlace(t, l)
	checkEveryPlace(t, slices.Concat(entries(99, noPlaces...), l, entries(99, noPlaces...)))
}

// All numbers may be values, and none is taken for another one.
func TestGetAllKindsOfValues(t *testing.T) {
	for _, v := range edgeValues {
		for _, w := range edgeValues {
			check(t, []api.Entry{{C: 5, V: v}, {C: 256 + 5, V: w}, {C: 0x10FFFF, V: v}})
			check(t, []api.Entry{{C: 5, V: v}, {C: 5, V: w}, {C: 256 + 5, V: v}})
		}
	}
}

// The last entry of a place counts, wherever those of other places stand.
func TestGetTheLastOfSeveral(t *testing.T) {
	for _, c := range edgePlaces {
		for n := 1; n < 6; n++ {
			var l []api.Entry
			for v := range n {
				l = append(l, api.Entry{C: c, V: v + 1}, api.Entry{C: c ^ 1, V: -v - 1})
			}
			check(t, l)
			x := Build(l)
			if got, other := x.Get(c), x.Get(c^1); got != n || other != -n {
				t.Errorf("%#x: %d, %d, want %d, %d", c, got, other, n, -n)
			}
			if got := Build(append(l, api.Entry{C: c})).Get(c); got != 0 {
				t.Errorf("%#x, with 0 as the last one: %d", c, got)
			}
		}
	}
}

func TestShortRowsOfEdgeEntries(t *testing.T) {
	check(t, nil)
	at := []rune{0, 255, 256, 511, 0x10FF00, 0x10FFFF, -1, 0x110000}
	for n := 1; n <= 2; n++ {
		eachRow(each(slices.Concat(edgePlaces, noPlaces), 0, 7), n, func(row []api.Entry) { check(t, row) })
		eachRow(each(at, 0, 1, 7, -5), n, func(row []api.Entry) { check(t, row) })
	}
	eachRow(each(at, 0, 7), 3, func(row []api.Entry) { check(t, row) })
	eachRow(each([]rune{0, 256, 0x110000}, 0, 7), 5, func(row []api.Entry) { check(t, row) })
}

// What is at no place is left out wherever it stands, and takes nothing with it.
func TestNoPlacesAreLeftOut(t *testing.T) {
	l := []api.Entry{{C: 0, V: 1}, {C: 'A', V: 2}, {C: 255, V: 3}, {C: 'A', V: 4}, {C: 0x10FFFF, V: 5}, {C: 255, V: 0}}
	want := Build(l)
	for i := range len(l) + 1 {
		x := Build(slices.Insert(slices.Clone(l), i, entries(99, noPlaces...)...))
		sameTables(t, fmt.Sprint("no places at ", i), x, want)
	}
	for _, c := range noPlaces {
		for _, v := range edgeValues {
			if got := Build([]api.Entry{{C: c, V: v}}); got.Get(c) != 0 || got.Blocks() != 1 {
				t.Errorf("%d at %#x: %d, %d blocks", v, c, got.Get(c), got.Blocks())
			}
		}
	}
}

// P4.2

func TestBlocksByHand(t *testing.T) {
	for _, x := range []struct {
		l    []api.Entry
		want int
	}{
		// the chapter's own
		{nil, 1}, {entries(7, 65), 2},
		{[]api.Entry{}, 1}, {entries(7, 0), 2}, {entries(7, 255), 2}, {entries(7, 256), 2}, {entries(7, 0x10FFFF), 2}, {entries(7, 0x10FF00), 2},
		// what is 0 is as what no entry names
		{entries(0, 65), 1}, {entries(0, 0, 255, 256, 0x10FFFF), 1}, {[]api.Entry{{C: 65, V: 7}, {C: 65, V: 0}}, 1}, {[]api.Entry{{C: 65, V: 0}, {C: 65, V: 7}}, 2},
		{[]api.Entry{{C: 65, V: 7}, {C: 66, V: 7}, {C: 65, V: 0}}, 2}, {[]api.Entry{{C: 0x10FFFF, V: 7}, {C: 0, V: 7}, {C: 0x10FFFF, V: 0}}, 2},
		// alike and unlike
		{entries(7, 65, 65+256), 2}, {entries(7, 65, 66+256), 3}, {[]api.Entry{{C: 65, V: 7}, {C: 65 + 256, V: 8}}, 3}, {[]api.Entry{{C: 65, V: 7}, {C: 65 + 256, V: -7}}, 3},
		{entries(7, 254, 255), 2}, {entries(7, 255, 256), 3}, {entries(7, 0, 255), 2}, {entries(7, 0x41, 0x10FF41), 2}, {entries(7, 0xFFFF, 0x10000), 3},
		{[]api.Entry{{C: 0, V: 1}, {C: 1, V: 2}, {C: 256, V: 2}, {C: 257, V: 1}}, 3}, {[]api.Entry{{C: 0, V: 1}, {C: 1, V: 2}, {C: 257, V: 2}, {C: 256, V: 1}}, 2},
		{[]api.Entry{{C: 0, V: 1}, {C: 1, V: 2}, {C: 256, V: 1}}, 3}, {entries(7, 0, 256, 512), 2}, {entries(7, 0, 257, 514), 4},
		// a later entry makes blocks alike, or unlike
		{[]api.Entry{{C: 65, V: 7}, {C: 65 + 256, V: 8}, {C: 65, V: 8}}, 2}, {[]api.Entry{{C: 65, V: 7}, {C: 65 + 256, V: 7}, {C: 65, V: 8}}, 3},
		// no places
		{entries(7, -1, 0x110000, math.MinInt32, math.MaxInt32), 1}, {entries(7, -1, 65, 0x110041), 2}, {entries(7, noPlaces...), 1},
	} {
		if got := Build(x.l).Blocks(); got != x.want {
			t.Errorf("%s: %d blocks, want %d", show(x.l), got, x.want)
		}
	}
}

// Two blocks that differ at one place alone are unlike, whichever place that is; and alike again without that.
func TestBlocksThatDifferAtOnePlace(t *testing.T) {
	for _, full := range []int{0, 7} {
		var l []api.Entry
		for c := range rune(256) {
			l = append(l, entries(full, c, 0x10FF00+c)...)
		}
		one := Build(l).Blocks()
		for c := range rune(256) {
			for _, v := range []int{1, -1, full + 1<<32, full - 1<<62, math.MinInt} {
				if got := Build(append(l, api.Entry{C: c, V: v})).Blocks(); got != one+1 {
					t.Errorf("%d, but for %d at %d: %d blocks, want %d", full, v, c, got, one+1)
				}
				if got := Build(append(l, api.Entry{C: c, V: v}, api.Entry{C: 0x10FF00 + c, V: v})).Blocks(); got != 2 {
					t.Errorf("%d, but for %d twice at %d: %d blocks", full, v, c, got)
				}
				if got := Build(append(l, api.Entry{C: c, V: v}, api.Entry{C: c, V: full})).Blocks(); got != one {
					t.Errorf("%d again at %d: %d blocks, want %d", full, c, got, one)
				}
			}
		}
	}
}

// everyBlock answers an entry at the given place of each of the blocks, of the value that f says.
func everyBlock(at rune, f func(n int) int) []api.Entry {
	var l []api.Entry
	for n := range 4352 {
		l = append(l, api.Entry{C: rune(256*n) + at, V: f(n)})
	}
	return l
}

func TestBlocksWhereAllAreNamed(t *testing.T) {
	for _, at := range []rune{0, 9, 255} {
		for _, x := range []struct {
			name string
			f    func(n int) int
			want int
		}{
			{"all unlike, none empty", func(n int) int { return n + 1 }, 4352}, {"all unlike, the first empty", func(n int) int { return n }, 4352},
			{"all unlike, the last empty", func(n int) int { return n - 4351 }, 4352}, {"all unlike in the high bits", func(n int) int { return (n + 1) << 50 }, 4352},
			{"all alike", func(n int) int { return 7 }, 1}, {"all empty", func(n int) int { return 0 }, 1}, {"by halves", func(n int) int { return n / 2 }, 2176},
			{"by turns", func(n int) int { return n%2 + 1 }, 2}, {"by turns, one of them empty", func(n int) int { return n % 2 }, 2}, {"the last alone empty", func(n int) int { return (4351 - n + 4350) / 4351 }, 2},
		} {
			l := everyBlock(at, x.f)
			if got := Build(l).Blocks(); got != x.want {
				t.Errorf("%s, at %d: %d blocks, want %d", x.name, at, got, x.want)
			}
			checkEveryPlace(t, l)
		}
	}
}

// All blocks are alike but for one, of which no entry speaks, or which a later entry empties or changes.
func TestBlocksAllButOne(t *testing.T) {
	all := everyBlock(9, func(int) int { return 7 })
	for _, n := range []int{0, 1, 2, 255, 256, 2176, 4350, 4351} {
		c := rune(256*n + 9)
		for i, l := range [][]api.Entry{slices.Delete(slices.Clone(all), n, n+1), append(slices.Clone(all), api.Entry{C: c}), append(slices.Clone(all), api.Entry{C: c, V: 8}), append(slices.Clone(all), api.Entry{C: c + 1, V: 7})} {
			if got := Build(l).Blocks(); got != 2 {
				t.Errorf("block %d, way %d: %d blocks", n, i, got)
			}
			checkEveryPlace(t, l)
		}
	}
}

// With each unlike block that is named there is one more, up to all of them; then the empty one is gone.
func TestBlocksOneByOne(t *testing.T) {
	all := everyBlock(200, func(n int) int { return n + 1 })
	for n := range 300 {
		if got := Build(all[:n]).Blocks(); got != n+1 {
			t.Errorf("the first %d: %d blocks", n, got)
		}
	}
	for _, n := range []int{4350, 4351} {
		if got := Build(all[:n]).Blocks(); got != n+1 {
			t.Errorf("the first %d: %d blocks", n, got)
		}
		if got := Build(all[4352-n:]).Blocks(); got != n+1 {
			t.Errorf("the last %d: %d blocks", n, got)
		}
	}
}

// P4.3

// An entry ahead of another one of its place plays no part.
func TestAheadPlaysNoPart(t *testing.T) {
	l := []api.Entry{{C: 0, V: 1}, {C: 'A', V: 7}, {C: 255, V: 3}, {C: 256, V: 1}, {C: 'A' + 256, V: 7}, {C: 511, V: 3}, {C: 0x10FFFF, V: 5}, {C: 0x10FF00, V: 0}}
	want := Build(l)
	for i, e := range l {
		for k := range i + 1 {
			for _, v := range []int{0, 9, -1, e.V, math.MinInt} {
				more := slices.Insert(slices.Clone(l), k, api.Entry{C: e.C, V: v})
				x := Build(more)
				checkAt(t, x, l, edgePlaces)
				if x.Blocks() != want.Blocks() {
					t.Errorf("%d at %#x, ahead at %d: %d blocks, want %d", v, e.C, k, x.Blocks(), want.Blocks())
				}
			}
		}
	}
	var ahead []api.Entry
	for c := range rune(places) {
		ahead = append(ahead, api.Entry{C: c, V: int(c) + 1})
	}
	sameTables(t, "all places ahead", Build(slices.Concat(ahead, everyPlace(0), l)), want)
}

// everyPlace answers an entry of v at each place.
func everyPlace(v int) []api.Entry {
	var l []api.Entry
	for c := range rune(places) {
		l = append(l, api.Entry{C: c, V: v})
	}
	return l
}

// An entry of 0 plays no part, if none of its place is ahead of it.
func TestZeroPlaysNoPart(t *testing.T) {
	l := []api.Entry{{C: 0, V: 1}, {C: 'A', V: 7}, {C: 255, V: 3}, {C: 256, V: 1}, {C: 'A' + 256, V: 7}, {C: 511, V: 3}, {C: 0x10FFFF, V: 5}}
	want := Build(l)
	for i := range len(l) + 1 {
		for _, c := range edgePlaces {
			if slices.ContainsFunc(l[:i], func(e api.Entry) bool { return e.C == c }) {
				continue
			}
			x := Build(slices.Insert(slices.Clone(l), i, api.Entry{C: c}))
			checkAt(t, x, l, edgePlaces)
			if x.Blocks() != want.Blocks() {
				t.Errorf("0 at %#x, as entry %d: %d blocks, want %d", c, i, x.Blocks(), want.Blocks())
			}
		}
	}
	sameTables(t, "0 at all places", Build(slices.Concat(everyPlace(0), l)), want)
	sameTables(t, "0 at all places, and nothing else", Build(everyPlace(0)), Build(nil))
	sameTables(t, "0 in all blocks", Build(slices.Concat(everyBlock(3, func(int) int { return 0 }), l)), want)
}

// An entry of 0 with one ahead of it does play a part: it takes that away.
func TestZeroTakesAway(t *testing.T) {
	for _, c := range edgePlaces {
		for _, v := range edgeValues {
			x := Build([]api.Entry{{C: c, V: v}, {C: c ^ 1, V: 7}, {C: c}})
			if x.Get(c) != 0 || x.Get(c^1) != 7 || x.Blocks() != 2 {
				t.Errorf("%d at %#x, then 0: %d, %d, %d blocks", v, c, x.Get(c), x.Get(c^1), x.Blocks())
			}
		}
	}
}

// Entries of unlike places may stand in whatever order.
func TestOrderOfPlacesPlaysNoPart(t *testing.T) {
	l := slices.Concat(entries(7, edgePlaces...), entries(9, noPlaces...), everyBlock(77, func(n int) int { return n % 5 }))
	want := Build(l)
	slices.Reverse(l)
	sameTables(t, "turned round", Build(l), want)
	sameTables(t, "from the middle on", Build(slices.Concat(l[len(l)/2:], l[:len(l)/2])), want)
}

// R1, R3, R4

// What is handed in stays as it is, also what lies behind a list's length; and a table stays as it is when that is changed.
func TestHandedInStays(t *testing.T) {
	room := each(slices.Concat(edgePlaces, noPlaces), 0, 7, -5)
	was := slices.Clone(room)
	var tables []*Table
	for i := range len(room) + 1 {
		tables = append(tables, Build(room[:i]))
		if !slices.Equal(room, was) {
			t.Fatalf("%d entries: changed", i)
		}
	}
	for i := range room {
		room[i] = api.Entry{C: 'A', V: 99}
	}
	for i, x := range tables {
		checkAt(t, x, was[:i], edgePlaces)
		if x.Blocks() != wantBlocks(was[:i]) {
			t.Errorf("%d entries: %d blocks", i, x.Blocks())
		}
	}
}

// Tables have nothing in common, and asking one changes nothing.
func TestTablesHaveNothingInCommon(t *testing.T) {
	a, b, c := Build(entries(7, 65)), Build(entries(8, 65, 65+256, 0x10FFFF)), Build(nil)
	for range 3 {
		for i, x := range []struct {
			t            *Table
			at65, at321  int
			last, blocks int
		}{{a, 7, 0, 0, 2}, {b, 8, 8, 8, 3}, {c, 0, 0, 0, 1}} {
			if x.t.Get(65) != x.at65 || x.t.Get(65+256) != x.at321 || x.t.Get(0x10FFFF) != x.last || x.t.Blocks() != x.blocks || x.t.Get(-1) != 0 || x.t.Get(0x110000) != 0 {
				t.Errorf("table %d: %d, %d, %d, %d blocks", i, x.t.Get(65), x.t.Get(65+256), x.t.Get(0x10FFFF), x.t.Blocks())
			}
		}
		Build(entries(9, edgePlaces...))
	}
}

func TestTheSameEntriesMakeTheSameTable(t *testing.T) {
	for _, l := range [][]api.Entry{nil, entries(7, edgePlaces...), everyBlock(9, func(n int) int { return n % 100 })} {
		x, y := Build(l), Build(slices.Clone(l))
		sameTables(t, show(l), x, y)
		sameTables(t, show(l), y, x)
	}
}

func FuzzTable(f *testing.F) {
	f.Add([]byte{0, 0, 0, 65, 7}, int32(65), 7)
	f.Add([]byte{0, 0x10, 0xFF, 0xFF, 1, 0, 0x11, 0, 0, 1, 0xFF, 0xFF, 0xFF, 0xFF, 1}, int32(0x10FFFF), 0)
	f.Add([]byte{0, 0, 0, 255, 1, 0, 0, 1, 0, 1, 0, 0, 0, 255, 0}, int32(-1), math.MinInt)
	f.Add([]byte{}, int32(math.MaxInt32), math.MaxInt)
	f.Fuzz(func(t *testing.T, b []byte, c int32, v int) {
		l := []api.Entry{{C: c, V: v}}
		for len(b) >= 5 {
			at := rune(b[0])<<24 | rune(b[1])<<16 | rune(b[2])<<8 | rune(b[3])
			l = append(l, api.Entry{C: at, V: int(int8(b[4]))}, api.Entry{C: at & 0x1FFFFF, V: v}, api.Entry{C: c + rune(b[4])})
			b = b[5:]
		}
		check(t, l)
	})
}
