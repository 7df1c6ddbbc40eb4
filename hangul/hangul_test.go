package hangul

import (
	"math"
	"slices"
	"testing"
)

// The tests hold the package against answers written out by hand, and against rows of syllables that are counted up here, without a division.

const (
	leads     = 19
	vowels    = 21
	tails     = 27
	syllables = 11172
)

// strangers are numbers that are neither parts nor syllables; the lowest 16 bits of some are those of a part or of a syllable.
var strangers = []rune{
	0, 1, 'a', 0x7F, 0xE9, 0x300, 0x10FF, 0x1113, 0x115F, 0x1160, 0x1176, 0x11A7, 0x11C3, 0x11FF, 0x3131, 0xA960, 0xABFF, 0xD7A4, 0xD7B0, 0xD7CB,
	0xD7FF, 0xD800, 0xDBFF, 0xDC00, 0xDFFF, 0xE000, 0xFFA1, 0xFFFF, 0x10000, 0x11100, 0x11161, 0x111A8, 0x1AC00, 0x1AC01, 0x10FFFF,
	0x110000, 0x110001, 0x111100, 0x11AC00, 0x7FFF1100, 0x7FFFAC00, math.MaxInt32 - 1, math.MaxInt32,
	-1, -2, -28, -588, -0x1100, -0x1161, -0x11A8, -0xAC00, -0xAC01, -0xD7A3, -0x10000 + 0x1100, -0x10000 + 0xAC00, -0x110000,
	math.MinInt32, math.MinInt32 + 1, math.MinInt32 + 0x1100, math.MinInt32 + 0x1161, math.MinInt32 + 0x11A8, math.MinInt32 + 0xAC00, math.MinInt32 + 0xAC01,
}

// counted is all that the promises tell: the kinds that are not 0, the parts of each syllable, and the syllable of each two that join.
type counted struct {
	kind  map[rune]int
	parts map[rune][]rune
	whole map[[2]rune]rune
}

func count() counted {
	w := counted{map[rune]int{}, map[rune][]rune{}, map[[2]rune]rune{}}
	for i := range leads {
		w.kind[rune(0x1100+i)] = 1
	}
	for i := range vowels {
		w.kind[rune(0x1161+i)] = 2
	}
	for i := range tails {
		w.kind[rune(0x11A8+i)] = 3
	}
	next := rune(0xAC00)
	for l := range rune(leads) {
		for v := range rune(vowels) {
			bare := next
			w.kind[bare] = 4
			w.parts[bare] = []rune{0x1100 + l, 0x1161 + v}
			w.whole[[2]rune{0x1100 + l, 0x1161 + v}] = bare
			for t := range rune(tails) {
				next++
				w.kind[next] = 5
				w.parts[next] = []rune{0x1100 + l, 0x1161 + v, 0x11A8 + t}
				w.whole[[2]rune{bare, 0x11A8 + t}] = next
			}
			next++
		}
	}
	return w
}

// near answers all numbers about the parts and about the syllables, and the strangers.
func near() []rune {
	all := slices.Clone(strangers)
	for c := rune(0x10F0); c <= 0x11D0; c++ {
		all = append(all, c)
	}
	for c := rune(0xABF0); c <= 0xD7B0; c++ {
		all = append(all, c)
	}
	return all
}

func TestCountedIsWhole(t *testing.T) {
	w := count()
	if len(w.kind) != leads+vowels+tails+syllables || len(w.parts) != syllables || len(w.whole) != syllables {
		t.Errorf("%d kinds, %d with parts, %d that two join to", len(w.kind), len(w.parts), len(w.whole))
	}
	for _, last := range []rune{0x1112, 0x1175, 0x11C2, 0xD7A3} {
		if w.kind[last] == 0 || w.kind[last+1] != 0 {
			t.Errorf("%X is not the last of its row", last)
		}
	}
	for _, c := range strangers {
		if w.kind[c] != 0 {
			t.Errorf("%X is no stranger", c)
		}
	}
}

// P6.1

func TestKindByHand(t *testing.T) {
	rows := []struct {
		c    rune
		want int
	}{
		{0x10FF, 0}, {0x1100, 1}, {0x1101, 1}, {0x1109, 1}, {0x1111, 1}, {0x1112, 1}, {0x1113, 0},
		{0x1160, 0}, {0x1161, 2}, {0x1162, 2}, {0x116D, 2}, {0x1174, 2}, {0x1175, 2}, {0x1176, 0},
		{0x11A7, 0}, {0x11A8, 3}, {0x11A9, 3}, {0x11B5, 3}, {0x11C1, 3}, {0x11C2, 3}, {0x11C3, 0},
		{0xABFF, 0}, {0xAC00, 4}, {0xAC01, 5}, {0xAC02, 5}, {0xAC1B, 5}, {0xAC1C, 4}, {0xAC1D, 5}, {0xAE4B, 5}, {0xAE4C, 4}, {0xAE4D, 5},
		{0xAE00, 5}, {0xB098, 4}, {0xD4DB, 5}, {0xD558, 4}, {0xD55C, 5},
		{0xD787, 5}, {0xD788, 4}, {0xD789, 5}, {0xD7A2, 5}, {0xD7A3, 5}, {0xD7A4, 0},
	}
	for _, r := range rows {
		if got := Kind(r.c); got != r.want {
			t.Errorf("Kind(%X) is %d, not %d", r.c, got, r.want)
		}
	}
}

func TestKindOfStrangers(t *testing.T) {
	for _, c := range strangers {
		if got := Kind(c); got != 0 {
			t.Errorf("Kind(%X) is %d, not 0", c, got)
		}
	}
}

func TestKindOfAll(t *testing.T) {
	w := count()
	for c := rune(-0x20000); c <= 0x120000; c++ {
		if got := Kind(c); got != w.kind[c] {
			t.Fatalf("Kind(%X) is %d, not %d", c, got, w.kind[c])
		}
	}
}

// Numbers that are far from all scalars, also those from which less AC00 goes round: a step that is no multiple of 28 meets all that is left by it.
func TestKindFarAway(t *testing.T) {
	for n := int64(math.MinInt32); n <= math.MaxInt32; n += 1009 {
		if 0 <= n && n <= 0x10FFFF {
			continue
		}
		if got := Kind(rune(n)); got != 0 {
			t.Fatalf("Kind(%X) is %d, not 0", n, got)
		}
	}
}

// P6.2

func TestSplitByHand(t *testing.T) {
	rows := []struct {
		c    rune
		want []rune
	}{
		{0xAC00, []rune{0x1100, 0x1161}},
		{0xAC01, []rune{0x1100, 0x1161, 0x11A8}},
		{0xAC1B, []rune{0x1100, 0x1161, 0x11C2}},
		{0xAC1C, []rune{0x1100, 0x1162}},
		{0xAC1D, []rune{0x1100, 0x1162, 0x11A8}},
		{0xAE00, []rune{0x1100, 0x1173, 0x11AF}},
		{0xAE4B, []rune{0x1100, 0x1175, 0x11C2}},
		{0xAE4C, []rune{0x1101, 0x1161}},
		{0xB098, []rune{0x1102, 0x1161}},
		{0xD4DB, []rune{0x1111, 0x1171, 0x11B6}},
		{0xD558, []rune{0x1112, 0x1161}},
		{0xD55C, []rune{0x1112, 0x1161, 0x11AB}},
		{0xD788, []rune{0x1112, 0x1175}},
		{0xD7A3, []rune{0x1112, 0x1175, 0x11C2}},
	}
	for _, r := range rows {
		if got := Split(r.c); !slices.Equal(got, r.want) {
			t.Errorf("Split(%X) is %X, not %X", r.c, got, r.want)
		}
	}
}

func TestSplitOfOthers(t *testing.T) {
	parts := []rune{0x1100, 0x1112, 0x1161, 0x1175, 0x11A8, 0x11C2}
	for _, c := range slices.Concat(strangers, parts) {
		if got := Split(c); len(got) != 0 {
			t.Errorf("Split(%X) is %X, not none", c, got)
		}
	}
}

func TestSplitOfAll(t *testing.T) {
	w := count()
	for c := rune(-0x20000); c <= 0x120000; c++ {
		if got := Split(c); !slices.Equal(got, w.parts[c]) {
			t.Fatalf("Split(%X) is %X, not %X", c, got, w.parts[c])
		}
	}
}

func TestJoinByHand(t *testing.T) {
	rows := []struct{ a, b, want rune }{
		{0x1100, 0x1161, 0xAC00}, {0x1100, 0x1162, 0xAC1C}, {0x1100, 0x1175, 0xAE30}, {0x1101, 0x1161, 0xAE4C}, {0x1102, 0x1161, 0xB098},
		{0x1112, 0x1161, 0xD558}, {0x1112, 0x1175, 0xD788},
		{0xAC00, 0x11A8, 0xAC01}, {0xAC00, 0x11C2, 0xAC1B}, {0xAC1C, 0x11A8, 0xAC1D}, {0xAC1C, 0x11C2, 0xAC37}, {0xAE30, 0x11C2, 0xAE4B},
		{0xD558, 0x11AB, 0xD55C}, {0xD788, 0x11A8, 0xD789}, {0xD788, 0x11C2, 0xD7A3},
	}
	for _, r := range rows {
		if got, ok := Join(r.a, r.b); got != r.want || !ok {
			t.Errorf("Join(%X, %X) is %X, %v, not %X, true", r.a, r.b, got, ok, r.want)
		}
	}
}

func TestJoinOfOthersByHand(t *testing.T) {
	rows := []struct {
		name string
		a, b rune
	}{
		{"Kinds 5 and 3", 0xAC01, 0x11A8}, {"Kinds 5 and 3", 0xAC1B, 0x11A8}, {"Kinds 5 and 3", 0xD7A3, 0x11C2},
		{"Kinds 1 and 3", 0x1100, 0x11A8}, {"Kinds 1 and 3", 0x1112, 0x11C2},
		{"Kinds 2 and 1", 0x1161, 0x1100}, {"Kinds 2 and 1", 0x1175, 0x1112},
		{"Kinds 1 and 1", 0x1100, 0x1100}, {"Kinds 2 and 2", 0x1161, 0x1161}, {"Kinds 3 and 3", 0x11A8, 0x11A8},
		{"Kinds 2 and 3", 0x1161, 0x11A8}, {"Kinds 3 and 2", 0x11A8, 0x1161}, {"Kinds 3 and 1", 0x11A8, 0x1100},
		{"Kinds 4 and 1", 0xAC00, 0x1100}, {"Kinds 4 and 2", 0xAC00, 0x1161}, {"Kinds 5 and 2", 0xAC01, 0x1161},
		{"Kinds 4 and 4", 0xAC00, 0xAC1C}, {"Kinds 4 and 5", 0xAC00, 0xAC01}, {"Kinds 3 and 4", 0x11A8, 0xAC00},
		{"Kinds 1 and 4", 0x1100, 0xAC00}, {"Kinds 1 and 5", 0x1100, 0xAC01},
		{"no tail", 0xAC00, 0x11A7}, {"behind the tails", 0xAC00, 0x11C3}, {"ahead of the vowels", 0x1100, 0x1160}, {"behind the vowels", 0x1100, 0x1176},
		{"ahead of the leads", 0x10FF, 0x1161}, {"behind the leads", 0x1113, 0x1161}, {"ahead of the syllables", 0xABFF, 0x11A8},
		{"28 ahead of the syllables", 0xABE4, 0x11A8}, {"behind the syllables", 0xD7A4, 0x11A8},
		{"letters", 'a', 'b'}, {"halves", 0xD800, 0xDC00}, {"a vowel alone", 0, 0x1161}, {"a lead alone", 0x1100, 0},
	}
	for _, r := range rows {
		if got, ok := Join(r.a, r.b); got != 0 || ok {
			t.Errorf("%s: Join(%X, %X) is %X, %v, not 0, false", r.name, r.a, r.b, got, ok)
		}
	}
}

// All that is near a part or a syllable, and the strangers, with all that is near a part, the strangers, and a syllable of each 13.
func TestJoinOfAll(t *testing.T) {
	w := count()
	all := near()
	var seconds []rune
	for _, b := range all {
		if b < 0xABF0 || b > 0xD7B0 || b%13 == 0 {
			seconds = append(seconds, b)
		}
	}
	for _, b := range seconds {
		part := w.kind[b] == 2 || w.kind[b] == 3
		for _, a := range all {
			var want rune
			if part {
				want = w.whole[[2]rune{a, b}]
			}
			if got, ok := Join(a, b); got != want || ok != (want != 0) {
				t.Fatalf("Join(%X, %X) is %X, %v, not %X", a, b, got, ok, want)
			}
		}
	}
}

// P6.3

// joined answers l joined from the left.
func joined(t testing.TB, l []rune) rune {
	t.Helper()
	c := l[0]
	for _, next := range l[1:] {
		whole, ok := Join(c, next)
		if !ok {
			t.Fatalf("Join(%X, %X) is refused, of %X", c, next, l)
		}
		c = whole
	}
	return c
}

func TestSplitJoinedIsTheSyllable(t *testing.T) {
	n := 0
	for c := rune(0xAC00); c <= 0xD7A3; c++ {
		l := Split(c)
		if len(l) != Kind(c)-2 {
			t.Fatalf("Split(%X), of Kind %d, is %X", c, Kind(c), l)
		}
		for i, part := range l {
			if Kind(part) != i+1 {
				t.Fatalf("Split(%X) is %X: part %d is of Kind %d", c, l, i, Kind(part))
			}
		}
		if got := joined(t, l); got != c {
			t.Fatalf("%X, joined from the left, is %X, not %X", l, got, c)
		}
		n++
	}
	if n != syllables {
		t.Errorf("%d syllables", n)
	}
}

func TestWhatIsJoinedSplitsSo(t *testing.T) {
	for a := rune(0x1100); a <= 0x1112; a++ {
		for b := rune(0x1161); b <= 0x1175; b++ {
			if got := Split(joined(t, []rune{a, b})); !slices.Equal(got, []rune{a, b}) {
				t.Fatalf("%X and %X, joined, are split to %X", a, b, got)
			}
			for c := rune(0x11A8); c <= 0x11C2; c++ {
				if got := Split(joined(t, []rune{a, b, c})); !slices.Equal(got, []rune{a, b, c}) {
					t.Fatalf("%X, %X and %X, joined, are split to %X", a, b, c, got)
				}
			}
		}
	}
}

// R3, R4

func TestAnswersAreTheirOwn(t *testing.T) {
	first := Split(0xAC01)
	kept := slices.Clone(first)
	second := Split(0xAC01)
	second[0], second[2] = 'x', 'y'
	_ = append(second[:1], 'z', 'z')
	Split(0xD7A3)
	if !slices.Equal(first, kept) {
		t.Errorf("an answer became %X by what was done to another", first)
	}
	if got := Split(0xAC01); !slices.Equal(got, kept) {
		t.Errorf("Split(AC01) is %X after an answer was written to", got)
	}
}

func FuzzTwo(f *testing.F) {
	f.Add(rune(0x1100), rune(0x1161))
	f.Add(rune(0xAC00), rune(0x11A8))
	f.Add(rune(0xAC01), rune(0x11A8))
	f.Add(rune(0xAC00), rune(0x11A7))
	f.Add(rune(math.MinInt32), rune(math.MaxInt32))
	w := count()
	f.Fuzz(func(t *testing.T, a, b rune) {
		if got := Kind(a); got != w.kind[a] {
			t.Errorf("Kind(%X) is %d", a, got)
		}
		if got := Split(a); !slices.Equal(got, w.parts[a]) {
			t.Errorf("Split(%X) is %X", a, got)
		}
		want := w.whole[[2]rune{a, b}]
		if got, ok := Join(a, b); got != want || ok != (want != 0) {
			t.Errorf("Join(%X, %X) is %X, %v", a, b, got, ok)
		}
	})
}
