package limit

import (
	"math"
	"math/rand/v2"
	"testing"

	"orthoepy/api"
)

// The tests hold the package against answers written out by hand, and against a plain second count.
//
// A row of calls is written as a string, a letter each: b (Byte), n (Node), o (Open), c (Close), k (Name) and t (Text), which two take a number.

const top = 1 << 20 // the chapter's MaxLimit

// edges are numbers about the bounds of a limit, and some that would be within them, if bits were cut off.
var edges = []struct {
	n    int
	good bool
}{
	{math.MinInt, false}, {-1, false}, {0, false}, {1, true}, {2, true}, {top - 1, true}, {top, true}, {top + 1, false}, {math.MaxInt, false},

	{3, true}, {255, true}, {256, true}, {257, true}, {1<<16 - 1, true}, {1 << 16, true}, {1<<16 + 1, true}, {top / 2, true}, {top - 2, true},
	{-2, false}, {-top, false}, {-top - 1, false}, {1 - top, false}, {top + 2, false}, {top + 255, false}, {2 * top, false}, {2*top - 1, false},
	{math.MinInt + 1, false}, {math.MinInt + 2, false}, {math.MinInt + top, false}, {math.MaxInt - 1, false}, {math.MaxInt32, false}, {math.MinInt32, false},
	{1<<31 + 1, false}, {1<<32 + 1, false}, {1<<32 + top, false}, {1 - 1<<32, false}, {top - 1<<32, false}, {1<<53 - 1, false}, {1<<62 + 1, false},
}

// goods are limits that may be.
var goods = []api.Limit{
	{Bytes: 1, Depth: 1, Nodes: 1, Key: 1, Text: 1},
	{Bytes: 2, Depth: 2, Nodes: 2, Key: 2, Text: 2},
	{Bytes: 1, Depth: 2, Nodes: 3, Key: 4, Text: 5},
	{Bytes: 5, Depth: 4, Nodes: 3, Key: 2, Text: 1},
	{Bytes: 1000, Depth: 1, Nodes: top, Key: 17, Text: top - 1},
	{Bytes: top - 1, Depth: top - 1, Nodes: top - 1, Key: top - 1, Text: top - 1},
	{Bytes: top, Depth: top, Nodes: top, Key: top, Text: top},
}

// fields answers where each of the five stands.
func fields(l *api.Limit) [5]*int { return [...]*int{&l.Bytes, &l.Depth, &l.Nodes, &l.Key, &l.Text} }

// ask does one call; Close answers nothing, which is told as OK.
func ask(m *Meter, call byte, n int) api.Errno {
	switch call {
	case 'b':
		return m.Byte()
	case 'n':
		return m.Node()
	case 'o':
		return m.Open()
	case 'k':
		return m.Name(n)
	case 't':
		return m.Text(n)
	}
	m.Close()
	return api.OK
}

// second is the second count: of each call how much may be, how much there is, and the most there was.
type second struct{ most, have, peak ['t' + 1]int }

func newSecond(l api.Limit) *second {
	s := &second{}
	s.most['b'], s.most['o'], s.most['n'], s.most['k'], s.most['t'] = l.Bytes, l.Depth, l.Nodes, l.Key, l.Text
	return s
}

var refusals = [...]api.Errno{'b': api.ErrBytes, 'o': api.ErrDepth, 'n': api.ErrNodes, 'k': api.ErrKey, 't': api.ErrLong}

func (s *second) ask(call byte, n int) api.Errno {
	if call == 'c' {
		if s.have['o'] != 0 {
			s.have['o']--
		}
		return api.OK
	}
	would := s.have[call] + 1
	if call == 'k' || call == 't' {
		would = n
		if n < 0 {
			would = 0
		}
	}
	if would > s.most[call] {
		return refusals[call]
	}
	s.have[call] = would
	if would > s.peak[call] {
		s.peak[call] = would
	}
	return api.OK
}

func (s *second) used() api.Limit {
	return api.Limit{Bytes: s.peak['b'], Depth: s.peak['o'], Nodes: s.peak['n'], Key: s.peak['k'], Text: s.peak['t']}
}

// fresh answers a meter of l, at which nothing was counted.
func fresh(t *testing.T, l api.Limit) *Meter {
	m := New(l)
	if m == nil {
		t.Helper() // not ahead of all: it takes its time, and there are many
		t.Fatalf("%v: no meter", l)
	}
	if got := m.Used(); got != (api.Limit{}) {
		t.Helper()
		t.Fatalf("%v: a new one has used %v", l, got)
	}
	return m
}

// holdUsed holds Used, asked twice: asking changes nothing. P15.3: it is never more than the limits.
func holdUsed(t *testing.T, m *Meter, most, want api.Limit) {
	for range 2 {
		got := m.Used()
		if got != want {
			t.Helper()
			t.Fatalf("%v: used is %v, not %v", most, got, want)
		}
		for i, n := range fields(&got) {
			if *n < 0 || *n > *fields(&most)[i] {
				t.Helper()
				t.Fatalf("%v: used is %v", most, got)
			}
		}
	}
}

// holdCall does one call of both counts, and holds what is answered and Used behind it.
func holdCall(t *testing.T, m *Meter, s *second, most api.Limit, call byte, n int) api.Errno {
	want := s.ask(call, n)
	if got := ask(m, call, n); got != want {
		t.Helper()
		t.Fatalf("%v, used %v: %c of %d is %d, not %d", most, m.Used(), call, n, got, want)
	}
	holdUsed(t, m, most, s.used())
	return want
}

// By hand

func TestExample(t *testing.T) {
	m := fresh(t, api.Limit{Bytes: 1, Depth: 1, Nodes: 1, Key: 1, Text: 1})
	if got := m.Open(); got != api.OK {
		t.Errorf("Open: %d", got)
	}
	if got := m.Open(); got != api.ErrDepth {
		t.Errorf("Open again: %d", got)
	}
	m.Close()
	if got := m.Open(); got != api.OK {
		t.Errorf("Open behind Close: %d", got)
	}
	if got := m.Used(); got != (api.Limit{Depth: 1}) {
		t.Errorf("used: %v", got)
	}
}

// P15.1: Check, New

// holdCheck holds what Check and New answer of l.
func holdCheck(t *testing.T, l api.Limit, good bool) {
	t.Helper()
	if got := Check(l); got != good {
		t.Errorf("%v: Check is %v", l, got)
	}
	m := New(l)
	if (m != nil) != good {
		t.Errorf("%v: New is %v", l, m)
	}
	if m != nil && m.Used() != (api.Limit{}) {
		t.Errorf("%v: a new one has used %v", l, m.Used())
	}
}

func TestCheckEachByItself(t *testing.T) {
	for _, l := range goods {
		holdCheck(t, l, true)
		for i := range 5 {
			for _, e := range edges {
				one := l
				*fields(&one)[i] = e.n
				holdCheck(t, one, e.good)
			}
		}
	}
	holdCheck(t, api.Limit{}, false)
}

func TestCheckTogether(t *testing.T) {
	short := edges[:9]
	rows := 1
	for range 5 {
		rows *= len(short)
	}
	for row := range rows {
		var l api.Limit
		good := true
		for _, field := range fields(&l) {
			e := short[row%len(short)]
			row /= len(short)
			*field, good = e.n, good && e.good
		}
		holdCheck(t, l, good)
	}
}

func TestCheckAllNumbers(t *testing.T) {
	for i := range 5 {
		l := goods[2]
		field := fields(&l)[i]
		for *field = -5000; *field < top+5000; *field++ {
			if got := Check(l); got != (*field >= 1 && *field <= top) {
				t.Fatalf("%v: %v", l, got)
			}
		}
	}
}

// P15.2: Byte, Node

// TestAsOftenAsMayBe counts up to the limit, then is refused again and again.
func TestAsOftenAsMayBe(t *testing.T) {
	for _, n := range []int{1, 2, 3, 10, 255, 256, 257, 1<<16 - 1, 1 << 16, 1<<16 + 1, top - 1, top} {
		for _, l := range []api.Limit{
			{Bytes: n, Depth: 1, Nodes: top, Key: 1, Text: 1},
			{Bytes: top, Depth: top, Nodes: n, Key: top, Text: top},
			{Bytes: 1, Depth: top, Nodes: n, Key: 1, Text: top},
			{Bytes: n, Depth: n, Nodes: n, Key: n, Text: n},
		} {
			m := fresh(t, l)
			for i := range l.Bytes {
				if got := m.Byte(); got != api.OK || m.Used() != (api.Limit{Bytes: i + 1}) {
					t.Fatalf("%v: byte %d: %d, used %v", l, i, got, m.Used())
				}
			}
			for i := range l.Nodes {
				if got := m.Node(); got != api.OK || m.Used() != (api.Limit{Bytes: l.Bytes, Nodes: i + 1}) {
					t.Fatalf("%v: node %d: %d, used %v", l, i, got, m.Used())
				}
			}
			for range 300 {
				if b, n := m.Byte(), m.Node(); b != api.ErrBytes || n != api.ErrNodes {
					t.Fatalf("%v: behind all: %d, %d", l, b, n)
				}
				holdUsed(t, m, l, api.Limit{Bytes: l.Bytes, Nodes: l.Nodes})
			}
			for _, call := range []byte("otk") {
				if got := ask(m, call, 1); got != api.OK {
					t.Errorf("%v: %c behind all bytes and nodes: %d", l, call, got)
				}
			}
			m.Close()
			holdUsed(t, m, l, api.Limit{Bytes: l.Bytes, Depth: 1, Nodes: l.Nodes, Key: 1, Text: 1})
		}
	}
}

// P15.2: Open, Close

// TestOpenAndClose: capital O is one that is refused; behind each row stands the greatest number that was open.
func TestOpenAndClose(t *testing.T) {
	for _, r := range []struct {
		depth int
		row   string
		used  int
	}{
		{1, "", 0},
		{1, "c", 0},
		{1, "ccc", 0},
		{1, "o", 1},
		{1, "oO", 1},
		{1, "oOOO", 1},
		{1, "oOco", 1},
		{1, "oOcoO", 1},
		{1, "oOOOcoOc", 1},
		{1, "cccoO", 1},
		{1, "occccoO", 1},
		{1, "oOccoOccoO", 1},
		{2, "o", 1},
		{2, "oc", 1},
		{2, "ococococ", 1},
		{2, "oo", 2},
		{2, "ooO", 2},
		{2, "ooc", 2},
		{2, "oocc", 2},
		{2, "ooOcoO", 2},
		{2, "ooOOcoOccooO", 2},
		{2, "occooO", 2},
		{2, "ccccooO", 2},
		{2, "ooccccccooO", 2},
		{2, "ooccoc", 2},
		{3, "oocococ", 2},
		{3, "ooccoocc", 2},
		{3, "oooOc", 3},
		{3, "oooOcoO", 3},
		{3, "oooOccooO", 3},
		{3, "oooOcccoooO", 3},
		{3, "oooOOOOccccccccoooO", 3},
		{3, "ocooccooocoO", 3},
		{4, "oococoocccc", 3},
		{4, "ooooOOcoOccooO", 4},
	} {
		l := api.Limit{Bytes: 1, Depth: r.depth, Nodes: 1, Key: 1, Text: 1}
		m := fresh(t, l)
		for i := range len(r.row) {
			call, want := r.row[i], api.OK
			if call == 'O' {
				call, want = 'o', api.ErrDepth
			}
			if got := ask(m, call, 0); got != want {
				t.Fatalf("%d: %q at %d: %d, not %d", r.depth, r.row, i, got, want)
			}
		}
		holdUsed(t, m, l, api.Limit{Depth: r.used})
	}
}

// TestDeep goes down to each depth and up again, and behind that as deep as may be.
func TestDeep(t *testing.T) {
	for _, depth := range []int{1, 2, 3, 100, 255, 256, 257, 1 << 16, top - 1, top} {
		l := api.Limit{Bytes: 1, Depth: depth, Nodes: 1, Key: 1, Text: 1}
		for _, down := range []int{0, 1, depth / 2, depth - 1, depth} {
			m := fresh(t, l)
			open(t, m, down)
			holdUsed(t, m, l, api.Limit{Depth: down})
			for range down + 5 {
				m.Close()
			}
			holdUsed(t, m, l, api.Limit{Depth: down})
			open(t, m, depth)
			for range 5 {
				if got := m.Open(); got != api.ErrDepth {
					t.Fatalf("%d: deeper: %d", depth, got)
				}
			}
			m.Close()
			open(t, m, 1)
			if got := m.Open(); got != api.ErrDepth {
				t.Fatalf("%d: deeper, behind a Close of the deepest: %d", depth, got)
			}
			holdUsed(t, m, l, api.Limit{Depth: depth})
		}
	}
}

func open(t *testing.T, m *Meter, times int) {
	t.Helper()
	for i := range times {
		if got := m.Open(); got != api.OK {
			t.Fatalf("Open %d of %d: %d", i, times, got)
		}
	}
}

// P15.2: Name, Text

// TestNameAndText: what is too great is refused and not kept, of the others the greatest is kept.
func TestNameAndText(t *testing.T) {
	type step struct {
		n, kept int
		refused bool
	}
	for _, r := range []struct {
		most  int
		steps []step
	}{
		{1, []step{{n: 0}, {n: -1}, {n: 2, refused: true}, {n: 1, kept: 1}, {n: 0, kept: 1}, {n: -1, kept: 1}, {n: 2, kept: 1, refused: true}, {n: 1, kept: 1}}},
		{1, []step{{n: math.MaxInt, refused: true}, {n: math.MinInt}, {n: math.MinInt + 1}, {n: math.MinInt32}, {n: math.MaxInt - 1, refused: true}, {n: 1, kept: 1}, {n: math.MinInt, kept: 1}}},
		{1, []step{{n: 1<<32 + 1, refused: true}, {n: 1 << 32, refused: true}, {n: 257, refused: true}, {n: 1 - 1<<32}, {n: 1 << 62, refused: true}, {n: 256, refused: true}}},
		{5, []step{{n: 3, kept: 3}, {n: 2, kept: 3}, {n: 4, kept: 4}, {n: 4, kept: 4}, {n: 6, kept: 4, refused: true}, {n: -7, kept: 4}, {n: 0, kept: 4}, {n: 5, kept: 5}, {n: 6, kept: 5, refused: true}, {n: 1, kept: 5}}},
		{5, []step{{n: 6, refused: true}, {n: 7, refused: true}, {n: math.MaxInt, refused: true}, {n: 5, kept: 5}, {n: 5, kept: 5}}},
		{top - 1, []step{{n: top, refused: true}, {n: top - 2, kept: top - 2}, {n: top - 1, kept: top - 1}, {n: top + 1, kept: top - 1, refused: true}}},
		{top, []step{{n: top + 1, refused: true}, {n: top - 1, kept: top - 1}, {n: -top, kept: top - 1}, {n: top, kept: top}, {n: top + 1, kept: top, refused: true}, {n: math.MaxInt, kept: top, refused: true}, {n: math.MinInt, kept: top}}},
	} {
		name := api.Limit{Bytes: 1, Depth: 1, Nodes: 1, Key: r.most, Text: top}
		text := api.Limit{Bytes: 1, Depth: 1, Nodes: 1, Key: 1, Text: r.most}
		names, texts := fresh(t, name), fresh(t, text)
		for i, s := range r.steps {
			nameWant, textWant := api.OK, api.OK
			if s.refused {
				nameWant, textWant = api.ErrKey, api.ErrLong
			}
			if got := names.Name(s.n); got != nameWant {
				t.Errorf("%d at %d: Name of %d: %d", r.most, i, s.n, got)
			}
			if got := texts.Text(s.n); got != textWant {
				t.Errorf("%d at %d: Text of %d: %d", r.most, i, s.n, got)
			}
			holdUsed(t, names, name, api.Limit{Key: s.kept})
			holdUsed(t, texts, text, api.Limit{Text: s.kept})
		}
	}
}

// TestNameAndTextOfAll has each number from below 0 to behind the limit taken by new meters, and by ones that have been through the others.
func TestNameAndTextOfAll(t *testing.T) {
	for _, most := range []int{1, 2, 3, 40, 255, 256} {
		l := api.Limit{Bytes: 1, Depth: 1, Nodes: 1, Key: most, Text: most}
		for _, call := range []byte("kt") {
			up, down := fresh(t, l), fresh(t, l)
			upCount, downCount := newSecond(l), newSecond(l)
			for n := -300; n < 600; n++ {
				holdCall(t, fresh(t, l), newSecond(l), l, call, n)
				holdCall(t, up, upCount, l, call, n)
				holdCall(t, down, downCount, l, call, 299-n)
			}
		}
	}
}

// All together

// TestEachHasItsOwn has each of the five at its limit, while the others are refused nothing.
func TestEachHasItsOwn(t *testing.T) {
	for _, l := range goods {
		m, s := fresh(t, l), newSecond(l)
		for _, call := range []byte("kbtno") {
			for range min(s.most[call], 20) {
				if got := holdCall(t, m, s, l, call, s.most[call]); got != api.OK {
					t.Errorf("%v: %c: %d", l, call, got)
				}
			}
			if s.most[call] <= 20 || call == 'k' || call == 't' {
				if got := holdCall(t, m, s, l, call, s.most[call]+1); got != refusals[call] {
					t.Errorf("%v: %c, one more: %d", l, call, got)
				}
			}
		}
	}
}

// TestAllShortRows goes through all rows of up to six calls, at small limits.
func TestAllShortRows(t *testing.T) {
	calls := []struct {
		call byte
		n    int
	}{{'b', 0}, {'n', 0}, {'o', 0}, {'c', 0}, {'k', 1}, {'k', 2}, {'t', 1}, {'t', 2}}
	for _, l := range []api.Limit{
		{Bytes: 1, Depth: 1, Nodes: 1, Key: 1, Text: 1},
		{Bytes: 2, Depth: 1, Nodes: 2, Key: 1, Text: 2},
		{Bytes: 1, Depth: 2, Nodes: 3, Key: 2, Text: 1},
		{Bytes: 3, Depth: 3, Nodes: 1, Key: 1, Text: 1},
	} {
		var behind func(m *Meter, s *second, left int)
		behind = func(m *Meter, s *second, left int) {
			if left == 0 {
				return
			}
			for _, c := range calls {
				other, count := *m, *s
				holdCall(t, &other, &count, l, c.call, c.n)
				behind(&other, &count, left-1)
			}
		}
		behind(fresh(t, l), newSecond(l), 6)
	}
}

// draw answers a call at random; numbers lie about the limit, or anywhere.
func draw(r *rand.Rand, calls string, l api.Limit) (call byte, n int) {
	call = calls[r.IntN(len(calls))]
	most := l.Key
	if call == 't' {
		most = l.Text
	}
	switch r.IntN(6) {
	case 0:
		return call, edges[r.IntN(len(edges))].n
	case 1:
		return call, int(r.Uint64())
	case 2:
		return call, most + r.IntN(5) - 2
	}
	return call, r.IntN(most+3) - 1
}

// mixes are what calls are drawn of: with more of some, so that a row comes to the limits of those.
var mixes = []string{"bnockt", "bbbbbnnnnnockt", "ooooc", "oc", "oooccc", "occccbnkt", "kt", "ktb", "nnnnnk", "bbbbbo"}

// drawLimits answers limits at random, of which some are small and some are great.
func drawLimits(r *rand.Rand) api.Limit {
	var l api.Limit
	for _, field := range fields(&l) {
		switch r.IntN(4) {
		case 0:
			*field = 1 + r.IntN(3)
		case 1:
			*field = 1 + r.IntN(100)
		case 2:
			*field = 1 + r.IntN(top)
		case 3:
			*field = []int{1, 2, top - 1, top}[r.IntN(4)]
		}
	}
	return l
}

func TestRowsAtRandom(t *testing.T) {
	r := rand.New(rand.NewPCG(15, 1))
	for range 600 {
		l := drawLimits(r)
		m, s := fresh(t, l), newSecond(l)
		for range 8 {
			mix := mixes[r.IntN(len(mixes))]
			for range r.IntN(300) {
				call, n := draw(r, mix, l)
				holdCall(t, m, s, l, call, n)
			}
		}
	}
}

// TestLongRows come to limits of 1 and of 2^20 each, and of some between.
func TestLongRows(t *testing.T) {
	r := rand.New(rand.NewPCG(15, 2))
	for _, l := range []api.Limit{
		{Bytes: 1, Depth: 1, Nodes: 1, Key: 1, Text: 1},
		{Bytes: top, Depth: top, Nodes: top, Key: top, Text: top},
		{Bytes: top, Depth: 1, Nodes: top, Key: 1, Text: 1},
		{Bytes: 1, Depth: top, Nodes: 1, Key: top, Text: top},
		{Bytes: 70000, Depth: 300, Nodes: 40000, Key: 1000, Text: 2000},
	} {
		m, s := fresh(t, l), newSecond(l)
		refused := map[byte]int{}
		for _, mix := range []string{"oooobnckt", "bbnnooookt", "bbnnooookt", "ccccoobnkt", "bnooockt"} {
			for range 3 * top / 2 {
				call, n := draw(r, mix, l)
				if holdCall(t, m, s, l, call, n) != api.OK {
					refused[call]++
				}
			}
		}
		if len(refused) != 5 || m.Used() != l {
			t.Errorf("%v: not all come to their limits: %v, used %v", l, refused, m.Used())
		}
	}
}

// R2: what is refused, and what is asked, changes nothing

// TestRefusedLeavesAll has one meter go through all, one through what was not refused alone, and one that is never asked on the way.
func TestRefusedLeavesAll(t *testing.T) {
	r := rand.New(rand.NewPCG(15, 3))
	for range 300 {
		l := drawLimits(r)
		all, some, silent := fresh(t, l), fresh(t, l), New(l)
		for range 1000 {
			call, n := draw(r, mixes[r.IntN(3)], l)
			got := ask(all, call, n)
			if other := ask(silent, call, n); other != got {
				t.Fatalf("%v: %c of %d is %d, and %d of one not asked", l, call, n, got, other)
			}
			if got == api.OK {
				if other := ask(some, call, n); other != api.OK {
					t.Fatalf("%v: %c of %d is %d, where nothing was refused", l, call, n, other)
				}
			}
			if all.Used() != some.Used() {
				t.Fatalf("%v: used is %v, and %v where nothing was refused", l, all.Used(), some.Used())
			}
		}
		if all.Used() != silent.Used() {
			t.Fatalf("%v: used is %v, and %v of one not asked", l, all.Used(), silent.Used())
		}
	}
}

// R3: values

func TestValues(t *testing.T) {
	l := api.Limit{Bytes: 2, Depth: 2, Nodes: 2, Key: 2, Text: 2}
	handed := l
	m, s := fresh(t, handed), newSecond(l)
	for _, n := range []int{1, 0, 1 << 20, -5} {
		for _, field := range fields(&handed) {
			*field = n
		}
		for _, call := range []byte("bnockt") {
			holdCall(t, m, s, l, call, 2)
			got := m.Used()
			kept := got
			for _, field := range fields(&got) {
				*field += n + 1
			}
			holdUsed(t, m, l, kept)
			m.Close()
			s.ask('c', 0)
			if kept != s.used() {
				t.Errorf("used was %v, is %v", s.used(), kept)
			}
		}
	}
	first := m.Used()
	for range 3 {
		m.Byte()
		m.Node()
		m.Open()
	}
	if first != (api.Limit{Bytes: 2, Depth: 1, Nodes: 2, Key: 2, Text: 2}) || m.Used().Depth != 2 {
		t.Errorf("used was %v, and is %v", first, m.Used())
	}
}

// R4: meters by turns

func TestMetersHaveNothingInCommon(t *testing.T) {
	r := rand.New(rand.NewPCG(15, 4))
	limits := []api.Limit{goods[0], goods[0], goods[2], goods[2], goods[3], goods[6], goods[6]}
	var meters []*Meter
	var counts []*second
	for _, l := range limits {
		meters, counts = append(meters, fresh(t, l)), append(counts, newSecond(l))
	}
	for range 20000 {
		i := r.IntN(len(limits))
		call, n := draw(r, mixes[r.IntN(len(mixes))], limits[i])
		holdCall(t, meters[i], counts[i], limits[i], call, n)
		for j, m := range meters {
			if m.Used() != counts[j].used() {
				t.Fatalf("a call of meter %d changes meter %d: %v, not %v", i, j, m.Used(), counts[j].used())
			}
		}
		fresh(t, limits[i])
	}
}
