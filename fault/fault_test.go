package fault

import (
	"errors"
	"math"
	"strconv"
	"strings"
	"testing"

	"orthoepy/api"
)

// The tests hold the package against what the chapter's letters tell of errors as they are made: each has with it what Of, Is and Text must answer.

// chapterNames are those of the chapter, in the order of api's codes.
var chapterNames = []string{"ok", "argument", "text", "end", "utf8", "surrogate", "noncharacter", "fraction", "range", "twice", "bytes", "depth", "nodes", "key", "long", "pointer", "none", "state", "big", "line"}

// noCodes are numbers that are none, some of them like one, if bits were cut off.
var noCodes = []api.Errno{-1, -2, -19, -20, 20, 21, 77, 255, 256, 257, 256 + 17, 1<<16 + 1, 1<<32 + 11, 1<<32 + 17, math.MaxInt32, math.MinInt32, math.MaxInt, math.MaxInt - 1, math.MinInt, math.MinInt + 1, math.MinInt + 17}

var places = []int{0, 1, 2, 7, 9, 10, 11, 99, 100, 101, 107, 1234567890, 1<<31 - 1, 1 << 31, 1 << 32, 1<<53 - 1, math.MaxInt - 1, math.MaxInt, -1, -7, -9, -10, -11, -100, -1234567890, -1 << 31, -1<<31 - 1, -1 << 53, math.MinInt + 1, math.MinInt}

// codes answers all codes and numbers that are none.
func codes() []api.Errno {
	var all []api.Errno
	for c := range api.Errno(len(chapterNames)) {
		all = append(all, c)
	}
	return append(all, noCodes...)
}

// chapterName answers the name that the chapter tells of a code.
func chapterName(c api.Errno) string {
	if c >= 0 && int(c) < len(chapterNames) {
		return chapterNames[c]
	}
	return ""
}

// known is an error with what must be answered of it.
type known struct {
	err   error
	fault api.Fault
	text  string
	made  bool // New made it, or what it wraps
}

func fresh(code api.Errno, at int) known {
	return known{New(code, at), api.Fault{Code: code, At: at}, chapterName(code) + " " + strconv.Itoa(at), true}
}

// elsewhere answers err, which holds none of New's, with what must be answered of that.
func elsewhere(err error) known {
	return known{err: err, fault: api.Fault{Code: api.ErrState}}
}

func (k known) wrap(what string) known {
	k.err, k.text = Wrap(k.err, what), what+": "+k.text
	return k
}

func (k known) input(n int) known {
	k.err = Input(k.err, n)
	if k.made {
		k.fault.Input = n
	}
	return k
}

// holdBriefly holds what Of and Text answer, and what Is answers of a few codes.
func (k known) holdBriefly(t *testing.T) {
	if k.err == nil {
		t.Helper() // not ahead of all: it takes its time, and there are many
		t.Fatalf("nil, not %v, %.80q", k.fault, k.text)
	}
	if got := Of(k.err); got != k.fault {
		t.Helper()
		t.Errorf("%.80q: Of is %v, not %v", k.text, got, k.fault)
	}
	if got := Text(k.err); got != k.text {
		t.Helper()
		t.Errorf("Text is %.80q, not %.80q", got, k.text)
	}
	for _, c := range []api.Errno{k.fault.Code, k.fault.Code + 1, api.OK, api.ErrArg, api.ErrState} {
		if got := Is(k.err, c); got != (c == k.fault.Code) {
			t.Helper()
			t.Errorf("%.80q: Is of %d is %v", k.text, c, got)
		}
	}
}

// hold holds all that is answered, twice: asking changes nothing.
func (k known) hold(t *testing.T) {
	t.Helper()
	for range 2 {
		k.holdBriefly(t)
		for _, c := range codes() {
			if got := Is(k.err, c); got != (c == k.fault.Code) {
				t.Errorf("%.80q: Is of %d is %v", k.text, c, got)
			}
		}
	}
}

// By hand

func TestExample(t *testing.T) {
	if got := Text(Wrap(New(api.ErrDepth, 7), "patch")); got != "patch: depth 7" {
		t.Errorf("%q", got)
	}
}

func TestByHand(t *testing.T) {
	made := New(api.ErrKey, 12)
	for _, r := range []struct {
		err   error
		fault api.Fault
		text  string
	}{
		{made, api.Fault{Code: api.ErrKey, At: 12}, "key 12"},
		{Wrap(made, "read"), api.Fault{Code: api.ErrKey, At: 12}, "read: key 12"},
		{Wrap(Wrap(made, "read"), "change"), api.Fault{Code: api.ErrKey, At: 12}, "change: read: key 12"},
		{Input(made, 1), api.Fault{Code: api.ErrKey, At: 12, Input: 1}, "key 12"},
		{Input(Input(made, 1), 2), api.Fault{Code: api.ErrKey, At: 12, Input: 2}, "key 12"},
		{Input(Input(made, 2), 1), api.Fault{Code: api.ErrKey, At: 12, Input: 1}, "key 12"},
		{Input(Input(made, 1), 0), api.Fault{Code: api.ErrKey, At: 12}, "key 12"},
		{Input(Input(made, 1), -1), api.Fault{Code: api.ErrKey, At: 12, Input: -1}, "key 12"},
		{Wrap(Input(Input(made, 1), 0), "x"), api.Fault{Code: api.ErrKey, At: 12}, "x: key 12"},
		{Input(Wrap(made, "x"), 3), api.Fault{Code: api.ErrKey, At: 12, Input: 3}, "x: key 12"},
		{Wrap(Input(made, 3), "x"), api.Fault{Code: api.ErrKey, At: 12, Input: 3}, "x: key 12"},
		{Input(Wrap(Input(Wrap(made, "x"), 3), "y"), 4), api.Fault{Code: api.ErrKey, At: 12, Input: 4}, "y: x: key 12"},
		{Wrap(made, ""), api.Fault{Code: api.ErrKey, At: 12}, ": key 12"},
		{Wrap(Wrap(made, ""), ""), api.Fault{Code: api.ErrKey, At: 12}, ": : key 12"},
		{Wrap(made, "a: b"), api.Fault{Code: api.ErrKey, At: 12}, "a: b: key 12"},
		{Wrap(made, ": "), api.Fault{Code: api.ErrKey, At: 12}, ": : key 12"},
		{New(api.ErrLine, -3), api.Fault{Code: api.ErrLine, At: -3}, "line -3"},
		{New(20, 5), api.Fault{Code: 20, At: 5}, " 5"},
		{New(-1, 0), api.Fault{Code: -1}, " 0"},
	} {
		known{r.err, r.fault, r.text, true}.hold(t)
	}
}

// P14.2: Name

func TestNames(t *testing.T) {
	var seen []string
	for _, r := range []struct {
		code api.Errno
		name string
	}{
		{api.OK, "ok"}, {api.ErrArg, "argument"}, {api.ErrText, "text"}, {api.ErrEnd, "end"}, {api.ErrUTF8, "utf8"},
		{api.ErrSurrogate, "surrogate"}, {api.ErrNonchar, "noncharacter"}, {api.ErrFraction, "fraction"}, {api.ErrRange, "range"}, {api.ErrTwice, "twice"},
		{api.ErrBytes, "bytes"}, {api.ErrDepth, "depth"}, {api.ErrNodes, "nodes"}, {api.ErrKey, "key"}, {api.ErrLong, "long"},
		{api.ErrPointer, "pointer"}, {api.ErrNone, "none"}, {api.ErrState, "state"}, {api.ErrBig, "big"}, {api.ErrLine, "line"},
	} {
		got := Name(r.code)
		if got != r.name || chapterNames[r.code] != r.name {
			t.Errorf("%d: %q, not %q", r.code, got, r.name)
		}
		for _, other := range seen {
			if got == other {
				t.Errorf("%q twice", got)
			}
		}
		seen = append(seen, got)
	}
	if len(seen) != 20 {
		t.Errorf("%d names", len(seen))
	}
}

func TestNoNames(t *testing.T) {
	for _, c := range noCodes {
		if got := Name(c); got != "" {
			t.Errorf("%d: %q", c, got)
		}
	}
	for c := api.Errno(20); c < 5000; c++ {
		if Name(c) != "" || Name(19-c) != "" {
			t.Errorf("%d, %d: %q, %q", c, 19-c, Name(c), Name(19-c))
		}
	}
}

// P14.1: New

func TestNewOfOK(t *testing.T) {
	for _, at := range places {
		if err := New(api.OK, at); err != nil {
			t.Errorf("%d: %v", at, err)
		}
	}
}

func TestNewOfEachCode(t *testing.T) {
	for _, c := range codes() {
		for _, at := range places {
			if c != api.OK {
				fresh(c, at).hold(t)
			}
		}
	}
}

// TestDigits has places of each length, on both sides of 0.
func TestDigits(t *testing.T) {
	hold := func(n int) {
		if got, want := Text(New(api.ErrEnd, n)), "end "+strconv.Itoa(n); got != want {
			t.Errorf("%q, not %q", got, want)
		}
	}
	for n := -2000; n <= 2000; n++ {
		hold(n)
		hold(math.MaxInt - 2000 + n)
		hold(math.MinInt + 2000 + n)
	}
	for power := 1; power <= math.MaxInt/10; power *= 10 {
		for _, n := range []int{power*10 - 1, power * 10, power*10 + 1, power * 9} {
			hold(n)
			hold(-n)
		}
	}
	for bit := range 64 {
		for n := -1; n <= 1; n++ {
			hold(1<<bit + n)
			hold(-1<<bit + n)
		}
	}
}

// P14.1: nil

func TestNil(t *testing.T) {
	for _, what := range whats() {
		if err := Wrap(nil, what); err != nil {
			t.Errorf("Wrap(nil, %q): %v", what, err)
		}
	}
	for _, n := range places {
		if err := Input(nil, n); err != nil {
			t.Errorf("Input(nil, %d): %v", n, err)
		}
	}
	if err := Input(Wrap(New(api.OK, 3), "x"), 1); err != nil {
		t.Error(err)
	}
	if got := Of(nil); got != (api.Fault{}) {
		t.Error(got)
	}
	if got := Text(nil); got != "" {
		t.Errorf("%q", got)
	}
	for _, c := range codes() {
		if Is(nil, c) {
			t.Errorf("nil is %d", c)
		}
	}
}

// P14.1, P14.2: Wrap and Input

// whats are texts that errors are wrapped with.
func whats() []string {
	return []string{"", "patch", " ", ":", ": ", " :", ": : ", "a: b", "a: ", ": depth 7", "depth 7", "\x00", "\xff\xfe", "\xed\xa0\x80", "\xc3", "é\U0001f600", "\n\r\t\"\\%s%d", allBytes(), strings.Repeat("long ", 5000)}
}

func allBytes() string {
	var b []byte
	for x := range 256 {
		b = append(b, byte(x))
	}
	return string(b)
}

// grounds are errors that may be wrapped.
func grounds() []known {
	return []known{
		fresh(api.ErrDepth, 7), fresh(api.ErrArg, 0), fresh(api.ErrLine, -1), fresh(api.ErrState, 0), fresh(api.ErrState, 9),
		fresh(20, 5), fresh(-1, math.MinInt), fresh(math.MaxInt, math.MaxInt),
		elsewhere(errors.New("x")), elsewhere(plain{}),
	}
}

// plain is an error from elsewhere.
type plain struct{}

func (plain) Error() string { return "depth 7" }

func TestWrapWithEachText(t *testing.T) {
	for _, k := range grounds() {
		for _, what := range whats() {
			k.wrap(what).hold(t)
			k.wrap(what).wrap(what).hold(t)
			k.input(2).wrap(what).input(3).hold(t)
			for _, other := range whats() {
				k.wrap(what).wrap(other).holdBriefly(t)
			}
		}
	}
}

func TestInputOfEachNumber(t *testing.T) {
	for _, k := range grounds() {
		for _, n := range places {
			k.input(n).hold(t)
			k.wrap("x").input(n).hold(t)
			k.input(n).wrap("x").hold(t)
			for _, m := range places {
				k.input(n).input(m).holdBriefly(t)
				k.input(n).wrap("x").input(m).wrap("y").holdBriefly(t)
			}
		}
	}
}

// steps are ways on from one error to the next.
var steps = []func(known) known{
	func(k known) known { return k.wrap("a") },
	func(k known) known { return k.wrap("") },
	func(k known) known { return k.wrap("b: ") },
	func(k known) known { return k.input(0) },
	func(k known) known { return k.input(1) },
	func(k known) known { return k.input(-2) },
}

// walk calls f with k, with all that comes of it by at most most steps in any order, and with k again behind that.
func walk(k known, most int, f func(known)) {
	f(k)
	if most == 0 {
		return
	}
	for _, step := range steps {
		walk(step(k), most-1, f)
	}
	f(k)
}

// TestAnyOrder: what is wrapped answers as before when much was made of it (R3), and what was made of it side by side has nothing in common (R4).
func TestAnyOrder(t *testing.T) {
	for _, k := range grounds() {
		walk(k, 5, func(k known) { k.holdBriefly(t) })
		walk(k, 2, func(k known) { k.hold(t) })
	}
}

// TestAllStand has all errors made ahead of the first question.
func TestAllStand(t *testing.T) {
	var all []known
	for _, k := range grounds() {
		walk(k, 4, func(k known) { all = append(all, k) })
	}
	for i := range all {
		all[len(all)-1-i].holdBriefly(t)
	}
	for _, k := range all {
		k.holdBriefly(t)
	}
}

func TestTwoOfOne(t *testing.T) {
	for _, k := range grounds() {
		left, right := k.wrap("left"), k.wrap("right")
		one, two := left.input(1), left.input(2)
		twin, other := right.input(3).wrap("x"), right.input(-3).wrap("y")
		for _, each := range []known{k, left, right, one, two, twin, other, one.wrap("z"), k.input(8), k, left, right, one, two, twin, other} {
			each.hold(t)
		}
	}
}

// TestAlikeApart: errors made alike answer alike, whatever was made of one of them.
func TestAlikeApart(t *testing.T) {
	for range 3 {
		a, b := fresh(api.ErrRange, 15), fresh(api.ErrRange, 15)
		a.wrap("x").input(4).hold(t)
		a.input(5).hold(t)
		a.hold(t)
		b.hold(t)
		fresh(api.ErrText, 15).hold(t)
		b.hold(t)
	}
}

// Thousands of times

const often = 100000

func TestWrappedOften(t *testing.T) {
	for _, k := range grounds() {
		err := k.err
		for range often {
			err = Wrap(err, "x")
		}
		known{err, k.fault, strings.Repeat("x: ", often) + k.text, k.made}.holdBriefly(t)
		k.hold(t)
	}
}

func TestToldOften(t *testing.T) {
	for _, k := range grounds() {
		first := k.input(77)
		err := first.err
		for n := range often {
			err = Input(err, n-often/2)
		}
		k.input(often/2 - 1).hold(t)
		last := k.fault
		if k.made {
			last.Input = often/2 - 1
		}
		known{err, last, k.text, k.made}.holdBriefly(t)
		known{Input(err, 0), k.fault, k.text, k.made}.holdBriefly(t)
		first.hold(t)
	}
}

// TestInputFarWithin: it is found behind all that was wrapped later, and one told further within is not.
func TestInputFarWithin(t *testing.T) {
	for _, k := range grounds() {
		k = k.input(5).wrap("within").input(6)
		err := k.err
		for range often {
			err = Wrap(err, "")
		}
		known{err, k.fault, strings.Repeat(": ", often) + k.text, k.made}.holdBriefly(t)
	}
}

func TestByTurnsOften(t *testing.T) {
	for _, k := range grounds() {
		var all []known
		for n := range 3000 {
			k = k.wrap(string(rune('a' + n%26))).input(n % 7)
			if n%100 == 0 {
				all = append(all, k)
			}
		}
		k.hold(t)
		for _, k := range all {
			k.holdBriefly(t)
		}
	}
}

// TestLongText: a Text as long as all that was wrapped takes no more than a few passes over it.
func TestLongText(t *testing.T) {
	what := strings.Repeat("0123456789", 100)
	k := fresh(api.ErrBig, 1)
	err := k.err
	for range 20000 {
		err = Wrap(err, what)
	}
	known{err, k.fault, strings.Repeat(what+": ", 20000) + k.text, true}.hold(t)
}

// Errors from elsewhere

// list is an error that can't be held against another one.
type list []int

func (list) Error() string { return "list" }

// number is an error of a number, like a code.
type number int

func (number) Error() string { return "number" }

// likeFault is an error that looks like one of New's.
type likeFault struct{ api.Fault }

func (likeFault) Error() string { return "depth 7" }

// pointed is an error by its pointer, nil too.
type pointed struct{ err error }

func (p *pointed) Error() string { return p.err.Error() }
func (p *pointed) Unwrap() error { return p.err }

// liar says of itself that it is anything.
type liar struct{}

func (liar) Error() string { return "liar" }
func (liar) Is(error) bool { return true }
func (liar) As(any) bool   { return true }
func (liar) Unwrap() error { return nil }

// angry panics, whatever it is asked.
type angry struct{}

func (angry) Error() string { panic("Error") }
func (angry) Is(error) bool { panic("Is") }
func (angry) As(any) bool   { panic("As") }
func (angry) Unwrap() error { panic("Unwrap") }

// angryList panics when it is asked what it wraps.
type angryList struct{}

func (angryList) Error() string   { panic("Error") }
func (angryList) Unwrap() []error { panic("Unwrap") }

// angryNil panics by a value of none.
type angryNil struct{}

func (angryNil) Error() string { panic(nil) }
func (angryNil) Unwrap() error { panic(nil) }

// round wraps itself.
type round struct{}

func (round) Error() string { return "round" }
func (round) Unwrap() error { return round{} }

// roundList wraps itself, twice.
type roundList struct{}

func (roundList) Error() string   { return "round" }
func (roundList) Unwrap() []error { return []error{roundList{}, nil, roundList{}} }

// roundWrapped wraps itself by way of this package.
type roundWrapped struct{}

func (roundWrapped) Error() string { return "round" }
func (roundWrapped) Unwrap() error { return Input(Wrap(roundWrapped{}, "round"), 1) }

// strangers are errors that hold none of New's.
func strangers() []error {
	var none *pointed
	return []error{
		errors.New("x"), errors.New(""), errors.New("depth 7"), errors.New("state 0"),
		plain{}, &plain{}, list{1}, list(nil), number(11), number(0), likeFault{api.Fault{Code: api.ErrDepth, At: 7, Input: 1}},
		none, &pointed{}, &pointed{errors.New("x")}, &pointed{&pointed{list{}}}, errors.Join(errors.New("x"), plain{}), errors.Join(list{}, list{}),
		liar{}, &pointed{liar{}}, angry{}, &pointed{angry{}}, angryList{}, angryNil{}, errors.Join(errors.New("x"), angry{}),
		errors.Unwrap(New(api.ErrDepth, 7)), // a code alone, which New did not make
	}
}

func TestElsewhere(t *testing.T) {
	for _, err := range strangers() {
		k := elsewhere(err)
		k.hold(t)
		k.wrap("w").hold(t)
		k.wrap("").wrap("v: ").hold(t)
		k.input(1).wrap("w").input(-1).hold(t)
		for _, n := range places {
			k.input(n).hold(t)
		}
		k.hold(t)
	}
}

// TestEndless has errors from elsewhere that can't be gone through to their end.
func TestEndless(t *testing.T) {
	joined := errors.New("x")
	for range 64 {
		joined = errors.Join(joined, joined) // more ways to its ground than could ever be gone
	}
	for _, err := range []error{round{}, roundList{}, roundWrapped{}, &pointed{round{}}, errors.Join(plain{}, round{}), joined} {
		k := elsewhere(err)
		k.holdBriefly(t)
		k.input(1).wrap("w").input(-1).holdBriefly(t)
	}
}

// TestStateIsNotElsewhere: one that New made of ErrState keeps its place and its input.
func TestStateIsNotElsewhere(t *testing.T) {
	fresh(api.ErrState, 4).wrap("x").input(2).hold(t)
	fresh(api.ErrState, 0).input(2).wrap("x").hold(t)
	elsewhere(errors.New("x")).wrap("x").input(2).hold(t)
}

// TestWithinElsewhere: an error from elsewhere that wraps one holds it, though it has no Text.
func TestWithinElsewhere(t *testing.T) {
	for _, k := range grounds() {
		for _, within := range []known{k, k.wrap("w"), k.input(3), k.input(3).wrap("w").input(4)} {
			around := known{&pointed{within.err}, within.fault, "", within.made}
			around.hold(t)
			around.wrap("v").hold(t)
			around.input(9).wrap("v").hold(t)
			within.hold(t)
			for range 5000 {
				around.err = &pointed{around.err}
			}
			around.hold(t)
			around.wrap("v").input(9).holdBriefly(t)
		}
	}
}

// TestJoinedOtherwise: nothing is said of what is answered, but that it is, and at once again.
func TestJoinedOtherwise(t *testing.T) {
	a, b := New(api.ErrKey, 1), Input(New(api.ErrLong, 2), 3)
	for _, err := range []error{errors.Join(a, b), errors.Join(b, a), errors.Join(round{}, a), errors.Join(a, angry{}), errors.Join(angry{}, a), Wrap(errors.Join(list{}, b), "x"), &pointed{errors.Join(a, roundList{})}} {
		if Of(err) != Of(err) || Text(err) != Text(err) || !Is(err, Of(err).Code) {
			t.Errorf("%v, %q", Of(err), Text(err))
		}
	}
	fresh(api.ErrKey, 1).hold(t)
}

// Ways

// TestCodesAreWrapped: a code is an error of its own, one for each, which what New makes wraps.
func TestCodesAreWrapped(t *testing.T) {
	for _, c := range codes() {
		for _, d := range codes() {
			if c == api.OK || d == api.OK {
				continue
			}
			code := errors.Unwrap(New(d, 3))
			for _, k := range []known{fresh(c, 7), fresh(c, 7).wrap("x"), fresh(c, 7).input(1).wrap("x")} {
				if got := errors.Is(k.err, code); got != (c == d) {
					t.Errorf("%q: errors.Is of %d is %v", k.text, d, got)
				}
			}
		}
	}
}

// TestWrappedIsFound: what is wrapped is found by the library's own means, as it was.
func TestWrappedIsFound(t *testing.T) {
	for _, k := range grounds() {
		for _, outer := range []error{Wrap(k.err, "x"), Input(k.err, 1), Wrap(Input(Wrap(k.err, ""), 2), "y")} {
			if !errors.Is(outer, k.err) || errors.Is(k.err, outer) {
				t.Errorf("%q: what it wraps is not found", Text(outer))
			}
		}
		if errors.Unwrap(Wrap(k.err, "x")) != k.err || errors.Unwrap(Input(k.err, 1)) != k.err {
			t.Errorf("%q: what is wrapped is another one", k.text)
		}
	}
	var found list
	if !errors.As(Wrap(Input(list{4, 5}, 1), "x"), &found) || len(found) != 2 {
		t.Error(found)
	}
}

// TestErrorTellsText: an error tells of itself what Text tells of it.
func TestErrorTellsText(t *testing.T) {
	for _, k := range grounds() {
		for _, each := range []known{k.wrap("x"), k.input(1), k.wrap("").input(2)} {
			if got := each.err.Error(); got != each.text {
				t.Errorf("%q, not %q", got, each.text)
			}
		}
	}
	for _, c := range codes() {
		if c != api.OK && (New(c, 3).Error() != chapterName(c)+" 3" || errors.Unwrap(New(c, 3)).Error() != chapterName(c)) {
			t.Errorf("%d: %q", c, New(c, 3).Error())
		}
	}
	if got := Wrap(angry{}, "x").Error(); got != "x: " {
		t.Errorf("%q", got)
	}
}
