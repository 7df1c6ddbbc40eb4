package number

import (
	"regexp"
	"strconv"
	"strings"
	"testing"

	"orthoepy/api"
	"orthoepy/digits"
)

// The tests hold the package against answers written out by hand, and against the chapter's letters: a text may become one, if one of many texts put behind it makes it one. That search asks neither the package nor digits.

const edge = 1000000000

var (
	grammar    = regexp.MustCompile(`\A(-?)(0|[1-9][0-9]*)(?:\.([0-9]+))?(?:[eE]([+-]?[0-9]+))?\z`)
	beginnings = regexp.MustCompile(`\A(?:|-|-?(?:0|[1-9][0-9]*)(?:\.[0-9]*|(?:\.[0-9]+)?[eE][+-]?[0-9]*)?)\z`)
	unfinished = regexp.MustCompile(`(?:\.|[eE][+-]?)\z`)
)

// wantInt is P11.2's End by its letters, for powers of few digits.
func wantInt(s string) (int, api.Errno) {
	m := grammar.FindStringSubmatch(s)
	if m == nil {
		return 0, api.ErrEnd
	}
	all := strings.TrimLeft(m[2]+m[3], "0")
	d := strings.TrimRight(all, "0")
	power, _ := strconv.Atoi(m[4])
	power += len(all) - len(d) - len(m[3])
	switch {
	case d == "":
		return 0, api.OK
	case power < 0:
		return 0, api.ErrFraction
	case len(d)+power > 16:
		return 0, api.ErrRange
	}
	n, err := strconv.Atoi(m[1] + d + strings.Repeat("0", power))
	if err != nil || n < -api.MaxWhole || n > api.MaxWhole {
		return 0, api.ErrRange
	}
	return n, api.OK
}

// tails are what may make numbers of a few dozen digits one, where no power is begun, and where one is.
func tails(begun bool) []string {
	list := []string{"", "0"}
	if !begun {
		for k := range 41 {
			for _, ahead := range []string{"", "0"} {
				list = append(list, ahead+"e"+strconv.Itoa(k), ahead+"e-"+strconv.Itoa(k))
			}
		}
		return list
	}
	for _, sign := range []string{"", "+", "-"} {
		for k := range 100 {
			list = append(list, sign+strconv.Itoa(k), sign+"0"+strconv.Itoa(k))
		}
	}
	return list
}

var behindNone, behindLetter = tails(false), tails(true)

// whatMakesItOne answers a text behind s that makes it one.
func whatMakesItOne(s string) (string, bool) {
	list := behindNone
	if strings.ContainsAny(s, "eE") {
		list = behindLetter
	}
	for _, tail := range list {
		if _, e := wantInt(s + tail); e == api.OK {
			return tail, true
		}
	}
	return "", false
}

// wantPush is P11.1's Push by its letters, of s, whose last byte is pushed.
func wantPush(s string) api.Errno {
	if !beginnings.MatchString(s) {
		return api.ErrText
	}
	if _, ok := whatMakesItOne(s); ok {
		return api.OK
	}
	if _, e := wantInt(unfinished.ReplaceAllString(s, "")); e == api.ErrFraction {
		return api.ErrFraction
	}
	return api.ErrRange
}

// feed pushes s, till a byte is refused.
func feed(n *Number, s string) (int, api.Errno) {
	for i := range len(s) {
		if e := n.Push(s[i]); e != api.OK {
			return i, e
		}
	}
	return len(s), api.OK
}

func fed(t *testing.T, s string) *Number {
	t.Helper()
	n := New()
	if at, e := feed(n, s); e != api.OK {
		t.Fatalf("%.60q: refused at %d, error %d", s, at, e)
	}
	return n
}

// holdEnd holds n against its text, what that is, and what End says of it.
func holdEnd(t *testing.T, n *Number, text string, want int, e api.Errno) {
	t.Helper()
	if got, err := n.End(); got != want || err != e {
		t.Errorf("%.60q: End is %d, %d, not %d, %d", text, got, err, want, e)
	}
	if got := n.Text(); got != text {
		t.Errorf("%.60q: Text is %.60q", text, got)
	}
}

// P11.1: by hand

func TestNewIsOfTheEmptyText(t *testing.T) {
	holdEnd(t, New(), "", 0, api.ErrEnd)
	one, other := New(), New()
	one.Push('7')
	holdEnd(t, one, "7", 7, api.OK)
	holdEnd(t, other, "", 0, api.ErrEnd)
}

// all is every digit.
const all = "0123456789"

// behindRows tell which bytes may stand behind a text, written out by hand: right ones, and those that go on as a number, but lead to none that is one; all others are ErrText.
var behindRows = []struct {
	texts       string
	right       string
	noFraction  string // these are ErrFraction
	outOfBounds string // these are ErrRange
}{
	{"-", all, "", ""},
	{"0 -0", ".eE", "", ""},
	{"1 9 -1 12 -907 90071992547409 100000000000000", all + ".eE", "", ""},
	{"900719925474099 -900719925474099", "01.eE", "", "23456789"},
	{"900719925474100 9007199254740990 9007199254740991 -9007199254740991 -9007199254740991000", "0.eE", "", "123456789"},
	{"1000000000000000 9000000000000000", "0.eE", "", "123456789"},

	{"0. -0. 1. -12. 90071992547409.", all, "", ""},
	{"900719925474099. -900719925474099.", "01", "23456789", ""},
	{"9007199254740991. -9007199254740991. 10000000000000000.", "0", "123456789", ""},
	{"0.0 1.0 1.5 -0.05 12.00 -0.000", all + "eE", "", ""},
	{"9007199254740991.0 0.9007199254740991 -9.007199254740991", "0eE", "123456789", ""},

	{"0e -0E 0.0e -0.000E", "+-" + all, "", ""},
	{"0e+ 0e- -0.0E- 0.00E+", all, "", ""},
	{"0e1 0e-5 -0.0E+00 0.0e000 0e99999999999999999999 -0e-99999999999999999999", all, "", ""},

	{"1e -1E 12e 1.0e", "+-" + all, "", ""},
	{"1e+ -1E+ 1e0 1e00 -12E+0", all, "", ""},
	{"1e1 1e+1 1e001 -9e1", "012345", "", "6789"},
	{"91e1 -91E+1", "0123", "", "456789"},
	{"1e15 1e9 -1e+2", "", "", all},
	{"1e- -1E- 1e-0 1e-00", "0", "123456789", ""},
	{"10e- -10E- 10e-0", "01", "23456789", ""},
	{"10e-1 -10E-1 10e-01", "", all, ""},
	{"100e-", "012", "3456789", ""},
	{"100000000000e-", all, "", ""},
	{"100000000000e-1", "01", "23456789", ""},
	{"100000000000000e", "+-01", "", "23456789"},
	{"1.5e -1.5E", "+" + all, "-", ""},
	{"1.5e+ 1.5E+ 1.5e0 1.5e+0 -1.5e00", all, "", ""},
	{"1.5e1 -1.5E+1 1.5e01", "012345", "", "6789"},

	{"9007199254740991e -9007199254740991E", "+-0", "", "123456789"},
	{"9007199254740991e+ -9007199254740991e0 9007199254740991e00 9007199254740991e+0", "0", "", "123456789"},
	{"9007199254740991e- -9007199254740991e-0", "0", "123456789", ""},
	{"90071992547409910e -90071992547409910E", "-", "", "+" + all},
	{"90071992547409910e- 90071992547409910e-0", "01", "23456789", ""},
	{"90071992547409910e-1", "", all, ""},
	{"900719925474099.1e -900719925474099.1E", "+01", "-", "23456789"},
	{"9.007199254740991e1 -9.007199254740991E+1", "5", "01234", "6789"},
}

// holdBehind holds Push of each byte behind s; what is right, and what is wrong in either way, as in behindRows.
func holdBehind(t *testing.T, s, right, noFraction, outOfBounds string) {
	t.Helper()
	for x := range 256 {
		one := string([]byte{byte(x)})
		want, text := api.ErrText, s
		switch {
		case strings.Contains(right, one):
			want, text = api.OK, s+one
		case strings.Contains(noFraction, one):
			want = api.ErrFraction
		case strings.Contains(outOfBounds, one):
			want = api.ErrRange
		}
		n := fed(t, s)
		if got := n.Push(byte(x)); got != want || n.Text() != text {
			t.Errorf("%q: Push(%q) is %d, not %d, and Text is %q", s, one, got, want, n.Text())
		}
	}
}

func TestPushEachByteEverywhere(t *testing.T) {
	holdBehind(t, "", "-"+all, "", "")
	for _, r := range behindRows {
		for _, s := range strings.Fields(r.texts) {
			holdBehind(t, s, r.right, r.noFraction, r.outOfBounds)
		}
	}
}

func TestRefusedByHand(t *testing.T) {
	for s, want := range map[string]api.Errno{ // what the last byte is
		"9007199254740993": api.ErrRange, // the chapter's examples
		"1.5e-":            api.ErrFraction,
		"10e-12":           api.ErrFraction,

		"9007199254740992":        api.ErrRange, // about MaxWhole, in each way
		"-9007199254740992":       api.ErrRange,
		"0.9007199254740992":      api.ErrFraction,
		"900719925474099.2":       api.ErrFraction,
		"-9.007199254740992":      api.ErrFraction,
		"90071992547409911":       api.ErrRange,
		"9007199254740990001":     api.ErrRange,
		"9007199254740991.00001":  api.ErrFraction,
		"9007199254740991e1":      api.ErrRange,
		"9007199254740991e-1":     api.ErrFraction,
		"9007199254740991e-00001": api.ErrFraction,
		"-9007199254740991E+0001": api.ErrRange,
		"900719925474099.1e2":     api.ErrRange,
		"900719925474099.1e-":     api.ErrFraction,
		"900719925474099.1e02":    api.ErrRange,
		"9.007199254740991e14":    api.ErrFraction,
		"9.007199254740991e16":    api.ErrRange,
		"9.007199254740991e2":     api.ErrFraction,
		"9007199254740991000e-2":  api.ErrRange,
		"9007199254740991000e-4":  api.ErrFraction,
		"9007199254740991000e-03": api.OK,

		"0.1e17":    api.ErrRange,
		"0.1e20":    api.ErrRange,
		"0.001e19":  api.ErrRange,
		"1e99":      api.ErrRange,
		"1e016":     api.ErrRange,
		"12.50e-":   api.ErrFraction,
		"12.050e00": api.OK,

		"00":      api.ErrText,
		"-00":     api.ErrText,
		"07":      api.ErrText,
		"1.5.":    api.ErrText,
		"1.5e01.": api.ErrText,
		"1.5e01e": api.ErrText,
		"1.5e01x": api.ErrText,
	} {
		n, head := fed(t, s[:len(s)-1]), s[:len(s)-1]
		if got := n.Push(s[len(s)-1]); got != want {
			t.Errorf("%s: the last byte is %d, not %d", s, got, want)
		}
		if want == api.OK {
			head = s
		}
		if got := n.Text(); got != head {
			t.Errorf("%s: Text is %s", s, got)
		}
	}
}

// TestPushAsItStands: an exponent without a digit is left out with its e and sign, a point without a digit too, and what is refused is in the number.
func TestPushAsItStands(t *testing.T) {
	for _, r := range []struct {
		head string
		x    byte
		want api.Errno
	}{
		{"90071992547409910e", '+', api.ErrRange}, // 90071992547409910
		{"90071992547409910e", '0', api.ErrRange}, // 90071992547409910e0
		{"1.5e", '-', api.ErrFraction},            // 1.5
		{"0.00000000000000000005e", '-', api.ErrFraction},
		{"10e-", '2', api.ErrFraction}, // 10e-2, though 10 is whole
		{"1.5e1", '6', api.ErrRange},   // 1.5e16, though 1.5 is not
		{"0.015e1", '9', api.ErrRange},
		{"9007199254740991", '1', api.ErrRange},
		{"9007199254740991.", '1', api.ErrFraction},
		{"90071992547409.9", '1', api.OK},
		{"90071992547409.9", '2', api.ErrFraction}, // though 90071992547409.9 may become one
	} {
		if got := fed(t, r.head).Push(r.x); got != r.want {
			t.Errorf("%s: Push(%q) is %d, not %d", r.head, r.x, got, r.want)
		}
	}
}

// P11.2: by hand

// endRows are texts with what End says of them, written out by hand.
var endRows = []struct {
	texts string
	n     int
	e     api.Errno
}{
	{"1.5 -1.5 0.5 1.50 1.05 1.5e0 1.5E+0 123.45e1 0.1 -0.00000000000000000001", 0, api.ErrFraction}, // the chapter's first
	{"1.5e1 1.5E1 1.5e+1 1.5e001 15 15.0 150e-1 0.15e2 0.0015e4 15.000e0 1500.00e-2", 15, api.OK},
	{"10e-1 1 1.0 1e0 1e-0 1e+0 0.1e1 100e-2 1.000 0.01E+02 1000000000000000000000e-21", 1, api.OK},

	{"- 1. -0. 0. 1e 0e 0E+ 1e+ 1E- -1.5e 1.50e+ 12.", 0, api.ErrEnd},
	{"0 -0 0.0 -0.000 0e0 0E5 0e-5 -0.0e-999 0e99999999999999999999 -0.00E+99999999999999999999 0e-99999999999999999999", 0, api.OK},
	{"5 5e0 0.5e1 0.000000000000000000005e021", 5, api.OK},
	{"-5 -5.0 -50e-1 -0.5E1", -5, api.OK},
	{"907 907.000 9.07e2", 907, api.OK},
	{"123.45e13 1234500000000000 0.12345e16", 1234500000000000, api.OK},
	{"1e15 1000000000000000 1000000000000000000e-3 0.001e18 0.1e16", 1000000000000000, api.OK},
	{"-9e15 -9000000000000000 -90000000000000000000e-4", -9000000000000000, api.OK},

	{"9007199254740991 9007199254740991.0 9007199254740991.000 9007199254740991e0 9007199254740991e-00 900719925474099.1e1 0.9007199254740991e16 9.007199254740991e+15 90071992547409910e-1 9007199254740991000e-3 900719925474099100.00e-2", api.MaxWhole, api.OK},
	{"-9007199254740991 -9007199254740991.0 -9007199254740991e-0 -900719925474099.1E1 -0.9007199254740991e016 -90071992547409910e-1", -api.MaxWhole, api.OK},
	{"9007199254740990 9007199254740990.0 900719925474099e1 900719925474099.0E1 90071992547409900e-1 0.900719925474099e16", api.MaxWhole - 1, api.OK},
	{"-9007199254740990 -900719925474099e1 -90071992547409900e-1", -api.MaxWhole + 1, api.OK},
	{"90071992547409910 -90071992547409910 90071992547409910.0 9007199254740991000e-0 5000000000000000000000 10000000000000000 -10000000000000000 9007199254740991000e-00 1000000000000000000e-0", 0, api.ErrRange},
	{"900719925474099.1 9007199254740.991 0.9007199254740991 -0.9007199254740991 9007199254740.991e0 9007199254740.991e+00", 0, api.ErrFraction},
}

func TestEndByHand(t *testing.T) {
	for _, r := range endRows {
		for _, s := range strings.Fields(r.texts) {
			n := fed(t, s)
			holdEnd(t, n, s, r.n, r.e)
			holdEnd(t, n, s, r.n, r.e) // asking changes nothing
		}
	}
}

func TestTextBehindRefused(t *testing.T) {
	for _, r := range []struct{ head, refused, tail, text string }{
		{"", "+.eEx\x00\xff \n\"", "7", "7"},
		{"-", "-+.eE,", "7", "-7"},
		{"0", "0123456789-+x", ".0", "0.0"},
		{"1", "-+ax", "2", "12"},
		{"900719925474099", "23456789+-", "1", "9007199254740991"},
		{"9007199254740991", "123456789+-", "00e-2", "900719925474099100e-2"},
		{"900719925474099.1", "123456789.+-", "0e1", "900719925474099.10e1"},
		{"1.", ".eE+-", "0", "1.0"},
		{"1.5", ".+-", "e1", "1.5e1"},
		{"1.5e", "-.eE", "1", "1.5e1"},
		{"1.5e+", "-+.eE", "1", "1.5e+1"},
		{"10e-1", "0123456789.eE+-", "", "10e-1"},
		{"1e1", "6789.eE+-", "5", "1e15"},
		{"90071992547409910e", "+0123456789.eE", "-01", "90071992547409910e-01"},
	} {
		n := fed(t, r.head)
		want, e := n.End()
		for _, x := range []byte(r.refused) {
			if got := n.Push(x); got == api.OK {
				t.Errorf("%q: Push(%q) is OK", r.head, x)
			}
			holdEnd(t, n, r.head, want, e)
		}
		if at, e := feed(n, r.tail); e != api.OK || n.Text() != r.text {
			t.Errorf("%q: behind what was refused: %d at %d, Text %q", r.head, e, at, n.Text())
		}
		if _, e := n.End(); e != api.OK {
			t.Errorf("%q: End is %d", r.text, e)
		}
	}
}

// R3: what was answered stays, whatever is pushed later.
func TestTextStays(t *testing.T) {
	n, want := New(), "7"+strings.Repeat("0", 100)
	var told []string
	for i := range len(want) {
		told = append(told, n.Text())
		if e := n.Push(want[i]); e != api.OK {
			t.Fatal(i, e)
		}
	}
	for i, s := range told {
		if s != want[:i] {
			t.Errorf("Text of %d bytes has become %q", i, s)
		}
	}
}

// P11.2: Copy

// TestCopyEverywhere cuts texts at each place, copies there, and goes on with one as the text does and with the other in other ways.
func TestCopyEverywhere(t *testing.T) {
	long := "7" + strings.Repeat("0", 70) // so long that what is shared would have room behind it somewhere
	for _, r := range []struct{ text, other string }{
		{"-12.50e+1", "-12.50e1"},
		{"0.0e-7", "0.00"},
		{"9007199254740991", "9007199254740990"},
		{"90071992547409910e-1", "90071992547409900e-01"},
		{long + ".00e-60", long[:60] + ".0e-50"},
	} {
		for at := range len(r.text) + 1 {
			tail := ""
			if at <= len(r.other) && r.other[:at] == r.text[:at] {
				tail = r.other[at:]
			}
			one := fed(t, r.text[:at])
			two := one.Copy()
			three := two.Copy()
			feed(two, tail)
			feed(one, r.text[at:])
			want, e := wantInt(r.text)
			holdEnd(t, one, r.text, want, e)
			want, e = wantInt(r.text[:at] + tail)
			holdEnd(t, two, r.text[:at]+tail, want, e)
			want, e = wantInt(r.text[:at])
			holdEnd(t, three, r.text[:at], want, e)
		}
	}
}

// TestCopyGoesOnAlike holds each byte behind a copy against each byte behind what it was copied from.
func TestCopyGoesOnAlike(t *testing.T) {
	for _, r := range behindRows {
		for _, s := range strings.Fields(r.texts) {
			for x := range 256 {
				one := fed(t, s)
				two := one.Copy()
				if e, again := one.Push(byte(x)), two.Push(byte(x)); e != again || one.Text() != two.Text() {
					t.Errorf("%q: Push(%#x) is %d, of the copy %d", s, x, e, again)
				}
			}
		}
	}
}

func TestCopyIsNotMoved(t *testing.T) {
	one := fed(t, "12")
	two := one.Copy()
	if e := one.Push('x'); e != api.ErrText {
		t.Error(e)
	}
	holdEnd(t, two, "12", 12, api.OK)
	feed(one, ".5e1")
	feed(two, "34")
	holdEnd(t, one, "12.5e1", 125, api.OK)
	holdEnd(t, two, "1234", 1234, api.OK)
	holdEnd(t, New().Copy(), "", 0, api.ErrEnd)
}

// P11.1 to P11.3: by the letters

// holdAll holds n, of that text, and all that goes on from it by at most most of the letters.
func holdAll(t *testing.T, n *Number, text, letters string, most int) {
	want, e := wantInt(text)
	holdEnd(t, n, text, want, e)
	var right []byte
	for x := range 256 {
		s := text + string([]byte{byte(x)})
		if want := wantPush(s); want == api.OK {
			right = append(right, byte(x))
		} else if got := n.Push(byte(x)); got != want {
			t.Errorf("%q: the last byte is %d, not %d", s, got, want)
		}
	}
	holdEnd(t, n, text, want, e)
	for _, x := range right {
		next := n.Copy()
		if got := next.Push(x); got != api.OK {
			t.Errorf("%s: behind it %q is %d", text, x, got)
			continue
		}
		if most > 0 && strings.IndexByte(letters, x) >= 0 {
			holdAll(t, next, text+string(rune(x)), letters, most-1)
		}
	}
}

func TestPushBySearch(t *testing.T) {
	holdAll(t, New(), "", "019.e+-", 5)
	for _, s := range []string{"0.00", "-0e", "1.5", "150", "900719925474099", "-90071992547409", "9007199254740991", "9007199254740991.", "9.007199254740991", "9007199254740991e", "9007199254740991000", "90071992547409.00", "9.00719925474099", "100000000000000", "1000000000000000000000e-", "0.000000000000000001e"} {
		holdAll(t, fed(t, s), s, "0159.e-", 3)
	}
}

// P11.3: some text behind what was pushed, and was OK, makes it one.
func TestSomeTextMakesItOne(t *testing.T) {
	for _, r := range behindRows {
		for _, s := range strings.Fields(r.texts) {
			for x := range 256 {
				n := fed(t, s)
				if n.Push(byte(x)) != api.OK {
					continue
				}
				text := s + string([]byte{byte(x)})
				tail, ok := whatMakesItOne(text)
				if !ok {
					t.Errorf("%q was OK, and nothing makes it one", text)
				}
				if at, e := feed(n, tail); e != api.OK {
					t.Errorf("%q with %q behind it: %d at %d", text, tail, e, at)
				}
				if _, e := n.End(); e != api.OK {
					t.Errorf("%q with %q behind it: End is %d", text, tail, e)
				}
			}
		}
	}
}

// TestDigitsAboutMaxWhole: digits, noughts at their end left out, that are more than MaxWhole make none, wherever the point is; others do.
func TestDigitsAboutMaxWhole(t *testing.T) {
	for off := -200; off <= 200; off++ {
		s := strconv.Itoa(api.MaxWhole + off)
		tooGreat := off > 0 && s[len(s)-1] != '0'
		holdLastDigit(t, s, tooGreat, api.ErrRange)
		for at := 1; at < len(s); at++ {
			holdLastDigit(t, s[:at]+"."+s[at:], tooGreat, api.ErrFraction)
		}
		holdLastDigit(t, "0."+s, tooGreat, api.ErrFraction)
		holdLastDigit(t, "0.000"+s, tooGreat, api.ErrFraction)
	}
}

// holdLastDigit holds the last digit of s, which is the one that is refused, if one is.
func holdLastDigit(t *testing.T, s string, tooGreat bool, e api.Errno) {
	t.Helper()
	want, wantAt := api.OK, len(s)
	if tooGreat {
		want, wantAt = e, len(s)-1
	}
	if at, e := feed(New(), s); at != wantAt || e != want {
		t.Errorf("%s: %d at %d, not %d", s, e, at, want)
	}
	if at, e := feed(New(), "-"+s); at != wantAt+1 || e != want {
		t.Errorf("-%s: %d at %d, not %d", s, e, at, want)
	}
	if _, ok := whatMakesItOne(s); ok == tooGreat {
		t.Errorf("%s: whether something makes it one is %v", s, ok)
	}
}

// Long ones: each Push must be as quick behind many bytes as behind few.

func TestLongOnes(t *testing.T) {
	noughts, nines := strings.Repeat("0", 1<<20), strings.Repeat("9", 1<<20)
	for i, r := range []struct {
		s string
		n int
		e api.Errno
	}{
		{"1" + noughts, 0, api.ErrRange},
		{"1" + noughts + ".0", 0, api.ErrRange},
		{"1" + noughts + "e-1048576", 1, api.OK},
		{"1" + noughts + "e-1048561", 1000000000000000, api.OK},
		{"-9007199254740991" + noughts + "." + noughts + "e-01048576", -api.MaxWhole, api.OK},
		{"-0." + noughts, 0, api.OK},
		{"1." + noughts, 1, api.OK},
		{"0." + noughts + "1", 0, api.ErrFraction},
		{"0." + noughts + "1e1048577", 1, api.OK},
		{"0." + noughts + "1e1048592", 1000000000000000, api.OK},
		{"0." + noughts + "9007199254740991e1048592", api.MaxWhole, api.OK},
		{"1e" + noughts + "7", 10000000, api.OK},
		{"1e-" + noughts, 1, api.OK},
		{"0e" + nines, 0, api.OK},
		{"-0.00E-" + nines, 0, api.OK},
	} {
		n := New()
		if at, e := feed(n, r.s); e != api.OK {
			t.Errorf("%d: %d at %d of %d", i, e, at, len(r.s))
		}
		if got, e := n.End(); got != r.n || e != r.e || n.Text() != r.s {
			t.Errorf("%d: End is %d, %d, Text of %d bytes, not %d", i, got, e, len(n.Text()), len(r.s))
		}
	}
}

func TestLongOnesRefused(t *testing.T) {
	noughts := strings.Repeat("0", 1<<20)
	for i, r := range []struct {
		s    string // the last byte is the one that is refused
		want api.Errno
	}{
		{"1" + noughts + "1", api.ErrRange},
		{"1" + noughts + ".0001", api.ErrFraction},
		{"1." + noughts + "1", api.ErrFraction},
		{"1" + noughts + "e+", api.ErrRange},
		{"1" + noughts + "e2", api.ErrRange},
		{"1" + noughts + "e-1048560", api.ErrRange},
		{"1" + noughts + "e-1048577", api.ErrFraction},
		{"0." + noughts + "1e-", api.ErrFraction},
		{"0." + noughts + "1e1048576", api.ErrFraction},
		{"0." + noughts + "1e1048593", api.ErrRange},
		{"1e" + noughts + "16", api.ErrRange},
		{"1e-" + noughts + "1", api.ErrFraction},
		{"0" + noughts[:1], api.ErrText},
		{"1" + noughts + "x", api.ErrText},
	} {
		if at, e := feed(New(), r.s); at != len(r.s)-1 || e != r.want {
			t.Errorf("%d: %d at %d of %d, not %d", i, e, at, len(r.s), r.want)
		}
	}
}

// TestPowersHeldDown: what stands behind an e counts as 1000000000, if it is more. Only texts as long as that come so far; what they say is made here without them.
func TestPowersHeldDown(t *testing.T) {
	for i, r := range []struct {
		said reading
		s    string
		n    int
	}{
		{reading{at: fraction, digits: "1", behind: edge}, "e1000000000", 1},
		{reading{at: fraction, digits: "1", behind: edge}, "e10000000007", 1},
		{reading{at: fraction, digits: "1", behind: edge}, "E+0099999999999999999999", 1},
		{reading{at: fraction, digits: "12", behind: edge - 1}, "0e1000000000", 120},
		{reading{at: fraction, behind: edge - 1}, "1e1000000000", 1},
		{reading{at: whole, digits: "1", noughts: edge}, "e-1000000000", 1},
		{reading{at: whole, digits: "1", noughts: edge}, ".0e-99999999999999999999", 1},
		{reading{at: whole, digits: "1", noughts: edge + 14}, "0e-1000000000", 1000000000000000},
		{reading{at: whole, digits: "9007199254740991", noughts: edge}, "e-1000000000", api.MaxWhole},
		{reading{at: nought}, "e1000000001", 0},
	} {
		n := &Number{said: r.said}
		if at, e := feed(n, r.s); e != api.OK {
			t.Errorf("%d: %d at %d", i, e, at)
		}
		if got, e := n.End(); got != r.n || e != api.OK {
			t.Errorf("%d: End is %d, %d", i, got, e)
		}
	}
}

func TestPowersHeldDownRefused(t *testing.T) {
	for i, r := range []struct {
		said reading
		s    string // the last byte is the one that is refused
		want api.Errno
	}{
		{reading{at: fraction, behind: edge}, "1", api.ErrFraction},
		{reading{at: fraction, digits: "1", behind: edge}, "1", api.ErrFraction},
		{reading{at: fraction, digits: "1", behind: edge}, "e-", api.ErrFraction},
		{reading{at: whole, digits: "1", noughts: edge + 15}, "0", api.ErrRange},
		{reading{at: whole, digits: "9007199254740991", noughts: edge}, "0", api.ErrRange},
		{reading{at: whole, digits: "1", noughts: edge}, "e+", api.ErrRange},
		{reading{at: whole, digits: "1", noughts: edge}, "e0", api.ErrRange},
	} {
		if at, e := feed(&Number{said: r.said}, r.s); at != len(r.s)-1 || e != r.want {
			t.Errorf("%d: %d at %d, not %d", i, e, at, r.want)
		}
	}
}

// TestEndIsOfTheText: what End says is what digits says of the text.
func TestEndIsOfTheText(t *testing.T) {
	for _, r := range endRows {
		for _, s := range strings.Fields(r.texts) {
			d, ok := digits.Read(s)
			want, e := digits.Int(d)
			if !ok {
				want, e = 0, api.ErrEnd
			}
			holdEnd(t, fed(t, s), s, want, e)
		}
	}
}
