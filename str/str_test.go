package str

import (
	"encoding/json"
	"fmt"
	"strconv"
	"strings"
	"testing"
	"unicode/utf16"
	"unicode/utf8"

	"orthoepy/api"
)

// The tests hold the package against answers written out by hand, and against the chapter's letters: whole texts are judged, and what Push says of a byte is told by the best that any text behind it comes to. That judge asks neither the package nor those below it.

// feed pushes x, till a byte is refused or ends the string.
func feed(s *Str, x string) (int, bool, api.Errno) {
	for i := range len(x) {
		if end, e := s.Push(x[i]); end || e != api.OK {
			return i, end, e
		}
	}
	return len(x), false, api.OK
}

// fed answers a Str of x, of which no byte but the last one may end it.
func fed(t *testing.T, x string) *Str {
	t.Helper()
	s := New()
	if at, end, e := feed(s, x); e != api.OK || end && at != len(x)-1 {
		t.Fatalf("%.60q: %v, error %d at %d", x, end, e, at)
	}
	return s
}

// hold holds what s says of itself against what it should, text being what was pushed.
func hold(t *testing.T, s *Str, text, said string, inside bool) {
	t.Helper()
	if got := s.Text(); got != said {
		t.Errorf("%.60q: Text is %.60q, not %.60q", text, got, said)
	}
	if got, want := s.Len(), utf8.RuneCountInString(said); got != want {
		t.Errorf("%.60q: Len is %d, not %d", text, got, want)
	}
	if got := s.Inside(); got != inside {
		t.Errorf("%.60q: Inside is %v", text, got)
	}
}

// holdPush pushes x, and holds what comes of it.
func holdPush(t *testing.T, s *Str, text string, x byte, end bool, e api.Errno) {
	t.Helper()
	if got, err := s.Push(x); got != end || err != e {
		t.Errorf("%.60q: Push(%#x) is %v, %d, not %v, %d", text, x, got, err, end, e)
	}
}

// By the letters

// What a whole text comes to, the worst first.
const (
	noString = iota // by JSON's grammar, whatever its bytes from 80 on
	noUTF8
	lonely // a half otherwise than in a pair
	blocked
	right
)

func isDigit(x byte) bool { return strings.IndexByte("0123456789abcdefABCDEF", x) >= 0 }

func isNonchar(c rune) bool { return c >= 0xFDD0 && c <= 0xFDEF || c%0x10000 >= 0xFFFE }

// judge tells what a whole text comes to.
func judge(s string) int {
	var said []rune // halves of pairs as such
	var unit []bool // it was said by \u
	utf := true
	for {
		switch {
		case s == "" || s[0] < 0x20:
			return noString
		case s == `"`:
			return judgeSaid(said, unit, utf)
		case s[0] == '"':
			return noString
		case s[0] == '\\' && len(s) > 1 && strings.IndexByte(`"\/bfnrt`, s[1]) >= 0:
			said, unit, s = append(said, ' '), append(unit, false), s[2:] // which one plays no part
		case s[0] == '\\' && len(s) > 5 && s[1] == 'u' && isDigit(s[2]) && isDigit(s[3]) && isDigit(s[4]) && isDigit(s[5]):
			n, _ := strconv.ParseUint(s[2:6], 16, 16)
			said, unit, s = append(said, rune(n)), append(unit, true), s[6:]
		case s[0] == '\\':
			return noString
		default:
			c, n := utf8.DecodeRuneInString(s)
			if c == utf8.RuneError && n == 1 {
				utf = false
			}
			said, unit, s = append(said, c), append(unit, false), s[n:]
		}
	}
}

func judgeSaid(said []rune, unit []bool, utf bool) int {
	if !utf {
		return noUTF8
	}
	best := right
	for i := 0; i < len(said); i++ {
		c := said[i]
		if unit[i] && utf16.IsSurrogate(c) {
			if i+1 == len(said) || !unit[i+1] || utf16.DecodeRune(c, said[i+1]) == utf8.RuneError {
				return lonely
			}
			c = utf16.DecodeRune(c, said[i+1])
			i++
		}
		if isNonchar(c) {
			best = blocked
		}
	}
	return best
}

// tails are what may stand behind a beginning so that the best comes of it that can be. Where a \u is begun, some leave it a half that stays lonely, some make it a pair.
var tails = []string{
	`"`, "", "\x80\"", "\x80\x80\"", "\x80\x80\x80\"", "\xa0\x80\"", "\x90\x80\x80\"",
	`n"`, `u0000"`, `udc00"`, `\udc00"`,
	`0"`, `00"`, `000"`, `0000"`, `c00"`, `dc00"`, `0\udc00"`, `00\udc00"`,
}

// whatEnds answers a text behind s with which it comes to the best, and what that is.
func whatEnds(s string) (string, int) {
	best, found := noString, ""
	for _, tail := range tails {
		if l := judge(s + tail); l > best {
			best, found = l, tail
		}
		if best == right {
			break
		}
	}
	return found, best
}

// wantPush is P12.1's Push by its letters, of s, whose last byte is pushed.
func wantPush(s string) (bool, api.Errno) {
	tail, best := whatEnds(s)
	if best == right {
		return tail == "", api.OK
	}
	return false, []api.Errno{api.ErrText, api.ErrUTF8, api.ErrSurrogate, api.ErrNonchar}[best]
}

// wantSaid is P12.2 by its letters, of a text that is right so far.
func wantSaid(t *testing.T, s string) (said string, inside bool) {
	t.Helper()
	for s != "" && s != `"` {
		n := 0
		switch {
		case s[0] != '\\':
			if _, n = utf8.DecodeRuneInString(s); !utf8.ValidString(s[:n]) {
				return said, true
			}
		case len(s) > 1 && s[1] != 'u':
			n = 2
		case len(s) > 5 && (s[2]|0x20 != 'd' || s[3] < '8'):
			n = 6
		case len(s) > 11:
			n = 12
		default:
			return said, true
		}
		var one string
		if err := json.Unmarshal([]byte(`"`+s[:n]+`"`), &one); err != nil {
			t.Fatal(err)
		}
		said, s = said+one, s[n:]
	}
	return said, false
}

// holdOn holds each byte of letters behind text, then that text can be brought to its end behind all that was refused.
func holdOn(t *testing.T, text string, letters []byte) {
	t.Helper()
	one := fed(t, text)
	said, inside := wantSaid(t, text)
	hold(t, one, text, said, inside)
	for _, x := range letters {
		on := text + string([]byte{x})
		end, e := wantPush(on)
		if e != api.OK {
			holdPush(t, one, text, x, false, e)
			continue
		}
		two := fed(t, text)
		holdPush(t, two, text, x, end, e)
		more, in := wantSaid(t, on)
		hold(t, two, on, more, in)
	}
	hold(t, one, text, said, inside)
	holdEnd(t, one, text)
}

// holdEnd brings s to its end.
func holdEnd(t *testing.T, s *Str, text string) {
	t.Helper()
	tail, best := whatEnds(text)
	if best != right {
		t.Errorf("%.60q was OK, and nothing makes it right", text)
		return
	}
	if at, end, e := feed(s, tail); tail != "" && (at != len(tail)-1 || !end || e != api.OK) {
		t.Errorf("%.60q: behind it %q: %v, error %d at %d", text, tail, end, e, at)
	}
	said, _ := wantSaid(t, text+tail)
	hold(t, s, text+tail, said, false)
}

// walk holds each byte of held behind text, and behind all that is right and goes on from it by at most most of the letters.
func walk(t *testing.T, text string, letters, held []byte, most int) {
	t.Helper()
	holdOn(t, text, held)
	if most == 0 {
		return
	}
	for _, x := range letters {
		on := text + string([]byte{x})
		if _, e := wantPush(on); e == api.OK {
			walk(t, on, letters, held, most-1)
		}
	}
}

// bytesOf answers the bytes that a row of spans tells, two hexadecimal digits each: "20-7f c2".
func bytesOf(t *testing.T, spans string) []byte {
	t.Helper()
	var list []byte
	for _, span := range strings.Fields(spans) {
		from, to, two := strings.Cut(span, "-")
		if !two {
			to = from
		}
		a, err := strconv.ParseUint(from, 16, 8)
		if err != nil {
			t.Fatal(err)
		}
		b, err := strconv.ParseUint(to, 16, 8)
		if err != nil {
			t.Fatal(err)
		}
		for x := a; x <= b; x++ {
			list = append(list, byte(x))
		}
	}
	return list
}

// P12.1: by hand

func TestNewIsOfTheEmptyText(t *testing.T) {
	hold(t, New(), "", "", false)
	one, other := New(), New()
	feed(one, `a\ud83d`)
	hold(t, one, `a\ud83d`, "a", true)
	hold(t, other, "", "", false)
	feed(other, "b\xc3")
	hold(t, other, "b\xc3", "b", true)
	feed(one, `\ude00"`)
	hold(t, one, `a\ud83d\ude00"`, "a\U0001f600", false)
	hold(t, other, "b\xc3", "b", true)
	hold(t, New(), "", "", false)
}

func TestExamples(t *testing.T) {
	for _, r := range []struct {
		head string
		x    byte
		e    api.Errno
	}{
		{`\ud`, '8', api.OK},
		{`\ud`, 'c', api.ErrSurrogate},
		{`\ud83d`, '\\', api.OK},
		{`\ud83d\`, 'u', api.OK},
		{`\ud83d\`, 'n', api.ErrSurrogate},
		{`\ud83d`, 'a', api.ErrSurrogate},
		{`\ud83d`, '"', api.ErrSurrogate},
		{`\ufd`, 'd', api.ErrNonchar},
		{"\xc3", '(', api.ErrUTF8},
		{`\ud80`, '0', api.OK}, // the page's fourth example
		{`\ud800`, '"', api.ErrSurrogate},
	} {
		holdPush(t, fed(t, r.head), r.head, r.x, false, r.e)
	}
}

const (
	hexDigits = "30-39 41-46 61-66"
	tailBytes = "80-bf"
)

// behindRows tell what each byte behind a text is, written out by hand: right (end: and its end), or refused with one of three errors; all others are ErrText.
var behindRows = []struct {
	texts     []string
	end       string
	right     string
	utf8      string
	surrogate string
	nonchar   string
}{
	// behind what is said
	{texts: []string{"", "a", "/", "\x7f", "a/\x20'", "\u00e9", "\ufffd", "\U0010fffd", `\n`, `\"`, `\\`, `\u0041`, `\u0000`, `\uABCD`, `\ufdcf`, `\ud83d\ude00`, `\uDBFF\uDFFD`},
		end: "22", right: "20-21 23-7f c2-f4", utf8: "80-c1 f5-ff"},

	// within a scalar's bytes
	{texts: []string{"\xc2", "\xc3", "a\xdf", `\n` + "\xc3", "\xe2\x82", "\xe1\x80", "\xed\x9f", "\xef\xb6", "\xef\xb8", "\xef\xbe", "\xf0\x9f\x98", "\xf0\x9f\xbe", "\xf1\x80\x80", "\xf4\x8f\xbe", "\xf0\x90\x80"},
		right: tailBytes, utf8: "20-7f c0-ff"},
	{texts: []string{"\xe0"}, right: "a0-bf", utf8: "20-9f c0-ff"},
	{texts: []string{"\xe1", "\xec", "\xee", "\xef", "\xf1", "\xf3", "\xf1\xbf", "\xf4\x8f", "\xf0\x90", "\xf0\x9f"}, right: tailBytes, utf8: "20-7f c0-ff"},
	{texts: []string{"\xed"}, right: "80-9f", utf8: "20-7f a0-ff"},
	{texts: []string{"\xf0"}, right: "90-bf", utf8: "20-8f c0-ff"},
	{texts: []string{"\xf4"}, right: "80-8f", utf8: "20-7f 90-ff"},
	{texts: []string{"\xef\xb7", "a\xef\xb7"}, right: "80-8f b0-bf", utf8: "20-7f c0-ff", nonchar: "90-af"},
	{texts: []string{"\xef\xbf", "\xf0\x9f\xbf", "\xf0\xaf\xbf", "\xf1\x8f\xbf", "\xf2\xbf\xbf", "\xf3\xaf\xbf", "\xf4\x8f\xbf"}, right: "80-bd", utf8: "20-7f c0-ff", nonchar: "be-bf"},
	{texts: []string{"\xf0\x90\xbf", "\xf0\xa0\xbf", "\xf4\x80\xbf"}, right: tailBytes, utf8: "20-7f c0-ff"},

	// behind the sign
	{texts: []string{`\`, `a\`, `\\\`, `\n\`, `\u0041\`, `\ud83d\ude00\`}, right: "22 2f 5c 62 66 6e 72 74 75"},

	// behind \u and its digits
	{texts: []string{`\u`, `a\u`, `\u0041\u`, `\ud83d\ude00\u`, `\u0`, `\u1`, `\uf`, `\uA`, `\uE`, `\u00`, `\ud7`, `\uD0`, `\ud8`, `\uDB`, `\uda`, `\uff`, `\uFE`, `\ufc`, `\ufdc`, `\ufdf`, `\uFD0`, `\u000`, `\ud7f`, `\ud80`, `\udbf`, `\uDB8`, `\uffe`, `\ufef`, `\ue00`},
		right: hexDigits},
	{texts: []string{`\ud`, `\uD`, `\n\uD`}, right: "30-39 41-42 61-62", surrogate: "43-46 63-66"},
	{texts: []string{`\ufd`, `\uFd`, `\ufD`}, right: "30-39 41-43 46 61-63 66", nonchar: "44-45 64-65"},
	{texts: []string{`\ufff`, `\uFfF`, `\ud83d\ude00\ufff`}, right: "30-39 41-44 61-64", nonchar: "45-46 65-66"},

	// behind a High
	{texts: []string{`\ud800`, `\uDBFF`, `\ud83f`, `a\uD83D`, `\ud83d\ude00\ud83d`}, right: "5c", utf8: "80-c1 f5-ff", surrogate: "20-5b 5d-7f c2-f4"},
	{texts: []string{`\ud800\`, `\uDBFF\`, `\ud83f\`}, right: "75", surrogate: "22 2f 5c 62 66 6e 72 74"},
	{texts: []string{`\ud800\u`, `\uDBFF\u`, `\ud83f\u`}, right: "44 64", surrogate: "30-39 41-43 45-46 61-63 65-66"},
	{texts: []string{`\ud800\ud`, `\uDBFF\uD`, `\ud83f\ud`}, right: "43-46 63-66", surrogate: "30-39 41-42 61-62"},
	{texts: []string{`\ud800\udc`, `\uDBFF\uDF`, `\ud83f\udf`, `\ud800\udc0`, `\ud800\udff`, `\ud83e\udff`, `\uDBFE\uDFF`, `\ud87d\udff`, `\ud83f\udfe`, `\ud83f\udef`},
		right: hexDigits},
	{texts: []string{`\ud83f\udff`, `\uD83F\uDFF`, `\ud87f\udff`, `\uDBFF\uDFF`, `\uDBBF\uDfF`, `\ud9bf\udff`}, right: "30-39 41-44 61-64", nonchar: "45-46 65-66"},

	// behind the end
	{texts: []string{`"`, `a"`, `\""`, "\u00e9\"", `\ud83d\ude00"`, `\\"`}},
}

func TestPushEachByteEverywhere(t *testing.T) {
	for _, r := range behindRows {
		var want [256]api.Errno
		for x := range want {
			want[x] = api.ErrText
		}
		for e, spans := range map[api.Errno]string{api.OK: r.end + " " + r.right, api.ErrUTF8: r.utf8, api.ErrSurrogate: r.surrogate, api.ErrNonchar: r.nonchar} {
			for _, x := range bytesOf(t, spans) {
				want[x] = e
			}
		}
		for _, text := range r.texts {
			for x, e := range want {
				holdPush(t, fed(t, text), text, byte(x), e == api.OK && r.end != "" && x == '"', e)
			}
		}
	}
}

// TestRefusedLeavesAll pushes all that is refused behind a text, of each of the rows above, then brings it to its end.
func TestRefusedLeavesAll(t *testing.T) {
	for _, r := range behindRows {
		for _, text := range r.texts {
			ok := string(bytesOf(t, r.end+" "+r.right))
			s := fed(t, text)
			said, inside := s.Text(), s.Inside()
			for range 2 {
				for x := range 256 {
					if strings.IndexByte(ok, byte(x)) < 0 {
						if end, e := s.Push(byte(x)); end || e == api.OK {
							t.Errorf("%q: Push(%#x) is %v, %d", text, x, end, e)
						}
					}
				}
				hold(t, s, text, said, inside)
			}
			holdEnd(t, s, text)
		}
	}
}

func TestWhichErrorIsFirst(t *testing.T) {
	for _, r := range []struct {
		head string
		x    byte
		e    api.Errno
	}{
		{"\xc3", '\n', api.ErrText}, // a control byte is none but for UTF-8 either
		{"\xc3", 0x1F, api.ErrText},
		{"\xc3", '"', api.ErrUTF8},
		{"\xc3", '\\', api.ErrUTF8},
		{"\xef\xbf", '"', api.ErrUTF8},
		{"\xef\xbf", 0x00, api.ErrText},
		{`\`, 0xC3, api.ErrText}, // no escape, whatever follows
		{`\`, 0xFF, api.ErrText},
		{`\u`, 0xFF, api.ErrText},
		{`\u12`, 0x80, api.ErrText},
		{`\ud83d`, 0x1F, api.ErrText},
		{`\ud83d`, 0xFF, api.ErrUTF8},
		{`\ud83d`, 0x80, api.ErrUTF8},
		{`\ud83d`, 0xC0, api.ErrUTF8},
		{`\ud83d`, 0xF5, api.ErrUTF8},
		{`\ud83d`, 0xEF, api.ErrSurrogate}, // a noncharacter might begin so
		{`\ud83d`, 0xC2, api.ErrSurrogate},
		{`\ud83d`, '"', api.ErrSurrogate},
		{`\ud83d\`, 'x', api.ErrText},
		{`\ud83d\`, 'U', api.ErrText},
		{`\ud83d\`, 0xFF, api.ErrText},
		{`\ud83d\`, '"', api.ErrSurrogate},
		{`\ud83d\u`, 'g', api.ErrText},
		{`\ud83d\u`, '"', api.ErrText},
		{`\ud83d\u`, 'f', api.ErrSurrogate}, // FDD0 might begin so
		{`\ud83d\ud`, 'g', api.ErrText},
		{`\ud83d\ud`, '8', api.ErrSurrogate},
		{`\ud83d\ude0`, '"', api.ErrText},
		{`\ud83f\udff`, 'g', api.ErrText},
		{`\ud83f\udff`, 'e', api.ErrNonchar},
		{`\ufd`, 'g', api.ErrText},
		{`\ufff`, '\\', api.ErrText},
		{`a"`, 0xFF, api.ErrText}, // behind the end
		{`a"`, 0x80, api.ErrText},
	} {
		holdPush(t, fed(t, r.head), r.head, r.x, false, r.e)
	}
}

// P12.2: by hand

func TestSaysByHand(t *testing.T) {
	for text, want := range map[string]string{
		``:                               "",
		`ab`:                             "ab",
		"\x7f /'":                        "\x7f /'",
		`\"\\\/\b\f\n\r\t`:               "\x22\x5c\x2f\x08\x0c\x0a\x0d\x09",
		`\\n\\u0041`:                     "\\n\\u0041",
		`\u0041\u00e9\u00E9\u20aC`:       "A\u00e9\u00e9\u20ac",
		`\u0000\u001f\u0022\u005c\u002f`: "\x00\x1f\"\\/",
		`\u0080\u07ff\u0800\uffef`:       "\u0080\u07ff\u0800\uffef",
		`\ud7ff\ue000\ufdcf\ufdf0\ufffd`: "\ud7ff\ue000\ufdcf\ufdf0\ufffd",
		`\ud800\udc00\uDBFF\uDFFD`:       "\U00010000\U0010fffd",
		`\ud83d\ude00\uD83d\uDe00x`:      "\U0001f600\U0001f600x",
		`\ud83f\udffd\ud83e\udffe`:       "\U0001fffd\U0001fbfe",
		"\u00e9\u20ac\U0001f600":         "\u00e9\u20ac\U0001f600",
		"\ud7ff\ue000\ufdcf\ufdf0\ufffd": "\ud7ff\ue000\ufdcf\ufdf0\ufffd",
		"\U00010000\U0001fffd\U0010fffd": "\U00010000\U0001fffd\U0010fffd",
		"e\u0301":                        "e\u0301", // strings are never turned into their form
		"\ufeffa":                        "\ufeffa",
		`\ufeff` + "\ufeff":              "\ufeff\ufeff",
	} {
		s := fed(t, text)
		hold(t, s, text, want, false)
		holdPush(t, s, text, '"', true, api.OK)
		hold(t, s, text+`"`, want, false)
	}
}

func TestStepsByHand(t *testing.T) {
	s, pushed := New(), ""
	for _, r := range []struct {
		bytes  string // all but the last one are OK, and no end
		end    bool
		e      api.Errno
		said   string
		inside bool
	}{
		{"a", false, api.OK, "a", false},
		{"\x1f", false, api.ErrText, "a", false},
		{"\x80", false, api.ErrUTF8, "a", false},
		{"\xe2", false, api.OK, "a", true},
		{"\x82", false, api.OK, "a", true},
		{"\"", false, api.ErrUTF8, "a", true},
		{"\x00", false, api.ErrText, "a", true},
		{"\xac", false, api.OK, "a\u20ac", false},
		{"\\", false, api.OK, "a\u20ac", true},
		{"x", false, api.ErrText, "a\u20ac", true},
		{"\"", false, api.OK, "a\u20ac\"", false},
		{"\\u", false, api.OK, "a\u20ac\"", true},
		{"0", false, api.OK, "a\u20ac\"", true},
		{"g", false, api.ErrText, "a\u20ac\"", true},
		{"0e", false, api.OK, "a\u20ac\"", true},
		{"9", false, api.OK, "a\u20ac\"\u00e9", false},
		{"\\ud", false, api.OK, "a\u20ac\"\u00e9", true},
		{"d", false, api.ErrSurrogate, "a\u20ac\"\u00e9", true},
		{"83d", false, api.OK, "a\u20ac\"\u00e9", true}, // a High has said nothing yet
		{"b", false, api.ErrSurrogate, "a\u20ac\"\u00e9", true},
		{"\\", false, api.OK, "a\u20ac\"\u00e9", true},
		{"t", false, api.ErrSurrogate, "a\u20ac\"\u00e9", true},
		{"u", false, api.OK, "a\u20ac\"\u00e9", true},
		{"a", false, api.ErrSurrogate, "a\u20ac\"\u00e9", true},
		{"DE", false, api.OK, "a\u20ac\"\u00e9", true},
		{"0", false, api.OK, "a\u20ac\"\u00e9", true},
		{"0", false, api.OK, "a\u20ac\"\u00e9\U0001f600", false},
		{"\\ud83f\\udff", false, api.OK, "a\u20ac\"\u00e9\U0001f600", true},
		{"f", false, api.ErrNonchar, "a\u20ac\"\u00e9\U0001f600", true},
		{"d", false, api.OK, "a\u20ac\"\u00e9\U0001f600\U0001fffd", false},
		{"\xef\xbf", false, api.OK, "a\u20ac\"\u00e9\U0001f600\U0001fffd", true},
		{"\xbf", false, api.ErrNonchar, "a\u20ac\"\u00e9\U0001f600\U0001fffd", true},
		{"\xbd", false, api.OK, "a\u20ac\"\u00e9\U0001f600\U0001fffd\ufffd", false},
		{"\"", true, api.OK, "a\u20ac\"\u00e9\U0001f600\U0001fffd\ufffd", false},
		{"\"", false, api.ErrText, "a\u20ac\"\u00e9\U0001f600\U0001fffd\ufffd", false},
		{"a", false, api.ErrText, "a\u20ac\"\u00e9\U0001f600\U0001fffd\ufffd", false},
	} {
		head, last := r.bytes[:len(r.bytes)-1], r.bytes[len(r.bytes)-1]
		if at, end, e := feed(s, head); at != len(head) || end || e != api.OK {
			t.Errorf("%q: behind it %q: %v, error %d at %d", pushed, head, end, e, at)
		}
		pushed += head
		holdPush(t, s, pushed, last, r.end, r.e)
		if r.e == api.OK {
			pushed += string([]byte{last})
		}
		hold(t, s, pushed, r.said, r.inside)
		hold(t, s, pushed, r.said, r.inside) // asking changes nothing
	}
}

func TestBehindTheEnd(t *testing.T) {
	for _, text := range []string{`"`, `a"`, `\u0041"`, `\ud83d\ude00"`, "\u00e9\"", `\\"`} {
		s := fed(t, text)
		said, _ := wantSaid(t, text)
		for range 2 {
			for x := range 256 {
				holdPush(t, s, text, byte(x), false, api.ErrText)
			}
			hold(t, s, text, said, false)
		}
	}
}

// R3: what was answered stays, whatever is pushed later.
func TestTextStays(t *testing.T) {
	s, want := New(), ""
	var told, kept []string
	for range 50 {
		for _, part := range []string{"a", "\u00e9", `\n`, `\ud83d\ude00`} {
			for i := range len(part) {
				text := s.Text()
				told, kept = append(told, text), append(kept, strings.Clone(text))
				if _, e := s.Push(part[i]); e != api.OK {
					t.Fatalf("%q: error %d", part, e)
				}
			}
		}
		want += "a\u00e9\n\U0001f600"
	}
	hold(t, s, "many parts", want, false)
	for i, text := range told {
		if text != kept[i] {
			t.Errorf("Text behind %d bytes has become %q", i, text)
		}
	}
}

// P12.1 and P12.2: all units, all pairs, all scalars

// inAllLetters answers the four digits of u, in small letters, in great ones and in both.
func inAllLetters(u int) []string {
	small := fmt.Sprintf("%04x", u)
	great := strings.ToUpper(small)
	return []string{small, great, small[:1] + great[1:3] + small[3:], great[:2] + small[2:]}
}

// whyNone tells by a look at each unit that begins with the digits that u has to its left, what is wrong with all of them behind no High.
func whyNone(u, open int) api.Errno {
	first := u >> (4 * open) << (4 * open)
	halves, blocked := true, true
	for v := first; v < first+1<<(4*open); v++ {
		low := v >= 0xDC00 && v <= 0xDFFF
		halves = halves && low
		blocked = blocked && (low || isNonchar(rune(v)))
	}
	switch {
	case halves:
		return api.ErrSurrogate
	case blocked:
		return api.ErrNonchar
	}
	return api.OK
}

func TestEachUnit(t *testing.T) {
	var why [4][0x10000]api.Errno
	for open := range 4 {
		for u := range 0x10000 {
			if mask := 1<<(4*open) - 1; u&mask == 0 {
				why[open][u] = whyNone(u, open)
			} else {
				why[open][u] = why[open][u&^mask]
			}
		}
	}
	for u := range 0x10000 {
		for _, digits := range inAllLetters(u) {
			holdUnit(t, `\u`+digits, func(size int) api.Errno { return why[4-size][u] }, rune(u))
		}
	}
}

// holdUnit holds one unit alone, told what is wrong with it at each count of its digits.
func holdUnit(t *testing.T, text string, why func(size int) api.Errno, c rune) {
	t.Helper()
	s := fed(t, text[:2])
	for size := 1; size <= 4; size++ {
		e := why(size)
		holdPush(t, s, text[:size+1], text[size+1], false, e)
		if e != api.OK {
			hold(t, s, text[:size+1], "", true)
			return
		}
	}
	if utf16.IsSurrogate(c) {
		hold(t, s, text, "", true)
		holdEnd(t, s, text)
		return
	}
	hold(t, s, text, string(c), false)
}

// TestEachPair has all pairs said by one string. Of a noncharacter the last digit is refused, and a 0 stands in its place.
func TestEachPair(t *testing.T) {
	s, count := New(), 0
	var want strings.Builder
	for c := rune(0x10000); c <= api.MaxScalar; c++ {
		h, l := utf16.EncodeRune(c)
		text := `\u` + strconv.FormatInt(int64(h), 16) + `\u` + strconv.FormatInt(int64(l), 16)
		head, last, said := text[:11], text[11], c
		if at, _, e := feed(s, head); e != api.OK {
			t.Fatalf("%s: error %d at %d", text, e, at)
		}
		if isNonchar(c) {
			holdPush(t, s, head, last, false, api.ErrNonchar)
			last, said = '0', c&^0xF
		}
		if s.Len() != count || !s.Inside() {
			t.Fatalf("%s: Len is %d, not %d, Inside %v", head, s.Len(), count, s.Inside())
		}
		holdPush(t, s, head, last, false, api.OK)
		count++
		want.WriteRune(said)
	}
	hold(t, s, "all pairs", want.String(), false)
}

// TestEachHighBehindEachByte holds what stands behind each High against the few answers that there are.
func TestEachHighBehindEachByte(t *testing.T) {
	for h := 0xD800; h <= 0xDBFF; h++ {
		text := fmt.Sprintf(`\u%04x`, h)
		s := fed(t, text)
		for x := range 256 {
			switch {
			case x == '\\':
			case x < 0x20:
				holdPush(t, s, text, byte(x), false, api.ErrText)
			case x >= 0x80 && x < 0xC2 || x > 0xF4:
				holdPush(t, s, text, byte(x), false, api.ErrUTF8)
			default:
				holdPush(t, s, text, byte(x), false, api.ErrSurrogate)
			}
		}
		hold(t, s, text, "", true)
		holdEnd(t, s, text)
	}
}

// TestEachScalarInBytes has all scalars said by their bytes; of a noncharacter the last byte is refused, and no other one. BD is put in its place, which may stand wherever a noncharacter's last byte does, but for FDD0 to FDEF, where it is FDFD.
func TestEachScalarInBytes(t *testing.T) {
	s, count := New(), 0
	var want strings.Builder
	for c := rune(0x20); c <= api.MaxScalar; c++ {
		if c == '"' || c == '\\' || utf16.IsSurrogate(c) {
			continue
		}
		text, said := string(c), c
		head, last := text[:len(text)-1], text[len(text)-1]
		if at, _, e := feed(s, head); e != api.OK {
			t.Fatalf("%x: error %d at %d", c, e, at)
		}
		if isNonchar(c) {
			holdPush(t, s, head, last, false, api.ErrNonchar)
			last, said = 0xBD, c&^0x3F|0x3D
		}
		if s.Len() != count || s.Inside() != (head != "") {
			t.Fatalf("%x: Len is %d, not %d, Inside %v", c, s.Len(), count, s.Inside())
		}
		holdPush(t, s, head, last, false, api.OK)
		count++
		want.WriteRune(said)
	}
	hold(t, s, "all scalars", want.String(), false)
}

// P12.1 to P12.3: by the letters

func allBytes() []byte {
	list := make([]byte, 256)
	for x := range list {
		list[x] = byte(x)
	}
	return list
}

// TestAllShortTexts goes through all that is right of one byte, and of up to three chosen letters, with each byte behind it.
func TestAllShortTexts(t *testing.T) {
	walk(t, "", allBytes(), allBytes(), 1)
	walk(t, "", []byte("a\"\\u0d\xc3\xa9\xe2\xef\xbf\xbe\xf0\x9f"), allBytes(), 3)
}

// TestOnFromChosenBeginnings goes through all that goes on by up to four letters from where a half, a pair or a noncharacter is near.
func TestOnFromChosenBeginnings(t *testing.T) {
	letters := []byte("\\\"ud08cFeg\xc3\xbf")
	for _, text := range []string{`\u`, `\ud`, `\ufd`, `\uff`, `\ud83f`, `\ud83f\u`, `\uDBFF\uD`, `\ud83f\udf`, `\ud83e\udf`, `\ud83d\ude00`, "\xef", "\xf0\x9f"} {
		walk(t, text, letters, letters, 4)
	}
}

// P12.3 by the words: what was pushed, and was OK, can be brought to its end, at each place of longer texts, with each refused byte ahead of it.
func TestBroughtToItsEndEverywhere(t *testing.T) {
	for _, text := range []string{
		"a\u00e9\u20ac\U0001f600\ufffd\U0010fffd",
		`\"\\\/\b\f\n\r\tx`,
		`\u0041\ud83d\ude00\uDBFF\uDFFD\uFDCF\uFFFD`,
		"\u00e9" + `\ud83f\udffd` + "\u00e9" + `\n\u00e9\ud800\udc00` + "\ue000",
	} {
		for at := range len(text) + 1 {
			holdOn(t, text[:at], allBytes())
		}
	}
}

// TestMillionBytes: a Push takes as long behind many bytes as behind few.
func TestMillionBytes(t *testing.T) {
	for part, said := range map[string]string{"a": "a", "\u20ac": "\u20ac", `\n`: "\n", `\u00e9`: "\u00e9", `\ud83d\ude00`: "\U0001f600"} {
		times := 1000000 / len(part)
		s := New()
		for i := range times {
			if _, _, e := feed(s, part); e != api.OK || s.Len() != i+1 {
				t.Fatalf("%q: error %d, Len %d, not %d", part, e, s.Len(), i+1)
			}
			if i%1000 == 0 {
				holdPush(t, s, part, 0x1F, false, api.ErrText)
			}
		}
		hold(t, s, part, strings.Repeat(said, times), false)
		holdPush(t, s, part, '"', true, api.OK)
	}
}
