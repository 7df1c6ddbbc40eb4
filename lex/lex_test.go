package lex

import (
	"encoding/json"
	"fmt"
	"math"
	"math/rand/v2"
	"slices"
	"strconv"
	"strings"
	"testing"

	"orthoepy/api"
	"orthoepy/number"
	"orthoepy/str"
)

// The tests hold the package against answers written out by hand, against rows of words of which it is known what they are made of, and against a plain second reading, which goes through a whole text, a word at a time, and asks number and str alone.

// A plain second reading

const (
	numberBytes = "0123456789-+.eE"
	signs       = "[]{}:,"
	blanks      = " \n\r\t"
)

var signKinds = []int{api.TOpen, api.TClose, api.TBegin, api.TEnd, api.TColon, api.TComma}

// names are the words that stand for themselves.
var names = []struct {
	text string
	kind int
}{{"null", api.TNull}, {"true", api.TTrue}, {"false", api.TFalse}}

// state is what a lexer says of itself.
type state struct{ at, inside, len int }

func told(l *Lexer) state { return state{l.At(), l.Inside(), l.Len()} }

// reading is what a text comes to.
type reading struct {
	words []api.Token // those that are whole ahead of the end
	state             // behind the text, or ahead of the byte that is not OK
	e     api.Errno   // that byte's
	last  []api.Token // that of End
	ende  api.Errno   // End's
}

// read reads s anew, ahead of each byte as if nothing were known of it.
func read(s string) reading {
	var r reading
	for r.at < len(s) {
		from, rest := r.at, s[r.at:]
		sign := strings.IndexByte(signs, rest[0])
		switch x := rest[0]; {
		case strings.IndexByte(blanks, x) >= 0:
			r.at++
		case sign >= 0:
			r.at++
			r.words = append(r.words, api.Token{Kind: signKinds[sign], At: from, End: r.at})
		case x == '"':
			r.readString(s)
		case x == '-' || x >= '0' && x <= '9':
			r.readNumber(s)
		case x == 'n' || x == 't' || x == 'f':
			r.readName(s)
		default:
			r.e = api.ErrText
		}
		if r.e != api.OK || r.inside != 0 {
			break
		}
	}
	if r.e == api.OK && r.inside != 0 && r.inside != api.TInt {
		r.ende = api.ErrEnd
	}
	return r
}

func (r *reading) readString(s string) {
	from, text := r.at, str.New()
	r.inside = api.TStr
	for r.at++; r.at < len(s); r.at++ {
		end, e := text.Push(s[r.at])
		if e != api.OK {
			r.e = e
			break
		}
		if end {
			r.at++
			r.words = append(r.words, api.Token{Kind: api.TStr, At: from, End: r.at, S: text.Text()})
			r.inside = 0
			return
		}
	}
	r.len = text.Len()
}

func (r *reading) readNumber(s string) {
	from, n := r.at, number.New()
	r.inside = api.TInt
	for ; r.at < len(s) && strings.IndexByte(numberBytes, s[r.at]) >= 0; r.at++ {
		if r.e = n.Push(s[r.at]); r.e != api.OK {
			return
		}
	}
	v, e := n.End()
	word := []api.Token{{Kind: api.TInt, At: from, End: r.at, N: v}}
	if e != api.OK {
		word = nil
	}
	if r.at == len(s) {
		r.last, r.ende = word, e
		return
	}
	if e == api.ErrEnd {
		e = api.ErrText
	}
	// A byte that begins none leaves the number as it is: it stays the word that is begun.
	if e == api.OK && strings.IndexByte(signs+blanks+`"ntf`, s[r.at]) < 0 {
		e = api.ErrText
	}
	if r.e = e; e == api.OK {
		r.words, r.inside = append(r.words, word...), 0
	}
}

func (r *reading) readName(s string) {
	for _, name := range names {
		if name.text[0] != s[r.at] {
			continue
		}
		for i := range len(name.text) {
			if r.at+i == len(s) || s[r.at+i] != name.text[i] {
				if r.at+i < len(s) {
					r.e = api.ErrText
				}
				r.at, r.inside = r.at+i, name.kind
				return
			}
		}
		r.words = append(r.words, api.Token{Kind: name.kind, At: r.at, End: r.at + len(name.text)})
		r.at += len(name.text)
		return
	}
}

// Helpers

// fed answers a lexer of s, every byte of which is taken, and its words.
func fed(t *testing.T, s string) (*Lexer, []api.Token) {
	t.Helper()
	l := New()
	var words []api.Token
	for i := range len(s) {
		whole, e := l.Push(s[i])
		if e != api.OK {
			t.Fatalf("%.80q: error %d at %d", s, e, i)
		}
		words = append(words, whole...)
	}
	return l, words
}

// holdPush pushes x behind s, and holds what comes of it and what the lexer says of itself then.
func holdPush(t *testing.T, l *Lexer, s string, x byte, words []api.Token, e api.Errno, then state) {
	t.Helper()
	got, err := l.Push(x)
	if !slices.Equal(got, words) || err != e {
		t.Errorf("%.80q: Push(%q) is %v, %d, not %v, %d", s, x, got, err, words, e)
	}
	if got := told(l); got != then {
		t.Errorf("%.80q: behind Push(%q) it is at %v, not %v", s, x, got, then)
	}
}

// holdEnd asks for End twice, and holds what it tells, and that it changes nothing.
func holdEnd(t *testing.T, l *Lexer, s string, words []api.Token, e api.Errno) {
	t.Helper()
	before := told(l)
	for range 2 {
		if got, err := l.End(); !slices.Equal(got, words) || err != e {
			t.Errorf("%.80q: End is %v, %d, not %v, %d", s, got, err, words, e)
		}
		if got := told(l); got != before {
			t.Errorf("%.80q: End leaves it at %v, not %v", s, got, before)
		}
	}
}

// holdAll holds what All tells of s, and that it leaves what is handed in.
func holdAll(t *testing.T, s string, words []api.Token, at int, e api.Errno) {
	t.Helper()
	b := []byte(s)
	got, n, err := All(b)
	if !slices.Equal(got, words) || n != at || err != e {
		t.Errorf("All(%.80q) is %v, %d, %d, not %v, %d, %d", s, got, n, err, words, at, e)
	}
	if string(b) != s {
		t.Errorf("All(%.80q) changes it to %.80q", s, b)
	}
}

// holdWhole holds all that there is to ask of s against the second reading: All, and byte by byte Push, End, At, Inside and Len; what is refused is asked once more, and the words are held together behind all calls.
func holdWhole(t *testing.T, s string) {
	t.Helper()
	whole := read(s)
	switch {
	case whole.e != api.OK:
		holdAll(t, s, nil, whole.at, whole.e)
	case whole.ende != api.OK:
		holdAll(t, s, nil, len(s), whole.ende)
	default:
		holdAll(t, s, append(slices.Clone(whole.words), whole.last...), len(s), api.OK)
	}
	l := New()
	var words [][]api.Token
	before := read("")
	for i := range len(s) {
		holdEnd(t, l, s[:i], before.last, before.ende)
		now := read(s[:i+1])
		if now.e != api.OK {
			holdPush(t, l, s[:i], s[i], nil, now.e, before.state)
			holdPush(t, l, s[:i], s[i], nil, now.e, before.state)
			holdEnd(t, l, s[:i], before.last, before.ende)
			break
		}
		got, e := l.Push(s[i])
		if e != api.OK || !slices.Equal(got, now.words[len(before.words):]) || told(l) != now.state {
			t.Fatalf("%.80q: Push(%q) is %v, %d, at %v, not %v, at %v", s[:i], s[i], got, e, told(l), now.words[len(before.words):], now.state)
		}
		words, before = append(words, got), now
	}
	holdEnd(t, l, s, before.last, before.ende)
	if got := slices.Concat(words...); !slices.Equal(got, before.words) {
		t.Errorf("%.80q: its words became %v, not %v", s, got, before.words)
	}
}

func whole(kind, at, end int) api.Token { return api.Token{Kind: kind, At: at, End: end} }

func numbered(at, end, n int) api.Token {
	return api.Token{Kind: api.TInt, At: at, End: end, N: n}
}

func said(at, end int, s string) api.Token {
	return api.Token{Kind: api.TStr, At: at, End: end, S: s}
}

// By hand

func TestExamples(t *testing.T) {
	holdAll(t, "12,", []api.Token{numbered(0, 2, 12), whole(api.TComma, 2, 3)}, 3, api.OK)
	holdAll(t, "tru", nil, 3, api.ErrEnd)
	holdAll(t, "1.5 ", nil, 3, api.ErrFraction)
}

func TestNew(t *testing.T) {
	l := New()
	if got := told(l); got != (state{}) {
		t.Errorf("New is at %v", got)
	}
	holdEnd(t, l, "", nil, api.OK)
	holdAll(t, "", nil, 0, api.OK)
	if got, n, e := All(nil); len(got) != 0 || n != 0 || e != api.OK {
		t.Errorf("All(nil) is %v, %d, %d", got, n, e)
	}
}

// outside answers what Push tells of x outside of a word, at that place.
func outside(x byte, at int) ([]api.Token, api.Errno, state) {
	switch then := (state{at: at + 1}); x {
	case ' ', '\n', '\r', '\t':
		return nil, api.OK, then
	case '[':
		return []api.Token{whole(api.TOpen, at, at+1)}, api.OK, then
	case ']':
		return []api.Token{whole(api.TClose, at, at+1)}, api.OK, then
	case '{':
		return []api.Token{whole(api.TBegin, at, at+1)}, api.OK, then
	case '}':
		return []api.Token{whole(api.TEnd, at, at+1)}, api.OK, then
	case ':':
		return []api.Token{whole(api.TColon, at, at+1)}, api.OK, then
	case ',':
		return []api.Token{whole(api.TComma, at, at+1)}, api.OK, then
	case 'n':
		return nil, api.OK, state{at + 1, api.TNull, 0}
	case 't':
		return nil, api.OK, state{at + 1, api.TTrue, 0}
	case 'f':
		return nil, api.OK, state{at + 1, api.TFalse, 0}
	case '"':
		return nil, api.OK, state{at + 1, api.TStr, 0}
	case '-', '0', '1', '2', '3', '4', '5', '6', '7', '8', '9':
		return nil, api.OK, state{at + 1, api.TInt, 0}
	}
	return nil, api.ErrText, state{at: at}
}

func TestBytesOutside(t *testing.T) {
	for _, s := range []string{"", " ", "\t\r\n ", "null", "true,", "[", "{}", `"a"`, `""`, "7 ", "-0]", "[1,"} {
		for x := range 256 {
			l, _ := fed(t, s)
			words, e, then := outside(byte(x), len(s))
			holdPush(t, l, s, byte(x), words, e, then)
		}
	}
}

// TestBytesInNumber: those of a number are number's, all others end it, be it one or not.
func TestBytesInNumber(t *testing.T) {
	for _, s := range []string{"0", "-0", "7", "-12", "9007199254740991", "1.0", "2.50e1", "1e5", "0e-3", "-0.0E+0"} {
		n := number.New()
		for i := range len(s) {
			n.Push(s[i])
		}
		v, e := n.End()
		if e != api.OK {
			t.Fatalf("%q is none", s)
		}
		ended := []api.Token{numbered(1, 1+len(s), v)}
		for x := range 256 {
			l, _ := fed(t, " "+s)
			if before := (state{1 + len(s), api.TInt, 0}); told(l) != before {
				t.Errorf("%q: it is at %v", s, told(l))
			}
			if strings.IndexByte(numberBytes, byte(x)) >= 0 {
				then := state{1 + len(s), api.TInt, 0}
				want := n.Copy().Push(byte(x))
				if want == api.OK {
					then.at++
				}
				holdPush(t, l, s, byte(x), nil, want, then)
				continue
			}
			words, e, then := outside(byte(x), 1+len(s))
			if e == api.OK {
				words = append(slices.Clone(ended), words...)
			} else {
				then.inside = api.TInt
			}
			holdPush(t, l, s, byte(x), words, e, then)
		}
	}
}

// TestNumberThatIsNone: what End would tell of it is told ahead of what the byte is, ErrEnd as ErrText.
func TestNumberThatIsNone(t *testing.T) {
	for s, want := range map[string]struct{ byByte, byEnd api.Errno }{
		"-":                  {api.ErrText, api.ErrEnd},
		"1.":                 {api.ErrText, api.ErrEnd},
		"-0.":                {api.ErrText, api.ErrEnd},
		"1e":                 {api.ErrText, api.ErrEnd},
		"1.5E":               {api.ErrText, api.ErrEnd},
		"1e+":                {api.ErrText, api.ErrEnd},
		"10e-":               {api.ErrText, api.ErrEnd},
		"1.5":                {api.ErrFraction, api.ErrFraction},
		"-0.25":              {api.ErrFraction, api.ErrFraction},
		"1.25e1":             {api.ErrFraction, api.ErrFraction},
		"90071992547409910":  {api.ErrRange, api.ErrRange}, // a power may make it less, as of those below
		"-90071992547409910": {api.ErrRange, api.ErrRange},
		"100000000000000000": {api.ErrRange, api.ErrRange},
	} {
		for x := range 256 {
			if strings.IndexByte(numberBytes, byte(x)) < 0 {
				l, _ := fed(t, s)
				holdPush(t, l, s, byte(x), nil, want.byByte, state{len(s), api.TInt, 0})
				holdEnd(t, l, s, nil, want.byEnd)
			}
		}
		holdAll(t, s, nil, len(s), want.byEnd)
		holdAll(t, s+"?", nil, len(s), want.byByte)
	}
	holdAll(t, "90071992547409910e-1,", []api.Token{numbered(0, 20, api.MaxWhole), whole(api.TComma, 20, 21)}, 21, api.OK)
}

// TestNumberRefused: what can't become a whole one within bounds is refused at once.
func TestNumberRefused(t *testing.T) {
	holdAll(t, "9007199254740993", nil, 15, api.ErrRange)
	holdAll(t, "[-9007199254740992,", nil, 17, api.ErrRange)
	holdAll(t, "1.5e99", nil, 5, api.ErrRange)
	holdAll(t, "1.5e-", nil, 4, api.ErrFraction)
	holdAll(t, "1.5e0", nil, 5, api.ErrFraction)
	holdAll(t, "-9007199254740991", []api.Token{numbered(0, 17, -api.MaxWhole)}, 17, api.OK)
}

// TestEndedNumber: by each of what may end it.
func TestEndedNumber(t *testing.T) {
	seven := numbered(0, 1, 7)
	for s, want := range map[string][]api.Token{
		"7":       {seven},
		"7 ":      {seven},
		"7\n":     {seven},
		"7\r":     {seven},
		"7\t":     {seven},
		"7[":      {seven, whole(api.TOpen, 1, 2)},
		"7]":      {seven, whole(api.TClose, 1, 2)},
		"7{":      {seven, whole(api.TBegin, 1, 2)},
		"7}":      {seven, whole(api.TEnd, 1, 2)},
		"7:":      {seven, whole(api.TColon, 1, 2)},
		"7,":      {seven, whole(api.TComma, 1, 2)},
		"7null":   {seven, whole(api.TNull, 1, 5)},
		"7true":   {seven, whole(api.TTrue, 1, 5)},
		"7false":  {seven, whole(api.TFalse, 1, 6)},
		"7\"7\"":  {seven, said(1, 4, "7")},
		"7 7":     {seven, numbered(2, 3, 7)},
		"7, -8 ]": {seven, whole(api.TComma, 1, 2), numbered(3, 5, -8), whole(api.TClose, 6, 7)},
	} {
		holdAll(t, s, want, len(s), api.OK)
		holdWhole(t, s)
	}
	for s, at := range map[string]int{"7x": 1, "7-": 1, "7+": 1, "7\x00": 1, "7\xff": 1, "7.x": 2, "07": 1, "7e7e": 3, "7 x": 2, "7N": 1} {
		holdAll(t, s, nil, at, api.ErrText)
		holdWhole(t, s)
	}
}

// TestTwoFromOnePush: the number and the word of one byte that ends it come together, no sooner.
func TestTwoFromOnePush(t *testing.T) {
	for i := range len(signs) {
		l, words := fed(t, " -30")
		if len(words) != 0 {
			t.Errorf("-30: %v", words)
		}
		holdPush(t, l, " -30", signs[i], []api.Token{numbered(1, 4, -30), whole(signKinds[i], 4, 5)}, api.OK, state{at: 5})
	}
	l, _ := fed(t, "[-30")
	holdPush(t, l, "[-30", 'n', []api.Token{numbered(1, 4, -30)}, api.OK, state{5, api.TNull, 0})
	l, _ = fed(t, "[-30")
	holdPush(t, l, "[-30", '"', []api.Token{numbered(1, 4, -30)}, api.OK, state{5, api.TStr, 0})
}

func TestBytesInNames(t *testing.T) {
	for _, name := range names {
		for i := 1; i < len(name.text); i++ {
			s := "," + name.text[:i]
			for x := range 256 {
				l, _ := fed(t, s)
				before := state{len(s), name.kind, 0}
				if told(l) != before {
					t.Errorf("%q: it is at %v", s, told(l))
				}
				switch {
				case byte(x) != name.text[i]:
					holdPush(t, l, s, byte(x), nil, api.ErrText, before)
				case i+1 < len(name.text):
					holdPush(t, l, s, byte(x), nil, api.OK, state{len(s) + 1, name.kind, 0})
				default:
					holdPush(t, l, s, byte(x), []api.Token{whole(name.kind, 1, len(s)+1)}, api.OK, state{at: len(s) + 1})
				}
			}
			l, _ := fed(t, s)
			holdEnd(t, l, s, nil, api.ErrEnd)
			holdAll(t, s, nil, len(s), api.ErrEnd)
		}
	}
}

// TestBytesInString: all are str's.
func TestBytesInString(t *testing.T) {
	for _, inner := range []string{"", "a", "a b", "\u00e9", "\xc3", "\xe2\x82", "\xf0\x9f\x98", `\`, `\u`, `\u0`, `\u00e`, `\ud`, `\ud83d`, `\ud83d\`, `\ud83d\u`, `\ud83d\ude0`, `\ufd`, "\xef\xb7", "a\xed", `\n\"`} {
		s := `["` + inner
		for x := range 256 {
			text := str.New()
			for i := range len(inner) {
				text.Push(inner[i])
			}
			l, _ := fed(t, s)
			before := state{len(s), api.TStr, text.Len()}
			if told(l) != before {
				t.Errorf("%q: it is at %v, not %v", s, told(l), before)
			}
			switch end, e := text.Push(byte(x)); {
			case e != api.OK:
				holdPush(t, l, s, byte(x), nil, e, before)
				holdEnd(t, l, s, nil, api.ErrEnd)
			case end:
				holdPush(t, l, s, byte(x), []api.Token{said(1, len(s)+1, text.Text())}, api.OK, state{at: len(s) + 1})
			default:
				holdPush(t, l, s, byte(x), nil, api.OK, state{len(s) + 1, api.TStr, text.Len()})
			}
		}
	}
}

func TestStrings(t *testing.T) {
	for s, want := range map[string]string{
		`""`:                          "",
		`"\"\\\/\b\f\n\r\t"`:          "\"\\/\b\f\n\r\t",
		`"\u0041\u00e9\u20AC"`:        "A\u00e9\u20ac",
		`"\ud83d\ude00"`:              "\U0001f600",
		"\"A\u00e9\u20ac\U0001f600\"": "A\u00e9\u20ac\U0001f600",
		"\"\x7f\u0080\u07ff\u0800\uffef\U00010000\U0010fffd\"": "\x7f\u0080\u07ff\u0800\uffef\U00010000\U0010fffd",
		`"[]{}:, 1null"`:   "[]{}:, 1null",
		`"\u0000\u001f"`:   "\x00\x1f",
		`"\u0022\u005c\/"`: `"\/`,
	} {
		holdAll(t, " "+s, []api.Token{said(1, 1+len(s), want)}, 1+len(s), api.OK)
		holdWhole(t, s+s+" "+s)
	}
	for s, want := range map[string]struct {
		at int
		e  api.Errno
	}{
		`"`:               {1, api.ErrEnd},
		`"a`:              {2, api.ErrEnd},
		`"\`:              {2, api.ErrEnd},
		`"\u00`:           {5, api.ErrEnd},
		`"\ud83d`:         {7, api.ErrEnd},
		"\"\xc3":          {2, api.ErrEnd},
		"\"\n\"":          {1, api.ErrText},
		"\"\x00":          {1, api.ErrText},
		"\"\x1f":          {1, api.ErrText},
		`"\x`:             {2, api.ErrText},
		`"\ug`:            {3, api.ErrText},
		`"\ud83d"`:        {7, api.ErrSurrogate},
		`"\ud83dx`:        {7, api.ErrSurrogate},
		`"\ud83d\n`:       {8, api.ErrSurrogate},
		`"\ud83d\u0`:      {9, api.ErrSurrogate},
		`"\udc`:           {4, api.ErrSurrogate},
		"\"\x80":          {1, api.ErrUTF8},
		"\"\xff":          {1, api.ErrUTF8},
		"\"\xc3\"":        {2, api.ErrUTF8},
		"\"\xed\xa0":      {2, api.ErrUTF8},
		"\"\xf4\x90":      {2, api.ErrUTF8},
		`"\ufdd`:          {5, api.ErrNonchar},
		`"\uffff"`:        {6, api.ErrNonchar},
		"\"\xef\xbf\xbf":  {3, api.ErrNonchar},
		"\"\xef\xb7\x90":  {3, api.ErrNonchar},
		`"a" "b" "\ufffe`: {14, api.ErrNonchar},
	} {
		holdAll(t, s, nil, want.at, want.e)
		holdWhole(t, s)
	}
}

// TestLen: of a string alone, by scalars that are said.
func TestLen(t *testing.T) {
	s := "7 \"a\u00e9\\n\\u00e9\\ud83d\\ude00\U0001f600\"\"b\" null"
	want := "000" + "011" + "22" + "333333" + "444444444444" + "5555" + "6" + "00" + "1" + "0" + "0000" // a digit a byte, ahead of it
	l := New()
	for i := range len(s) {
		if got := strconv.Itoa(l.Len()); got != want[i:i+1] {
			t.Errorf("%q: Len is %s, not %s", s[:i], got, want[i:i+1])
		}
		if _, e := l.Push(s[i]); e != api.OK {
			t.Fatalf("%q: error %d", s[:i], e)
		}
	}
	if l.Len() != 0 || len(want) != len(s) {
		t.Error(l.Len(), len(want), len(s))
	}
}

// TestTwoWords: each two, right behind one another and with blanks between.
func TestTwoWords(t *testing.T) {
	words := []struct {
		text string
		is   api.Token
	}{
		{"null", whole(api.TNull, 0, 4)}, {"true", whole(api.TTrue, 0, 4)}, {"false", whole(api.TFalse, 0, 5)},
		{"0", numbered(0, 1, 0)}, {"-12", numbered(0, 3, -12)}, {"1.50e2", numbered(0, 6, 150)},
		{`""`, said(0, 2, "")}, {`"a"`, said(0, 3, "a")}, {`"\u00e9"`, said(0, 8, "\u00e9")},
		{"[", whole(api.TOpen, 0, 1)}, {"]", whole(api.TClose, 0, 1)}, {"{", whole(api.TBegin, 0, 1)},
		{"}", whole(api.TEnd, 0, 1)}, {":", whole(api.TColon, 0, 1)}, {",", whole(api.TComma, 0, 1)},
	}
	for _, a := range words {
		for _, b := range words {
			for _, gap := range []string{"", " ", "\n", "\r", "\t", " \n\r\t\t "} {
				s := a.text + gap + b.text
				holdWhole(t, s)
				if gap == "" && a.is.Kind == api.TInt && b.is.Kind == api.TInt {
					continue // they are one number, or none
				}
				second := b.is
				second.At, second.End = len(a.text)+len(gap), len(s)
				holdAll(t, s, []api.Token{a.is, second}, len(s), api.OK)
			}
		}
	}
	holdAll(t, "0-12", nil, 1, api.ErrText)
	holdAll(t, "-120", []api.Token{numbered(0, 4, -120)}, 4, api.OK)
	holdAll(t, "-121.50e2", []api.Token{numbered(0, 9, -12150)}, 9, api.OK)
}

func TestWordsBegun(t *testing.T) {
	for s, want := range map[string]struct {
		words []api.Token
		e     api.Errno
	}{
		"":            {nil, api.OK},
		" \t":         {nil, api.OK},
		"null":        {nil, api.OK},
		"1 ":          {nil, api.OK},
		"1,":          {nil, api.OK},
		`"a"`:         {nil, api.OK},
		"1":           {[]api.Token{numbered(0, 1, 1)}, api.OK},
		" 2,-34":      {[]api.Token{numbered(3, 6, -34)}, api.OK},
		"-0.00":       {[]api.Token{numbered(0, 5, 0)}, api.OK},
		"9.0e0":       {[]api.Token{numbered(0, 5, 9)}, api.OK},
		"-":           {nil, api.ErrEnd},
		"[1.":         {nil, api.ErrEnd},
		"1e":          {nil, api.ErrEnd},
		"1.5":         {nil, api.ErrFraction},
		"10000000000": {[]api.Token{numbered(0, 11, 10000000000)}, api.OK},
		"n":           {nil, api.ErrEnd},
		"tru":         {nil, api.ErrEnd},
		"[fals":       {nil, api.ErrEnd},
		`"`:           {nil, api.ErrEnd},
		`"1`:          {nil, api.ErrEnd},
		`1"`:          {nil, api.ErrEnd},
		"1n":          {nil, api.ErrEnd},
	} {
		l, _ := fed(t, s)
		holdEnd(t, l, s, want.words, want.e)
		holdWhole(t, s)
	}
}

// TestGoesOnBehindEnd: whatever End tells, the word that is begun goes on.
func TestGoesOnBehindEnd(t *testing.T) {
	s := " -12.5e2,\"a\\u00e9\" null\ttrue[false]1 "
	l := New()
	var words []api.Token
	for i := range len(s) {
		for range i % 3 {
			l.End()
		}
		got, e := l.Push(s[i])
		if e != api.OK {
			t.Fatalf("%q: error %d", s[:i], e)
		}
		words = append(words, got...)
	}
	want := []api.Token{numbered(1, 8, -1250), whole(api.TComma, 8, 9), said(9, 18, "a\u00e9"), whole(api.TNull, 19, 23), whole(api.TTrue, 24, 28), whole(api.TOpen, 28, 29), whole(api.TFalse, 29, 34), whole(api.TClose, 34, 35), numbered(35, 36, 1)}
	if !slices.Equal(words, want) {
		t.Errorf("%v", words)
	}
}

// By the letters

// TestShortRows: all rows of up to five of some bytes, with which words begin, go on, end and are spoilt.
func TestShortRows(t *testing.T) {
	for _, alphabet := range []string{"1.e- ,x", "\"\\n\xc3\xa90", "nul\"1 ", "t0r:-"} {
		rows := []string{""}
		for range 5 {
			var longer []string
			for _, row := range rows {
				for i := range len(alphabet) {
					s := row + alphabet[i:i+1]
					holdWhole(t, s)
					if read(s).e == api.OK { // behind what is refused nothing is asked
						longer = append(longer, s)
					}
				}
			}
			rows = longer
		}
	}
}

// TestRefused: at each place of a text each byte that is refused there is pushed, and what follows is as if it had not been.
func TestRefused(t *testing.T) {
	for _, s := range []string{
		" [ -10 , 1.50e+2,\"\\u00e9\\ud83d\\ude00\" ]",
		"{\"\u00e9\u20ac\U0001f600\":null,\"\\n\":true}false 0",
		"90071992547409910e-1,9007199254740991 1.5e1 ",
		"nulltrue\t\r\nfalse\"a\"7\"b\"8null",
	} {
		l := New()
		before := read("")
		var words []api.Token
		for i := range len(s) {
			for x := range 256 {
				if now := read(s[:i] + string([]byte{byte(x)})); now.e != api.OK {
					holdPush(t, l, s[:i], byte(x), nil, now.e, before.state)
				}
			}
			holdEnd(t, l, s[:i], before.last, before.ende)
			got, e := l.Push(s[i])
			now := read(s[:i+1])
			if e != api.OK || told(l) != now.state {
				t.Fatalf("%q: Push(%q): error %d, at %v, not %v", s[:i], s[i], e, told(l), now.state)
			}
			words, before = append(words, got...), now
		}
		if !slices.Equal(words, before.words) {
			t.Errorf("%q: %v, not %v", s, words, before.words)
		}
	}
}

// At random

// drawNumber answers a number, written in one of many ways.
func drawNumber(r *rand.Rand) (string, int) {
	n := r.IntN(2*api.MaxWhole+1) - api.MaxWhole
	if r.IntN(2) == 0 {
		n = r.IntN(2001) - 1000
	}
	s := strconv.Itoa(n)
	switch r.IntN(5) {
	case 0:
		return s + "." + strings.Repeat("0", 1+r.IntN(3)), n
	case 1:
		if n == 0 {
			return "-0", 0
		}
		k := 1 + r.IntN(3)
		return s + strings.Repeat("0", k) + fmt.Sprintf("%c-%d", "eE"[r.IntN(2)], k), n
	case 2:
		if cut := len(s) - 1 - r.IntN(2); cut > 1 && s[0] != '-' {
			return s[:cut] + "." + s[cut:] + fmt.Sprintf("e%s%d", []string{"", "+", "+0", "00"}[r.IntN(4)], len(s)-cut), n
		}
	}
	return s, n
}

// drawScalar answers one that is no noncharacter, written in one of the ways there are.
func drawScalar(r *rand.Rand) (string, rune) {
	var c rune
	for bad := true; bad; {
		c = []rune{r.Int32N(0x30), r.Int32N(0x80), r.Int32N(0x800), r.Int32N(0x10000), r.Int32N(0x110000)}[r.IntN(5)]
		bad = c >= 0xd800 && c <= 0xdfff || c >= 0xfdd0 && c <= 0xfdef || c&0xfffe == 0xfffe
	}
	escape := r.IntN(3) == 0
	if i := strings.IndexRune("\"\\/\b\f\n\r\t", c); i >= 0 && r.IntN(2) == 0 {
		return `\` + `"\/bfnrt`[i:i+1], c
	}
	switch {
	case c >= 0x10000 && escape:
		return fmt.Sprintf(`\u%04x\u%04X`, 0xd800+(c-0x10000)>>10, 0xdc00+(c-0x10000)&0x3ff), c
	case c < 0x20 || c == '"' || c == '\\' || c < 0x10000 && escape:
		return fmt.Sprintf([]string{`\u%04x`, `\u%04X`}[r.IntN(2)], c), c
	}
	return string(c), c
}

func drawBlanks(r *rand.Rand, least int) string {
	s := ""
	for range least + r.IntN(3) {
		i := r.IntN(len(blanks))
		s += blanks[i : i+1]
	}
	return s
}

// drawRow answers a text of words, and which they are. It has no blanks but between two numbers, or some anywhere.
func drawRow(r *rand.Rand) (string, []api.Token) {
	var words []api.Token
	spaced := r.IntN(2) == 0
	s := ""
	for range r.IntN(9) {
		if spaced {
			s += drawBlanks(r, 0)
		}
		w := api.Token{}
		text := ""
		switch k := r.IntN(4); k {
		case 0:
			text, w.N = drawNumber(r)
			w.Kind = api.TInt
			if len(words) > 0 && words[len(words)-1].Kind == api.TInt && words[len(words)-1].End == len(s) {
				s += drawBlanks(r, 1)
			}
		case 1:
			for range r.IntN(5) {
				part, c := drawScalar(r)
				text, w.S = text+part, w.S+string(c)
			}
			text, w.Kind = `"`+text+`"`, api.TStr
		case 2:
			name := names[r.IntN(len(names))]
			text, w.Kind = name.text, name.kind
		case 3:
			i := r.IntN(len(signs))
			text, w.Kind = signs[i:i+1], signKinds[i]
		}
		w.At, w.End = len(s), len(s)+len(text)
		s, words = s+text, append(words, w)
	}
	if spaced {
		s += drawBlanks(r, 0)
	}
	return s, words
}

func TestRandomRows(t *testing.T) {
	r := rand.New(rand.NewPCG(16, 1))
	for range 12000 {
		s, words := drawRow(r)
		holdAll(t, s, words, len(s), api.OK)
		holdWhole(t, s)
		if t.Failed() {
			return
		}
	}
}

func TestRandomRowsSpoilt(t *testing.T) {
	r := rand.New(rand.NewPCG(16, 2))
	for range 20000 {
		s, _ := drawRow(r)
		if s == "" {
			continue
		}
		i, b := r.IntN(len(s)), []byte(s)
		switch r.IntN(3) {
		case 0:
			b[i] = byte(r.IntN(256))
		case 1:
			b[i] = "\"\\ntf0159-+.eE[]{}:, \n\x80\xc3\xff"[r.IntN(25)]
		case 2:
			b = slices.Delete(b, i, i+1)
		}
		holdWhole(t, string(b))
		if t.Failed() {
			return
		}
	}
}

// TestAgainstJSON: what the second reading says of numbers and strings is held against Go's own reader of JSON.
func TestAgainstJSON(t *testing.T) {
	r := rand.New(rand.NewPCG(16, 3))
	for range 3000 {
		s, _ := drawRow(r)
		words, _, _ := All([]byte(s))
		for _, w := range words {
			text := s[w.At:w.End]
			var want any
			if w.Kind < api.TOpen && json.Unmarshal([]byte(text), &want) != nil {
				t.Errorf("%q: %q is no JSON", s, text)
			}
			switch want := want.(type) {
			case float64:
				if w.Kind != api.TInt || float64(w.N) != math.Round(want) || w.S != "" {
					t.Errorf("%q: %q is %v", s, text, w)
				}
			case string:
				if w.Kind != api.TStr || w.S != want || w.N != 0 {
					t.Errorf("%q: %q is %v", s, text, w)
				}
			default:
				if w.N != 0 || w.S != "" {
					t.Errorf("%q: %q is %v", s, text, w)
				}
			}
		}
	}
}

// TestParts: however a text is cut, End, At, Inside and Len being asked at the cuts, its words are the same (P16.4).
func TestParts(t *testing.T) {
	r := rand.New(rand.NewPCG(16, 4))
	for range 3000 {
		s, want := drawRow(r)
		l := New()
		var words []api.Token
		for rest := s; rest != ""; {
			n := r.IntN(len(rest) + 1)
			for i := range n {
				got, e := l.Push(rest[i])
				if e != api.OK {
					t.Fatalf("%q: error %d", s, e)
				}
				words = append(words, got...)
			}
			rest = rest[n:]
			l.End()
			told(l)
		}
		last, e := l.End()
		if words = append(words, last...); e != api.OK || !slices.Equal(words, want) {
			t.Errorf("%q: %v, not %v", s, words, want)
		}
	}
}

// Values and objects

// TestWordsAreValues: what was answered is not changed by what comes later, nor is what comes later by what is done with it.
func TestWordsAreValues(t *testing.T) {
	s := "[12,\"ab\",3]"
	l := New()
	var kept, then [][]api.Token
	for i := range len(s) {
		for range 2 {
			if words, e := l.End(); e == api.OK {
				kept, then = append(kept, words), append(then, slices.Clone(words))
			}
		}
		words, _ := l.Push(s[i])
		kept, then = append(kept, words), append(then, slices.Clone(words))
	}
	all, _, _ := All([]byte(s))
	again, _, _ := All([]byte(s))
	for i := range kept {
		if !slices.Equal(kept[i], then[i]) {
			t.Errorf("%v became %v", then[i], kept[i])
		}
		clear(kept[i])
		_ = append(kept[i][:0], make([]api.Token, cap(kept[i]))...)
	}
	for i := range kept {
		for _, w := range kept[i] {
			if w != (api.Token{}) {
				t.Errorf("%v is shared", w)
			}
		}
	}
	clear(all)
	want := []api.Token{whole(api.TOpen, 0, 1), numbered(1, 3, 12), whole(api.TComma, 3, 4), said(4, 8, "ab"), whole(api.TComma, 8, 9), numbered(9, 10, 3), whole(api.TClose, 10, 11)}
	if !slices.Equal(again, want) {
		t.Errorf("%v", again)
	}
}

// TestSpoiltAnswers: a lexer does not hang on what it answered.
func TestSpoiltAnswers(t *testing.T) {
	s := "1,2,\"a\"null[3"
	l := New()
	var words []api.Token
	for i := range len(s) {
		got, _ := l.Push(s[i])
		words = append(words, got...)
		clear(got[:cap(got)])
		last, _ := l.End()
		clear(last[:cap(last)])
	}
	last, _ := l.End()
	want := []api.Token{numbered(0, 1, 1), whole(api.TComma, 1, 2), numbered(2, 3, 2), whole(api.TComma, 3, 4), said(4, 7, "a"), whole(api.TNull, 7, 11), whole(api.TOpen, 11, 12), numbered(12, 13, 3)}
	if words = append(words, last...); !slices.Equal(words, want) {
		t.Errorf("%v", words)
	}
}

// TestHandedIn: what All was handed may be changed behind it.
func TestHandedIn(t *testing.T) {
	b := []byte(`"abc" 12`)
	words, _, _ := All(b)
	for i := range b {
		b[i] = '?'
	}
	if !slices.Equal(words, []api.Token{said(0, 5, "abc"), numbered(6, 8, 12)}) {
		t.Errorf("%v", words)
	}
}

// TestByTurns: lexers that are fed by turns, one of them with bytes that it refuses, have nothing in common.
func TestByTurns(t *testing.T) {
	texts := []string{"[1.50e1,\"\\ud83d\\ude00\",null]", "\"\u00e9\u20ac\"true -12345,{}", "falsefalse 90071992547409910e-1 \"\"", "nulltrue\"a\\u00e9\"[0,0]"}
	const refusers = "\x00\x80?"
	var lexers []*Lexer
	words := make([][]api.Token, len(texts))
	for range texts {
		lexers = append(lexers, New())
	}
	for i := range 64 {
		for k, s := range texts {
			if i >= len(s) {
				continue
			}
			got, e := lexers[k].Push(s[i])
			if e != api.OK {
				t.Fatalf("%q: error %d at %d", s, e, i)
			}
			words[k] = append(words[k], got...)
			if x := refusers[i%len(refusers)]; k%2 == 1 && read(s[:i+1]+string([]byte{x})).e != api.OK {
				lexers[k].Push(x)
			}
			if got, want := told(lexers[k]), read(s[:i+1]).state; got != want {
				t.Errorf("%q: it is at %v, not %v", s[:i+1], got, want)
			}
		}
	}
	for k, s := range texts {
		last, e := lexers[k].End()
		if want := read(s); e != api.OK || !slices.Equal(append(words[k], last...), append(want.words, want.last...)) {
			t.Errorf("%q: %v, not %v", s, words[k], want.words)
		}
	}
}

// TestLong: a text of a million bytes, of many words and of one.
func TestLong(t *testing.T) {
	const n = 1 << 17
	words, at, e := All([]byte(strings.Repeat("12,null ", n)))
	if len(words) != 3*n || at != 8*n || e != api.OK {
		t.Fatalf("%d, %d, %d", len(words), at, e)
	}
	for i, w := range words {
		want := []api.Token{numbered(i/3*8, i/3*8+2, 12), whole(api.TComma, i/3*8+2, i/3*8+3), whole(api.TNull, i/3*8+3, i/3*8+7)}[i%3]
		if w != want {
			t.Fatalf("%d: %v, not %v", i, w, want)
		}
	}
	long := strings.Repeat("a", 8*n)
	holdAll(t, `"`+long+`"`, []api.Token{said(0, 8*n+2, long)}, 8*n+2, api.OK)
	holdAll(t, `"`+long, nil, 8*n+1, api.ErrEnd)
	noughts := "7." + strings.Repeat("0", 8*n)
	holdAll(t, noughts+"]", []api.Token{numbered(0, len(noughts), 7), whole(api.TClose, len(noughts), len(noughts)+1)}, len(noughts)+1, api.OK)
	holdAll(t, strings.Repeat(" ", 8*n)+"x", nil, 8*n, api.ErrText)
}
