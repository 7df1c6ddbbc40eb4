package gram

import (
	"encoding/json"
	"math"
	"strings"
	"testing"

	"orthoepy/api"
)

// The tests hold the package against answers written out by hand, and against the chapter's letters: a token may come next, if some tokens behind it make a text of all, and whether they do is told by Go's own reader of JSON.
//
// A row of tokens is written as a string, a letter each: n, t, f, 0 (a TInt), s (a TStr) and the six signs.

const (
	letters  = "ntf0s[]{}:,"
	begin    = "ntf0s[{" // what a value begins with
	noLetter = " "       // a kind that is none
)

var kinds = map[byte]int{'n': api.TNull, 't': api.TTrue, 'f': api.TFalse, '0': api.TInt, 's': api.TStr, '[': api.TOpen, ']': api.TClose, '{': api.TBegin, '}': api.TEnd, ':': api.TColon, ',': api.TComma}

// nones are numbers that are no kind, some of them like one, if bits were cut off.
var nones = []int{0, -1, -2, -api.TNull, -api.TStr, -api.TClose, -api.TComma, api.TComma + 1, api.TComma + 2, 99, 255, 256, 1 << 20, math.MaxInt, math.MinInt, math.MaxInt32, math.MinInt32}

func init() {
	for _, k := range kinds {
		nones = append(nones, 256+k, k-256, 1<<16+k, 1<<32+k, 1<<32-k, math.MinInt+k, k<<4+16)
	}
}

// take takes all of row, whose every token may stand there.
func take(t *testing.T, g *Gram, row string) {
	for i := range len(row) {
		if !g.Take(kinds[row[i]]) {
			t.Helper() // not ahead of all: it takes its time, and there are many
			t.Fatalf("%.60q: %q at %d is not taken", row, row[i], i)
		}
	}
}

func taken(t *testing.T, row string) *Gram {
	t.Helper()
	g := New()
	take(t, g, row)
	return g
}

// state is what a Gram says of itself.
type state struct {
	next        string // of letters, those that may come next
	depth       int
	name, ended bool
}

func told(g *Gram) state {
	s := state{depth: g.Depth(), name: g.Name(), ended: g.Ended()}
	for i := range len(letters) {
		if g.May(kinds[letters[i]]) {
			s.next += letters[i : i+1]
		}
	}
	for _, k := range nones {
		if g.May(k) {
			s.next += noLetter
		}
	}
	return s
}

// inOrder answers the letters of row in the order in which told tells them.
func inOrder(row string) string {
	out := ""
	for _, x := range letters {
		if strings.ContainsRune(row, x) {
			out += string(x)
		}
	}
	return out
}

// hold holds what g says of itself, row being what was taken.
func hold(t *testing.T, g *Gram, row string, want state) {
	t.Helper()
	want.next = inOrder(want.next)
	for range 2 { // asking changes nothing
		if got := told(g); got != want {
			t.Errorf("%.60q: %v, not %v", row, got, want)
		}
	}
}

// refuse has g take all that may not come next, and holds that nothing comes of it.
func refuse(t *testing.T, g *Gram, row string, want state) {
	t.Helper()
	for i := range len(letters) {
		if !strings.Contains(want.next, letters[i:i+1]) && g.Take(kinds[letters[i]]) {
			t.Errorf("%.60q: %q is taken", row, letters[i])
		}
	}
	for _, k := range nones {
		if g.Take(k) {
			t.Errorf("%.60q: the kind %d is taken", row, k)
		}
	}
	hold(t, g, row, want)
}

// closers answers what ends all that is open behind row, of a text so far.
func closers(row string) string {
	out := ""
	for i := range len(row) {
		switch row[i] {
		case '[':
			out = "]" + out
		case '{':
			out = "}" + out
		case ']', '}':
			out = out[1:]
		}
	}
	return out
}

// By hand

func TestExamples(t *testing.T) {
	hold(t, taken(t, "{"), "{", state{next: "s}", depth: 1, name: true})
	hold(t, taken(t, "{s:0,"), "{s:0,", state{next: "s", depth: 1, name: true})
}

// contexts are where a value may stand: what is ahead of it, what may stand there in its place, what may stand behind it.
var contexts = []struct {
	head, first, behind string
	depth               int
}{
	{"", begin, "", 0},

	{"[", begin + "]", ",]", 1},
	{"[n,", begin, ",]", 1},
	{"[[],s,", begin, ",]", 1},
	{"{s:", begin, ",}", 1},
	{"{s:n,s:", begin, ",}", 1},
	{"{s:{},s:[],s:", begin, ",}", 1},

	{"[[", begin + "]", ",]", 2},
	{"[n,[", begin + "]", ",]", 2},
	{"[[n,", begin, ",]", 2},
	{"[{s:", begin, ",}", 2},
	{"[{},{s:s,s:", begin, ",}", 2},
	{"{s:[", begin + "]", ",]", 2},
	{"{s:[],s:[{},", begin, ",]", 2},
	{"{s:{s:", begin, ",}", 2},
	{"{s:{},s:{s:0,s:", begin, ",}", 2},

	{"[[[", begin + "]", ",]", 3},
	{"[{s:[", begin + "]", ",]", 3},
	{"{s:[{s:", begin, ",}", 3},
	{"{s:{s:{s:", begin, ",}", 3},
	{"[[{s:{s:[t,[", begin + "]", ",]", 6},
}

// wholes are values.
var wholes = []string{"n", "t", "f", "0", "s", "[]", "{}", "[n]", "[s]", "[t,f]", "[[]]", "[{}]", "{s:0}", "{s:s}", "{s:s,s:n}", "{s:[]}", "{s:{}}", "[[],{},s]", "{s:[],s:{},s:0}", "[[[]],{s:{s:[]}}]"}

// insideRows tell what may come next behind values that are begun, wherever they stand.
var insideRows = []struct {
	rows []string
	want state
}{
	{[]string{"["}, state{next: begin + "]", depth: 1}},
	{[]string{"[n", "[t", "[f", "[0", "[s", "[[]", "[{}", "[[s]", "[{s:s}", "[n,s", "[s,[]", "[[],{}"}, state{next: ",]", depth: 1}},
	{[]string{"[n,", "[s,", "[[],", "[{},", "[{s:n},", "[n,s,", "[0,[n],"}, state{next: begin, depth: 1}},
	{[]string{"{"}, state{next: "s}", depth: 1, name: true}},
	{[]string{"{s", "{s:n,s", "{s:[],s", "{s:{},s:s,s"}, state{next: ":", depth: 1}},
	{[]string{"{s:", "{s:n,s:", "{s:s,s:", "{s:[],s:"}, state{next: begin, depth: 1}},
	{[]string{"{s:n", "{s:t", "{s:f", "{s:0", "{s:s", "{s:[]", "{s:{}", "{s:[s]", "{s:{s:s}", "{s:n,s:s", "{s:{},s:[]"}, state{next: ",}", depth: 1}},
	{[]string{"{s:n,", "{s:s,", "{s:[],", "{s:{},", "{s:[n,n],", "{s:n,s:s,"}, state{next: "s", depth: 1, name: true}},
	{[]string{"[[", "{s:[", "[n,[", "{s:n,s:["}, state{next: begin + "]", depth: 2}},
	{[]string{"[{", "{s:{", "[n,{", "{s:n,s:{"}, state{next: "s}", depth: 2, name: true}},
	{[]string{"[[n,", "{s:[n,", "[{s:", "{s:{s:", "{s:[[],"}, state{next: begin, depth: 2}},
	{[]string{"[{s:n", "{s:{s:n", "[{s:[]"}, state{next: ",}", depth: 2}},
	{[]string{"[[n", "{s:[n", "{s:[{}"}, state{next: ",]", depth: 2}},
	{[]string{"[{s:n,", "{s:{s:n,", "[{s:[n],"}, state{next: "s", depth: 2, name: true}},
	{[]string{"[{s", "{s:{s", "[{s:n,s"}, state{next: ":", depth: 2}},
}

// byHand calls f with each row that the tables tell, and what holds of it.
func byHand(f func(row string, want state)) {
	for _, c := range contexts {
		f(c.head, state{next: c.first, depth: c.depth})
		for _, whole := range wholes {
			f(c.head+whole, state{next: c.behind, depth: c.depth, ended: c.head == ""})
		}
		for _, r := range insideRows {
			for _, row := range r.rows {
				want := r.want
				want.depth += c.depth
				f(c.head+row, want)
			}
		}
	}
}

func TestEachKindEverywhere(t *testing.T) {
	byHand(func(row string, want state) { hold(t, taken(t, row), row, want) })
}

// TestTakeAsMay has each kind taken by a Gram of its own.
func TestTakeAsMay(t *testing.T) {
	byHand(func(row string, want state) {
		for i := range len(letters) {
			may := strings.Contains(want.next, letters[i:i+1])
			if got := taken(t, row).Take(kinds[letters[i]]); got != may {
				t.Errorf("%q: Take of %q is %v", row, letters[i], got)
			}
		}
		for _, k := range nones {
			if taken(t, row).Take(k) {
				t.Errorf("%q: the kind %d is taken", row, k)
			}
		}
	})
}

// TestRefusedLeavesAll has all that may not come next refused, then the text brought to its end with the same refused at each place of that.
func TestRefusedLeavesAll(t *testing.T) {
	byHand(func(row string, want state) {
		g := taken(t, row)
		refuse(t, g, row, want)
		tail := tailOf(t, row)
		for i := range len(tail) {
			take(t, g, tail[i:i+1])
			on := row + tail[:i+1]
			refuse(t, g, on, told(taken(t, on)))
		}
		hold(t, g, row+tail, state{ended: true})
	})
}

func TestNewIsOfNothing(t *testing.T) {
	empty := state{next: begin}
	hold(t, New(), "", empty)
	one, other := New(), New()
	take(t, one, "[{s")
	hold(t, other, "", empty)
	take(t, other, "{")
	hold(t, one, "[{s", state{next: ":", depth: 2})
	hold(t, other, "{", state{next: "s}", depth: 1, name: true})
	hold(t, New(), "", empty)
}

// TestStepsByHand holds what is told behind each token of one text.
func TestStepsByHand(t *testing.T) {
	g, row := New(), ""
	for _, r := range []struct {
		token string
		want  state
	}{
		{"{", state{next: "s}", depth: 1, name: true}},
		{"s", state{next: ":", depth: 1}},
		{":", state{next: begin, depth: 1}},
		{"[", state{next: begin + "]", depth: 2}},
		{"0", state{next: ",]", depth: 2}},
		{",", state{next: begin, depth: 2}},
		{"{", state{next: "s}", depth: 3, name: true}},
		{"s", state{next: ":", depth: 3}},
		{":", state{next: begin, depth: 3}},
		{"s", state{next: ",}", depth: 3}},
		{",", state{next: "s", depth: 3, name: true}},
		{"s", state{next: ":", depth: 3}},
		{":", state{next: begin, depth: 3}},
		{"{", state{next: "s}", depth: 4, name: true}},
		{"}", state{next: ",}", depth: 3}},
		{"}", state{next: ",]", depth: 2}},
		{",", state{next: begin, depth: 2}},
		{"[", state{next: begin + "]", depth: 3}},
		{"]", state{next: ",]", depth: 2}},
		{"]", state{next: ",}", depth: 1}},
		{",", state{next: "s", depth: 1, name: true}},
		{"s", state{next: ":", depth: 1}},
		{":", state{next: begin, depth: 1}},
		{"f", state{next: ",}", depth: 1}},
		{"}", state{ended: true}},
	} {
		take(t, g, r.token)
		row += r.token
		hold(t, g, row, r.want)
		refuse(t, g, row, r.want)
	}
}

// TestSignsThatEnd: none where a comma stands ahead of it, where another sort is open, or where nothing is.
func TestSignsThatEnd(t *testing.T) {
	for row, signs := range map[string]string{
		"[": "]", "[n": "]", "[n,": "",
		"{": "}", "{s:n": "}", "{s:n,": "", "{s": "", "{s:": "", "{s:n,s": "", "{s:n,s:": "",
		"": "", "n": "", "[]": "", "{}": "", "[{}]": "",
		"[[": "]", "{s:[": "]", "[{": "}", "{s:{": "}",
		"[[]": "]", "{s:[]": "}", "[{}": "]", "{s:{}": "}",
		"[[],": "", "{s:[],": "", "[{},": "", "{s:{},": "",
		"[[{s:[n": "]", "[[{s:[n]": "}", "[[{s:[n]}": "]", "[[{s:[n]}]": "]",
		"{s:{s:[{": "}", "{s:{s:[{}": "]", "{s:{s:[{}]": "}", "{s:{s:[{}]}": "}",
	} {
		for _, sign := range []string{"]", "}"} {
			g, want := taken(t, row), strings.Contains(signs, sign)
			if g.May(kinds[sign[0]]) != want || g.Take(kinds[sign[0]]) != want {
				t.Errorf("%q: %s is not as wanted: %v", row, sign, want)
			}
		}
	}
}

func TestNothingBehindAWholeText(t *testing.T) {
	for _, row := range wholes {
		g := taken(t, row)
		for range 2 {
			refuse(t, g, row, state{ended: true})
		}
	}
}

// P13.1 and P13.3: by the letters

var words = strings.NewReplacer("n", " null", "t", " true", "f", " false", "0", " 0", "s", ` "a"`)

// isText tells whether row is a text.
func isText(row string) bool { return json.Valid([]byte(words.Replace(row))) }

// allCloserRows answers all rows of signs that end, of that length.
func allCloserRows(size int) []string {
	rows := []string{""}
	for range size {
		var more []string
		for _, row := range rows {
			more = append(more, row+"]", row+"}")
		}
		rows = more
	}
	return rows
}

// whatEnds answers tokens behind row that make it a text, the fewest if there are some.
func whatEnds(row string) (string, bool) {
	open := strings.Count(row, "[") + strings.Count(row, "{") - strings.Count(row, "]") - strings.Count(row, "}")
	if open < 0 {
		return "", false
	}
	for _, few := range []string{"", "n", ":n", "s:n"} { // what is begun of a member, or behind a comma
		for _, signs := range allCloserRows(open) {
			if isText(row + few + signs) {
				return few + signs, true
			}
		}
	}
	return "", false
}

func tailOf(t *testing.T, row string) string {
	t.Helper()
	tail, ok := whatEnds(row)
	if !ok {
		t.Fatalf("%q: nothing makes a text of it", row)
	}
	return tail
}

// wanted is P13.1 by its letters, of letters, all others being refused.
func wanted(row, letters string) state {
	want := state{depth: len(closers(row)), ended: isText(row)}
	for i := range len(letters) {
		if _, ok := whatEnds(row + letters[i:i+1]); ok {
			want.next += letters[i : i+1]
		}
	}
	if strings.Contains(want.next, "s") {
		_, want.name = whatEnds(row + "s:")
	}
	return want
}

// walk holds row, and all that begins texts and goes on from it by at most most of the letters.
func walk(t *testing.T, row, letters string, most int) {
	t.Helper()
	want := wanted(row, letters)
	g := taken(t, row)
	got := told(g)
	got.next = strings.Map(func(x rune) rune {
		if strings.ContainsRune(letters, x) {
			return x
		}
		return -1
	}, got.next)
	if got.next != inOrder(want.next) || got.depth != want.depth || got.name != want.name || got.ended != want.ended {
		t.Errorf("%q: %v, not %v", row, got, want)
	}
	holdEnd(t, g, row)
	if most == 0 {
		return
	}
	for i := range len(want.next) {
		walk(t, row+want.next[i:i+1], letters, most-1)
	}
}

// holdEnd brings g to its end by no more tokens than are open, and three.
func holdEnd(t *testing.T, g *Gram, row string) {
	t.Helper()
	tail := tailOf(t, row)
	if len(tail) > g.Depth()+3 {
		t.Errorf("%q: it takes %q to its end, with %d open", row, tail, g.Depth())
	}
	take(t, g, tail)
	if !g.Ended() || g.Depth() != 0 || g.Name() {
		t.Errorf("%q: %v", row+tail, told(g))
	}
}

// TestAllShortRows goes through all that begins texts, of up to four tokens of all kinds, and of up to seven of chosen ones.
func TestAllShortRows(t *testing.T) {
	walk(t, "", letters, 4)
	walk(t, "", "ns[]{}:,", 7)
}

// TestOnFromWithin goes on where both sorts are open.
func TestOnFromWithin(t *testing.T) {
	for _, row := range []string{"[{s:[", "{s:[{", "[[{s:{s:n", "{s:{s:[[n,", "[n,{s:n,s:[{},", "[{s:[{s:[{s:"} {
		walk(t, row, "ns[]{}:,", 4)
	}
}

// TestBroughtToItsEndEverywhere breaks long texts off at each place.
func TestBroughtToItsEndEverywhere(t *testing.T) {
	for _, text := range []string{
		"[n,t,f,0,s,[],{},[n,[s],{s:n}],{s:[n]}]",
		"{s:n,s:t,s:{s:[0,s,{s:{}}],s:s},s:[],s:[{s:[{}]}]}",
		"[[[{s:{s:{s:[n],s:[]}},s:0},{}],[]],[[[]]]]",
	} {
		for at := range len(text) + 1 {
			holdEnd(t, taken(t, text[:at]), text[:at])
		}
	}
}

// TestEndsByAsking brings what was taken to its end by what May tells alone: the sign that ends, if it may, else a colon, else a value, else a name.
func TestEndsByAsking(t *testing.T) {
	byHand(func(row string, want state) {
		g, text := taken(t, row), row
		for steps := 0; !g.Ended(); steps++ {
			if steps > want.depth+3 {
				t.Fatalf("%q: not at its end behind %q", row, text)
			}
			for _, x := range []byte("]}:ns") {
				if g.Take(kinds[x]) {
					text += string(rune(x))
					break
				}
			}
		}
		if !isText(text) {
			t.Errorf("%q: that is no text: %q", row, text)
		}
	})
}

// Deep ones

const deep = api.MaxLimit + 1000 // more than any limit lets a text have

func TestDeepOfEachSort(t *testing.T) {
	for _, r := range []struct {
		head, tail string
		begun      state // behind one head
	}{
		{"[", "]", state{next: begin + "]", depth: 1}},
		{"[n,", "]", state{next: begin, depth: 1}},
		{"{s:", "}", state{next: begin, depth: 1}},
		{"[{s:n,s:", "}]", state{next: begin, depth: 2}},
		{"{s:[", "]}", state{next: begin + "]", depth: 2}},
	} {
		g := New()
		for i := range deep {
			take(t, g, r.head)
			if g.Depth() != (i+1)*r.begun.depth || g.Name() || g.Ended() {
				t.Fatalf("%d times %q: %d, %v, %v", i+1, r.head, g.Depth(), g.Name(), g.Ended())
			}
		}
		r.begun.depth *= deep
		refuse(t, g, r.head, r.begun)
		take(t, g, "s")
		for i := range deep {
			take(t, g, r.tail)
			if last := i == deep-1; g.Depth() != (deep-i-1)*len(r.tail) || g.Name() || g.Ended() != last {
				t.Fatalf("%d times %q: %d, %v, %v", i+1, r.tail, g.Depth(), g.Name(), g.Ended())
			}
		}
		refuse(t, g, r.tail, state{ended: true})
	}
}

// sortAt tells whether a list is open at a depth (else an object), in no short pattern.
func sortAt(depth int) bool { return (depth*depth+depth/3)%7 < 3 }

// TestBehindWhatWasWithin: behind the end of each the one around it is open again, of whichever sort.
func TestBehindWhatWasWithin(t *testing.T) {
	const most = 3000
	g := New()
	for depth := range most {
		if sortAt(depth) {
			take(t, g, "[")
		} else {
			take(t, g, "{s:")
		}
	}
	take(t, g, "[]")
	for depth := most - 1; depth >= 0; depth-- {
		end, other, on := "]", "}", "{s:[n]}"
		if !sortAt(depth) {
			end, other, on = "}", "]", "s:[{},n]"
		}
		if g.Take(kinds[other[0]]) {
			t.Fatalf("at %d: %s is taken", depth, other)
		}
		hold(t, g, end, state{next: "," + end, depth: depth + 1})
		take(t, g, ","+on)
		hold(t, g, on, state{next: "," + end, depth: depth + 1})
		take(t, g, end)
	}
	hold(t, g, "all", state{ended: true})
}

// TestManyInARow: many values, and many members, side by side and within others.
func TestManyInARow(t *testing.T) {
	for _, r := range []struct {
		head, part, tail string
		want             state
	}{
		{"[n", ",n", "]", state{next: ",]", depth: 1}},
		{"[n", ",[{}]", "]", state{next: ",]", depth: 1}},
		{"{s:n", ",s:s", "}", state{next: ",}", depth: 1}},
		{"{s:[{s:n", ",s:{s:[]}", "}]}", state{next: ",}", depth: 3}},
	} {
		g := taken(t, r.head)
		for range 200000 {
			take(t, g, r.part)
		}
		refuse(t, g, r.part, r.want)
		take(t, g, r.tail)
		hold(t, g, r.tail, state{ended: true})
	}
}

// Copy

func TestCopyIsAlike(t *testing.T) {
	byHand(func(row string, want state) {
		g := taken(t, row)
		c := g.Copy()
		hold(t, c, row, want)
		hold(t, g, row, want)
		refuse(t, c.Copy(), row, want)
		holdEnd(t, c, row)
		hold(t, g, row, want)
		holdEnd(t, g, row)
	})
}

// TestCopyGoesItsOwnWay breaks texts off at each place, and has the copy and the first go on in ways of their own, by turns, each to its end.
func TestCopyGoesItsOwnWay(t *testing.T) {
	for _, text := range []string{
		"[[[[[[[[[n]]]]]]]]]",
		"{s:{s:{s:{s:{s:n}}}}}",
		"[{s:[{s:[{s:[{s:n}]}]}]}]",
		"[n,[t,{s:f,s:{s:[]}},[]],{}]",
	} {
		for at := range len(text) {
			first := taken(t, text[:at])
			goOwnWays(t, first.Copy(), first, text[:at], text[at:])
			first = taken(t, text[:at])
			goOwnWays(t, first, first.Copy(), text[:at], text[at:])
		}
	}
}

// goOwnWays takes one by rest to its end, a token by turns with other, which goes to its end as fast as it can. Each is held against one that never had a copy.
func goOwnWays(t *testing.T, one, other *Gram, row, rest string) {
	t.Helper()
	tail := tailOf(t, row)
	for i := range max(len(rest), len(tail)) {
		if i < len(rest) {
			take(t, one, rest[i:i+1])
		}
		on, end := row+rest[:min(i+1, len(rest))], row+tail[:min(i, len(tail))]
		hold(t, one, on, told(taken(t, on)))
		hold(t, other, end, told(taken(t, end)))
		if i < len(tail) {
			take(t, other, tail[i:i+1])
			end += tail[i : i+1]
		}
		hold(t, one, on, told(taken(t, on)))
		hold(t, other, end, told(taken(t, end)))
	}
	hold(t, one, row+rest, state{ended: true})
	hold(t, other, row+tail, state{ended: true})
}

// TestCopyOpensOthers: some of the lists that were open have ended; where the first opens lists in their place, and a copy objects, each has its own, at any depth.
func TestCopyOpensOthers(t *testing.T) {
	for _, depth := range []int{1, 2, 3, 4, 5, 7, 8, 9, 16, 17, 31, 32, 33, 64, 100, 1000} {
		for _, left := range []int{1, (depth + 1) / 2, depth} {
			g := taken(t, strings.Repeat("[", depth)+"n"+strings.Repeat("]", depth-left))
			c := g.Copy()
			again := c.Copy()
			more := depth - left + 1
			take(t, g, ",")
			take(t, c, ",")
			for range more {
				take(t, g, "[")
				take(t, c, "{s:")
			}
			hold(t, again, "[", state{next: ",]", depth: left})
			take(t, g, "n")
			take(t, c, "n")
			for i := range more {
				hold(t, g, "[", state{next: ",]", depth: left + more - i})
				hold(t, c, "{", state{next: ",}", depth: left + more - i})
				take(t, g, "]")
				take(t, c, "}")
			}
			for _, x := range []*Gram{g, again, c} {
				hold(t, x, "[", state{next: ",]", depth: left})
				take(t, x, strings.Repeat("]", left))
				hold(t, x, "]", state{ended: true})
			}
		}
	}
}

func TestCopiesOfADeepOne(t *testing.T) {
	g := taken(t, strings.Repeat("[{s:", deep/2))
	c := g.Copy()
	take(t, c, "n"+strings.Repeat("}]", deep/2))
	hold(t, c, "}]", state{ended: true})
	hold(t, g, "[{s:", state{next: begin, depth: deep})
	d := g.Copy()
	take(t, g, "[")
	hold(t, d, "[{s:", state{next: begin, depth: deep})
	take(t, d, "{}")
	hold(t, g, "[", state{next: begin + "]", depth: deep + 1})
	hold(t, d, "{}", state{next: ",}", depth: deep})
}

// P13.2

func TestFirst(t *testing.T) {
	var want [256]int
	for text, kind := range map[string]int{"n": api.TNull, "t": api.TTrue, "f": api.TFalse, "-0123456789": api.TInt, `"`: api.TStr, "[": api.TOpen, "]": api.TClose, "{": api.TBegin, "}": api.TEnd, ":": api.TColon, ",": api.TComma} {
		for i := range len(text) {
			want[text[i]] = kind
		}
	}
	for x, kind := range want {
		for range 2 {
			if got := First(byte(x)); got != kind {
				t.Errorf("%#x: %d, not %d", x, got, kind)
			}
		}
	}
}
