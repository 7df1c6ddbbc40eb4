package nfc

import (
	"math"
	"slices"
	"strings"
	"sync"
	"testing"

	"orthoepy/compose"
	"orthoepy/decomp"
	"orthoepy/hangul"
	"orthoepy/ucd"
)

// The tests hold the package against answers written out by hand, and against the promises' letters reckoned without a look: a form is always made, and what Quick says of each is read from what comes back whole of its parts, and from what is the last part of such.

// tables are built once, since they never change.
var tables = sync.OnceValue(ucd.Build)

// noScalars are halves, negative numbers and numbers beyond the scalars; the lowest bits of some are those of a scalar of which Quick does not say yes, or that has a class.
var noScalars = []rune{
	0xD800, 0xD801, 0xDBFF, 0xDC00, 0xDFFE, 0xDFFF,
	-1, -2, -0x301, -0x958, -0x1161, -0x212B, -0x110000, -0x110000 + 0x301, -0x110000 + 0x212B, math.MinInt32, math.MinInt32 + 1, math.MinInt32 + 0x301, math.MinInt32 + 0x212B,
	0x110000, 0x110001, 0x110301, 0x110334, 0x110958, 0x111161, 0x1111A8, 0x11212B, 0x11AC00, 0x200000, 0x200301, 0x7FFF0301, 0x7FFF212B, math.MaxInt32 - 1, math.MaxInt32,
}

// alphabets are chosen so that their small rows have all that Quick tells of, and all that a form changes: marks that are taken and such that are not, of classes that rise, fall and stay, what is left out, what stands for another, syllables and their parts, and numbers that are no scalars.
var alphabets = [][]rune{
	{'a', 'x', 0xE2, 0x334, 0x323, 0x302, 0x301, 0x345},
	{0x3B1, 0x1F00, 0x1F71, 0x334, 0x313, 0x300, 0x345, -1},
	{0x1100, 0x1161, 0x11A8, 0xAC00, 0xAC01, 0x302E, 0xD800},
	{0x9C7, 0x9BE, 0x9CB, 0xCC6, 0xCC2, 0xCD5, 0x34F, 0x316},
	{0x915, 0x928, 0x93C, 0x958, 0x308, 0x344, 0x94D, 0x110000},
	{'A', 0x30A, 0xC5, 0x212B, 0x30D, 0x316, 0x321, 0x4E3D, 0x2F800},
}

// rows calls do with each row of at most most of those.
func rows(those []rune, most int, do func([]rune)) {
	var grow func(l []rune)
	grow = func(l []rune) {
		do(l)
		if len(l) == most {
			return
		}
		for _, c := range those {
			grow(append(slices.Clone(l), c))
		}
	}
	grow(nil)
}

// formOf is P9.1's Form by its letters.
func formOf(l []rune) []rune { return compose.Compose(tables(), decomp.All(tables(), l)) }

// lasts are those that are the last part of what comes whole of its parts: of two that are joined the second, and the parts of syllables but for the first.
var lasts = sync.OnceValue(func() map[rune]bool {
	m := map[rune]bool{}
	for c := rune(0); c <= 0x10FFFF; c++ {
		if _, b, ok := tables().Pair(c); ok && slices.Equal(formOf([]rune{c}), []rune{c}) {
			m[b] = true
		}
		for i, part := range hangul.Split(c) {
			if i > 0 {
				m[part] = true
			}
		}
	}
	return m
})

// quickOf is P9.2's Quick by its letters.
func quickOf(l []rune) int {
	for i, c := range l {
		if !slices.Equal(formOf([]rune{c}), []rune{c}) {
			return 2
		}
		if class := tables().Class(c); i > 0 && class > 0 && class < tables().Class(l[i-1]) {
			return 2
		}
	}
	if slices.ContainsFunc(l, func(c rune) bool { return lasts()[c] }) {
		return 3
	}
	return 1
}

// formRows are rows with their forms, written out by hand.
var formRows = []struct {
	name    string
	l, want []rune
}{
	{"the empty row", nil, nil},
	{"the empty row", []rune{}, nil},
	{"the chapter's examples", []rune{0x212B}, []rune{0xC5}},
	{"the chapter's examples", []rune{0x65, 0x301}, []rune{0xE9}},
	{"the chapter's examples", []rune{0xE9}, []rune{0xE9}},

	{"plain", []rune{0}, []rune{0}},
	{"plain", []rune{'a', 'b', 'c'}, []rune{'a', 'b', 'c'}},
	{"plain", []rune{0xC6, 0x4E3D, 0xFB01, 0xFFFE, 0x1F600, 0x10FFFF}, []rune{0xC6, 0x4E3D, 0xFB01, 0xFFFE, 0x1F600, 0x10FFFF}},
	{"whole", []rune{0x1EA5, 0x1F82}, []rune{0x1EA5, 0x1F82}},
	{"whole, with a mark of a lower class behind", []rune{0xE9, 0x334}, []rune{0xE9, 0x334}},
	{"whole, with a mark behind that it had to take first", []rune{0xE9, 0x323}, []rune{0x1EB9, 0x301}},

	{"in parts", []rune{0x61, 0x302, 0x301}, []rune{0x1EA5}},
	{"in parts", []rune{0x3B1, 0x313, 0x300, 0x345}, []rune{0x1F82}},
	{"half in parts", []rune{0xE2, 0x301}, []rune{0x1EA5}},
	{"half in parts", []rune{0x1E0B, 0x323}, []rune{0x1E0D, 0x307}},
	{"half in parts", []rune{0x112, 0x300}, []rune{0x1E14}},
	{"in parts of class 0", []rune{0x9C7, 0x9BE}, []rune{0x9CB}},
	{"in parts of class 0", []rune{0xCC6, 0xCC2, 0xCD5}, []rune{0xCCB}},
	{"in parts, with others about", []rune{'x', 'e', 0x301, 'y', 0x301}, []rune{'x', 0xE9, 0xFD}},
	{"in parts of plane 1", []rune{0x11935, 0x11930}, []rune{0x11938}},
	{"parts with nothing ahead", []rune{0x301}, []rune{0x301}},
	{"parts of none", []rune{'x', 0x301, 0x34F, 0x301}, []rune{'x', 0x301, 0x34F, 0x301}},

	{"in no order", []rune{0x65, 0x301, 0x327}, []rune{0x229, 0x301}},
	{"in no order", []rune{0x301, 0x327}, []rune{0x327, 0x301}},
	{"in no order", []rune{0x61, 0x301, 0x334}, []rune{0xE1, 0x334}},
	{"in no order", []rune{'x', 0x30D, 0x334}, []rune{'x', 0x334, 0x30D}},
	{"in no order", []rune{0x44, 0x307, 0x323}, []rune{0x1E0C, 0x307}},
	{"in no order", []rune{0x61, 0x315, 0x300, 0x5AE, 0x300, 0x62}, []rune{0xE0, 0x5AE, 0x300, 0x315, 0x62}},
	{"in no order", []rune{0x5B8, 0x5B9, 0x5B1, 0x591, 0x5C3, 0x5B0, 0x5AC, 0x59F}, []rune{0x5B1, 0x5B8, 0x5B9, 0x591, 0x5C3, 0x5B0, 0x5AC, 0x59F}},
	{"of one class: barred", []rune{0x61, 0x30D, 0x301}, []rune{0x61, 0x30D, 0x301}},
	{"of one class: barred", []rune{0x65, 0x300, 0x301}, []rune{0xE8, 0x301}},

	{"stands for another", []rune{0x37E, 0x2126, 0x387}, []rune{0x3B, 0x3A9, 0xB7}},
	{"stands for another", []rune{0xF900, 0x2F800, 0x2FA1D}, []rune{0x8C48, 0x4E3D, 0x2A600}},
	{"stands for one that has parts", []rune{0x1F71, 0x1FD3}, []rune{0x3AC, 0x390}},
	{"stands for a mark, which is taken", []rune{0x65, 0x341}, []rune{0xE9}},
	{"stands for another, which takes more", []rune{0x212B, 0x301}, []rune{0x1FA}},
	{"left out", []rune{0x958}, []rune{0x915, 0x93C}},
	{"left out", []rune{0x344}, []rune{0x308, 0x301}},
	{"left out, of which one is taken", []rune{0x3B9, 0x344}, []rune{0x390}},
	{"left out, of plane 1", []rune{0x1D160}, []rune{0x1D158, 0x1D165, 0x1D16E}},
	{"left out, in parts", []rune{0x5E9, 0x5BC, 0x5C1}, []rune{0x5E9, 0x5BC, 0x5C1}},

	{"a syllable", []rune{0xAC00}, []rune{0xAC00}},
	{"a syllable", []rune{0xD7A3, 0xAC01}, []rune{0xD7A3, 0xAC01}},
	{"a syllable's parts", []rune{0x1100, 0x1161}, []rune{0xAC00}},
	{"a syllable's parts", []rune{0x1112, 0x1161, 0x11AB}, []rune{0xD55C}},
	{"a syllable and a part", []rune{0xAC00, 0x11A8}, []rune{0xAC01}},
	{"a syllable and a part too many", []rune{0xAC01, 0x11A8}, []rune{0xAC01, 0x11A8}},
	{"parts that are none of a syllable", []rune{0x1100, 0x11A8, 0x1161, 0x1161, 0x1100}, []rune{0x1100, 0x11A8, 0x1161, 0x1161, 0x1100}},
	{"a mark within a syllable", []rune{0x1100, 0x302E, 0x1161}, []rune{0x1100, 0x302E, 0x1161}},
	{"marks behind a syllable", []rune{0x1100, 0x1161, 0x302E, 0x302A}, []rune{0xAC00, 0x302A, 0x302E}},

	{"a negative number", []rune{-1}, []rune{-1}},
	{"a negative number", []rune{-1, 0x301}, []rune{-1, 0x301}},
	{"half of a pair", []rune{0xD800}, []rune{0xD800}},
	{"two halves stay two", []rune{0xD83D, 0xDE00}, []rune{0xD83D, 0xDE00}},
	{"110000", []rune{0x110000}, []rune{0x110000}},
	{"beyond the scalars", []rune{0x11212B, 0x110301, 0x11AC00}, []rune{0x11212B, 0x110301, 0x11AC00}},
	{"no scalar between two that are joined", []rune{'e', -1, 0x301}, []rune{'e', -1, 0x301}},
	{"no scalar between two that are in no order", []rune{'e', 0x301, 0xDC00, 0x327}, []rune{0xE9, 0xDC00, 0x327}},
	{"no scalars about others", []rune{0x110000, 0x65, 0x301, -1, 0x212B, 0xDFFF, 0x1100, 0x1161}, []rune{0x110000, 0xE9, -1, 0xC5, 0xDFFF, 0xAC00}},
}

// P9.1: Form

func TestFormByHand(t *testing.T) {
	for _, r := range formRows {
		if got := Form(tables(), r.l); !slices.Equal(got, r.want) {
			t.Errorf("%s: Form(%X) is %X, not %X", r.name, r.l, got, r.want)
		}
		if got := Form(tables(), r.want); !slices.Equal(got, r.want) {
			t.Errorf("%s: Form(%X) is %X", r.name, r.want, got)
		}
	}
}

func TestFormOfNoScalars(t *testing.T) {
	if got := Form(tables(), noScalars); !slices.Equal(got, noScalars) {
		t.Errorf("of all of them: %X", got)
	}
	for _, c := range noScalars {
		for _, l := range [][]rune{{c}, {c, c}, {c, 0x301}, {0x301, c}, {'e', c, 0x301}, {0x1100, c, 0x1161}, {0xAC00, c, 0x11A8}, {0x301, c, 0x327}} {
			if got := Form(tables(), l); !slices.Equal(got, l) {
				t.Errorf("Form(%X) is %X", l, got)
			}
		}
		if got, want := Form(tables(), []rune{'e', 0x301, c, 0x212B}), []rune{0xE9, c, 0xC5}; !slices.Equal(got, want) {
			t.Errorf("%X among others: %X", c, got)
		}
	}
}

func TestFormOfSmallRows(t *testing.T) {
	for _, those := range alphabets {
		rows(those, 5, func(l []rune) {
			if got, want := Form(tables(), l), formOf(l); !slices.Equal(got, want) {
				t.Fatalf("Form(%X) is %X, not %X", l, got, want)
			}
		})
	}
}

func TestFormOfEachAmongOthers(t *testing.T) {
	for c := rune(-0x1000); c <= 0x111000; c++ {
		for _, l := range [][]rune{{c}, {0xE9, c, 0x334}, {'a', c, 0x302, 0x301}} {
			if got, want := Form(tables(), l), formOf(l); !slices.Equal(got, want) {
				t.Fatalf("Form(%X) is %X, not %X", l, got, want)
			}
		}
	}
}

// As long as a text: what is out of order is at the far end, and what is taken stands far from what takes it.
func TestFormOfLongRows(t *testing.T) {
	const many = 1 << 17
	for _, r := range []struct {
		name    string
		l, want []rune
		quick   int
	}{
		{"plain", slices.Repeat([]rune{'a'}, many), slices.Repeat([]rune{'a'}, many), 1},
		{"in parts", slices.Repeat([]rune{'e', 0x301}, many), slices.Repeat([]rune{0xE9}, many), 3},
		{"in no order at the end", append(slices.Repeat([]rune{'a', 0x30D}, many), 0x334), append(slices.Repeat([]rune{'a', 0x30D}, many-1), 'a', 0x334, 0x30D), 2},
		{"taken from afar", slices.Concat([]rune{'a'}, slices.Repeat([]rune{0x334}, many), []rune{0x301}), slices.Concat([]rune{0xE1}, slices.Repeat([]rune{0x334}, many)), 3},
		{"stands for another at the end", append(slices.Repeat([]rune{0xAC00}, many), 0x212B), append(slices.Repeat([]rune{0xAC00}, many), 0xC5), 2},
	} {
		if got := Form(tables(), r.l); !slices.Equal(got, r.want) {
			t.Errorf("%s: %d of %d are left", r.name, len(got), len(r.l))
		}
		if got, want := Is(tables(), r.l), slices.Equal(r.l, r.want); got != want {
			t.Errorf("%s: Is is %v", r.name, got)
		}
		if got := Quick(tables(), r.l); got != r.quick {
			t.Errorf("%s: Quick is %d, not %d", r.name, got, r.quick)
		}
		if !Equal(tables(), r.l, r.want) || Equal(tables(), r.l, r.want[1:]) {
			t.Errorf("%s: Equal", r.name)
		}
		if got := Text(tables(), string(r.l)); got != string(r.want) {
			t.Errorf("%s: Text of %d bytes has %d", r.name, len(string(r.l)), len(got))
		}
	}
}

// P9.1: Is

func TestIsByHand(t *testing.T) {
	for _, r := range formRows {
		if got, want := Is(tables(), r.l), slices.Equal(r.l, r.want); got != want {
			t.Errorf("%s: Is(%X) is %v", r.name, r.l, got)
		}
		if !Is(tables(), r.want) {
			t.Errorf("%s: Is(%X) is false", r.name, r.want)
		}
	}
}

func TestIsWhateverQuickSays(t *testing.T) {
	for _, r := range []struct {
		l     []rune
		quick int
		want  bool
	}{
		{[]rune{'a', 0x334, 0x30D}, 1, true},
		{[]rune{0xE9, 0x334}, 1, true},
		{[]rune{0x301}, 3, true},
		{[]rune{'x', 0x301}, 3, true},
		{[]rune{0xE9, 0x301}, 3, true},
		{[]rune{'a', 0x30D, 0x301}, 3, true},
		{[]rune{0x1EB9, 0x301}, 3, true},
		{[]rune{0x1161}, 3, true},
		{[]rune{0xAC01, 0x11A8}, 3, true},
		{[]rune{0x915, 0x93C}, 3, true},
		{[]rune{'e', 0x301}, 3, false},
		{[]rune{0xE9, 0x323}, 3, false},
		{[]rune{'a', 0x334, 0x301}, 3, false},
		{[]rune{0x1100, 0x1161}, 3, false},
		{[]rune{0xAC00, 0x11A8}, 3, false},
		{[]rune{0x9C7, 0x9BE}, 3, false},
		{[]rune{0x212B}, 2, false},
		{[]rune{0x958}, 2, false},
		{[]rune{0x30D, 0x334}, 2, false},
	} {
		if quick, got := Quick(tables(), r.l), Is(tables(), r.l); quick != r.quick || got != r.want {
			t.Errorf("%X: Quick is %d, not %d; Is is %v, not %v", r.l, quick, r.quick, got, r.want)
		}
	}
}

func TestIsOfSmallRows(t *testing.T) {
	for _, those := range alphabets {
		rows(those, 5, func(l []rune) {
			if got, want := Is(tables(), l), slices.Equal(formOf(l), l); got != want {
				t.Fatalf("Is(%X) is %v", l, got)
			}
		})
	}
}

func TestIsOfEachAmongOthers(t *testing.T) {
	are := 0
	for c := rune(-0x1000); c <= 0x111000; c++ {
		for _, l := range [][]rune{{c}, {'a', c, 0x334}, {0x30D, c}, {0x1100, c, 0x11A8}} {
			if got, want := Is(tables(), l), slices.Equal(formOf(l), l); got != want {
				t.Fatalf("Is(%X) is %v", l, got)
			}
		}
		if Is(tables(), []rune{c}) {
			are++
		}
	}
	if not := 0x112001 - are; not != 1035+85 {
		t.Errorf("%d are not their form", not)
	}
}

// P9.1: Equal

func TestEqualByHand(t *testing.T) {
	for _, r := range []struct {
		name string
		a, b []rune
		want bool
	}{
		{"the chapter's example", []rune{0xE9}, []rune{0x65, 0x301}, true},
		{"the empty row", nil, nil, true},
		{"the empty row", nil, []rune{}, true},
		{"the empty row and another", nil, []rune{'a'}, false},
		{"the empty row and another", []rune{}, []rune{0x301}, false},
		{"the same", []rune{'a', 0x301, -1}, []rune{'a', 0x301, -1}, true},
		{"one stands for the other", []rune{0x212B}, []rune{0xC5}, true},
		{"none is its form", []rune{0x212B}, []rune{0x41, 0x30A}, true},
		{"none is its form", []rune{0x1E0B, 0x323}, []rune{0x64, 0x307, 0x323}, true},
		{"in another order", []rune{0x65, 0x301, 0x327}, []rune{0x65, 0x327, 0x301}, true},
		{"in another order, of one class", []rune{0x65, 0x301, 0x300}, []rune{0x65, 0x300, 0x301}, false},
		{"in another order, with one of class 0 between", []rune{'x', 0x301, 0x34F, 0x327}, []rune{'x', 0x327, 0x34F, 0x301}, false},
		{"left out, and its parts", []rune{0x958}, []rune{0x915, 0x93C}, true},
		{"a syllable and its parts", []rune{0xAC01}, []rune{0x1100, 0x1161, 0x11A8}, true},
		{"a syllable and a part", []rune{0xAC01}, []rune{0xAC00, 0x11A8}, true},
		{"two syllables", []rune{0xAC01}, []rune{0xAC00}, false},
		{"others", []rune{'a'}, []rune{'b'}, false},
		{"others", []rune{'a'}, []rune{'A'}, false},
		{"one begins the other", []rune{'a'}, []rune{'a', 'a'}, false},
		{"one begins the other's parts", []rune{'e'}, []rune{0xE9}, false},
		{"alike, but not by their form", []rune{0xFB01}, []rune{'f', 'i'}, false},
		{"alike, but not by their form", []rune{0xB5}, []rune{0x3BC}, false},
		{"no scalars", []rune{-1}, []rune{-1}, true},
		{"no scalars", []rune{-1}, []rune{-2}, false},
		{"no scalars", []rune{0xD83D, 0xDE00}, []rune{0x1F600}, false},
		{"no scalars", []rune{0x110000}, []rune{0}, false},
		{"no scalars", []rune{0x110301}, []rune{0x301}, false},
		{"no scalars and forms", []rune{-1, 0xE9, 0x110000}, []rune{-1, 'e', 0x301, 0x110000}, true},
		{"no scalar within a form", []rune{0xE9}, []rune{'e', 0xD800, 0x301}, false},
	} {
		if got := Equal(tables(), r.a, r.b); got != r.want {
			t.Errorf("%s: Equal(%X, %X) is %v", r.name, r.a, r.b, got)
		}
		if got := Equal(tables(), r.b, r.a); got != r.want {
			t.Errorf("%s: Equal(%X, %X) is %v", r.name, r.b, r.a, got)
		}
	}
	for _, r := range formRows {
		if !Equal(tables(), r.l, r.want) || !Equal(tables(), r.want, r.l) {
			t.Errorf("%s: %X and %X are not Equal", r.name, r.l, r.want)
		}
		if Equal(tables(), r.l, append(slices.Clone(r.want), 'x')) {
			t.Errorf("%s: %X is Equal to its form and an x", r.name, r.l)
		}
	}
}

// Two rows have one form just if they are the same in parts.
func TestEqualOfSmallRows(t *testing.T) {
	for _, those := range alphabets {
		var list, parts [][]rune
		rows(those, 3, func(l []rune) {
			list = append(list, l)
			parts = append(parts, decomp.All(tables(), l))
		})
		differ := 0
		for i, a := range list {
			for j, b := range list {
				want := slices.Equal(parts[i], parts[j])
				if got := Equal(tables(), a, b); got != want {
					t.Fatalf("Equal(%X, %X) is %v", a, b, got)
				}
				if want && !slices.Equal(a, b) {
					differ++
				}
			}
		}
		if differ == 0 {
			t.Errorf("of %X no two rows differ in form alone", those)
		}
	}
}

// P9.1: Text

func TestTextByHand(t *testing.T) {
	for _, r := range []struct{ name, s, want string }{
		{"the empty string", "", ""},
		{"its form", "abc", "abc"},
		{"its form", "\x00\x7f\u00e9\uac00\ufffd\ufffe\U0001f600\U0010ffff", "\x00\x7f\u00e9\uac00\ufffd\ufffe\U0001f600\U0010ffff"},
		{"its form, where Quick can't tell", "x\u0301", "x\u0301"},
		{"in parts", "e\u0301", "\u00e9"},
		{"in parts, with others about", "caf\u0065\u0301 \u1100\u1161\u11a8.", "caf\u00e9 \uac01."},
		{"in no order", "e\u0301\u0327", "\u0229\u0301"},
		{"stands for another", "\u212b", "\u00c5"},
		{"stands for another, of plane 2", "\U0002f800", "\u4e3d"},
		{"grows", "x\U0001d15e", "x\U0001d157\U0001d165"},
		{"grows", "\u0958", "\u0915\u093c"},
	} {
		if got := Text(tables(), r.s); got != r.want {
			t.Errorf("%s: Text(%q) is %q, not %q", r.name, r.s, got, r.want)
		}
	}
	for _, r := range formRows {
		if s := string(r.l); slices.Equal([]rune(s), r.l) {
			if got := Text(tables(), s); got != string(r.want) {
				t.Errorf("%s: Text(%q) is %q, not %q", r.name, s, got, string(r.want))
			}
		}
	}
}

// What is no UTF-8 stays, though some of it is not in its form.
func TestTextOfNoUTF8Stays(t *testing.T) {
	for _, wrong := range []string{
		"\xff", "\xfe", "\x80", "\xbf", "\xc3", "\xe2\x84", "\xf0\x9f\x98", "\xc3(", // no beginning, no end
		"\xc0\x80", "\xc1\xbf", "\xe0\x80\x80", "\xe0\x9f\xbf", "\xf0\x80\x80\x80", "\xf0\x8f\xbf\xbf", // longer than it need be
		"\xed\xa0\x80", "\xed\xbf\xbf", "\xed\xa0\xbd\xed\xb8\x80", // halves of a pair
		"\xf4\x90\x80\x80", "\xf5\x80\x80\x80", "\xf8\x88\x80\x80\x80", // beyond the scalars
	} {
		for _, s := range []string{wrong, "a" + wrong, "e\u0301" + wrong, wrong + "e\u0301", "\u212b" + wrong + "\u212b", "e\u0301\u0327" + wrong + "\u1100\u1161"} {
			if got := Text(tables(), s); got != s {
				t.Errorf("Text(%q) is %q", s, got)
			}
		}
	}
}

// Going to runes and back turns all that is no UTF-8 into FFFD, so that it tells what is.
func TestTextOfSmallTexts(t *testing.T) {
	edges := []byte{'A', 'e', 0x80, 0x81, 0x84, 0x8A, 0xA7, 0xAB, 0xC3, 0xCC, 0xE2, 0xED, 0xFF}
	texts, formed := 0, 0
	var grow func(s string)
	grow = func(s string) {
		want := s
		if string([]rune(s)) == s {
			texts++
			want = string(formOf([]rune(s)))
		}
		if want != s {
			formed++
		}
		if got := Text(tables(), s); got != want {
			t.Fatalf("Text(%q) is %q, not %q", s, got, want)
		}
		if len(s) == 5 {
			return
		}
		for _, x := range edges {
			grow(s + string([]byte{x}))
		}
	}
	grow("")
	if texts == 0 || formed == 0 {
		t.Errorf("%d texts, %d not in their form", texts, formed)
	}
}

func TestTextOfEachScalar(t *testing.T) {
	for c := rune(0); c <= 0x10FFFF; c++ {
		if 0xD800 <= c && c <= 0xDFFF {
			continue
		}
		for _, s := range []string{string(c), "e" + string(c) + "\u0301"} {
			if got, want := Text(tables(), s), string(formOf([]rune(s))); got != want {
				t.Fatalf("Text(%q) is %q, not %q", s, got, want)
			}
		}
	}
}

// P9.2

func TestQuickByHand(t *testing.T) {
	for _, r := range []struct {
		name string
		l    []rune
		want int
	}{
		{"the chapter's example", []rune{0x65, 0x301}, 3},
		{"the empty row", nil, 1},
		{"the empty row", []rune{}, 1},
		{"a row of one", []rune{'a'}, 1},
		{"a row of one, of class 1", []rune{0x334}, 1},
		{"a row of one, of class 234", []rune{0x35D}, 1},

		{"a Single", []rune{0x212B}, 2},
		{"a Single", []rune{0x37E}, 2},
		{"a Single of a mark", []rune{0x340}, 2},
		{"a Single of plane 2", []rune{0x2FA1D}, 2},
		{"a Single behind others", []rune{'a', 'b', 0xF900}, 2},
		{"what a Single stands for", []rune{0xC5, 0x3B}, 1},
		{"a Pair that is Joined back", []rune{0xE9}, 1},
		{"a Pair that is Joined back", []rune{0x1EA5, 0x9CB, 0x11938}, 1},
		{"a Pair that is not", []rune{0x958}, 2},
		{"a Pair that is not, of two marks", []rune{0x344}, 2},
		{"a Pair that is not, of one that is not", []rune{0xFB2C}, 2},
		{"a Pair that is not, of plane 1", []rune{'a', 0x1D15E, 'b'}, 2},
		{"a Pair that is not, whole in parts", []rune{0x1D157, 0x1D165}, 1},

		{"a class below", []rune{0x30D, 0x334}, 2},
		{"a class below", []rune{'a', 0x30D, 0x316}, 2},
		{"a class below, by one", []rune{0x94D, 0x3099}, 2},
		{"a class below, by one", []rune{0x5B1, 0x5B0}, 2},
		{"a class below, not of the first two", []rune{'a', 0x316, 0x30D, 'b', 0x30D, 0x316}, 2},
		{"the same class", []rune{0x30D, 0x30D}, 1},
		{"the same class", []rune{0x30D, 0x30E, 0x312}, 1},
		{"a greater class", []rune{0x334, 0x316, 0x30D}, 1},
		{"a greater class, by one", []rune{0x5B0, 0x5B1}, 1},
		{"below one that is not right ahead", []rune{0x30D, 'a', 0x334}, 1},
		{"below one that is not right ahead", []rune{0x30D, -1, 0x334}, 1},
		{"class 0 behind class 0", []rune{'a', 'b'}, 1},
		{"class 0 behind class 1", []rune{0x334, 'a'}, 1},
		{"class 0 behind class 230", []rune{0x30D, 'a'}, 1},
		{"class 0 behind class 240", []rune{0x345, 'a'}, 3},
		{"a class above 0 behind class 0", []rune{'a', 0x334}, 1},
		{"a whole that has class 0, whatever its parts have", []rune{0xE9, 0x334}, 1},

		{"a Second", []rune{0x301}, 3},
		{"a Second", []rune{0x345}, 3},
		{"a Second of class 0", []rune{0x9BE}, 3},
		{"a Second of plane 1", []rune{0x110BA}, 3},
		{"a Second that takes part in none here", []rune{'x', 0x301}, 3},
		{"a Second ahead of others", []rune{0x301, 'a', 'b'}, 3},
		{"a Second behind others", []rune{'a', 'b', 0x327}, 3},
		{"two Seconds", []rune{0x327, 0x301}, 3},
		{"two Seconds of one class", []rune{0x301, 0x301}, 3},
		{"no Second: of Pairs that are left out alone", []rune{0x5BC, 0x1D165}, 1},

		{"Kind 1", []rune{0x1100, 0x1112}, 1},
		{"about Kind 1", []rune{0x10FF, 0x1113}, 1},
		{"Kind 2", []rune{0x1161}, 3},
		{"Kind 2", []rune{0x1175}, 3},
		{"about Kind 2", []rune{0x1160, 0x1176}, 1},
		{"Kind 3", []rune{0x11A8}, 3},
		{"Kind 3", []rune{0x11C2}, 3},
		{"about Kind 3", []rune{0x11A7, 0x11C3}, 1},
		{"Kind 4", []rune{0xAC00, 0xD788}, 1},
		{"Kind 5", []rune{0xAC01, 0xD7A3}, 1},
		{"about Kinds 4 and 5", []rune{0xABFF, 0xD7A4}, 1},
		{"Kinds 1, 2", []rune{0x1100, 0x1161}, 3},
		{"Kinds 4, 3", []rune{0xAC00, 0x11A8}, 3},

		{"a no behind a maybe", []rune{0x65, 0x301, 0x212B}, 2},
		{"a no behind a maybe", []rune{0x1161, 0x958}, 2},
		{"a no behind a maybe", []rune{0x301, 0x327}, 2},
		{"a maybe behind a no", []rune{0x212B, 0x301}, 2},
		{"a maybe behind a no", []rune{0x958, 'a', 0x11A8}, 2},
		{"a maybe behind a no", []rune{0x30D, 0x334, 'e', 0x301}, 2},
		{"a yes behind a no", []rune{0x212B, 'a'}, 2},
		{"a yes behind a maybe", []rune{0x301, 'a'}, 3},

		{"no scalars", []rune{-1}, 1},
		{"no scalars", noScalars, 1},
		{"no scalars and a maybe", []rune{-1, 0x301}, 3},
		{"no scalars and a no", []rune{0xD800, 0x212B, 0x110000}, 2},
	} {
		if got := Quick(tables(), r.l); got != r.want {
			t.Errorf("%s: Quick(%X) is %d, not %d", r.name, r.l, got, r.want)
		}
	}
}

// How many there are of each is what Unicode counts: 1120 of no, 111 of maybe.
func TestQuickOfEach(t *testing.T) {
	var count [4]int
	for c := rune(-0x20000); c <= 0x120000; c++ {
		got := Quick(tables(), []rune{c})
		if want := quickOf([]rune{c}); got != want {
			t.Fatalf("Quick(%X) is %d, not %d", c, got, want)
		}
		count[got]++
	}
	if count[2] != 1120 || count[3] != 111 {
		t.Errorf("%d no, %d maybe", count[2], count[3])
	}
}

func TestQuickOfNoScalars(t *testing.T) {
	for _, c := range noScalars {
		for _, r := range []struct {
			l    []rune
			want int
		}{
			{[]rune{c}, 1}, {[]rune{c, c}, 1}, {[]rune{'a', c, 0x334}, 1}, {[]rune{0x30D, c, 0x334}, 1}, {[]rune{0x30D, c}, 1},
			{[]rune{c, 0x301}, 3}, {[]rune{0x301, c}, 3}, {[]rune{0x301, c, 0x327}, 3}, {[]rune{0x1161, c}, 3},
			{[]rune{c, 0x212B}, 2}, {[]rune{0x212B, c}, 2}, {[]rune{0x30D, 0x334, c}, 2}, {[]rune{0x301, c, 0x958}, 2},
		} {
			if got := Quick(tables(), r.l); got != r.want {
				t.Errorf("Quick(%X) is %d, not %d", r.l, got, r.want)
			}
		}
	}
}

// One of each class behind one of each class: such as are no Second, and such as are.
func TestQuickOfEachTwoClasses(t *testing.T) {
	var marks []rune
	seen := map[int]bool{}
	for c := rune(0); c <= 0x10FFFF; c++ {
		key := 2 * tables().Class(c)
		if lasts()[c] {
			key++
		}
		if !seen[key] && slices.Equal(formOf([]rune{c}), []rune{c}) {
			seen[key] = true
			marks = append(marks, c)
		}
	}
	fall := 0
	for _, a := range marks {
		for _, b := range marks {
			first, second := tables().Class(a), tables().Class(b)
			want := 1
			if lasts()[a] || lasts()[b] {
				want = 3
			}
			if 0 < second && second < first {
				want = 2
				fall++
			}
			for _, l := range [][]rune{{a, b}, {'x', a, b}, {a, b, 'x'}} {
				if got := Quick(tables(), l); got != want {
					t.Fatalf("Quick(%X), of classes %d, %d, is %d, not %d", l, first, second, got, want)
				}
			}
		}
	}
	if len(marks) < 50 || fall < 1000 {
		t.Errorf("%d marks, %d fall", len(marks), fall)
	}
}

func TestQuickOfSmallRows(t *testing.T) {
	var count [4]int
	for _, those := range alphabets {
		rows(those, 5, func(l []rune) {
			got := Quick(tables(), l)
			if want := quickOf(l); got != want {
				t.Fatalf("Quick(%X) is %d, not %d", l, got, want)
			}
			count[got]++
		})
	}
	if count[1] == 0 || count[2] == 0 || count[3] == 0 {
		t.Errorf("yes, no and maybe: %d", count[1:])
	}
}

// P9.3

// follows fails, if what Quick says of l is not so, or the form of l's form is another one. The form is made here without a look.
func follows(t testing.TB, l []rune) {
	t.Helper()
	form := formOf(l)
	same := slices.Equal(form, l)
	if quick := Quick(tables(), l); quick == 1 && !same || quick == 2 && same {
		t.Fatalf("Quick(%X) is %d, and its form is %X", l, quick, form)
	}
	if got := Form(tables(), l); !slices.Equal(got, form) {
		t.Fatalf("Form(%X) is %X, not %X", l, got, form)
	}
	if got := Form(tables(), form); !slices.Equal(got, form) || !Is(tables(), form) {
		t.Fatalf("Form(%X) is %X, and Form of that %X", l, form, got)
	}
	if !Equal(tables(), l, form) {
		t.Fatalf("%X and its form %X are not Equal", l, form)
	}
}

func TestWhatFollowsOfSmallRows(t *testing.T) {
	for _, those := range alphabets {
		rows(those, 5, func(l []rune) { follows(t, l) })
	}
}

func TestWhatFollowsOfEach(t *testing.T) {
	for c := rune(-0x1000); c <= 0x111000; c++ {
		follows(t, []rune{c})
		follows(t, []rune{0x30D, c, 0x334})
	}
}

// Of what yes is said, none begins with a part that what stands ahead may take: else a form would change that Quick says yes of.
func TestWhatIsYesBeginsWithWhatIsNotTaken(t *testing.T) {
	for c := rune(0); c <= 0x10FFFF; c++ {
		if Quick(tables(), []rune{c}) != 1 {
			continue
		}
		if first := decomp.Full(tables(), c)[0]; lasts()[first] {
			t.Errorf("%X begins with %X", c, first)
		}
	}
}

// All that have a Pair, and two syllables, with a mark behind them of which Quick says yes, one of each class that has such; and with 30D behind that.
func TestYesBehindAllWholes(t *testing.T) {
	ofClass := map[int]rune{}
	for c := rune(0); c <= 0x10FFFF; c++ {
		if n := tables().Class(c); ofClass[n] == 0 && quickOf([]rune{c}) == 1 {
			ofClass[n] = c
		}
	}
	said := 0
	for c := rune(0); c <= 0x10FFFF; c++ {
		if _, _, ok := tables().Pair(c); !ok && c != 0xAC00 && c != 0xAC01 {
			continue
		}
		for _, mark := range ofClass {
			follows(t, []rune{c, mark})
			follows(t, []rune{c, mark, 0x30D})
			if Quick(tables(), []rune{c, mark}) == 1 {
				said++
			}
		}
	}
	if len(ofClass) < 40 || said < 900*40 {
		t.Errorf("%d classes, %d times yes", len(ofClass), said)
	}
}

func TestWhatIsEqualHasOneForm(t *testing.T) {
	for _, those := range alphabets {
		var list [][]rune
		rows(those, 3, func(l []rune) { list = append(list, l) })
		for i, a := range list {
			for _, b := range list[:i] {
				if got, want := Equal(tables(), a, b), slices.Equal(Form(tables(), a), Form(tables(), b)); got != want {
					t.Fatalf("Equal(%X, %X) is %v, and their forms are the same: %v", a, b, got, want)
				}
			}
		}
	}
}

// partsFormed fails, if Form of l is not Form of l with the Form of any part put back.
func partsFormed(t testing.TB, l []rune) {
	t.Helper()
	want := Form(tables(), l)
	for i := range len(l) + 1 {
		for j := i; j <= len(l); j++ {
			back := slices.Concat(l[:i], Form(tables(), l[i:j]), l[j:])
			if got := Form(tables(), back); !slices.Equal(got, want) {
				t.Fatalf("Form(%X) is %X, but %X with the form of its places %d to %d put back", l, want, got, i, j)
			}
		}
	}
}

func TestFormOfAPartPutBack(t *testing.T) {
	for _, those := range alphabets {
		rows(those, 4, func(l []rune) { partsFormed(t, l) })
	}
	for _, r := range formRows {
		partsFormed(t, r.l)
	}
}

func TestFormOfEachPutBackAmongOthers(t *testing.T) {
	for c := rune(-0x1000); c <= 0x111000; c++ {
		want := Form(tables(), []rune{'e', c, 0x327, 0x301})
		for _, back := range [][]rune{
			slices.Concat([]rune{'e'}, Form(tables(), []rune{c, 0x327}), []rune{0x301}),
			slices.Concat(Form(tables(), []rune{'e', c}), []rune{0x327, 0x301}),
		} {
			if got := Form(tables(), back); !slices.Equal(got, want) {
				t.Fatalf("%X: of %X comes %X, not %X", c, back, got, want)
			}
		}
	}
}

// R3, R4

// handed are rows of which Quick says yes, no and maybe.
func handed() [][]rune {
	return [][]rune{
		{}, {'a'}, {'a', 'b', 0xE9}, {0xAC01, 0x334, 0x30D}, {-1, 0xD800, 0x110000},
		{0x301}, {'x', 0x301}, {'e', 0x301}, {0xE9, 0x323}, {0x1100, 0x1161, 0x11A8}, {0x9C7, 0x9BE},
		{0x212B}, {0x958, 'a'}, {'e', 0x301, 0x327}, {0x30D, 0x334},
	}
}

func TestWhatIsHandedInStays(t *testing.T) {
	for _, l := range handed() {
		room := append(slices.Clone(l), 0x301, 0x327, 0x212B, 0x11A8, 'x')
		was := slices.Clone(room)
		part := room[:len(l)]
		for name, call := range map[string]func(){
			"Form":  func() { Form(tables(), part) },
			"Is":    func() { Is(tables(), part) },
			"Quick": func() { Quick(tables(), part) },
			"Equal": func() {
				Equal(tables(), part, part)
				Equal(tables(), part, []rune{'a'})
				Equal(tables(), []rune{0x212B}, part)
			},
		} {
			if call(); !slices.Equal(room, was) {
				t.Fatalf("%s of %X has made %X of it and of what lies behind it", name, was[:len(l)], room)
			}
		}
	}
}

func TestAnswersAreTheirOwn(t *testing.T) {
	for _, l := range handed() {
		room := append(slices.Clone(l), 0x301, 'x', 'y')
		l, was := room[:len(l)], slices.Clone(room)
		first := Form(tables(), l)
		kept := slices.Clone(first)
		second := Form(tables(), l)
		for i := range second {
			second[i] = 'x'
		}
		_ = append(second[:0], slices.Repeat([]rune{'y'}, cap(second))...)
		if !slices.Equal(first, kept) || !slices.Equal(room, was) {
			t.Errorf("an answer was written to, and %X became %X, %X became %X", was, room, kept, first)
		}
		for i := range room {
			room[i] = 'z'
		}
		if !slices.Equal(first, kept) {
			t.Errorf("%X was written to, and its answer became %X", was, first)
		}
	}
}

func TestOtherTablesAnswerTheSame(t *testing.T) {
	other := ucd.Build()
	for range 2 {
		for _, l := range handed() {
			if !slices.Equal(Form(other, l), Form(tables(), l)) || Is(other, l) != Is(tables(), l) || Quick(other, l) != Quick(tables(), l) {
				t.Errorf("%X", l)
			}
			if s := string(l); !Equal(other, l, Form(tables(), l)) || Text(other, s) != Text(tables(), s) {
				t.Errorf("%X", l)
			}
		}
	}
}

func FuzzRow(f *testing.F) {
	f.Add("", rune(0))
	f.Add("a\u0302\u0301", rune(-1))
	f.Add("e\u0301\u0327", rune(0x334))
	f.Add("\u1100\u1161\u11a8\u11a8", rune(0x302E))
	f.Add("\u212b\u0958\u0344", rune(0xD800))
	f.Add("\u03b1\u0313\u0300\u0345", rune(0x110000))
	f.Fuzz(func(t *testing.T, text string, c rune) {
		l := []rune(text)
		if len(l) > 40 {
			return
		}
		l = slices.Insert(l, len(l)/2, c)
		was := slices.Clone(l)
		follows(t, l)
		partsFormed(t, l)
		if got, want := Quick(tables(), l), quickOf(l); got != want {
			t.Errorf("Quick(%X) is %d, not %d", l, got, want)
		}
		if got, want := Is(tables(), l), slices.Equal(formOf(l), l); got != want {
			t.Errorf("Is(%X) is %v", l, got)
		}
		if !slices.Equal(l, was) {
			t.Errorf("%X became %X", was, l)
		}
	})
}

func FuzzText(f *testing.F) {
	for _, s := range []string{"", "abc", "e\u0301", "\u212b\xff", "e\u0301\xc3", "\xed\xa0\x80", "\U0002f800", strings.Repeat("\u1100\u1161", 9)} {
		f.Add(s)
	}
	f.Fuzz(func(t *testing.T, s string) {
		want := s
		if string([]rune(s)) == s {
			want = string(formOf([]rune(s)))
		}
		if got := Text(tables(), s); got != want {
			t.Errorf("Text(%q) is %q, not %q", s, got, want)
		}
	})
}
