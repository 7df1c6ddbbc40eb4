package digits

import (
	"fmt"
	"math"
	"math/big"
	"regexp"
	"strconv"
	"strings"
	"testing"

	"orthoepy/api"
)

// The tests hold the package against answers written out by hand, and, where numbers are small enough, against fractions of math/big: a number there is reckoned, not read from its digits.

const edge = 1000000000

// ratOf is the number that d is; E must be small.
func ratOf(d api.Dec) *big.Rat {
	n := new(big.Int)
	for _, c := range []byte(d.D) {
		n.Mul(n, big.NewInt(10)).Add(n, big.NewInt(int64(c-'0')))
	}
	if d.Neg {
		n.Neg(n)
	}
	power := new(big.Int).Exp(big.NewInt(10), big.NewInt(int64(max(d.E, -d.E))), nil)
	if d.E < 0 {
		return new(big.Rat).SetFrac(n, power)
	}
	return new(big.Rat).SetInt(n.Mul(n, power))
}

// show tells d in short: its digits may be many.
func show(d api.Dec) string {
	return fmt.Sprintf("{Neg %v, D %.40q of %d, E %d}", d.Neg, d.D, len(d.D), d.E)
}

// words calls do with each text of at most most letters.
func words(letters string, most int, do func(string)) {
	var grow func(s string)
	grow = func(s string) {
		do(s)
		if len(s) == most {
			return
		}
		for i := range len(letters) {
			grow(s + letters[i:i+1])
		}
	}
	grow("")
}

// smallDecs are all numbers of at most most of the digits given, with E from -power to power, with Neg and without.
func smallDecs(letters string, most, power int) []api.Dec {
	var list []api.Dec
	words(letters, most, func(s string) {
		for e := -power; e <= power; e++ {
			list = append(list, api.Dec{D: s, E: e}, api.Dec{Neg: true, D: s, E: e})
		}
	})
	return list
}

// isNorm tells whether d has the shape that Norm answers.
func isNorm(d api.Dec) bool {
	if d.D == "" {
		return d == api.Dec{}
	}
	return d.D[0] != '0' && d.D[len(d.D)-1] != '0'
}

// P10.1: Check

func TestCheckEachByte(t *testing.T) {
	for c := range 256 {
		want := strings.IndexByte("0123456789", byte(c)) >= 0
		one := string([]byte{byte(c)})
		for _, s := range []string{one, one + one, one + "1", "1" + one, "1" + one + "1", strings.Repeat("9", 300) + one} {
			for _, neg := range []bool{false, true} {
				if got := Check(api.Dec{Neg: neg, D: s, E: -3}); got != want {
					t.Errorf("Check of %q is %v", s, got)
				}
			}
		}
	}
}

func TestCheckByHand(t *testing.T) {
	for _, r := range []struct {
		d    string
		e    int
		want bool
	}{
		{"", 0, true},
		{"0", 0, true},
		{"000", 0, true},
		{"0123456789", 0, true},
		{strings.Repeat("0", 1<<16), 0, true},
		{"/", 0, false},
		{":", 0, false},
		{"12/", 0, false},
		{":12", 0, false},
		{"-1", 0, false},
		{"+1", 0, false},
		{"1.5", 0, false},
		{"1e5", 0, false},
		{" 1", 0, false},
		{"1\n", 0, false},
		{"1\x00", 0, false},
		{"\xb1", 0, false},
		{"\u0661", 0, false},
		{"\uff11", 0, false},

		{"1", edge, true},
		{"1", edge + 1, false},
		{"1", -edge, true},
		{"1", -edge - 1, false},
		{"", edge, true},
		{"", edge + 1, false},
		{"", -edge, true},
		{"", -edge - 1, false},
		{"1", math.MaxInt, false},
		{"1", math.MinInt, false},
		{"1", 1 << 32, false},
		{"1", -1 << 32, false},
		{"x", edge, false},
		{"x", edge + 1, false},
	} {
		for _, neg := range []bool{false, true} {
			if got := Check(api.Dec{Neg: neg, D: r.d, E: r.e}); got != r.want {
				t.Errorf("Check of %.40q, E %d, Neg %v is %v", r.d, r.e, neg, got)
			}
		}
	}
}

// P10.1: Norm

func TestNormByHand(t *testing.T) {
	many := strings.Repeat("0", 1<<16)
	for _, r := range []struct {
		name string
		d    string
		e    int
		want string
		wanE int
	}{
		{"as it is", "1", 0, "1", 0},
		{"as it is", "123", -2, "123", -2},
		{"as it is", "9876543210123456789", 7, "9876543210123456789", 7},
		{"at the front", "01", 0, "1", 0},
		{"at the front", "0007", 5, "7", 5},
		{"at the end", "10", 0, "1", 1},
		{"at the end", "7000", -5, "7", -2},
		{"at the end", "10", -1, "1", 0},
		{"at both", "00120", 1, "12", 2},
		{"at both", "010", -3, "1", -2},
		{"within", "101", 0, "101", 0},
		{"within", "1" + many + "1", 4, "1" + many + "1", 4},
		{"within and at both", "0010100", 2, "101", 4},
		{"many", many + "5" + many, -3, "5", 1<<16 - 3},
		{"E at its edges", "1", edge, "1", edge},
		{"E at its edges", "1", -edge, "1", -edge},
		{"E at its edges", "01", -edge, "1", -edge},
		{"E at its edges", "100", -edge, "1", -edge + 2},
		{"E beyond its edge", "100", edge, "1", edge + 2},
		{"E beyond its edge", many[:300] + "12" + many[:300], edge, "12", edge + 300},
	} {
		for _, neg := range []bool{false, true} {
			want := api.Dec{Neg: neg, D: r.want, E: r.wanE}
			if got := Norm(api.Dec{Neg: neg, D: r.d, E: r.e}); got != want {
				t.Errorf("%s: Norm of %.40q, E %d is %s, not %s", r.name, r.d, r.e, show(got), show(want))
			}
		}
	}
}

func TestNormOfNought(t *testing.T) {
	for _, d := range []string{"", "0", "00", "000", strings.Repeat("0", 1<<16)} {
		for _, e := range []int{0, 1, -1, 5, -7, edge, -edge} {
			for _, neg := range []bool{false, true} {
				if got := Norm(api.Dec{Neg: neg, D: d, E: e}); got != (api.Dec{}) {
					t.Errorf("Norm of %.40q, E %d, Neg %v is %v", d, e, neg, got)
				}
			}
		}
	}
}

func TestNormOfSmallOnes(t *testing.T) {
	for _, d := range smallDecs("019", 6, 2) {
		got := Norm(d)
		if !isNorm(got) || ratOf(got).Cmp(ratOf(d)) != 0 {
			t.Fatalf("Norm(%v) is %v", d, got)
		}
		if again := Norm(got); again != got {
			t.Fatalf("Norm(%v) is %v", got, again)
		}
	}
}

// P10.2: Read

// readRows are numbers with what they are read as, written out by hand.
var readRows = []struct {
	s    string
	want api.Dec
}{
	{"10e-1", api.Dec{D: "1"}}, // the chapter's examples
	{"-0.0", api.Dec{}},
	{"9007199254740992", api.Dec{D: "9007199254740992"}},
	{"15e-1", api.Dec{D: "15", E: -1}},

	{"0", api.Dec{}},
	{"-0", api.Dec{}},
	{"0.0", api.Dec{}},
	{"0.000", api.Dec{}},
	{"0e0", api.Dec{}},
	{"-0e5", api.Dec{}},
	{"0E-5", api.Dec{}},
	{"-0.00e+7", api.Dec{}},
	{"0e1000000001", api.Dec{}},

	{"1", api.Dec{D: "1"}},
	{"9", api.Dec{D: "9"}},
	{"-1", api.Dec{Neg: true, D: "1"}},
	{"10", api.Dec{D: "1", E: 1}},
	{"-907", api.Dec{Neg: true, D: "907"}},
	{"1234567890", api.Dec{D: "123456789", E: 1}},
	{"9007199254740993", api.Dec{D: "9007199254740993"}},

	{"0.5", api.Dec{D: "5", E: -1}},
	{"-0.5", api.Dec{Neg: true, D: "5", E: -1}},
	{"0.001", api.Dec{D: "1", E: -3}},
	{"1.5", api.Dec{D: "15", E: -1}},
	{"1.0", api.Dec{D: "1"}},
	{"1.05", api.Dec{D: "105", E: -2}},
	{"12.50", api.Dec{D: "125", E: -1}},
	{"100.00", api.Dec{D: "1", E: 2}},
	{"10.01", api.Dec{D: "1001", E: -2}},

	{"1e2", api.Dec{D: "1", E: 2}},
	{"1E2", api.Dec{D: "1", E: 2}},
	{"1e+2", api.Dec{D: "1", E: 2}},
	{"1E+2", api.Dec{D: "1", E: 2}},
	{"1e-2", api.Dec{D: "1", E: -2}},
	{"1E-2", api.Dec{D: "1", E: -2}},
	{"1e0", api.Dec{D: "1"}},
	{"1e-0", api.Dec{D: "1"}},
	{"1e+0", api.Dec{D: "1"}},
	{"10e19", api.Dec{D: "1", E: 20}},
	{"-1.5e3", api.Dec{Neg: true, D: "15", E: 2}},
	{"-120.340E-5", api.Dec{Neg: true, D: "12034", E: -7}},
	{"0.10e1", api.Dec{D: "1"}},

	{"1e00", api.Dec{D: "1"}},
	{"1e00005", api.Dec{D: "1", E: 5}},
	{"1e-00005", api.Dec{D: "1", E: -5}},
	{"1e+0000000000000000000000000000000012", api.Dec{D: "1", E: 12}},
	{"1e0000000000001000000000", api.Dec{D: "1", E: edge}},
	{"1e0000000000001000000001", api.Dec{D: "1", E: edge}},

	{"1e999999999", api.Dec{D: "1", E: edge - 1}},
	{"1e1000000000", api.Dec{D: "1", E: edge}},
	{"1e1000000001", api.Dec{D: "1", E: edge}},
	{"1e+1000000001", api.Dec{D: "1", E: edge}},
	{"1e9999999999", api.Dec{D: "1", E: edge}},
	{"1e10000000000", api.Dec{D: "1", E: edge}},
	{"1e-999999999", api.Dec{D: "1", E: -edge + 1}},
	{"1e-1000000000", api.Dec{D: "1", E: -edge}},
	{"1e-1000000001", api.Dec{D: "1", E: -edge}},
	{"1e-9999999999", api.Dec{D: "1", E: -edge}},
	{"1e4294967296", api.Dec{D: "1", E: edge}},
	{"1e9223372036854775807", api.Dec{D: "1", E: edge}},
	{"1e9223372036854775808", api.Dec{D: "1", E: edge}},
	{"1e-9223372036854775809", api.Dec{D: "1", E: -edge}},
	{"1e18446744073709551616", api.Dec{D: "1", E: edge}},
	{"1e18446744073709551617", api.Dec{D: "1", E: edge}},
	{"-1e-18446744073709551617", api.Dec{Neg: true, D: "1", E: -edge}},
	{"1.5e1000000000", api.Dec{D: "15", E: edge - 1}},
	{"1.5e1000000001", api.Dec{D: "15", E: edge - 1}},
	{"1.5e-1000000000", api.Dec{D: "15", E: -edge - 1}},
	{"1.5e-1000000001", api.Dec{D: "15", E: -edge - 1}},
	{"100e1000000000", api.Dec{D: "1", E: edge + 2}},
	{"100e99999999999", api.Dec{D: "1", E: edge + 2}},
	{"100e-99999999999", api.Dec{D: "1", E: -edge + 2}},
}

func TestReadByHand(t *testing.T) {
	for _, r := range readRows {
		if got, ok := Read(r.s); !ok || got != r.want {
			t.Errorf("Read(%q) is %v, %v, not %v", r.s, got, ok, r.want)
		}
	}
}

func TestReadLongOnes(t *testing.T) {
	noughts, nines := strings.Repeat("0", 1<<16), strings.Repeat("9", 1<<16)
	for i, r := range []struct {
		s    string
		want api.Dec
	}{
		{nines, api.Dec{D: nines}},
		{"-1" + noughts, api.Dec{Neg: true, D: "1", E: 1 << 16}},
		{"0." + noughts, api.Dec{}},
		{"0." + noughts + "1", api.Dec{D: "1", E: -1<<16 - 1}},
		{"1." + noughts, api.Dec{D: "1"}},
		{nines + "." + nines + noughts, api.Dec{D: nines + nines, E: -1 << 16}},
		{"1e" + nines, api.Dec{D: "1", E: edge}},
		{"1e-" + nines, api.Dec{D: "1", E: -edge}},
		{"1e" + noughts, api.Dec{D: "1"}},
		{"1e" + noughts + "7", api.Dec{D: "1", E: 7}},
		{"1e1" + noughts, api.Dec{D: "1", E: edge}},
		{"0e-" + nines, api.Dec{}},
		{"1" + noughts + "e-65536", api.Dec{D: "1"}},
	} {
		if got, ok := Read(r.s); !ok || got != r.want {
			t.Errorf("%d: %s, %v", i, show(got), ok)
		}
		for _, s := range []string{r.s + "x", r.s + " ", r.s + "-", "0" + r.s} {
			if got, ok := Read(s); ok || got != (api.Dec{}) {
				t.Errorf("%d: a wrong one is %s, %v", i, show(got), ok)
			}
		}
	}
}

func TestReadWrongOnes(t *testing.T) {
	for _, s := range []string{
		"", "-", "+", ".", "e", "E", "--", "-e", "-.", "e5", "-e5",
		"+1", "+0", "--1", "-+1", "+-1", "1-", "1+",
		"00", "01", "-01", "-00", "007", "00.5", "01e5", "0123456789",
		"1.", "-1.", "0.", ".5", "-.5", ".", ".e5", "1.e5", "1.E+5", "1.-5", "1.+5", "1..5", "1.5.5", "1.5.",
		"1e", "1E", "1e+", "1e-", "1E+", "1E-", "1.5e", "1.5e-", "0e", "0e+", "1e+-5", "1e--5", "1e++5", "1e-+5", "1e.5", "1e5.", "1e1.5", "1ee5", "1e5e5", "1eE5", "1e5-", "1e5+", "1e 5",
		"1 ", " 1", "1\n", "\t1", "1\x00", "\x001", "1 1", "- 1", "1. 5", "1,5", "1_000", "1'000",
		"a", "1a", "1e5x", "0x1", "0b1", "0o7", "1f5", "1f", "1n", "1d5", "NaN", "Infinity", "-Infinity", "inf", "nan", "null", "true", `"1"`, "[1]", "1/2", "/", ":", "1:", "1/", "1./", "1.:", "1e/", "1e:", "1.5/", "1.5:", "1e5/", "1e5:",
		"\u0661", "1\u0661", "\uff11", "\u22121", "1\u00a0", "\ufeff1", "\xff", "1\xff", "\xb1", "1.\xb1", "1e\xb1",
	} {
		if got, ok := Read(s); ok || got != (api.Dec{}) {
			t.Errorf("Read(%q) is %v, %v", s, got, ok)
		}
	}
}

// grammar is what JSON writes as a number, as its letters are.
var grammar = regexp.MustCompile(`\A(-?)(0|[1-9][0-9]*)(?:\.([0-9]+))?(?:[eE]([+-]?[0-9]+))?\z`)

// readAgain is P10.2's Read by the grammar, for powers that are small.
func readAgain(t *testing.T, s string) (*big.Rat, bool) {
	m := grammar.FindStringSubmatch(s)
	if m == nil {
		return nil, false
	}
	power := 0
	if m[4] != "" {
		n, err := strconv.Atoi(m[4])
		if err != nil {
			t.Fatal(err)
		}
		power = n
	}
	return ratOf(api.Dec{Neg: m[1] == "-", D: m[2] + m[3], E: power - len(m[3])}), true
}

func holdRead(t *testing.T, s string) {
	got, ok := Read(s)
	want, wantOK := readAgain(t, s)
	if ok != wantOK || !ok && got != (api.Dec{}) {
		t.Fatalf("Read(%q) is %v, %v", s, got, ok)
	}
	if ok && (!isNorm(got) || ratOf(got).Cmp(want) != 0) {
		t.Fatalf("Read(%q) is %v", s, got)
	}
}

func TestReadAllSmallTexts(t *testing.T) {
	words("01.e-", 7, func(s string) { holdRead(t, s) })
	words("059.eE+-x", 5, func(s string) { holdRead(t, s) })
}

func TestReadEachByteEverywhere(t *testing.T) {
	for _, s := range []string{"", "0", "7", "-12", "10.05", "-1.5e3", "2E-10"} {
		for at := range len(s) + 1 {
			for c := range 256 {
				one := string([]byte{byte(c)})
				holdRead(t, s[:at]+one+s[at:])
				if at < len(s) {
					holdRead(t, s[:at]+one+s[at+1:])
				}
			}
		}
	}
}

// P10.3: Cmp

// rising are numbers from the least to the greatest; those of one row are the same number.
var rising = [][]api.Dec{
	{{Neg: true, D: "9", E: edge}, {Neg: true, D: "09", E: edge}},
	{{Neg: true, D: "12", E: edge - 1}, {Neg: true, D: "120", E: edge - 2}},
	{{Neg: true, D: "1", E: edge}, {Neg: true, D: "10", E: edge - 1}},
	{{Neg: true, D: "99999999999999999999"}},
	{{Neg: true, D: "9007199254740992"}, {Neg: true, D: "90071992547409920", E: -1}},
	{{Neg: true, D: "9007199254740991"}},
	{{Neg: true, D: "120"}, {Neg: true, D: "12", E: 1}, {Neg: true, D: "0012000", E: -2}},
	{{Neg: true, D: "10"}, {Neg: true, D: "1", E: 1}},
	{{Neg: true, D: "9"}},
	{{Neg: true, D: "15", E: -1}},
	{{Neg: true, D: "1"}, {Neg: true, D: "01"}},
	{{Neg: true, D: "1", E: -1}},
	{{Neg: true, D: "2", E: -edge}},
	{{Neg: true, D: "1", E: -edge}},
	{{}, {Neg: true}, {D: "0"}, {Neg: true, D: "0"}, {D: "000", E: edge}, {Neg: true, D: "00", E: -edge}, {E: 5}, {Neg: true, E: -5}},
	{{D: "1", E: -edge}, {D: "001", E: -edge}},
	{{D: "2", E: -edge}},
	{{D: "99", E: -edge}},
	{{D: "100", E: -edge}, {D: "1", E: -edge + 2}},
	{{D: "1", E: -9}},
	{{D: "9", E: -1}},
	{{D: "99999999", E: -8}},
	{{D: "1"}, {D: "10", E: -1}, {D: "1000", E: -3}, {D: "0001"}},
	{{D: "100000001", E: -8}},
	{{D: "12", E: -1}},
	{{D: "123", E: -2}},
	{{D: "2"}},
	{{D: "9"}},
	{{D: "10"}, {D: "1", E: 1}},
	{{D: "12"}},
	{{D: "123"}},
	{{D: "990"}, {D: "99", E: 1}},
	{{D: "1", E: 3}, {D: "1000"}},
	{{D: "9007199254740991"}, {D: "90071992547409910", E: -1}},
	{{D: "9007199254740992"}},
	{{D: "9007199254740993"}},
	{{D: "18446744073709551616"}},
	{{D: "18446744073709551617"}},
	{{D: "18446744073709551618"}},
	{{D: strings.Repeat("9", 399) + "8"}},
	{{D: strings.Repeat("9", 400)}},
	{{D: "1", E: 400}, {D: "1" + strings.Repeat("0", 400)}},
	{{D: "1" + strings.Repeat("0", 399) + "1"}},
	{{D: "5", E: edge - 1}},
	{{D: "1", E: edge}, {D: "10", E: edge - 1}},
	{{D: "12", E: edge - 1}},
	{{D: "2", E: edge}},
	{{D: "10", E: edge}},
}

func TestCmpOfRisingOnes(t *testing.T) {
	for i, row := range rising {
		for j, other := range rising {
			want := 0
			if i < j {
				want = -1
			} else if i > j {
				want = 1
			}
			for _, a := range row {
				for _, b := range other {
					if got := Cmp(a, b); got != want {
						t.Errorf("Cmp(%s, %s) is %d, not %d", show(a), show(b), got, want)
					}
				}
			}
		}
	}
}

func TestCmpOfSmallOnes(t *testing.T) {
	list := smallDecs("019", 3, 2)
	rats := make([]*big.Rat, len(list))
	for i, d := range list {
		rats[i] = ratOf(d)
	}
	for i, a := range list {
		for j, b := range list {
			if got, want := Cmp(a, b), rats[i].Cmp(rats[j]); got != want {
				t.Fatalf("Cmp(%v, %v) is %d, not %d", a, b, got, want)
			}
		}
	}
}

func TestCmpOfWhatReadAnswers(t *testing.T) {
	for _, r := range []struct {
		a, b string
		want int
	}{
		{"1e99999999999", "1e1000000000", 0},
		{"1.5e-1000000001", "1e-1000000000", 1}, // E comes to be less than -1000000000 here
		{"1.5e-1000000001", "2e-1000000000", -1},
		{"1.5e-1000000001", "1.50e-1000000000", 0},
		{"-100e1000000000", "-99e1000000000", -1},
		{"-0.0", "0e5", 0},
	} {
		a, _ := Read(r.a)
		b, _ := Read(r.b)
		if got, back := Cmp(a, b), Cmp(b, a); got != r.want || back != -r.want {
			t.Errorf("%s against %s is %d, back %d", r.a, r.b, got, back)
		}
	}
}

// P10.3: Whole, Int

// holdInt holds Int and Whole against n, or against an error.
func holdInt(t *testing.T, d api.Dec, n int, e api.Errno) {
	if got, err := Int(d); got != n || err != e {
		t.Errorf("Int(%s) is %d, %d, not %d, %d", show(d), got, err, n, e)
	}
	if got, want := Whole(d), e != api.ErrFraction; got != want {
		t.Errorf("Whole(%s) is %v", show(d), got)
	}
}

func TestIntByHand(t *testing.T) {
	many := strings.Repeat("0", 1<<16)
	for _, r := range []struct {
		d    string
		e    int
		want int
		err  api.Errno
	}{
		{"", 0, 0, api.OK},
		{"", -1, 0, api.OK},
		{"", -edge, 0, api.OK},
		{"", edge, 0, api.OK},
		{"0", -1, 0, api.OK},
		{"000", -7, 0, api.OK},
		{"000", edge, 0, api.OK},
		{many, -edge, 0, api.OK},
		{many, edge, 0, api.OK},

		{"1", 0, 1, api.OK},
		{"0001", 0, 1, api.OK},
		{many + "1", 0, 1, api.OK},
		{"907", 0, 907, api.OK},
		{"15", 1, 150, api.OK},
		{"10", -1, 1, api.OK},
		{"150", -1, 15, api.OK},
		{"1500", -2, 15, api.OK},
		{"1" + many, -1 << 16, 1, api.OK},
		{many + "7" + many, -1<<16 + 3, 7000, api.OK},
		{"1", 15, 1000000000000000, api.OK},
		{"9", 15, 9000000000000000, api.OK},
		{"90", 14, 9000000000000000, api.OK},
		{"9007199254740991", 0, api.MaxWhole, api.OK},
		{"09007199254740991", 0, api.MaxWhole, api.OK},
		{"90071992547409910", -1, api.MaxWhole, api.OK},
		{"9007199254740991" + many, -1 << 16, api.MaxWhole, api.OK},
		{"900719925474099", 1, 9007199254740990, api.OK},

		{"15", -1, 0, api.ErrFraction},
		{"1", -1, 0, api.ErrFraction},
		{"10", -2, 0, api.ErrFraction},
		{"1", -edge, 0, api.ErrFraction},
		{"10", -edge, 0, api.ErrFraction},
		{"1500", -3, 0, api.ErrFraction},
		{"1" + many, -1<<16 - 1, 0, api.ErrFraction},
		{"90071992547409915", -1, 0, api.ErrFraction},
		{"90071992547409925", -1, 0, api.ErrFraction}, // out of range too, but a fraction first
		{strings.Repeat("9", 400), -1, 0, api.ErrFraction},
		{strings.Repeat("9", 400), -399, 0, api.ErrFraction},

		{"9007199254740992", 0, 0, api.ErrRange},
		{"90071992547409920", -1, 0, api.ErrRange},
		{"9007199254740993", 0, 0, api.ErrRange},
		{"900719925474100", 1, 0, api.ErrRange},
		{"91", 14, 0, api.ErrRange},
		{"9999999999999999", 0, 0, api.ErrRange},
		{"1", 16, 0, api.ErrRange},
		{"10", 15, 0, api.ErrRange},
		{"10000000000000000", 0, 0, api.ErrRange},
		{"10000000000000001", 0, 0, api.ErrRange},
		{"9223372036854775807", 0, 0, api.ErrRange},
		{"9223372036854775808", 0, 0, api.ErrRange},
		{"18446744073709551616", 0, 0, api.ErrRange},
		{"18446744073709551617", 0, 0, api.ErrRange},
		{"36893488147419103233", 0, 0, api.ErrRange},
		{"1", 64, 0, api.ErrRange}, // two to the power of 64 divides it: it wraps round to 0
		{"1", 65, 0, api.ErrRange},
		{"1", 1000, 0, api.ErrRange},
		{"1", edge, 0, api.ErrRange},
		{"100", edge, 0, api.ErrRange},
		{"1" + many, 0, 0, api.ErrRange},
		{many + "1" + many, -5, 0, api.ErrRange},
		{strings.Repeat("9", 400), 0, 0, api.ErrRange},
		{strings.Repeat("9", 1<<16), edge, 0, api.ErrRange},
	} {
		holdInt(t, api.Dec{D: r.d, E: r.e}, r.want, r.err)
		holdInt(t, api.Dec{Neg: true, D: r.d, E: r.e}, -r.want, r.err)
	}
}

func TestIntOfSmallOnes(t *testing.T) {
	for _, d := range smallDecs("019", 5, 6) {
		want := ratOf(d)
		if !want.IsInt() {
			holdInt(t, d, 0, api.ErrFraction)
			continue
		}
		holdInt(t, d, int(want.Num().Int64()), api.OK)
	}
}

func TestIntAboutItsEdge(t *testing.T) {
	for off := -2000; off <= 2000; off++ {
		n := api.MaxWhole + off
		want, e := n, api.OK
		if off > 0 {
			want, e = 0, api.ErrRange
		}
		for noughts := range 20 {
			d := api.Dec{D: strings.Repeat("0", noughts/2) + strconv.Itoa(n) + strings.Repeat("0", noughts), E: -noughts}
			holdInt(t, d, want, e)
			d.Neg = true
			holdInt(t, d, -want, e)
		}
	}
}

func TestIntOfWhatReadAnswers(t *testing.T) {
	for _, r := range []struct {
		s    string
		want int
		err  api.Errno
	}{
		{"10e-1", 1, api.OK},
		{"-0.0", 0, api.OK},
		{"9007199254740992", 0, api.ErrRange},
		{"15e-1", 0, api.ErrFraction},
		{"1.5e1", 15, api.OK},
		{"-9007199254740.991e3", -api.MaxWhole, api.OK},
		{"-9007199254740.992e3", 0, api.ErrRange},
		{"1e99999999999999999999", 0, api.ErrRange},
		{"1000e99999999999999999999", 0, api.ErrRange},
		{"1e-99999999999999999999", 0, api.ErrFraction},
		{"1.5e-99999999999999999999", 0, api.ErrFraction},
		{"0e99999999999999999999", 0, api.OK},
		{"0.0e-99999999999999999999", 0, api.OK},
	} {
		d, ok := Read(r.s)
		if !ok {
			t.Errorf("%s is not read", r.s)
		}
		holdInt(t, d, r.want, r.err)
	}
}

// P10.3: Print

// printed are ints about which a printer may go wrong: about nought, about each power of ten and of two, and the least and the greatest.
func printed() []int {
	var list []int
	for n := -100000; n <= 100000; n++ {
		list = append(list, n)
	}
	for p := 1; p <= math.MaxInt/10; p *= 10 {
		for k := 1; k <= 9; k++ {
			list = append(list, k*p-1, k*p, k*p+1, -k*p-1, -k*p, -k*p+1)
		}
	}
	for p := 0; p < strconv.IntSize; p++ {
		n := 1 << p
		list = append(list, n-1, n, n+1, -n-1, -n, -n+1)
	}
	return append(list, math.MaxInt, math.MaxInt-1, math.MinInt, math.MinInt+1, 1000000000000000000, -1000000000000000000, 9223372036854775800, -9223372036854775800)
}

func TestPrintByHand(t *testing.T) {
	for _, r := range []struct {
		n    int
		want string
	}{
		{0, "0"}, {1, "1"}, {-1, "-1"}, {7, "7"}, {-7, "-7"}, {9, "9"}, {10, "10"}, {-10, "-10"}, {907, "907"}, {-907, "-907"}, {100, "100"},
		{1234567890, "1234567890"}, {-1234567890, "-1234567890"},
		{api.MaxWhole, "9007199254740991"}, {-api.MaxWhole, "-9007199254740991"},
		{math.MaxInt, "9223372036854775807"}, {math.MinInt, "-9223372036854775808"}, {math.MinInt + 1, "-9223372036854775807"},
	} {
		if got := Print(r.n); got != r.want {
			t.Errorf("Print(%s) is %q", r.want, got)
		}
	}
}

func TestPrintOfMany(t *testing.T) {
	for _, n := range printed() {
		if got, want := Print(n), strconv.Itoa(n); got != want {
			t.Fatalf("Print(%s) is %q", want, got)
		}
	}
}

// P10.4

func TestPrintedIsRead(t *testing.T) {
	for _, n := range printed() {
		d, ok := Read(Print(n))
		if !ok || !isNorm(d) || ratOf(d).Cmp(new(big.Rat).SetInt64(int64(n))) != 0 {
			t.Fatalf("%d is read as %v, %v", n, d, ok)
		}
		if n < -api.MaxWhole || n > api.MaxWhole {
			holdInt(t, d, 0, api.ErrRange)
		} else {
			holdInt(t, d, n, api.OK)
		}
	}
}

func TestNoughtsAtTheEndAreNothing(t *testing.T) {
	list := smallDecs("05", 3, 3)
	for _, row := range rising {
		list = append(list, row...)
	}
	others := []api.Dec{{}, {D: "5"}, {Neg: true, D: "5"}, {D: "50", E: -2}, {D: "5", E: edge}, {Neg: true, D: "5", E: -edge}}
	for _, d := range list {
		n, e := Int(d)
		for _, noughts := range []int{1, 2, 3, 17, 100} {
			with := api.Dec{Neg: d.Neg, D: d.D + strings.Repeat("0", noughts), E: d.E - noughts}
			if !Check(with) {
				continue
			}
			if got, want := Norm(with), Norm(d); got != want {
				t.Fatalf("Norm of %s is %s, of %s %s", show(with), show(got), show(d), show(want))
			}
			holdInt(t, with, n, e)
			if Cmp(with, d) != 0 || Cmp(d, with) != 0 {
				t.Fatalf("Cmp tells %s from %s", show(with), show(d))
			}
			for _, other := range others {
				if Cmp(with, other) != Cmp(d, other) || Cmp(other, with) != Cmp(other, d) {
					t.Fatalf("held against %v, Cmp tells %s from %s", other, show(with), show(d))
				}
			}
		}
	}
}

// R1 to R4

// strangers are what Check refuses, of which nothing more is said than that the calls end and do not panic.
func strangers() []api.Dec {
	var list []api.Dec
	for _, d := range []string{"", "0", "1", "10", "0010", "x", "-", "1x", "x0", "0x", "00x00", "\x00", "\xff", "\xff0", ".", "1.5", "1e5", "\u0661", strings.Repeat("\xff", 16), strings.Repeat("\xff", 17), strings.Repeat("~", 1<<12), strings.Repeat("0", 1<<12)} {
		for _, e := range []int{0, 1, -1, 15, 16, 17, edge, -edge, edge + 1, -edge - 1, math.MaxInt32, math.MinInt32, math.MaxInt, math.MaxInt - 1, math.MaxInt - 15, math.MaxInt - 16, math.MinInt, math.MinInt + 1, math.MinInt + 17} {
			list = append(list, api.Dec{D: d, E: e}, api.Dec{Neg: true, D: d, E: e})
		}
	}
	return list
}

func TestAllCallsEnd(t *testing.T) {
	list := strangers()
	for _, a := range list {
		Check(a)
		Norm(a)
		Whole(a)
		if n, e := Int(a); e != api.OK && n != 0 {
			t.Errorf("Int(%v) is %d beside an error", a, n)
		}
		Read(a.D)
		for _, b := range list {
			Cmp(a, b)
		}
	}
}

func TestNothingHandedInIsChanged(t *testing.T) {
	for _, d := range append(smallDecs("019", 3, 2), strangers()...) {
		// D as part of a longer text, so that what lies about it is looked at too.
		around := string([]byte("90" + d.D + "09"))
		kept := strings.Clone(around)
		d.D = around[2 : len(around)-2]
		was := ownCopy(d)
		first := Norm(d)
		told := ownCopy(first)
		Check(d)
		Whole(d)
		Int(d)
		Cmp(d, d)
		Read(d.D)
		if again := Norm(d); again != told || first != told {
			t.Fatalf("Norm of %s is %s, then %s", show(was), show(told), show(again))
		}
		if around != kept || d != was {
			t.Fatalf("%s became %s", show(was), show(d))
		}
	}
}

func ownCopy(d api.Dec) api.Dec { return api.Dec{Neg: d.Neg, D: strings.Clone(d.D), E: d.E} }

// What withoutEnd leaves has no room behind it: the noughts taken off stay as they are, whatever is put behind the rest.
func TestTakenOffWithTheirRoom(t *testing.T) {
	digits := []byte("1200")
	left, taken := withoutEnd(digits)
	_ = append(left, "34"...)
	if string(left) != "12" || taken != 2 || cap(left) != 2 || string(digits) != "1200" {
		t.Errorf("%q of %q, %d taken off, room for %d", left, digits, taken, cap(left))
	}
}

func FuzzRead(f *testing.F) {
	for _, r := range readRows {
		f.Add(r.s)
	}
	f.Add("1.")
	f.Add("-01")
	f.Fuzz(func(t *testing.T, s string) {
		got, ok := Read(s)
		m := grammar.FindStringSubmatch(s)
		if ok != (m != nil) || !ok && got != (api.Dec{}) || !isNorm(got) {
			t.Fatalf("Read(%q) is %v, %v", s, got, ok)
		}
		if ok && len(m[4]) <= 4 {
			holdRead(t, s)
		}
	})
}

func FuzzDec(f *testing.F) {
	f.Add(false, "00120", 1, true, "12", 2)
	f.Add(true, "9007199254740992", 0, true, "90071992547409910", -1)
	f.Fuzz(func(t *testing.T, an bool, ad string, ae int, bn bool, bd string, be int) {
		a, b := api.Dec{Neg: an, D: ad, E: ae % 500}, api.Dec{Neg: bn, D: bd, E: be % 500}
		Cmp(api.Dec{Neg: an, D: ad, E: ae}, api.Dec{Neg: bn, D: bd, E: be})
		Int(api.Dec{Neg: an, D: ad, E: ae})
		if !Check(a) || !Check(b) {
			return
		}
		if got, want := Cmp(a, b), ratOf(a).Cmp(ratOf(b)); got != want {
			t.Fatalf("Cmp(%v, %v) is %d, not %d", a, b, got, want)
		}
		r := ratOf(a)
		n, e := Int(a)
		switch {
		case !r.IsInt():
			holdInt(t, a, 0, api.ErrFraction)
		case new(big.Int).Abs(r.Num()).Cmp(big.NewInt(api.MaxWhole)) > 0:
			holdInt(t, a, 0, api.ErrRange)
		case e != api.OK || r.Num().Cmp(big.NewInt(int64(n))) != 0 || !Whole(a):
			t.Fatalf("Int(%v) is %d, %d", a, n, e)
		}
	})
}
