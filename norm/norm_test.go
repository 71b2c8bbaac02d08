package norm_test

import (
	"bytes"
	"fmt"
	"math/rand"
	"slices"
	"strconv"
	"strings"
	"testing"

	"gesso/api"
	"gesso/code"
	"gesso/compose"
	"gesso/decomp"
	"gesso/norm"
	"gesso/order"
)

func hex(t *testing.T, s string) uint32 {
	t.Helper()
	n, err := strconv.ParseUint(s, 16, 32)
	if err != nil {
		t.Fatal(err)
	}
	return uint32(n)
}

// stayers tells the numbers that do not start, by api's rows and the Korean letters: marks, what is decomposed and not
// composed again, and second ones.
func stayers(t *testing.T) map[uint32]bool {
	t.Helper()
	stay := map[uint32]bool{}
	for rows := api.Classes; len(rows) > 0; rows = rows[12:] {
		for c := hex(t, rows[:5]); c <= hex(t, rows[5:10]); c++ {
			stay[c] = true
		}
	}
	for rows := api.Decomps; len(rows) > 0; rows = rows[16:] {
		if rows[15] != 'c' {
			stay[hex(t, rows[:5])] = true
		}
	}
	for rows := api.Pairs; len(rows) > 0; rows = rows[15:] {
		stay[hex(t, rows[5:10])] = true
	}
	for c := uint32(0x1161); c < 0x1161+21; c++ {
		stay[c] = true
	}
	for c := uint32(0x11a8); c < 0x11a8+27; c++ {
		stay[c] = true
	}
	return stay
}

// sorted tells the numbers of a set, since a map's order is not the same each time.
func sorted(set map[uint32]bool) []uint32 {
	var l []uint32
	for c := range set {
		l = append(l, c)
	}
	slices.Sort(l)
	return l
}

// safe tells what P8.4 says word by word, from the front on.
func safe(stay map[uint32]bool, l []uint32) int {
	greatest := 0
	for at, c := range l {
		if at > 0 && !stay[c] {
			greatest = at
		}
	}
	return greatest
}

// check holds both forms of a list against the layers below and against each other (P8.1, P8.2, P8.5).
func check(t *testing.T, l []uint32) {
	t.Helper()
	wantD := order.Order(decomp.List(l))
	wantC := compose.Compose(wantD)
	d, c := norm.NFD(l), norm.NFC(l)
	if !slices.Equal(d, wantD) {
		t.Errorf("NFD(%x) = %x, want %x", l, d, wantD)
	}
	if !slices.Equal(c, wantC) {
		t.Errorf("NFC(%x) = %x, want %x", l, c, wantC)
	}
	for _, x := range []struct {
		what      string
		got, want []uint32
	}{
		{"NFC of NFC", norm.NFC(c), c}, {"NFC of NFD", norm.NFC(d), c}, {"NFD of NFC", norm.NFD(c), d}, {"NFD of NFD", norm.NFD(d), d},
	} {
		if !slices.Equal(x.got, x.want) {
			t.Errorf("%s of %x = %x, want %x", x.what, l, x.got, x.want)
		}
	}
	if is := norm.Is(l); is != slices.Equal(l, c) || !norm.Is(c) {
		t.Errorf("Is(%x) = %v, Is(%x) = %v", l, is, c, norm.Is(c))
	}
	if is := norm.Is(d); is != slices.Equal(d, c) {
		t.Errorf("Is(%x) = %v, but its composed form is %x", d, is, c)
	}
	if !norm.Same(l, l) || !norm.Same(l, d) || !norm.Same(c, l) || !norm.Same(d, c) {
		t.Errorf("Same of %x, %x and %x is not true of all", l, d, c)
	}
}

// checkCuts cuts a list wherever a number starts (P8.4, P8.5).
func checkCuts(t *testing.T, stay map[uint32]bool, l []uint32) {
	t.Helper()
	if got, want := norm.Safe(l), safe(stay, l); got != want {
		t.Errorf("Safe(%x) = %d, want %d", l, got, want)
	}
	whole := norm.NFC(l)
	for at, c := range l {
		if stay[c] {
			continue
		}
		if parts := slices.Concat(norm.NFC(l[:at]), norm.NFC(l[at:])); !slices.Equal(parts, whole) {
			t.Errorf("NFC(%x) = %x, but cut at %d it is %x", l, whole, at, parts)
		}
	}
}

// cases are lists with their decomposed forms and their composed ones, told by hand. Of class 1 is 338, of 7 93c, of
// 202 327 and 328, of 220 316 and 323, of 230 300 to 30c, of 232 315, of 240 345.
func cases() [][3][]uint32 {
	return [][3][]uint32{
		{nil, nil, nil},
		{{}, nil, nil},
		{{0x41}, {0x41}, {0x41}},
		{{0}, {0}, {0}},
		// The chapter's examples, and the shared test's.
		{{0x41, 0x30a}, {0x41, 0x30a}, {0xc5}},
		{{0x212b}, {0x41, 0x30a}, {0xc5}},
		{{0xc5}, {0x41, 0x30a}, {0xc5}},
		{{0x41, 0x301}, {0x41, 0x301}, {0xc1}},
		{{0x1e0a, 0x323}, {0x44, 0x323, 0x307}, {0x1e0c, 0x307}},
		{{0x958}, {0x915, 0x93c}, {0x915, 0x93c}},
		{{0x1100, 0xac00, 0x11a8}, {0x1100, 0x1100, 0x1161, 0x11a8}, {0x1100, 0xac01}},
		{{0x344}, {0x308, 0x301}, {0x308, 0x301}},
		{{0x1e69}, {0x73, 0x323, 0x307}, {0x1e69}},
		// Put into order ahead of being composed: both ways round, and taken apart for it.
		{{0x61, 0x302, 0x323}, {0x61, 0x323, 0x302}, {0x1ead}},
		{{0xe2, 0x323}, {0x61, 0x323, 0x302}, {0x1ead}},
		{{0x1ea1, 0x302}, {0x61, 0x323, 0x302}, {0x1ead}},
		{{0x73, 0x307, 0x323}, {0x73, 0x323, 0x307}, {0x1e69}},
		{{0x1e61, 0x323}, {0x73, 0x323, 0x307}, {0x1e69}},
		{{0x65, 0x315, 0x301}, {0x65, 0x301, 0x315}, {0xe9, 0x315}},
		{{0x61, 0x345, 0x301, 0x338}, {0x61, 0x338, 0x301, 0x345}, {0xe1, 0x338, 0x345}},
		{{0x3b1, 0x345, 0x301}, {0x3b1, 0x301, 0x345}, {0x1fb4}},
		{{0x1fb3, 0x301}, {0x3b1, 0x301, 0x345}, {0x1fb4}},
		{{0xd5, 0x304, 0x328}, {0x4f, 0x328, 0x303, 0x304}, {0x1ea, 0x303, 0x304}},
		{{0x1e14, 0x304}, {0x45, 0x304, 0x300, 0x304}, {0x1e14, 0x304}},
		// Those of one class stay as they are.
		{{0x65, 0x301, 0x302}, {0x65, 0x301, 0x302}, {0xe9, 0x302}},
		{{0x65, 0x302, 0x301}, {0x65, 0x302, 0x301}, {0x1ebf}},
		{{0x75, 0x304, 0x308}, {0x75, 0x304, 0x308}, {0x1e7b}},
		{{0x75, 0x308, 0x304}, {0x75, 0x308, 0x304}, {0x1d6}},
		// One alone that is not composed again, and what is decomposed again and again.
		{{0x2126}, {0x3a9}, {0x3a9}},
		{{0x212a}, {0x4b}, {0x4b}},
		{{0x37e, 0x387}, {0x3b, 0xb7}, {0x3b, 0xb7}},
		{{0x340, 0x341, 0x343}, {0x300, 0x301, 0x313}, {0x300, 0x301, 0x313}},
		{{0x61, 0x340}, {0x61, 0x300}, {0xe0}},
		{{0xf900, 0x2fa1d}, {0x8c48, 0x2a600}, {0x8c48, 0x2a600}},
		{{0x1f71}, {0x3b1, 0x301}, {0x3ac}},
		{{0x1f82}, {0x3b1, 0x313, 0x300, 0x345}, {0x1f82}},
		{{0x3b1, 0x345, 0x313, 0x300}, {0x3b1, 0x313, 0x300, 0x345}, {0x1f82}},
		{{0x2adc}, {0x2add, 0x338}, {0x2add, 0x338}},
		{{0xfb2c}, {0x5e9, 0x5bc, 0x5c1}, {0x5e9, 0x5bc, 0x5c1}},
		{{0x1d160}, {0x1d158, 0x1d165, 0x1d16e}, {0x1d158, 0x1d165, 0x1d16e}},
		{{0xf73, 0xf81}, {0xf71, 0xf71, 0xf72, 0xf80}, {0xf71, 0xf71, 0xf72, 0xf80}},
		// Starters that are composed with one ahead.
		{{0x9c7, 0x9be}, {0x9c7, 0x9be}, {0x9cb}},
		{{0x9cb, 0x9be}, {0x9c7, 0x9be, 0x9be}, {0x9cb, 0x9be}},
		{{0x9c7, 0x301, 0x9be}, {0x9c7, 0x301, 0x9be}, {0x9c7, 0x301, 0x9be}},
		{{0xdda, 0xdcf}, {0xdd9, 0xdca, 0xdcf}, {0xdda, 0xdcf}},
		{{0xddc, 0xdca}, {0xdd9, 0xdcf, 0xdca}, {0xddd}},
		{{0x11935, 0x11930}, {0x11935, 0x11930}, {0x11938}},
		// Marks with nothing ahead, and behind what is taken for nothing.
		{{0x301, 0x323}, {0x323, 0x301}, {0x323, 0x301}},
		{{0x301, 0x65}, {0x301, 0x65}, {0x301, 0x65}},
		{{0x65, 0x34f, 0x301}, {0x65, 0x34f, 0x301}, {0x65, 0x34f, 0x301}},
		// Syllables.
		{{0xac00, 0x11a8}, {0x1100, 0x1161, 0x11a8}, {0xac01}},
		{{0xac01, 0x11a8}, {0x1100, 0x1161, 0x11a8, 0x11a8}, {0xac01, 0x11a8}},
		{{0x1112, 0x1175, 0x11c2}, {0x1112, 0x1175, 0x11c2}, {0xd7a3}},
		{{0xd7a3, 0xac00}, {0x1112, 0x1175, 0x11c2, 0x1100, 0x1161}, {0xd7a3, 0xac00}},
		{{0xac00, 0x323, 0x11a8}, {0x1100, 0x1161, 0x323, 0x11a8}, {0xac00, 0x323, 0x11a8}},
		{{0xac00, 0x11a7}, {0x1100, 0x1161, 0x11a7}, {0xac00, 0x11a7}},
		// What is like another one alone stays.
		{{0xa0, 0xb5, 0xfb01, 0x3131, 0xff21}, {0xa0, 0xb5, 0xfb01, 0x3131, 0xff21}, {0xa0, 0xb5, 0xfb01, 0x3131, 0xff21}},
		// No code points, and what is composed but for bits above.
		{{0x65, 0xd800, 0x301}, {0x65, 0xd800, 0x301}, {0x65, 0xd800, 0x301}},
		{{0xdfff, 0x110000, 1<<32 - 1}, {0xdfff, 0x110000, 1<<32 - 1}, {0xdfff, 0x110000, 1<<32 - 1}},
		{{0x80000041, 0x30a, 0x8000212b}, {0x80000041, 0x30a, 0x8000212b}, {0x80000041, 0x30a, 0x8000212b}},
		{{0x1ac01, 0x10000e9, 0x212b}, {0x1ac01, 0x10000e9, 0x41, 0x30a}, {0x1ac01, 0x10000e9, 0xc5}},
	}
}

// P8.1, P8.2 and P8.5: the chapter's examples, and more.
func TestCases(t *testing.T) {
	for _, x := range cases() {
		l, d, c := x[0], x[1], x[2]
		if got := norm.NFD(l); !slices.Equal(got, d) {
			t.Errorf("NFD(%x) = %x, want %x", l, got, d)
		}
		if got := norm.NFC(l); !slices.Equal(got, c) {
			t.Errorf("NFC(%x) = %x, want %x", l, got, c)
		}
		if got := norm.Is(l); got != slices.Equal(l, c) {
			t.Errorf("Is(%x) = %v", l, got)
		}
		check(t, l)
	}
}

// P8.2: each case against each: those alone are the same whose decomposed forms are.
func TestSameOfCases(t *testing.T) {
	for _, x := range cases() {
		for _, y := range cases() {
			want := slices.Equal(x[1], y[1])
			if got := norm.Same(x[0], y[0]); got != want {
				t.Errorf("Same(%x, %x) = %v", x[0], y[0], got)
			}
			if got := slices.Equal(x[2], y[2]); got != want {
				t.Errorf("%x and %x have one form alone", x[0], y[0])
			}
		}
	}
}

// P8.2: some told by hand.
func TestSame(t *testing.T) {
	for _, x := range []struct {
		a, b []uint32
		same bool
	}{
		{[]uint32{0x212b}, []uint32{0x41, 0x30a}, true},
		{[]uint32{0x212b}, []uint32{0xc5}, true},
		{nil, []uint32{}, true},
		{[]uint32{0x61, 0x302, 0x323}, []uint32{0x61, 0x323, 0x302}, true},
		{[]uint32{0xac01}, []uint32{0x1100, 0x1161, 0x11a8}, true},
		{[]uint32{0x2126, 0x4b}, []uint32{0x3a9, 0x212a}, true},
		{[]uint32{0x958}, []uint32{0x915, 0x93c}, true},
		{nil, []uint32{0}, false},
		{[]uint32{0x41}, []uint32{0x41, 0x30a}, false},
		{[]uint32{0x41, 0x30a}, []uint32{0x41}, false},
		{[]uint32{0x41, 0x30a}, []uint32{0x61, 0x30a}, false},
		{[]uint32{0x65, 0x301, 0x302}, []uint32{0x65, 0x302, 0x301}, false},
		{[]uint32{0x301, 0x65}, []uint32{0x65, 0x301}, false},
		{[]uint32{0x41, 0x62}, []uint32{0x62, 0x41}, false},
		{[]uint32{0xfb01}, []uint32{0x66, 0x69}, false},
		{[]uint32{0x41}, []uint32{0x80000041}, false},
		{[]uint32{0xd800}, []uint32{0xfffd}, false},
	} {
		if norm.Same(x.a, x.b) != x.same || norm.Same(x.b, x.a) != x.same {
			t.Errorf("Same(%x, %x) = %v, turned about %v", x.a, x.b, norm.Same(x.a, x.b), norm.Same(x.b, x.a))
		}
	}
}

// P8.1, P8.2 and P8.5: each code point alone, and some numbers that are none. What starts and is whole stays as it is in
// both forms, so no more is asked of it.
func TestNumbers(t *testing.T) {
	stay := stayers(t)
	for c := uint32(0); c < 0x110100; c++ {
		l := []uint32{c}
		if stay[c] || !decomp.Whole(c) {
			check(t, l)
		} else if !slices.Equal(norm.NFD(l), l) || !slices.Equal(norm.NFC(l), l) {
			t.Errorf("NFD(%x) = %x, NFC(%x) = %x", l, norm.NFD(l), l, norm.NFC(l))
		}
	}
	r := rand.New(rand.NewSource(17))
	for range 10000 {
		check(t, []uint32{r.Uint32(), 0x301, r.Uint32(), 0x11a8})
	}
}

// P8.2: of single ones those alone are not in the composed form whose row says that they are not composed again.
func TestIsOfRows(t *testing.T) {
	for rows := api.Decomps; len(rows) > 0; rows = rows[16:] {
		c, composed := hex(t, rows[:5]), rows[15] == 'c'
		if got := norm.Is([]uint32{c}); got != composed {
			t.Errorf("Is(%x) = %v", c, got)
		}
		if parts := norm.NFD([]uint32{c}); slices.Equal(norm.NFC(parts), []uint32{c}) != composed {
			t.Errorf("NFC(%x) = %x", parts, norm.NFC(parts))
		}
	}
}

// lists tells all lists of up to so many numbers out of some.
func lists(from []uint32, most int) [][]uint32 {
	var all [][]uint32
	count := 1
	for n := range most + 1 {
		for i := range count {
			l := make([]uint32, n)
			for k := range l {
				l[k], i = from[i%len(from)], i/len(from)
			}
			all = append(all, l)
		}
		count *= len(from)
	}
	return all
}

// short are all short lists of letters and marks, of syllables and their letters, of what is not composed again, and
// of what is no code point.
func short() [][]uint32 {
	return slices.Concat(
		lists([]uint32{0x75, 0x308, 0x304, 0x323, 0x1d6, 0x344}, 5),
		lists([]uint32{0x1100, 0x1161, 0x11a8, 0xac00, 0xac01, 0x301, 0x41}, 4),
		lists([]uint32{0x9c7, 0x9be, 0x9cb, 0x958, 0x93c, 0x212b, 0x30a}, 4),
		lists([]uint32{0x3b1, 0x1fb3, 0x345, 0x301, 0xd800, 0x110000, 0}, 4),
	)
}

// P8.1, P8.2, P8.4 and P8.5: all short lists, cut wherever a number starts.
func TestAllShort(t *testing.T) {
	stay := stayers(t)
	for _, l := range short() {
		check(t, l)
		checkCuts(t, stay, l)
	}
}

// P8.5: all short lists against each other: the one form is the same just if the other is.
func TestFormsGoTogether(t *testing.T) {
	composed, decomposed := map[string]string{}, map[string]string{}
	for _, l := range short() {
		d, c := fmt.Sprint(norm.NFD(l)), fmt.Sprint(norm.NFC(l))
		if of, ok := composed[d]; ok && of != c {
			t.Errorf("what is decomposed to %s is composed to %s and to %s", d, of, c)
		}
		if of, ok := decomposed[c]; ok && of != d {
			t.Errorf("what is composed to %s is decomposed to %s and to %s", c, of, d)
		}
		composed[d], decomposed[c] = c, d
	}
}

// some tells a list of what starts and what does not, and of what is no code point.
func some(r *rand.Rand, stay []uint32, n int) []uint32 {
	l := make([]uint32, n)
	for i := range l {
		switch r.Intn(8) {
		case 0:
			l[i] = r.Uint32()
		case 1:
			l[i] = 0x41 + r.Uint32()%0x200
		case 2:
			l[i] = 0x1e00 + r.Uint32()%0x200
		case 3:
			l[i] = 0x1100 + r.Uint32()%0x100
		case 4:
			l[i] = 0xac00 + r.Uint32()%0x60
		case 5:
			l[i] = 0x300 + r.Uint32()%0x46
		default:
			l[i] = stay[r.Intn(len(stay))]
		}
	}
	return l
}

// P8.1, P8.2, P8.4 and P8.5: lists of all kinds, and long ones.
func TestLists(t *testing.T) {
	stay := stayers(t)
	numbers := sorted(stay)
	r := rand.New(rand.NewSource(18))
	for n := range 4000 {
		l := some(r, numbers, n%30)
		check(t, l)
		checkCuts(t, stay, l)
	}
	check(t, some(r, numbers, 100000))
	check(t, slices.Repeat([]uint32{0x301, 0x323}, 50000))
	check(t, slices.Repeat([]uint32{0x1100, 0x1161, 0x11a8}, 50000))
}

// P8.5: each one of the rows that starts, and each syllable of some, behind all that might change with it.
func TestCutAtEach(t *testing.T) {
	stay := stayers(t)
	heads := [][]uint32{{0x41}, {0x301}, {0x41, 0x301, 0x323}, {0x1100}, {0xac00}, {0x9c7}, {0x9c7, 0x9be}, {0x915}, {0x3c}, {0x30d2}, {0x11935}}
	starts := []uint32{0xac00, 0xac01, 0xac1b, 0xac1c, 0xd788, 0xd7a3, 0x1100, 0x1112, 0x1113, 0x1160, 0x1176, 0x11a7, 0x11c3, 0xd800, 0x110000, 1<<32 - 1}
	for rows := api.Decomps; len(rows) > 0; rows = rows[16:] {
		starts = append(starts, hex(t, rows[:5]), hex(t, rows[5:10]))
	}
	for _, c := range starts {
		for _, head := range heads {
			checkCuts(t, stay, slices.Concat(head, []uint32{c, 0x301}))
		}
	}
}

// P8.4: some told by hand.
func TestSafe(t *testing.T) {
	for _, x := range []struct {
		l    []uint32
		want int
	}{
		{nil, 0},
		{[]uint32{}, 0},
		// The chapter's example.
		{[]uint32{0x41, 0x301, 0x42, 0x301}, 2},
		// The first place is never told.
		{[]uint32{0x41}, 0},
		{[]uint32{0x41, 0x301}, 0},
		{[]uint32{0x301}, 0},
		{[]uint32{0x301, 0x323}, 0},
		// The greatest of many; the last place too.
		{[]uint32{0x41, 0x42}, 1},
		{[]uint32{0x301, 0x42}, 1},
		{[]uint32{0x41, 0x42, 0x43, 0x44}, 3},
		{[]uint32{0x41, 0x42, 0x43, 0x301, 0x323, 0x345}, 2},
		{[]uint32{0x41, 0x301, 0x323, 0x345, 0, 0x301}, 4},
		// No mark, but composed with one ahead: a vowel sign, a vowel, a last letter.
		{[]uint32{0x9c7, 0x9be}, 0},
		{[]uint32{0x41, 0x9c7, 0x9be}, 1},
		{[]uint32{0x1100, 0x1161, 0x11a8}, 0},
		{[]uint32{0x41, 0x1100, 0x1161, 0x11a8}, 1},
		{[]uint32{0x41, 0x1160}, 1},
		{[]uint32{0x41, 0x1176}, 1},
		{[]uint32{0x41, 0x11a7}, 1},
		{[]uint32{0x41, 0x11c3}, 1},
		{[]uint32{0x1100, 0xac00, 0x11a8}, 1},
		{[]uint32{0xac00, 0xac01}, 1},
		{[]uint32{0x11935, 0x11930}, 0},
		// No mark, but not composed again, though nothing ahead would matter to some.
		{[]uint32{0x41, 0x212b}, 0},
		{[]uint32{0x41, 0x958}, 0},
		{[]uint32{0x41, 0xf900, 0x301}, 0},
		{[]uint32{0x41, 0xf73}, 0},
		// What is composed, and is composed again.
		{[]uint32{0x41, 0xc5}, 1},
		{[]uint32{0x41, 0x1fa, 0x301}, 1},
		// A mark that no row of Pairs has, and one that is not composed again.
		{[]uint32{0x41, 0x315}, 0},
		{[]uint32{0x41, 0x344}, 0},
		// No code points.
		{[]uint32{0x41, 0xd800, 0x301}, 1},
		{[]uint32{0x41, 0x110000}, 1},
		{[]uint32{0x41, 0x80000301}, 1},
		{[]uint32{0x41, 1<<32 - 1, 0x9be}, 1},
	} {
		if got := norm.Safe(x.l); got != x.want {
			t.Errorf("Safe(%x) = %d, want %d", x.l, got, x.want)
		}
	}
}

// P8.4: each code point, ahead of a mark and behind one; and one that starts at each place of a long list.
func TestSafeNumbers(t *testing.T) {
	stay := stayers(t)
	for c := uint32(0); c < 0x110100; c++ {
		want := 1
		if stay[c] {
			want = 0
		}
		if got := norm.Safe([]uint32{0x301, c, 0x301}); got != want {
			t.Errorf("Safe(301 %x 301) = %d", c, got)
		}
	}
	l := slices.Repeat([]uint32{0x301, 0x9be, 0x212b, 0x1161}, 50)
	for at := range l {
		l[at], l[at/2] = 0x41, 0x41
		if got := norm.Safe(l); got != at {
			t.Errorf("Safe of a list that starts at %d and ahead of it = %d", at, got)
		}
		l[at], l[at/2] = 0x301, 0x301
	}
}

// P8.3: some told by hand.
func TestText(t *testing.T) {
	for _, x := range [][2]string{
		{"", ""},
		{"plain\x00 text\r\n", "plain\x00 text\r\n"},
		{"e\u0301x", "\u00e9x"},
		{"\u00e9", "\u00e9"},
		{"\u212b\u2126", "\u00c5\u03a9"},
		{"A\u030aA\u030a", "\u00c5\u00c5"},
		{"a\u0302\u0323", "\u1ead"},
		{"\u1e0a\u0323", "\u1e0c\u0307"},
		{"\u0301a", "\u0301a"},
		{"\u0958", "\u0915\u093c"},
		{"\u1112\u1161\u11ab\u1100\u1173\u11af", "\ud55c\uae00"},
		{"\ufffd\u0301", "\ufffd\u0301"},
		{"\ufeffe\u0301", "\ufeff\u00e9"},
		{"\U0001d160", "\U0001d158\U0001d165\U0001d16e"},
		{"\U00011935\U00011930", "\U00011938"},
		{"\U0002fa1d\U0010ffff", "\U0002a600\U0010ffff"},
		{strings.Repeat("e\u0301", 50000), strings.Repeat("\u00e9", 50000)},
	} {
		if got, e := norm.Text([]byte(x[0])); string(got) != x[1] || e != api.OK {
			t.Errorf("Text(%+q) = %+q, %d, want %+q", x[0], got, int(e), x[1])
		}
		if got, e := norm.Text([]byte(x[1])); string(got) != x[1] || e != api.OK {
			t.Errorf("Text(%+q) = %+q, %d", x[1], got, int(e))
		}
	}
}

// P8.3: bytes that are not right, alone, and with right ones ahead of them and behind them.
func TestTextFaults(t *testing.T) {
	for _, bad := range []string{
		"\xff", "\xfe", "\x80", "\xbf", "\xc3", "\xc0\x80", "\xc1\xbf", "\xe2\x82", "\xe0\x9f\xbf", "\xed\xa0\x80", "\xed\xbf\xbf",
		"\xf0\x9f\x98", "\xf0\x8f\xbf\xbf", "\xf4\x90\x80\x80", "\xf5\x80\x80\x80", "\xf8\x88\x80\x80\x80", "\xcc\xcc\x81",
	} {
		for _, b := range []string{bad, "e\u0301" + bad, bad + "e\u0301", "\u00e9" + bad + "\u0301", bad + bad} {
			if got, e := norm.Text([]byte(b)); len(got) != 0 || e != api.ErrUTF8 {
				t.Errorf("Text(%+q) = %+q, %d", b, got, int(e))
			}
		}
	}
}

// checkText holds Text of any bytes against their code points' composed form.
func checkText(t *testing.T, b []byte) {
	t.Helper()
	var want []byte
	l, wantE := code.Codes(b)
	if wantE == api.OK {
		want, wantE = code.Bytes(norm.NFC(l))
	}
	if got, e := norm.Text(b); !bytes.Equal(got, want) || e != wantE {
		t.Errorf("Text(%x) = %x, %d, want %x, %d", b, got, int(e), want, int(wantE))
	}
}

// P8.3: each code point with a mark behind it, all of one and two bytes, texts of all kinds, and these with a byte
// spoilt.
func TestTexts(t *testing.T) {
	for c := uint32(0); c <= api.MaxCode; c++ {
		if b, e := code.Put(c); e == api.OK {
			checkText(t, append(b, 0xcc, 0x81))
		}
	}
	for n := range 1 << 16 {
		checkText(t, []byte{byte(n)})
		checkText(t, []byte{byte(n >> 8), byte(n)})
	}
	numbers := sorted(stayers(t))
	r := rand.New(rand.NewSource(19))
	for n := range 5000 {
		l := slices.DeleteFunc(some(r, numbers, n%30), func(c uint32) bool { return code.Width(c) == 0 })
		b, _ := code.Bytes(l)
		checkText(t, b)
		if len(b) > 0 {
			b[r.Intn(len(b))] = byte(r.Intn(256))
			checkText(t, b)
		}
	}
}

// spoil overwrites a list with its spare room.
func spoil[T uint32 | byte](l []T) {
	l = l[:cap(l)]
	for i := range l {
		l[i] = 0xbd
	}
}

// checkNew holds a call against rule 3, with room behind what is handed in: an argument is not changed, and an answer
// is new memory with its spare room: not that of an argument, nor that of another answer.
func checkNew[T uint32 | byte](t *testing.T, what string, room []T, call func([]T) []T) {
	t.Helper()
	kept := slices.Clone(room)
	for n := range len(room) + 1 {
		for _, l := range [][]T{room[:n], room[:n:n]} {
			one, other := call(l), call(l)
			want := slices.Clone(other)
			spoil(one)
			if !slices.Equal(room, kept) {
				t.Fatalf("%s has changed the first %d of %x to %x", what, n, kept, room)
			}
			if !slices.Equal(other, want) || !slices.Equal(call(l), want) {
				t.Errorf("%s of %x shares its memory with another answer", what, l)
			}
		}
	}
}

// Rule 3, for all calls.
func TestNewMemory(t *testing.T) {
	asks := func(l []uint32) []uint32 {
		norm.Is(l)
		norm.Safe(l)
		norm.Same(l, l)
		return nil
	}
	// What changes, what stays as it is, and marks alone.
	for _, room := range [][]uint32{
		{0x65, 0x301, 0x323, 0x212b, 0x1100, 0x1161, 7, 7},
		{0x41, 0x42, 0xd800, 0x43, 7, 7, 7, 7},
		{0x345, 0x301, 0x323, 0x338, 7, 7, 7, 7},
	} {
		checkNew(t, "NFD", room, norm.NFD)
		checkNew(t, "NFC", room, norm.NFC)
		checkNew(t, "Is, Safe or Same", room, asks)
	}
	for _, room := range []string{"plain text", "e\u0301\u212b\u1100\u1161x", "\u0345\u0301\u0323", "x\xffe\u0301"} {
		checkNew(t, "Text", []byte(room), func(b []byte) []byte {
			told, _ := norm.Text(b)
			return told
		})
	}
}
