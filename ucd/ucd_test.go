package ucd_test

import (
	"math/rand"
	"strconv"
	"testing"

	"gesso/api"
	"gesso/ucd"
)

// row is a row of Decomps.
type row struct {
	a, b uint32
	back bool
}

// data is what api's rows say, read one by one into maps.
type data struct {
	classes map[uint32]int
	decomps map[uint32]row
	pairs   map[[2]uint32]uint32
	seconds map[uint32]int
}

func hex(t *testing.T, s string) uint32 {
	t.Helper()
	n, err := strconv.ParseUint(s, 16, 32)
	if err != nil {
		t.Fatal(err)
	}
	return uint32(n)
}

// cut tells the rows of a text, whose width must divide it.
func cut(t *testing.T, text string, width int) []string {
	t.Helper()
	if len(text) == 0 || len(text)%width != 0 {
		t.Fatalf("a text of %d bytes has no rows of %d", len(text), width)
	}
	var rows []string
	for ; len(text) > 0; text = text[width:] {
		rows = append(rows, text[:width])
	}
	return rows
}

// read reads api's rows, and looks whether each of their keys stands in one row alone, and all of them rise.
func read(t *testing.T) data {
	t.Helper()
	d := data{map[uint32]int{}, map[uint32]row{}, map[[2]uint32]uint32{}, map[uint32]int{}}
	ahead := ""
	for _, s := range cut(t, api.Classes, 12) {
		first, last := hex(t, s[:5]), hex(t, s[5:10])
		if first > last || ahead >= s[:5] {
			t.Fatalf("row %s of Classes does not rise", s)
		}
		for c := first; c <= last; c++ {
			d.classes[c] = int(hex(t, s[10:]))
		}
		ahead = s[5:10]
	}
	ahead = ""
	for _, s := range cut(t, api.Decomps, 16) {
		if ahead >= s[:5] || s[15] != 'c' && s[15] != '-' {
			t.Fatalf("row %s of Decomps does not rise, or says neither c nor -", s)
		}
		d.decomps[hex(t, s[:5])] = row{hex(t, s[5:10]), hex(t, s[10:15]), s[15] == 'c'}
		ahead = s[:5]
	}
	ahead = ""
	for _, s := range cut(t, api.Pairs, 15) {
		if ahead >= s[:10] {
			t.Fatalf("row %s of Pairs does not rise", s)
		}
		d.pairs[[2]uint32{hex(t, s[:5]), hex(t, s[5:10])}] = hex(t, s[10:])
		d.seconds[hex(t, s[5:10])]++
		ahead = s[:10]
	}
	return d
}

func (d data) second(c uint32) bool {
	return d.seconds[c] > 0 || 0x1161 <= c && c <= 0x1175 || 0x11a8 <= c && c <= 0x11c2
}

func (d data) quickly(c uint32) ucd.Quick {
	if r, ok := d.decomps[c]; ok && !r.back {
		return 1
	}
	if d.second(c) {
		return 2
	}
	return 0
}

// check holds all that is told of one number against the rows.
func (d data) check(t *testing.T, c uint32) {
	t.Helper()
	if got := ucd.Class(c); got != d.classes[c] {
		t.Errorf("Class(%x) = %d, want %d", c, got, d.classes[c])
	}
	r, there := d.decomps[c]
	if a, b, ok := ucd.Decomp(c); a != r.a || b != r.b || ok != there {
		t.Errorf("Decomp(%x) = %x, %x, %v, want %x, %x, %v", c, a, b, ok, r.a, r.b, there)
	}
	if got := ucd.Composes(c); got != r.back {
		t.Errorf("Composes(%x) = %v", c, got)
	}
	if got := ucd.Second(c); got != d.second(c) {
		t.Errorf("Second(%x) = %v", c, got)
	}
	quick := d.quickly(c)
	if got := ucd.Quickly(c); got != quick {
		t.Errorf("Quickly(%x) = %d, want %d", c, got, quick)
	}
	if got := ucd.Starts(c); got != (d.classes[c] == 0 && quick == 0) {
		t.Errorf("Starts(%x) = %v", c, got)
	}
}

// P3.1.
func TestClass(t *testing.T) {
	for _, x := range []struct {
		c     uint32
		class int
	}{
		{0, 0}, {0x41, 0}, {0x2ff, 0}, {0x300, 230}, {0x301, 230}, {0x314, 230}, {0x315, 232}, {0x316, 220}, {0x31b, 216}, {0x323, 220},
		{0x334, 1}, {0x338, 1}, {0x339, 220}, {0x345, 240}, {0x34f, 0}, {0x35c, 233}, {0x35d, 234}, {0x36f, 230}, {0x370, 0},
		{0x5b0, 10}, {0x5c7, 18}, {0x64b, 27}, {0x93c, 7}, {0x94d, 9}, {0x9be, 0}, {0xf71, 129}, {0xf72, 130}, {0xf74, 132}, {0xf7a, 130},
		{0x302a, 218}, {0x302f, 224}, {0x3099, 8}, {0x309a, 8}, {0x309b, 0}, {0xac00, 0}, {0xd800, 0}, {0xfb1e, 26},
		{0x10efd, 220}, {0x1d165, 216}, {0x1d16d, 226}, {0x1e4ef, 230}, {0x1e944, 230}, {0x1e949, 230}, {0x1e94a, 7}, {0x1e94b, 0},
		{0x10ffff, 0}, {0x110000, 0}, {0x100301, 0}, {0x80000301, 0}, {0xfff00301, 0}, {1<<32 - 1, 0},
	} {
		if got := ucd.Class(x.c); got != x.class {
			t.Errorf("Class(%x) = %d, want %d", x.c, got, x.class)
		}
	}
}

// P3.2.
func TestDecompComposes(t *testing.T) {
	for _, x := range []struct {
		c, a, b  uint32
		ok, back bool
	}{
		// Two, composed again: the first row among them, and one whose first is decomposed further.
		{0xc0, 0x41, 0x300, true, true}, {0xe9, 0x65, 0x301, true, true}, {0x1d5, 0xdc, 0x304, true, true}, {0x1e15, 0x113, 0x300, true, true},
		{0x30d4, 0x30d2, 0x309a, true, true}, {0x9cb, 0x9c7, 0x9be, true, true}, {0x11938, 0x11935, 0x11930, true, true},
		// One, which is never composed again: the last row among them.
		{0x340, 0x300, 0, true, false}, {0x37e, 0x3b, 0, true, false}, {0x2126, 0x3a9, 0, true, false}, {0x212b, 0xc5, 0, true, false},
		{0xf900, 0x8c48, 0, true, false}, {0x2fa1d, 0x2a600, 0, true, false},
		// Two, but not composed again: one whose first is no starter, and those that Unicode excludes.
		{0x344, 0x308, 0x301, true, false}, {0x958, 0x915, 0x93c, true, false}, {0xfb1d, 0x5d9, 0x5b4, true, false},
		{0x2adc, 0x2add, 0x338, true, false}, {0x1d15e, 0x1d157, 0x1d165, true, false},
		// None: beside those above, a compatibility decomposition, syllables, no code points.
		{0, 0, 0, false, false}, {0x41, 0, 0, false, false}, {0xbf, 0, 0, false, false}, {0x301, 0, 0, false, false}, {0xa0, 0, 0, false, false},
		{0xac00, 0, 0, false, false}, {0xd7a3, 0, 0, false, false}, {0xd800, 0, 0, false, false}, {0x2fa1e, 0, 0, false, false},
		{0x10ffff, 0, 0, false, false}, {0x1000e9, 0, 0, false, false}, {0x800000e9, 0, 0, false, false}, {1<<32 - 1, 0, 0, false, false},
	} {
		if a, b, ok := ucd.Decomp(x.c); a != x.a || b != x.b || ok != x.ok {
			t.Errorf("Decomp(%x) = %x, %x, %v, want %x, %x, %v", x.c, a, b, ok, x.a, x.b, x.ok)
		}
		if back := ucd.Composes(x.c); back != x.back {
			t.Errorf("Composes(%x) = %v", x.c, back)
		}
	}
}

// P3.3.
func TestPair(t *testing.T) {
	for _, x := range []struct{ a, b, c uint32 }{
		// The first row and the last, one with the same first as its neighbours, one whose first is composed.
		{0x3c, 0x338, 0x226e}, {0x11935, 0x11930, 0x11938}, {0x65, 0x301, 0xe9}, {0x65, 0x300, 0xe8}, {0x113, 0x300, 0x1e15}, {0x9c7, 0x9be, 0x9cb},
		// None: turned round, excluded, a single one, syllables, by half, and with more digits.
		{0x301, 0x65, 0}, {0x915, 0x93c, 0}, {0x308, 0x301, 0}, {0x2add, 0x338, 0}, {0x3a9, 0, 0}, {0, 0x3a9, 0}, {0, 0, 0},
		{0x1100, 0x1161, 0}, {0xac00, 0x11a8, 0}, {0x65, 0, 0}, {0x65, 0x41, 0}, {0xd800, 0x301, 0}, {0x65, 0xd800, 0},
		{0x100065, 0x301, 0}, {0x65, 0x100301, 0}, {0x80000065, 0x301, 0}, {0x65, 0xfff00301, 0}, {1<<32 - 1, 1<<32 - 1, 0},
	} {
		if c, ok := ucd.Pair(x.a, x.b); c != x.c || ok != (x.c != 0) {
			t.Errorf("Pair(%x, %x) = %x, %v, want %x", x.a, x.b, c, ok, x.c)
		}
	}
}

// P3.3: all that stand first in a row with all that stand second in one, in both orders.
func TestPairOfAll(t *testing.T) {
	d := read(t)
	firsts := map[uint32]int{}
	for p := range d.pairs {
		firsts[p[0]]++
	}
	hold := func(a, b uint32) {
		want, there := d.pairs[[2]uint32{a, b}]
		if c, ok := ucd.Pair(a, b); c != want || ok != there {
			t.Errorf("Pair(%x, %x) = %x, %v, want %x, %v", a, b, c, ok, want, there)
		}
	}
	for a := range firsts {
		for b := range d.seconds {
			hold(a, b)
			hold(b, a)
			hold(a, b+1)
			hold(a, b-1)
			hold(a+1, b)
			hold(a|1<<20, b)
			hold(a, b|1<<20)
		}
	}
}

// P3.3: Korean vowels and last letters with their bounds, some of Pairs, and some that stand first in them.
func TestSecond(t *testing.T) {
	for _, x := range []struct {
		c      uint32
		second bool
	}{
		{0x300, true}, {0x301, true}, {0x305, false}, {0x338, true}, {0x93c, true}, {0x9be, true}, {0x9d7, true}, {0x3099, true}, {0x11930, true},
		{0x1160, false}, {0x1161, true}, {0x1175, true}, {0x1176, false}, {0x11a7, false}, {0x11a8, true}, {0x11c2, true}, {0x11c3, false},
		{0, false}, {0x41, false}, {0x65, false}, {0xe9, false}, {0x2ff, false}, {0x1100, false}, {0xac00, false}, {0x5b4, false}, {0xd800, false},
		{0x10ffff, false}, {0x100301, false}, {0x80001161, false}, {0xfff00301, false}, {1<<32 - 1, false},
	} {
		if got := ucd.Second(x.c); got != x.second {
			t.Errorf("Second(%x) = %v", x.c, got)
		}
	}
}

// P3.4.
func TestQuicklyStarts(t *testing.T) {
	if ucd.Yes != 0 || ucd.No != 1 || ucd.Maybe != 2 {
		t.Errorf("Yes %d, No %d, Maybe %d", ucd.Yes, ucd.No, ucd.Maybe)
	}
	for _, x := range []struct {
		c      uint32
		quick  ucd.Quick
		starts bool
	}{
		{0, ucd.Yes, true}, {0x41, ucd.Yes, true}, {0xe9, ucd.Yes, true}, {0x1e15, ucd.Yes, true}, {0x1100, ucd.Yes, true}, {0xac00, ucd.Yes, true},
		{0xd800, ucd.Yes, true}, {0x10ffff, ucd.Yes, true}, {0x110000, ucd.Yes, true}, {0x100301, ucd.Yes, true}, {0x100958, ucd.Yes, true}, {1<<32 - 1, ucd.Yes, true},
		// Not of class 0.
		{0x305, ucd.Yes, false}, {0x5b4, ucd.Yes, false}, {0x1d165, ucd.Yes, false}, {0x301, ucd.Maybe, false}, {0x93c, ucd.Maybe, false}, {0x344, ucd.No, false}, {0x340, ucd.No, false},
		// Of class 0, but composed with what is ahead, or not composed again.
		{0x9be, ucd.Maybe, false}, {0x1161, ucd.Maybe, false}, {0x11c2, ucd.Maybe, false}, {0x958, ucd.No, false}, {0x2126, ucd.No, false}, {0x2fa1d, ucd.No, false},
	} {
		if got := ucd.Quickly(x.c); got != x.quick {
			t.Errorf("Quickly(%x) = %d, want %d", x.c, got, x.quick)
		}
		if got := ucd.Starts(x.c); got != x.starts {
			t.Errorf("Starts(%x) = %v", x.c, got)
		}
	}
}

// P3.1 to P3.4: all numbers up to some behind the last row, those about the last code point, and some between.
func TestNumbers(t *testing.T) {
	d := read(t)
	for c := uint32(0); c < 0x30000; c++ {
		d.check(t, c)
	}
	for c := uint32(0x30000); c < 0x120000; c += 61 {
		d.check(t, c)
	}
	for c := uint32(0x10ff00); c < 0x110100; c++ {
		d.check(t, c)
	}
}

// P3.1 to P3.4: numbers that are some row's but for bits above its digits.
func TestGreatNumbers(t *testing.T) {
	d := read(t)
	var keys []uint32
	for c := range d.classes {
		keys = append(keys, c)
	}
	for c := range d.decomps {
		keys = append(keys, c)
	}
	for c := range d.seconds {
		keys = append(keys, c)
	}
	for c := uint32(0x1160); c <= 0x11c3; c++ {
		keys = append(keys, c)
	}
	for _, c := range keys {
		for _, above := range []uint32{1 << 20, 1 << 24, 1 << 31, 0xfff00000} {
			d.check(t, c|above)
		}
	}
	r := rand.New(rand.NewSource(3))
	for range 1000 {
		d.check(t, r.Uint32())
	}
}

// P3.5.
func TestPairsAndDecompsAreOne(t *testing.T) {
	d := read(t)
	for p, c := range d.pairs {
		if a, b, ok := ucd.Decomp(c); a != p[0] || b != p[1] || !ok || !ucd.Composes(c) {
			t.Errorf("%x, %x is composed to %x, which is decomposed to %x, %x", p[0], p[1], c, a, b)
		}
	}
	from := map[[2]uint32]uint32{}
	for c := range d.decomps {
		a, b, _ := ucd.Decomp(c)
		got, ok := ucd.Pair(a, b)
		if ucd.Composes(c) {
			if got != c || !ok {
				t.Errorf("%x is decomposed to %x, %x, which is composed to %x", c, a, b, got)
			}
			if other := from[[2]uint32{a, b}]; other != 0 {
				t.Errorf("%x and %x are decomposed to the same", c, other)
			}
			from[[2]uint32{a, b}] = c
		} else if ok {
			t.Errorf("%x is not composed again, but %x, %x is composed to %x", c, a, b, got)
		}
	}
}
