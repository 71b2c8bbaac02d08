package decomp_test

import (
	"math/rand"
	"slices"
	"strconv"
	"testing"

	"gesso/api"
	"gesso/decomp"
)

// table tells what each character is decomposed to by one step alone: the rows of Decomps, and the syllables, counted
// up from ac00. What is not in it is not decomposed.
func table(t *testing.T) map[uint32][]uint32 {
	t.Helper()
	steps := map[uint32][]uint32{}
	for rows := api.Decomps; len(rows) > 0; rows = rows[16:] {
		c, a, b := hex(t, rows[:5]), hex(t, rows[5:10]), hex(t, rows[10:15])
		steps[c] = []uint32{a}
		if b != 0 {
			steps[c] = []uint32{a, b}
		}
	}
	c := uint32(0xac00)
	for l := uint32(0x1100); l < 0x1100+19; l++ {
		for v := uint32(0x1161); v < 0x1161+21; v++ {
			steps[c] = []uint32{l, v}
			c++
			for x := uint32(0x11a8); x < 0x11a8+27; x++ {
				steps[c] = []uint32{l, v, x}
				c++
			}
		}
	}
	return steps
}

func hex(t *testing.T, s string) uint32 {
	t.Helper()
	n, err := strconv.ParseUint(s, 16, 32)
	if err != nil {
		t.Fatal(err)
	}
	return uint32(n)
}

// apart takes a list apart by passes over the whole of it, each of one step, till one finds nothing.
func apart(steps map[uint32][]uint32, l []uint32) []uint32 {
	for {
		var next []uint32
		found := false
		for _, c := range l {
			if s, ok := steps[c]; ok {
				next, found = append(next, s...), true
			} else {
				next = append(next, c)
			}
		}
		if !found {
			return next
		}
		l = next
	}
}

// check holds Full and Whole against the table.
func check(t *testing.T, steps map[uint32][]uint32, c uint32) {
	t.Helper()
	want := apart(steps, []uint32{c})
	if got := decomp.Full(c); !slices.Equal(got, want) {
		t.Errorf("Full(%x) = %x, want %x", c, got, want)
	}
	if got := decomp.Whole(c); got != slices.Equal(want, []uint32{c}) {
		t.Errorf("Whole(%x) = %v, but it is decomposed to %x", c, got, want)
	}
}

// checkList holds List against the table, and List of what it tells against that.
func checkList(t *testing.T, steps map[uint32][]uint32, l []uint32) {
	t.Helper()
	want := apart(steps, l)
	got := decomp.List(l)
	if !slices.Equal(got, want) {
		t.Errorf("List(%x) = %x, want %x", l, got, want)
	}
	if again := decomp.List(got); !slices.Equal(again, got) {
		t.Errorf("List(%x) = %x, which is taken apart to %x", l, got, again)
	}
}

// some tells a list of what is decomposed, what is not, and what is no code point.
func some(r *rand.Rand, keys []uint32, n int) []uint32 {
	l := make([]uint32, n)
	for i := range l {
		switch r.Intn(6) {
		case 0:
			l[i] = r.Uint32()
		case 1:
			l[i] = r.Uint32() % 0x400
		case 2:
			l[i] = 0xabff + r.Uint32()%0x2ba6
		default:
			l[i] = keys[r.Intn(len(keys))]
		}
	}
	return l
}

// sorted tells the keys of the table, since a map's order is not the same each time.
func sorted(steps map[uint32][]uint32) []uint32 {
	var keys []uint32
	for c := range steps {
		keys = append(keys, c)
	}
	slices.Sort(keys)
	return keys
}

// cases are characters with their full decompositions, told by hand.
func cases() map[uint32][]uint32 {
	return map[uint32][]uint32{
		// One step: two, and one alone.
		0xc0: {0x41, 0x300}, 0xe9: {0x65, 0x301}, 0x226e: {0x3c, 0x338}, 0x30d4: {0x30d2, 0x309a}, 0x11938: {0x11935, 0x11930},
		0x340: {0x300}, 0x37e: {0x3b}, 0x2126: {0x3a9}, 0x212a: {0x4b}, 0xf900: {0x8c48}, 0x2fa1d: {0x2a600},
		// What is not composed again is decomposed as well.
		0x344: {0x308, 0x301}, 0x958: {0x915, 0x93c}, 0xfb1d: {0x5d9, 0x5b4}, 0x2adc: {0x2add, 0x338}, 0x1d15e: {0x1d157, 0x1d165},
		// The first one again, and again; one alone ahead of two, and at the end.
		0x1d5: {0x55, 0x308, 0x304}, 0x1e15: {0x65, 0x304, 0x300}, 0x1fa: {0x41, 0x30a, 0x301}, 0x212b: {0x41, 0x30a}, 0xdda: {0xdd9, 0xdca},
		0xddd: {0xdd9, 0xdcf, 0xdca}, 0x1f02: {0x3b1, 0x313, 0x300}, 0x1f82: {0x3b1, 0x313, 0x300, 0x345}, 0x1fa7: {0x3c9, 0x314, 0x342, 0x345},
		0x1f71: {0x3b1, 0x301}, 0x1fe3: {0x3c5, 0x308, 0x301}, 0x1fee: {0xa8, 0x301}, 0x1fef: {0x60},
		0x1d160: {0x1d158, 0x1d165, 0x1d16e}, 0xfb2c: {0x5e9, 0x5bc, 0x5c1},
		// Syllables: the first and the last one, with a T and without.
		0xac00: {0x1100, 0x1161}, 0xac01: {0x1100, 0x1161, 0x11a8}, 0xac1b: {0x1100, 0x1161, 0x11c2}, 0xac1c: {0x1100, 0x1162},
		0xd55c: {0x1112, 0x1161, 0x11ab}, 0xd788: {0x1112, 0x1175}, 0xd7a3: {0x1112, 0x1175, 0x11c2},
		// Whole ones: nought, letters, marks, those about the syllables, and their letters.
		0: {0}, 0x41: {0x41}, 0xbf: {0xbf}, 0xd7: {0xd7}, 0x301: {0x301}, 0x4e00: {0x4e00}, 0xabff: {0xabff}, 0xd7a4: {0xd7a4},
		0x1100: {0x1100}, 0x1161: {0x1161}, 0x11a8: {0x11a8}, 0x11c2: {0x11c2}, 0x2fa1e: {0x2fa1e}, 0x10ffff: {0x10ffff},
		// What is decomposed by likeness alone is whole.
		0xa0: {0xa0}, 0xa8: {0xa8}, 0xb5: {0xb5}, 0xfb01: {0xfb01}, 0x3131: {0x3131}, 0xff21: {0xff21},
		// No code points, and more digits ahead of what is decomposed.
		0xd800: {0xd800}, 0xdfff: {0xdfff}, 0x110000: {0x110000}, 0x1000e9: {0x1000e9}, 0x8000212b: {0x8000212b},
		0x1ac01: {0x1ac01}, 0x8000ac01: {0x8000ac01}, 1<<32 - 1: {1<<32 - 1},
	}
}

// P5.1 and P5.3: the chapter's examples, and more.
func TestFullWhole(t *testing.T) {
	for c, want := range cases() {
		if got := decomp.Full(c); !slices.Equal(got, want) {
			t.Errorf("Full(%x) = %x, want %x", c, got, want)
		}
		if got := decomp.Whole(c); got != (len(want) == 1 && want[0] == c) {
			t.Errorf("Whole(%x) = %v", c, got)
		}
	}
}

// P5.1 and P5.3: all code points, some numbers behind them, and those that are decomposed but for bits above.
func TestNumbers(t *testing.T) {
	steps := table(t)
	for c := uint32(0); c < 0x110100; c++ {
		check(t, steps, c)
	}
	for c := range steps {
		for _, above := range []uint32{1 << 20, 1 << 21, 1 << 24, 1 << 31, 0xfff00000} {
			check(t, steps, c|above)
		}
	}
	r := rand.New(rand.NewSource(7))
	for range 100000 {
		check(t, steps, r.Uint32())
	}
}

// P5.2: the order stays, that of marks too, and so do noughts and numbers that are no code points.
func TestList(t *testing.T) {
	for _, x := range []struct{ l, want []uint32 }{
		{nil, nil},
		{[]uint32{}, nil},
		{[]uint32{0x41}, []uint32{0x41}},
		{[]uint32{0x1e15}, []uint32{0x65, 0x304, 0x300}},
		{[]uint32{0xe9, 0x301}, []uint32{0x65, 0x301, 0x301}},
		{[]uint32{0x301, 0xe9}, []uint32{0x301, 0x65, 0x301}},
		{[]uint32{0xe9, 0xe9}, []uint32{0x65, 0x301, 0x65, 0x301}},
		// 323 would stand ahead of 307, if they were put into order.
		{[]uint32{0x1e0b, 0x323}, []uint32{0x64, 0x307, 0x323}},
		{[]uint32{0x315, 0x300, 0x5b0, 0x301}, []uint32{0x315, 0x300, 0x5b0, 0x301}},
		{[]uint32{0xac01, 0xac00, 0x11a8, 0xd7a3}, []uint32{0x1100, 0x1161, 0x11a8, 0x1100, 0x1161, 0x11a8, 0x1112, 0x1175, 0x11c2}},
		{[]uint32{0, 0, 0xc0, 0}, []uint32{0, 0, 0x41, 0x300, 0}},
		{[]uint32{0xd800, 0x212b, 0x110000, 1<<32 - 1, 0x2126}, []uint32{0xd800, 0x41, 0x30a, 0x110000, 1<<32 - 1, 0x3a9}},
	} {
		if got := decomp.List(x.l); !slices.Equal(got, x.want) {
			t.Errorf("List(%x) = %x, want %x", x.l, got, x.want)
		}
	}
}

// P5.2 and P5.4: each decomposed character alone, all of them in one list, and lists of all kinds.
func TestListOfList(t *testing.T) {
	steps := table(t)
	keys := sorted(steps)
	for _, c := range keys {
		checkList(t, steps, []uint32{c})
	}
	checkList(t, steps, nil)
	checkList(t, steps, keys)
	r := rand.New(rand.NewSource(8))
	for n := range 2000 {
		checkList(t, steps, some(r, keys, n%50))
	}
	checkList(t, steps, some(r, keys, 100000))
}

// P5.2: one behind the other, so a list's two halves are taken apart to the halves of the whole.
func TestListOfHalves(t *testing.T) {
	keys := sorted(table(t))
	r := rand.New(rand.NewSource(9))
	for n := range 500 {
		l := some(r, keys, n%40)
		var fulls []uint32
		for _, c := range l {
			fulls = append(fulls, decomp.Full(c)...)
		}
		at := r.Intn(len(l) + 1)
		halves := slices.Concat(decomp.List(l[:at]), decomp.List(l[at:]))
		if got := decomp.List(l); !slices.Equal(got, fulls) || !slices.Equal(got, halves) {
			t.Errorf("List(%x) = %x, but Full of each is %x, and of the halves %x", l, got, fulls, halves)
		}
	}
}

// P5.4: no part of what was taken apart is taken apart again.
func TestPartsAreWhole(t *testing.T) {
	for c := range table(t) {
		if decomp.Whole(c) {
			t.Errorf("Whole(%x), but it is decomposed", c)
		}
		for _, p := range decomp.Full(c) {
			if !decomp.Whole(p) || !slices.Equal(decomp.Full(p), []uint32{p}) {
				t.Errorf("%x is taken apart to %x, but that to %x", c, p, decomp.Full(p))
			}
		}
	}
}

// Rule 3: an argument is not changed, and an answer is new memory with its spare room: not that of an argument, nor
// that of another answer.
func TestNewMemory(t *testing.T) {
	spoil := func(l []uint32) {
		l = l[:cap(l)]
		for i := range l {
			l[i] = 0xbad
		}
	}
	// Whole characters alone, and ones that are decomposed, with room behind what is handed in.
	for _, room := range [][]uint32{{0x41, 0x65, 0x301, 0, 0xd800, 7, 7, 7}, {0x41, 0xe9, 0xac01, 0x301, 0x2126, 7, 7, 7}, {0x2126, 0x1e15, 0xd7a3, 7, 7, 7, 7, 7}} {
		kept := slices.Clone(room)
		for n := range room {
			spoil(decomp.List(room[:n]))
			spoil(decomp.List(room[:n:n]))
			if !slices.Equal(room, kept) {
				t.Fatalf("List of the first %d of %x has changed it to %x", n, kept, room)
			}
		}
	}
	for c, want := range cases() {
		one, other := decomp.Full(c), decomp.Full(c)
		spoil(one)
		if !slices.Equal(other, want) || !slices.Equal(decomp.Full(c), want) {
			t.Errorf("Full(%x) shares its memory with another answer", c)
		}
		one, other = decomp.List([]uint32{c, c}), decomp.List([]uint32{c, c})
		spoil(one)
		if !slices.Equal(other, slices.Concat(want, want)) {
			t.Errorf("List of %x twice shares its memory with another answer", c)
		}
	}
}
