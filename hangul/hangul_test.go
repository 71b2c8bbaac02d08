package hangul_test

import (
	"math/rand"
	"testing"

	"gesso/api"
	"gesso/hangul"
)

// parts is what a syllable is made of.
type parts struct{ l, v, t uint32 }

// table tells the syllables one by one, counted up from ac00: the last letters go round first, then the vowels, then
// the first letters. So it is told without reckoning places.
func table() map[uint32]parts {
	all, c := map[uint32]parts{}, uint32(0xac00)
	for l := uint32(0x1100); l < 0x1100+19; l++ {
		for v := uint32(0x1161); v < 0x1161+21; v++ {
			all[c] = parts{l, v, 0}
			c++
			for t := uint32(0x11a8); t < 0x11a8+27; t++ {
				all[c] = parts{l, v, t}
				c++
			}
		}
	}
	return all
}

// turned tells the syllables by what they are made of.
func turned(all map[uint32]parts) map[parts]uint32 {
	back := map[parts]uint32{}
	for c, p := range all {
		back[p] = c
	}
	return back
}

// above tells a number, and those that are the same but for bits above a syllable's. Some of these go round to the
// same syllable as the number itself, where places are reckoned without a look at the upper bound.
func above(c uint32) []uint32 {
	return []uint32{c, c | 1<<16, c | 1<<20, c | 1<<21, c | 1<<24, c | 1<<30, c | 1<<31, c | 0xffff0000}
}

// numbers tells all numbers about each row's two bounds, some within, and some far away from all of them.
func numbers() []uint32 {
	l := []uint32{0, 1, 2, 18, 19, 20, 27, 28, 0x41, 0x301, 0xff, 0x1113, 0x115f, 0x1160, 0x11a6, 0x11ff, 0x3131, 0xa960, 0xd7b0, 0xd7cb,
		0xd800, 0xdfff, 0xfffd, 0xffff, 0x10000, 0x10ffff, 0x110000, 1 << 31, 1<<32 - 2, 1<<32 - 1}
	for _, b := range []uint32{0x1100, 0x1112, 0x1161, 0x1175, 0x11a8, 0x11c2, 0xac00, 0xd7a3} {
		for c := b - 2; c <= b+2; c++ {
			l = append(l, above(c)...)
		}
	}
	// Syllables with and without a last letter: the first row's end, and the first vowels' end.
	return append(l, 0xac1b, 0xac1c, 0xac1d, 0xae4b, 0xae4c, 0xae4d, 0xd788, 0xd789, 0xae00, 0xd55c)
}

func checkSplit(t *testing.T, all map[uint32]parts, c uint32) {
	t.Helper()
	p, there := all[c]
	if got := hangul.Is(c); got != there {
		t.Errorf("Is(%x) = %v", c, got)
	}
	if l, v, x, ok := hangul.Split(c); (parts{l, v, x}) != p || ok != there {
		t.Errorf("Split(%x) = %x, %x, %x, %v, want %x, %v", c, l, v, x, ok, p, there)
	}
}

func checkPut(t *testing.T, back map[parts]uint32, l, v, x uint32) {
	t.Helper()
	c, there := back[parts{l, v, x}]
	want := api.OK
	if !there {
		want = api.ErrArg
	}
	if got, e := hangul.Put(l, v, x); got != c || e != want {
		t.Errorf("Put(%x, %x, %x) = %x, %d, want %x, %d", l, v, x, got, int(e), c, int(want))
	}
}

func checkJoin(t *testing.T, all map[uint32]parts, back map[parts]uint32, a, b uint32) {
	t.Helper()
	// A b of 0 is left out, since the table has 0 for no last letter.
	c, there := back[parts{a, b, 0}]
	if p, ok := all[a]; ok && p.t == 0 && b != 0 {
		c, there = back[parts{p.l, p.v, b}]
	}
	if got, ok := hangul.Join(a, b); got != c || ok != there {
		t.Errorf("Join(%x, %x) = %x, %v, want %x, %v", a, b, got, ok, c, there)
	}
}

// What the table above is taken for: as many as the document says, its examples, and some more.
func TestTable(t *testing.T) {
	all := table()
	if len(all) != 0xd7a3-0xac00+1 || len(turned(all)) != len(all) {
		t.Fatalf("%d syllables, %d of them apart", len(all), len(turned(all)))
	}
	for c, want := range map[uint32]parts{
		0xac00: {0x1100, 0x1161, 0}, 0xac01: {0x1100, 0x1161, 0x11a8}, 0xac1b: {0x1100, 0x1161, 0x11c2}, 0xac1c: {0x1100, 0x1162, 0},
		0xae00: {0x1100, 0x1173, 0x11af}, 0xae4c: {0x1101, 0x1161, 0}, 0xd55c: {0x1112, 0x1161, 0x11ab}, 0xd7a3: {0x1112, 0x1175, 0x11c2},
	} {
		if all[c] != want {
			t.Errorf("%x is told as %x, want %x", c, all[c], want)
		}
	}
}

// P4.1 to P4.3: the chapter's examples.
func TestExamples(t *testing.T) {
	if l, v, x, ok := hangul.Split(0xac01); l != 0x1100 || v != 0x1161 || x != 0x11a8 || !ok {
		t.Errorf("Split(ac01) = %x, %x, %x, %v", l, v, x, ok)
	}
	for _, x := range []struct {
		a, b, c uint32
		ok      bool
	}{{0x1100, 0x1161, 0xac00, true}, {0xac00, 0x11a8, 0xac01, true}, {0xac01, 0x11a8, 0, false}} {
		if c, ok := hangul.Join(x.a, x.b); c != x.c || ok != x.ok {
			t.Errorf("Join(%x, %x) = %x, %v", x.a, x.b, c, ok)
		}
	}
	if c, e := hangul.Put(0x1112, 0x1175, 0x11c2); c != 0xd7a3 || e != api.OK {
		t.Errorf("Put(1112, 1175, 11c2) = %x, %d", c, int(e))
	}
}

// P4.1: all code points, numbers beyond them, and those that are a syllable but for bits above it.
func TestSplit(t *testing.T) {
	all := table()
	for c := uint32(0); c < 0x120000; c++ {
		checkSplit(t, all, c)
	}
	for c := range all {
		for _, far := range above(c) {
			checkSplit(t, all, far)
		}
	}
	for _, c := range numbers() {
		checkSplit(t, all, c)
	}
	r := rand.New(rand.NewSource(4))
	for range 100000 {
		checkSplit(t, all, r.Uint32())
	}
}

// P4.2: all letters, and all edges against each other.
func TestPut(t *testing.T) {
	back := turned(table())
	for p := range back {
		checkPut(t, back, p.l, p.v, p.t)
		checkPut(t, back, p.l, p.t, p.v)
		checkPut(t, back, p.v, p.l, p.t)
		checkPut(t, back, p.t, p.v, p.l)
	}
	edges := numbers()
	for _, l := range edges {
		for _, v := range edges {
			checkPut(t, back, l, v, 0)
			checkPut(t, back, l, v, 0x11a8)
		}
	}
	for _, x := range edges {
		for _, y := range edges {
			checkPut(t, back, 0x1100, x, y)
			checkPut(t, back, x, 0x1175, y)
		}
	}
	r := rand.New(rand.NewSource(5))
	for range 100000 {
		checkPut(t, back, 0x10ff+r.Uint32()%22, 0x1160+r.Uint32()%24, 0x11a6+r.Uint32()%30)
		checkPut(t, back, r.Uint32(), r.Uint32(), r.Uint32())
	}
}

// P4.2: each of the three is asked for, whatever the others are.
func TestPutWrong(t *testing.T) {
	for _, p := range []parts{
		{0x10ff, 0x1161, 0x11a8}, {0x1113, 0x1161, 0x11a8}, {0, 0x1161, 0x11a8}, {0xac00, 0x1161, 0x11a8},
		{0x1100, 0x1160, 0x11a8}, {0x1100, 0x1176, 0x11a8}, {0x1100, 0, 0x11a8}, {0x1100, 0, 0}, {0x1100, 0x1100, 0},
		{0x1100, 0x1161, 0x11a7}, {0x1100, 0x1161, 0x11c3}, {0x1100, 0x1161, 1}, {0x1100, 0x1161, 27}, {0x1100, 0x1161, 1<<32 - 1},
		{0x1100, 0x11a8, 0x1161}, {0x1161, 0x1100, 0}, {0, 0, 0}, {0x1100 | 1<<30, 0x1161, 0}, {0x1100, 0x1161 | 1<<30, 0}, {0x1100, 0x1161, 0x11a8 | 1<<31},
	} {
		if c, e := hangul.Put(p.l, p.v, p.t); c != 0 || e != api.ErrArg {
			t.Errorf("Put(%x, %x, %x) = %x, %d, want 0, %d", p.l, p.v, p.t, c, int(e), int(api.ErrArg))
		}
	}
}

// P4.3: all letters against each other, all syllables with all last letters, and all edges against each other.
func TestJoin(t *testing.T) {
	all := table()
	back := turned(all)
	for a := uint32(0x10f8); a < 0x1208; a++ {
		for b := uint32(0x10f8); b < 0x1208; b++ {
			checkJoin(t, all, back, a, b)
		}
	}
	for a := uint32(0xac00 - 2); a <= 0xd7a3+2; a++ {
		for b := uint32(0x11a8 - 2); b <= 0x11c2+2; b++ {
			checkJoin(t, all, back, a, b)
		}
		for _, b := range []uint32{0, 1, 27, 0x1100, 0x1161, 0xac00, a, 0x11a8 | 1<<31, 1<<32 - 1} {
			checkJoin(t, all, back, a, b)
			checkJoin(t, all, back, b, a)
		}
	}
	edges := numbers()
	for _, a := range edges {
		for _, b := range edges {
			checkJoin(t, all, back, a, b)
		}
	}
	r := rand.New(rand.NewSource(6))
	for range 100000 {
		checkJoin(t, all, back, r.Uint32(), r.Uint32())
	}
}

// P4.3: what is not joined: a syllable that has a last letter, and letters in another order or of other rows.
func TestJoinWrong(t *testing.T) {
	for _, p := range [][2]uint32{
		{0xac01, 0x11a8}, {0xac1b, 0x11a8}, {0xd7a3, 0x11c2}, {0xac00, 0x11a7}, {0xac00, 0x11c3}, {0xac00, 0}, {0xac00, 1}, {0xac00, 0x1161},
		{0xac00, 0x1100}, {0xac00, 0xac00}, {0xabff, 0x11a8}, {0xd7a4, 0x11a8}, {0x1161, 0x1100}, {0x1100, 0x1100}, {0x1100, 0x11a8},
		{0x1161, 0x11a8}, {0x1100, 0x1160}, {0x1100, 0x1176}, {0x10ff, 0x1161}, {0x1113, 0x1161}, {0x1100, 0}, {0x1100, 0xac00}, {0, 0}, {0x11a8, 0xac00},
	} {
		if c, ok := hangul.Join(p[0], p[1]); c != 0 || ok {
			t.Errorf("Join(%x, %x) = %x, %v, want 0, false", p[0], p[1], c, ok)
		}
	}
}

// P4.4.
func TestSplitAndPutAreOne(t *testing.T) {
	for c := uint32(0xac00); c <= 0xd7a3; c++ {
		l, v, x, ok := hangul.Split(c)
		if !ok {
			t.Fatalf("Split(%x) is none", c)
		}
		if got, e := hangul.Put(l, v, x); got != c || e != api.OK {
			t.Errorf("Put of Split(%x) = %x, %d", c, got, int(e))
		}
		got, ok := hangul.Join(l, v)
		if x != 0 && ok {
			got, ok = hangul.Join(got, x)
		}
		if got != c || !ok {
			t.Errorf("%x is split into %x, %x, %x, which are joined to %x, %v", c, l, v, x, got, ok)
		}
	}
}
