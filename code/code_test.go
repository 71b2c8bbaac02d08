package code_test

import (
	"bytes"
	"math/rand"
	"slices"
	"testing"

	"gesso/api"
	"gesso/code"
)

// edges are the code points at which something changes, with their bytes as the chapter reckons them.
var edges = []struct {
	c uint32
	b string
}{
	{0, "\x00"}, {1, "\x01"}, {0x41, "A"}, {0x7f, "\x7f"},
	{0x80, "\xc2\x80"}, {0xe9, "\xc3\xa9"}, {0x301, "\xcc\x81"}, {0x7ff, "\xdf\xbf"},
	{0x800, "\xe0\xa0\x80"}, {0xfff, "\xe0\xbf\xbf"}, {0x1000, "\xe1\x80\x80"}, {0x20ac, "\xe2\x82\xac"},
	{0xd7ff, "\xed\x9f\xbf"}, {0xe000, "\xee\x80\x80"}, {0xfffd, "\xef\xbf\xbd"}, {0xfffe, "\xef\xbf\xbe"}, {0xffff, "\xef\xbf\xbf"},
	{0x10000, "\xf0\x90\x80\x80"}, {0x1f600, "\xf0\x9f\x98\x80"}, {0x3ffff, "\xf0\xbf\xbf\xbf"}, {0x40000, "\xf1\x80\x80\x80"},
	{0xfffff, "\xf3\xbf\xbf\xbf"}, {0x100000, "\xf4\x80\x80\x80"}, {0x10ffff, "\xf4\x8f\xbf\xbf"},
}

// noCodes are numbers that are no code points; some have a code point's bits below others.
var noCodes = []uint32{0xd800, 0xd801, 0xdbff, 0xdc00, 0xdfff, 0x110000, 0x110041, 0x1fffff, 0x200000, 0x7fffffff, 0x80000000, 0x80000041, 0xffff0041, 0xfffffffd, 0xffffffff}

// noBytes are bytes that begin with no code point's.
var noBytes = []string{
	// cut off
	"\xc3", "\xdf", "\xe0", "\xe0\xa0", "\xe2\x82", "\xed\x9f", "\xef\xbf", "\xf0", "\xf0\x90", "\xf0\x90\x80", "\xf4\x8f\xbf",
	// cut off by what is behind
	"\xc3A", "\xc3\xc3\xa9", "\xe2\x82A", "\xe2A\xac", "\xe2\x82\xe2\x82\xac", "\xf0\x90\x80A", "\xf0\x90A\x80", "\xf0A\x80\x80",
	// too long for their code point
	"\xc0\x80", "\xc0\xaf", "\xc1\xbf", "\xe0\x80\x80", "\xe0\x9f\xbf", "\xf0\x80\x80\x80", "\xf0\x8f\xbf\xbf",
	// numbers that are no code points
	"\xed\xa0\x80", "\xed\xaf\xbf", "\xed\xb0\x80", "\xed\xbf\xbf", "\xf4\x90\x80\x80", "\xf5\x80\x80\x80", "\xf7\xbf\xbf\xbf", "\xf8\x88\x80\x80\x80", "\xfc\x84\x80\x80\x80\x80",
	// no first byte
	"\x80", "\xbf", "\x80\x80", "\xbfA", "\xfe", "\xff", "\xff\xff\xff\xff", "\xfe\xfe",
}

func isCode(c uint32) bool { return c <= 0x10ffff && (c < 0xd800 || c > 0xdfff) }

// reckoned tells a code point's bytes by the chapter's words.
func reckoned(c uint32) []byte {
	low := func(by uint) byte { return byte(0x80 + c>>by%64) }
	switch {
	case c < 0x80:
		return []byte{byte(c)}
	case c < 0x800:
		return []byte{byte(0xc0 + c>>6), low(0)}
	case c < 0x10000:
		return []byte{byte(0xe0 + c>>12), low(6), low(0)}
	}
	return []byte{byte(0xf0 + c>>18), low(12), low(6), low(0)}
}

// table is the Unicode Standard's table 3-7: for each row the bounds of its bytes.
var table = [][][2]byte{
	{{0x00, 0x7f}},
	{{0xc2, 0xdf}, {0x80, 0xbf}},
	{{0xe0, 0xe0}, {0xa0, 0xbf}, {0x80, 0xbf}},
	{{0xe1, 0xec}, {0x80, 0xbf}, {0x80, 0xbf}},
	{{0xed, 0xed}, {0x80, 0x9f}, {0x80, 0xbf}},
	{{0xee, 0xef}, {0x80, 0xbf}, {0x80, 0xbf}},
	{{0xf0, 0xf0}, {0x90, 0xbf}, {0x80, 0xbf}, {0x80, 0xbf}},
	{{0xf1, 0xf3}, {0x80, 0xbf}, {0x80, 0xbf}, {0x80, 0xbf}},
	{{0xf4, 0xf4}, {0x80, 0x8f}, {0x80, 0xbf}, {0x80, 0xbf}},
}

func inRow(b []byte, row [][2]byte) bool {
	if len(b) < len(row) {
		return false
	}
	for i, bounds := range row {
		if b[i] < bounds[0] || b[i] > bounds[1] {
			return false
		}
	}
	return true
}

// byTable tells what One is to tell, by table 3-7.
func byTable(b []byte) (uint32, int) {
	for _, row := range table {
		if !inRow(b, row) {
			continue
		}
		n := len(row)
		c := uint32(b[0] & [...]byte{0x7f, 0x1f, 0x0f, 0x07}[n-1])
		for _, x := range b[1:n] {
			c = c<<6 | uint32(x&0x3f)
		}
		return c, n
	}
	return 0, 0
}

// check holds One, Fault, Codes and Bytes of b against table 3-7.
func check(t *testing.T, b []byte) {
	t.Helper()
	was := string(b)
	c, n := code.One(b)
	if wantC, wantN := byTable(b); c != wantC || n != wantN {
		t.Fatalf("One(%x) = %x, %d, want %x, %d", b, c, n, wantC, wantN)
	}
	var list []uint32
	at, fault := 0, -1
	for at < len(b) {
		c, n := byTable(b[at:])
		if n == 0 {
			fault = at
			break
		}
		list = append(list, c)
		at += n
	}
	if got := code.Fault(b); got != fault {
		t.Fatalf("Fault(%x) = %d, want %d", b, got, fault)
	}
	wantE := api.OK
	if fault >= 0 {
		list, wantE = nil, api.ErrUTF8
	}
	l, e := code.Codes(b)
	if !slices.Equal(l, list) || e != wantE {
		t.Fatalf("Codes(%x) = %x, %v, want %x, %v", b, l, e, list, wantE)
	}
	if e == api.OK {
		if back, e := code.Bytes(l); !bytes.Equal(back, b) || e != api.OK {
			t.Fatalf("Bytes(%x) = %x, %v, want %x", l, back, e, b)
		}
	}
	if string(b) != was {
		t.Fatalf("%x was changed to %x", was, b)
	}
}

// P1.1.
func TestWidthPutAtEdges(t *testing.T) {
	for _, x := range edges {
		if n := code.Width(x.c); n != len(x.b) {
			t.Errorf("Width(%x) = %d, want %d", x.c, n, len(x.b))
		}
		if b, e := code.Put(x.c); string(b) != x.b || e != api.OK {
			t.Errorf("Put(%x) = %x, %v, want %x", x.c, b, e, x.b)
		}
	}
	for _, c := range noCodes {
		if n := code.Width(c); n != 0 {
			t.Errorf("Width(%x) = %d, want 0", c, n)
		}
		if b, e := code.Put(c); len(b) != 0 || e != api.ErrArg {
			t.Errorf("Put(%x) = %x, %v, want nothing, %v", c, b, e, api.ErrArg)
		}
	}
}

// P1.1, P1.2, P1.3: of all numbers up to some behind the last code point.
func TestAllNumbers(t *testing.T) {
	for c := range uint32(0x120000) {
		b, e := code.Put(c)
		if !isCode(c) {
			if code.Width(c) != 0 || len(b) != 0 || e != api.ErrArg {
				t.Fatalf("%x: width %d, bytes %x, %v, but it is no code point", c, code.Width(c), b, e)
			}
			continue
		}
		want := reckoned(c)
		if code.Width(c) != len(want) || !bytes.Equal(b, want) || e != api.OK {
			t.Fatalf("%x: width %d, bytes %x, %v, want %x", c, code.Width(c), b, e, want)
		}
		if got, n := code.One(want); got != c || n != len(want) {
			t.Fatalf("One(%x) = %x, %d, want %x", want, got, n, c)
		}
		if n := code.Fault(want); n != -1 {
			t.Fatalf("Fault(%x) = %d, want -1", want, n)
		}
		if l, e := code.Codes(want); len(l) != 1 || l[0] != c || e != api.OK {
			t.Fatalf("Codes(%x) = %x, %v, want %x", want, l, e, c)
		}
	}
}

// P1.2: with nothing, and with anything, behind a code point's bytes.
func TestOneAndFaultAtEdges(t *testing.T) {
	for _, x := range edges {
		for _, tail := range []string{"", "A", "\x00", "\x80", "\xff", "\xc3", "\xc3\xa9", "\xed\xa0\x80", "\xef\xbf\xbd"} {
			b := []byte(x.b + tail)
			if c, n := code.One(b); c != x.c || n != len(x.b) {
				t.Errorf("One(%x) = %x, %d, want %x, %d", b, c, n, x.c, len(x.b))
			}
		}
	}
	for _, s := range noBytes {
		for _, head := range []string{"", "A", "\x00", "\xc3\xa9", "\xef\xbf\xbd", "A\xe2\x82\xac\xf4\x8f\xbf\xbf"} {
			if n := code.Fault([]byte(head + s)); n != len(head) {
				t.Errorf("Fault(%x) = %d, want %d", head+s, n, len(head))
			}
		}
		if c, n := code.One([]byte(s)); c != 0 || n != 0 {
			t.Errorf("One(%x) = %x, %d, want 0, 0", s, c, n)
		}
	}
}

// P1.2, P1.3: the empty text, as nil and as a list.
func TestEmpty(t *testing.T) {
	for _, b := range [][]byte{nil, {}, []byte("A")[:0]} {
		if c, n := code.One(b); c != 0 || n != 0 {
			t.Errorf("One of nothing = %x, %d", c, n)
		}
		if n := code.Fault(b); n != -1 {
			t.Errorf("Fault of nothing = %d", n)
		}
		if l, e := code.Codes(b); len(l) != 0 || e != api.OK {
			t.Errorf("Codes of nothing = %x, %v", l, e)
		}
	}
	for _, l := range [][]uint32{nil, {}} {
		if b, e := code.Bytes(l); len(b) != 0 || e != api.OK {
			t.Errorf("Bytes of nothing = %x, %v", b, e)
		}
	}
}

// P1.2: what lies in a slice's spare room is not of its bytes.
func TestSpareRoomIsNotRead(t *testing.T) {
	for _, x := range edges {
		for n := 1; n < len(x.b); n++ {
			b := []byte(x.b)[:n]
			if c, w := code.One(b); c != 0 || w != 0 {
				t.Errorf("One(%x) = %x, %d, want 0, 0", b, c, w)
			}
			if f := code.Fault(b); f != 0 {
				t.Errorf("Fault(%x) = %d, want 0", b, f)
			}
			if l, e := code.Codes(b); len(l) != 0 || e != api.ErrUTF8 {
				t.Errorf("Codes(%x) = %x, %v", b, l, e)
			}
		}
	}
}

// P1.2, P1.3, P1.4: all pairs of bytes, with some behind; then all rows of up to five of the bytes at which table 3-7 turns.
func TestAgainstTable(t *testing.T) {
	for i := range 0x10000 {
		for _, tail := range []string{"", "A", "\x80", "\xbf\xbf", "\x80\x80A", "\xbf\xc2\x80"} {
			check(t, append([]byte{byte(i >> 8), byte(i)}, tail...))
		}
	}
	turns := []byte("\x00\x7f\x80\x8f\x90\x9f\xa0\xbd\xbf\xc1\xc2\xdf\xe0\xe1\xed\xee\xef\xf0\xf1\xf3\xf4\xf5\xff")
	var rows func(b []byte, left int)
	rows = func(b []byte, left int) {
		check(t, b)
		if left == 0 {
			return
		}
		for _, x := range turns {
			rows(append(slices.Clone(b), x), left-1)
		}
	}
	rows(nil, 4)
	for _, first := range []byte{0xe2, 0xef, 0xf0, 0xf4} {
		rows([]byte{first, 0xbf}, 3)
	}
}

// P1.3.
func TestCodesAndBytes(t *testing.T) {
	var text []byte
	var list []uint32
	for _, x := range edges {
		text, list = append(text, x.b...), append(list, x.c)
	}
	if l, e := code.Codes(text); !slices.Equal(l, list) || e != api.OK {
		t.Errorf("Codes(%x) = %x, %v", text, l, e)
	}
	if b, e := code.Bytes(list); !bytes.Equal(b, text) || e != api.OK {
		t.Errorf("Bytes(%x) = %x, %v", list, b, e)
	}
	for _, s := range noBytes {
		for _, b := range []string{s, "A" + s, s + "A", string(text) + s, s + string(text)} {
			if l, e := code.Codes([]byte(b)); len(l) != 0 || e != api.ErrUTF8 {
				t.Errorf("Codes(%x) = %x, %v, want nothing, %v", b, l, e, api.ErrUTF8)
			}
		}
	}
	for _, c := range noCodes {
		for _, l := range [][]uint32{{c}, {0x41, c}, {c, 0x41}, append(slices.Clone(list), c), append([]uint32{c}, list...)} {
			if b, e := code.Bytes(l); len(b) != 0 || e != api.ErrArg {
				t.Errorf("Bytes(%x) = %x, %v, want nothing, %v", l, b, e, api.ErrArg)
			}
		}
	}
}

// P1.4: all lists of up to three code points at the edges have bytes of their own, which tell them again.
func TestListsHaveBytesOfTheirOwn(t *testing.T) {
	seen := map[string]bool{}
	var lists func(l []uint32, left int)
	lists = func(l []uint32, left int) {
		was := slices.Clone(l)
		b, e := code.Bytes(l)
		if e != api.OK || seen[string(b)] {
			t.Fatalf("Bytes(%x) = %x, %v: an error, or those of another list", l, b, e)
		}
		seen[string(b)] = true
		if back, e := code.Codes(b); !slices.Equal(back, l) || e != api.OK {
			t.Fatalf("Codes(%x) = %x, %v, want %x", b, back, e, l)
		}
		if !slices.Equal(l, was) {
			t.Fatalf("%x was changed to %x", was, l)
		}
		for _, x := range edges {
			if left > 0 {
				lists(append(slices.Clone(l), x.c), left-1)
			}
		}
	}
	lists(nil, 3)
}

// P1.4: long lists, and bytes that are right but for one.
func TestLongLists(t *testing.T) {
	r := rand.New(rand.NewSource(1))
	for range 300 {
		var l []uint32
		for range r.Intn(200) {
			c := uint32(r.Intn(0x110000)) >> r.Intn(21)
			if isCode(c) {
				l = append(l, c)
			}
		}
		b, e := code.Bytes(l)
		if e != api.OK {
			t.Fatal(l, e)
		}
		if back, e := code.Codes(b); !slices.Equal(back, l) || e != api.OK {
			t.Fatalf("Codes of Bytes of %x = %x, %v", l, back, e)
		}
		check(t, b)
		if len(b) > 0 {
			b[r.Intn(len(b))] = byte(r.Intn(256))
			check(t, b)
			check(t, b[:r.Intn(len(b))])
		}
	}
}

// Rule 3: an answer, and its spare room, is memory of its own.
func TestAnswersAreNew(t *testing.T) {
	for _, x := range edges {
		b1, _ := code.Put(x.c)
		b2, _ := code.Put(x.c)
		clear(b1[:cap(b1)])
		if b3, _ := code.Put(x.c); string(b2) != x.b || string(b3) != x.b {
			t.Errorf("Put(%x): two answers share memory", x.c)
		}
	}
	text := []byte("A\xc3\xa9\xe2\x82\xac")
	l1, _ := code.Codes(text)
	l2, _ := code.Codes(text)
	clear(l1[:cap(l1)])
	if !slices.Equal(l2, []uint32{0x41, 0xe9, 0x20ac}) || string(text) != "A\xc3\xa9\xe2\x82\xac" {
		t.Error("Codes: an answer shares memory")
	}
	b1, _ := code.Bytes(l2)
	b2, _ := code.Bytes(l2)
	clear(b1[:cap(b1)])
	if !bytes.Equal(b2, text) || !slices.Equal(l2, []uint32{0x41, 0xe9, 0x20ac}) {
		t.Error("Bytes: an answer shares memory")
	}
}
