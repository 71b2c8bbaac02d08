package compose_test

import (
	"math/rand"
	"slices"
	"strconv"
	"testing"

	"gesso/api"
	"gesso/compose"
	"gesso/decomp"
	"gesso/order"
)

// data is what api's rows say, and the syllables, counted up from ac00.
type data struct {
	classes map[uint32]int
	pairs   map[[2]uint32]uint32
}

func read(t *testing.T) data {
	t.Helper()
	d := data{map[uint32]int{}, map[[2]uint32]uint32{}}
	for rows := api.Classes; len(rows) > 0; rows = rows[12:] {
		for c := hex(t, rows[:5]); c <= hex(t, rows[5:10]); c++ {
			d.classes[c] = int(hex(t, rows[10:12]))
		}
	}
	for rows := api.Pairs; len(rows) > 0; rows = rows[15:] {
		d.pairs[[2]uint32{hex(t, rows[:5]), hex(t, rows[5:10])}] = hex(t, rows[10:15])
	}
	c := uint32(0xac00)
	for l := uint32(0x1100); l < 0x1100+19; l++ {
		for v := uint32(0x1161); v < 0x1161+21; v++ {
			open := c
			d.pairs[[2]uint32{l, v}] = open
			for x := uint32(0x11a8); x < 0x11a8+27; x++ {
				c++
				d.pairs[[2]uint32{open, x}] = c
			}
			c++
		}
	}
	return d
}

func hex(t *testing.T, s string) uint32 {
	t.Helper()
	n, err := strconv.ParseUint(s, 16, 32)
	if err != nil {
		t.Fatal(err)
	}
	return uint32(n)
}

// compose does what P7.2 says word by word: for each number the last starter is looked for anew, from the end of what
// is kept.
func (d data) compose(l []uint32) []uint32 {
	var kept []uint32
	for _, c := range l {
		at := len(kept) - 1
		for at >= 0 && d.classes[kept[at]] != 0 {
			at--
		}
		if at >= 0 {
			last := d.classes[kept[len(kept)-1]]
			something := at < len(kept)-1
			whole, ok := d.pairs[[2]uint32{kept[at], c}]
			if ok && !(something && (last >= d.classes[c] || last == 0)) {
				kept[at] = whole
				continue
			}
		}
		kept = append(kept, c)
	}
	return kept
}

func (d data) check(t *testing.T, l []uint32) {
	t.Helper()
	want := d.compose(l)
	if got := compose.Compose(l); !slices.Equal(got, want) {
		t.Errorf("Compose(%x) = %x, want %x", l, got, want)
	}
}

func (d data) checkTwo(t *testing.T, a, b uint32) {
	t.Helper()
	want, there := d.pairs[[2]uint32{a, b}]
	if got, ok := compose.Two(a, b); got != want || ok != there {
		t.Errorf("Two(%x, %x) = %x, %v, want %x, %v", a, b, got, ok, want, there)
	}
}

// apart tells the decomposition of a list, put into order.
func apart(l []uint32) []uint32 { return order.Order(decomp.List(l)) }

// checkBack takes what is composed of a list's decomposition apart again.
func (d data) checkBack(t *testing.T, l []uint32) {
	t.Helper()
	parts := apart(l)
	d.check(t, parts)
	whole := compose.Compose(parts)
	if got := apart(whole); !slices.Equal(got, parts) {
		t.Errorf("Compose(%x) = %x, which is decomposed to %x", parts, whole, got)
	}
}

// all tells all pairs, since a map's order is not the same each time.
func (d data) all() [][2]uint32 {
	var keys [][2]uint32
	for p := range d.pairs {
		keys = append(keys, p)
	}
	slices.SortFunc(keys, func(p, q [2]uint32) int { return slices.Compare(p[:], q[:]) })
	return keys
}

// seconds tells the second numbers of all pairs, each once.
func (d data) seconds() []uint32 {
	var l []uint32
	for p := range d.pairs {
		l = append(l, p[1])
	}
	slices.Sort(l)
	return slices.Compact(l)
}

// cases are lists and what they are composed to, told by hand. Of class 1 is 338, of 7 93c, of 9 dca, of 202 327 and
// 328, of 220 316 and 323, of 230 300 to 314, of 232 315, of 240 345.
func cases() [][2][]uint32 {
	return [][2][]uint32{
		{nil, nil},
		{{}, {}},
		{{0x41}, {0x41}},
		{{0x301}, {0x301}},
		// The chapter's examples, and the shared test's.
		{{0x65, 0x301}, {0xe9}},
		{{0x61, 0x323, 0x302}, {0x1ead}},
		{{0x1100, 0x1161, 0x11a8}, {0xac01}},
		{{0x65, 0x315, 0x301}, {0x65, 0x315, 0x301}},
		{{0x9c7, 0x9be}, {0x9cb}},
		{{0x301, 0x65}, {0x301, 0x65}},
		{{0x65, 0x41, 0x301}, {0x65, 0xc1}},
		// What is composed takes the starter's place, and is the last starter from then on: twice, and three times.
		{{0x75, 0x308, 0x304}, {0x1d6}},
		{{0x41, 0x30a, 0x301, 0x41, 0x30a}, {0x1fa, 0xc5}},
		{{0x3b1, 0x313, 0x300, 0x345}, {0x1f82}},
		{{0xe9, 0x1d6, 0x1f02, 0x345}, {0xe9, 0x1d6, 0x1f82}},
		// Marks of one class are composed in the order that they have: e9 has no pair with 302, but ea has one with 301.
		{{0x65, 0x301, 0x302}, {0xe9, 0x302}},
		{{0x65, 0x302, 0x301}, {0x1ebf}},
		// One that is not composed stays, and a greater class goes past it: once, and again.
		{{0x61, 0x316, 0x301}, {0xe1, 0x316}},
		{{0x75, 0x327, 0x316, 0x308, 0x304}, {0x1d6, 0x327, 0x316}},
		{{0x61, 0x338, 0x328, 0x301}, {0x105, 0x338, 0x301}},
		{{0x3b1, 0x316, 0x301, 0x345}, {0x1fb4, 0x316}},
		// Blocked by the same class, or a greater one: also where that one was blocked itself.
		{{0x61, 0x305, 0x301}, {0x61, 0x305, 0x301}},
		{{0x61, 0x316, 0x323}, {0x61, 0x316, 0x323}},
		{{0x61, 0x345, 0x301}, {0x61, 0x345, 0x301}},
		{{0x61, 0x305, 0x301, 0x302}, {0x61, 0x305, 0x301, 0x302}},
		{{0x65, 0x301, 0x301}, {0xe9, 0x301}},
		// The last one kept blocks alone, not a greater one ahead of it.
		{{0x65, 0x315, 0x316, 0x301}, {0xe9, 0x315, 0x316}},
		// What is composed does not block: it is not kept, and the one ahead of it is the last one still.
		{{0x61, 0x316, 0x302, 0x301}, {0x1ea5, 0x316}},
		{{0x61, 0x302, 0x323}, {0xe2, 0x323}},
		// Another starter: blocked by any mark; or it is the last one from then on, whatever is kept ahead.
		{{0x9c7, 0x301, 0x9be}, {0x9c7, 0x301, 0x9be}},
		{{0x9c7, 0x93c, 0x9be}, {0x9c7, 0x93c, 0x9be}},
		{{0x65, 0x315, 0x65, 0x301}, {0x65, 0x315, 0xe9}},
		{{0x9c7, 0x9c7, 0x9be, 0x9be}, {0x9c7, 0x9cb, 0x9be}},
		{{0x9c7, 0x41, 0x9be}, {0x9c7, 0x41, 0x9be}},
		{{0xdd9, 0xdcf, 0xdca}, {0xddd}},
		{{0xdd9, 0xdca, 0xdcf}, {0xdda, 0xdcf}},
		{{0x11935, 0x11930, 0x110a5, 0x110ba}, {0x11938, 0x110ab}},
		{{0x65, 0, 0x301}, {0x65, 0, 0x301}},
		{{0x65, 0x110000, 0x301}, {0x65, 0x110000, 0x301}},
		{{0x65, 0xd800, 0x301}, {0x65, 0xd800, 0x301}},
		{{0x65, 0x34f, 0x301}, {0x65, 0x34f, 0x301}},
		// No starter yet: marks stay, each as it is.
		{{0x301, 0x301}, {0x301, 0x301}},
		{{0x308, 0x301}, {0x308, 0x301}},
		{{0x315, 0x316, 0x65, 0x301, 0x315}, {0x315, 0x316, 0xe9, 0x315}},
		// Syllables: a mark between blocks; a second vowel, or a second last letter, is not joined.
		{{0x1100, 0x1161}, {0xac00}},
		{{0x1112, 0x1175, 0x11c2}, {0xd7a3}},
		{{0xac00, 0x11a8}, {0xac01}},
		{{0xac01, 0x11a8}, {0xac01, 0x11a8}},
		{{0x1100, 0x1161, 0x1161, 0x11a8}, {0xac00, 0x1161, 0x11a8}},
		{{0x1100, 0x1100, 0x1161, 0x11a8, 0x11a8}, {0x1100, 0xac01, 0x11a8}},
		{{0x1100, 0x11a8, 0x1161}, {0x1100, 0x11a8, 0x1161}},
		{{0x1100, 0x301, 0x1161}, {0x1100, 0x301, 0x1161}},
		{{0x1100, 0x1161, 0x301, 0x11a8}, {0xac00, 0x301, 0x11a8}},
		{{0xac00, 0x11a7}, {0xac00, 0x11a7}},
		{{0xac00, 0}, {0xac00, 0}},
		// What is not composed again.
		{{0x915, 0x93c}, {0x915, 0x93c}},
		{{0x2add, 0x338}, {0x2add, 0x338}},
		{{0x212b, 0x301}, {0x212b, 0x301}},
		{{0x1d157, 0x1d165}, {0x1d157, 0x1d165}},
	}
}

// P7.2: the chapter's examples, and more.
func TestCases(t *testing.T) {
	d := read(t)
	for _, x := range cases() {
		if got := compose.Compose(x[0]); !slices.Equal(got, x[1]) {
			t.Errorf("Compose(%x) = %x, want %x", x[0], got, x[1])
		}
		d.check(t, x[0])
	}
}

// P7.1: some told by hand.
func TestTwo(t *testing.T) {
	for _, x := range []struct{ a, b, c uint32 }{
		{0x65, 0x301, 0xe9}, {0x41, 0x300, 0xc0}, {0xe2, 0x301, 0x1ea5}, {0x3c, 0x338, 0x226e}, {0x9c7, 0x9be, 0x9cb}, {0x30d2, 0x309a, 0x30d4},
		{0x11935, 0x11930, 0x11938}, {0x1100, 0x1161, 0xac00}, {0x1112, 0x1175, 0xd788}, {0xac00, 0x11a8, 0xac01}, {0xd788, 0x11c2, 0xd7a3},
		// Turned about, taken again, and with parts alone.
		{0x301, 0x65, 0}, {0x1161, 0x1100, 0}, {0x11a8, 0xac00, 0}, {0xe9, 0x301, 0}, {0xac01, 0x11a8, 0}, {0x1161, 0x11a8, 0}, {0x1100, 0x11a8, 0},
		{0xac00, 0, 0}, {0x65, 0, 0}, {0, 0x301, 0}, {0, 0, 0}, {0xac00, 0x11a7, 0}, {0xac00, 0x11c3, 0}, {0x1100, 0x1160, 0}, {0x1113, 0x1161, 0},
		// What is decomposed, but not composed again.
		{0x915, 0x93c, 0}, {0x308, 0x301, 0}, {0x5d9, 0x5b4, 0}, {0x2add, 0x338, 0}, {0x212b, 0, 0}, {0x3b, 0, 0}, {0x1d157, 0x1d165, 0},
		// No code points, and pairs but for bits above.
		{0x110000, 0x301, 0}, {0x80000065, 0x301, 0}, {0x65, 0x80000301, 0}, {0x100065, 0x100301, 0}, {0x8000ac00, 0x11a8, 0}, {1<<32 - 1, 1<<32 - 1, 0},
	} {
		if c, ok := compose.Two(x.a, x.b); c != x.c || ok != (x.c != 0) {
			t.Errorf("Two(%x, %x) = %x, %v, want %x", x.a, x.b, c, ok, x.c)
		}
	}
}

// P7.1: all pairs, those about them, and with bits above.
func TestAllTwo(t *testing.T) {
	d := read(t)
	for _, p := range d.all() {
		a, b := p[0], p[1]
		for _, x := range [][2]uint32{{a, b}, {b, a}, {a - 1, b}, {a + 1, b}, {a, b - 1}, {a, b + 1}, {a, a}, {b, b}, {d.pairs[p], b}} {
			d.checkTwo(t, x[0], x[1])
		}
		for _, above := range []uint32{1 << 20, 1 << 24, 1 << 31, 0xfff00000} {
			d.checkTwo(t, a|above, b)
			d.checkTwo(t, a, b|above)
		}
	}
	r := rand.New(rand.NewSource(14))
	seconds := d.seconds()
	for range 100000 {
		d.checkTwo(t, r.Uint32(), r.Uint32())
		d.checkTwo(t, r.Uint32()%0x3100, seconds[r.Intn(len(seconds))])
	}
}

// P7.2: what takes a starter's place is one itself, so that "the last starter" says the same of a place and of a class.
func TestStartersStay(t *testing.T) {
	d := read(t)
	for p, c := range d.pairs {
		if d.classes[p[0]] != 0 || d.classes[c] != 0 {
			t.Errorf("%x and %x, of class %d, are composed to %x, of class %d", p[0], p[1], d.classes[p[0]], c, d.classes[c])
		}
	}
}

// P7.2: all pairs with something between, ahead and behind.
func TestPairsAmongOthers(t *testing.T) {
	d := read(t)
	for _, p := range d.all() {
		a, b, c := p[0], p[1], d.pairs[p]
		if got := compose.Compose(p[:]); !slices.Equal(got, []uint32{c}) {
			t.Errorf("Compose(%x) = %x, want %x", p, got, c)
		}
		for _, l := range [][]uint32{
			{a, 0x334, b}, {a, 0x316, b}, {a, 0x305, b}, {a, 0x315, b}, {a, 0x345, b}, {a, 0x20, b}, {0x305, a, b}, {0x20, a, b}, {a, a, b}, {a, b, b},
			{a, b, 0x305}, {a, b, 0x20}, {c, b}, {b, a}, {a, 0x334, 0x305, b}, {a, 0x305, 0x334, b}, {0x305, 0x334, a, 0x334, b, 0x301, b},
		} {
			d.check(t, l)
		}
	}
}

// lists tells all lists of up to so many numbers out of some.
func lists(from []uint32, most int) [][]uint32 {
	var all [][]uint32
	count := 1
	for n := range most + 1 {
		for i := range count {
			l := make([]uint32, n)
			for k := range l {
				l[k], i = from[i%len(from)], i/len(from)
			}
			all = append(all, l)
		}
		count *= len(from)
	}
	return all
}

// P7.2 and P7.3: all short lists, in order and out of it, of letters and marks, and of starters that are composed with
// one ahead.
func TestAllShort(t *testing.T) {
	d := read(t)
	for _, l := range slices.Concat(
		lists([]uint32{0x75, 0x308, 0x304, 0x323, 0x316, 0x315}, 6),
		lists([]uint32{0x1100, 0x1161, 0x11a8, 0xac00, 0x9c7, 0x9be, 0x301, 0x316}, 5),
		lists([]uint32{0x3b1, 0x313, 0x301, 0x345, 0xdd9, 0xdcf, 0xdca}, 5),
	) {
		d.check(t, l)
		d.checkBack(t, l)
	}
}

// P7.2 and P7.3: each code point alone stays, and some numbers that are none; of what it is decomposed to it is
// composed, but where its row says that it is not.
func TestNumbers(t *testing.T) {
	d := read(t)
	composed := map[uint32]int{}
	for _, c := range d.pairs {
		composed[c]++
	}
	for c := uint32(0); c < 0x110100; c++ {
		if got := compose.Compose([]uint32{c}); len(got) != 1 || got[0] != c {
			t.Errorf("Compose(%x) = %x", c, got)
		}
		parts := apart([]uint32{c})
		back := slices.Equal(compose.Compose(parts), []uint32{c})
		if want := decomp.Whole(c) || composed[c] == 1; back != want {
			t.Errorf("Compose(%x) = %x of what %x is decomposed to", parts, compose.Compose(parts), c)
		}
		if !decomp.Whole(c) {
			d.checkBack(t, []uint32{c})
		}
	}
	r := rand.New(rand.NewSource(15))
	for range 10000 {
		d.checkBack(t, []uint32{r.Uint32(), 0x301, r.Uint32(), 0x11a8})
	}
}

// P7.3: each character that is decomposed, with each one behind it that may be composed with one ahead.
func TestBackWithEachSecond(t *testing.T) {
	d := read(t)
	seconds := d.seconds()
	for rows := api.Decomps; len(rows) > 0; rows = rows[16:] {
		c := hex(t, rows[:5])
		for _, b := range seconds {
			parts := apart([]uint32{c, b})
			whole := compose.Compose(parts)
			if got := apart(whole); !slices.Equal(got, parts) {
				t.Fatalf("Compose(%x) = %x, which is decomposed to %x", parts, whole, got)
			}
		}
	}
}

// some tells a list of starters and marks that are composed, others, and what is no code point.
func some(r *rand.Rand, pairs [][2]uint32, marks []uint32, n int) []uint32 {
	l := make([]uint32, n)
	for i := range l {
		switch p := pairs[r.Intn(len(pairs))]; r.Intn(12) {
		case 0:
			l[i] = r.Uint32()
		case 1, 2:
			l[i] = 0x41 + r.Uint32()%0x40
		case 3:
			l[i] = p[0]
		case 4, 5, 6:
			l[i] = marks[r.Intn(len(marks))]
		case 7:
			l[i] = 0x1100 + r.Uint32()%0x13
		case 8:
			l[i] = 0x1161 + r.Uint32()%0x15
		case 9:
			l[i] = 0x11a8 + r.Uint32()%0x1b
		default:
			l[i] = p[1]
			if i > 0 {
				l[i-1] = p[0]
			}
		}
	}
	return l
}

// P7.2 and P7.3: lists of all kinds, among the rows alone, and among the syllables too.
func TestLists(t *testing.T) {
	d := read(t)
	pairs := d.all()
	korean := func(p [2]uint32) bool { return d.pairs[p] >= 0xac00 && d.pairs[p] <= 0xd7a3 }
	rows := slices.DeleteFunc(slices.Clone(pairs), korean)
	var marks []uint32
	for c := range d.classes {
		marks = append(marks, c)
	}
	slices.Sort(marks)
	r := rand.New(rand.NewSource(16))
	for n := range 20000 {
		from := pairs
		if n%2 == 0 {
			from = rows
		}
		l := some(r, from, marks[:1+r.Intn(len(marks))], n%40)
		d.check(t, l)
		d.checkBack(t, l)
	}
	d.check(t, some(r, rows, marks, 100000))
	d.checkBack(t, some(r, rows, marks, 100000))
}

// P7.2: long lists, told by hand: a starter far ahead is the last one still, and is found without going back to it.
func TestLong(t *testing.T) {
	many := func(n int, l ...uint32) []uint32 { return slices.Repeat(l, n) }
	const n = 100000
	for _, x := range []struct{ l, want []uint32 }{
		{many(n, 0x1100, 0x1161, 0x11a8), many(n, 0xac01)},
		{many(n, 0x301), many(n, 0x301)},
		{many(n, 0x41), many(n, 0x41)},
		{many(n, 0x3c9, 0x314, 0x342, 0x345), many(n, 0x1fa7)},
		{slices.Concat([]uint32{0x65}, many(n, 0x316), []uint32{0x301}), slices.Concat([]uint32{0xe9}, many(n, 0x316))},
		{slices.Concat([]uint32{0x65}, many(n, 0x301)), slices.Concat([]uint32{0xe9}, many(n-1, 0x301))},
		{slices.Concat(many(n, 0x301), []uint32{0x65, 0x301}), slices.Concat(many(n, 0x301), []uint32{0xe9})},
		{slices.Concat([]uint32{0x9c7}, many(n, 0x301), []uint32{0x9be}), slices.Concat([]uint32{0x9c7}, many(n, 0x301), []uint32{0x9be})},
	} {
		if got := compose.Compose(x.l); !slices.Equal(got, x.want) {
			t.Errorf("Compose of %d numbers from %x on tells %d from %x on", len(x.l), x.l[:3], len(got), got[:min(3, len(got))])
		}
	}
}

// Rule 3: an argument is not changed, and an answer is new memory with its spare room: not that of an argument, nor
// that of another answer.
func TestNewMemory(t *testing.T) {
	// What is composed, what stays as it is, and what has no starter, with room behind what is handed in.
	for _, room := range [][]uint32{
		{0x65, 0x301, 0x1100, 0x1161, 0x11a8, 0x301, 7, 7},
		{0x41, 0x42, 0xe9, 0x315, 0xd800, 7, 7, 7},
		{0x301, 0x315, 0x316, 7, 7, 7, 7, 7},
	} {
		kept := slices.Clone(room)
		for n := range len(room) + 1 {
			for _, l := range [][]uint32{room[:n], room[:n:n]} {
				one, other := compose.Compose(l), compose.Compose(l)
				want := slices.Clone(other)
				one = one[:cap(one)]
				for i := range one {
					one[i] = 0xbad
				}
				if !slices.Equal(room, kept) {
					t.Fatalf("the first %d of %x were changed to %x", n, kept, room)
				}
				if !slices.Equal(other, want) || !slices.Equal(compose.Compose(l), want) {
					t.Errorf("Compose(%x) shares its memory with another answer", l)
				}
			}
		}
	}
}
