package order_test

import (
	"math/rand"
	"slices"
	"strconv"
	"testing"

	"gesso/api"
	"gesso/order"
)

// table tells the class of each mark by the rows of Classes; what is not in it is no mark.
func table(t *testing.T) map[uint32]int {
	t.Helper()
	classes := map[uint32]int{}
	for rows := api.Classes; len(rows) > 0; rows = rows[12:] {
		class := int(hex(t, rows[10:12]))
		for c := hex(t, rows[:5]); c <= hex(t, rows[5:10]); c++ {
			classes[c] = class
		}
	}
	return classes
}

func hex(t *testing.T, s string) uint32 {
	t.Helper()
	n, err := strconv.ParseUint(s, 16, 32)
	if err != nil {
		t.Fatal(err)
	}
	return uint32(n)
}

// sorted tells the marks of the table, since a map's order is not the same each time.
func sorted(classes map[uint32]int) []uint32 {
	var marks []uint32
	for c := range classes {
		marks = append(marks, c)
	}
	slices.Sort(marks)
	return marks
}

// model puts marks into order without a sort: of each row, those of class 1, then those of class 2, and so on.
func model(classes map[uint32]int, l []uint32) []uint32 {
	var all []uint32
	for from := 0; from < len(l); {
		to := from
		for to < len(l) && classes[l[to]] != 0 {
			to++
		}
		for class := 1; class < 256 && to > from; class++ {
			for _, c := range l[from:to] {
				if classes[c] == class {
					all = append(all, c)
				}
			}
		}
		if to < len(l) {
			all = append(all, l[to])
		}
		from = to + 1
	}
	return all
}

// isModel tells whether no two neighbours would be exchanged.
func isModel(classes map[uint32]int, l []uint32) bool {
	for i := 1; i < len(l); i++ {
		a, b := classes[l[i-1]], classes[l[i]]
		if a > b && b > 0 {
			return false
		}
	}
	return true
}

// check holds all three calls against the table, and Order's answer against what P6.3 says of it.
func check(t *testing.T, classes map[uint32]int, l []uint32) {
	t.Helper()
	got, want := order.Order(l), model(classes, l)
	if !slices.Equal(got, want) {
		t.Errorf("Order(%x) = %x, want %x", l, got, want)
	}
	if is := order.Is(l); is != isModel(classes, l) || is != slices.Equal(l, got) {
		t.Errorf("Is(%x) = %v, and Order tells %x", l, is, got)
	}
	if !order.Is(got) || !slices.Equal(order.Order(got), got) {
		t.Errorf("Order(%x) = %x, which is not in order", l, got)
	}
	same, gotSame := slices.Clone(l), slices.Clone(got)
	slices.Sort(same)
	slices.Sort(gotSame)
	if !slices.Equal(same, gotSame) {
		t.Errorf("Order(%x) = %x, which is not the same numbers", l, got)
	}
	var each []int
	for _, c := range l {
		each = append(each, classes[c])
	}
	if told := order.Classes(l); !slices.Equal(told, each) {
		t.Errorf("Classes(%x) = %d, want %d", l, told, each)
	}
}

// some tells a list in which one number of so many is no mark, or no code point.
func some(r *rand.Rand, marks []uint32, n, starters int) []uint32 {
	l := make([]uint32, n)
	for i := range l {
		switch {
		case r.Intn(starters) > 0:
			l[i] = marks[r.Intn(len(marks))]
		case r.Intn(3) == 0:
			l[i] = r.Uint32()
		default:
			l[i] = 0x41 + r.Uint32()%26
		}
	}
	return l
}

// ones tells one mark of each class, by rising classes.
func ones(classes map[uint32]int) []uint32 {
	seen := map[int]int{}
	var one []uint32
	for _, c := range sorted(classes) {
		if seen[classes[c]]++; seen[classes[c]] == 1 {
			one = append(one, c)
		}
	}
	slices.SortFunc(one, func(a, b uint32) int { return classes[a] - classes[b] })
	return one
}

// cases are lists and what they are in order, told by hand. Of class 1 is 338, of 202 327, of 220 323 and 316, of 230
// 300, 301 and 307, of 232 315, of 234 35d, of 240 345.
func cases() [][2][]uint32 {
	return [][2][]uint32{
		{nil, nil},
		{{}, {}},
		{{0x41}, {0x41}},
		{{0x301}, {0x301}},
		// The chapter's examples, and the shared test's.
		{{0x61, 0x301, 0x323}, {0x61, 0x323, 0x301}},
		{{0x301, 0x300}, {0x301, 0x300}},
		{{0x323, 0x41, 0x301}, {0x323, 0x41, 0x301}},
		{{0x61, 0x301, 0x323, 0x62, 0x300}, {0x61, 0x323, 0x301, 0x62, 0x300}},
		// Two, and more; a row that begins the list, and one that ends it.
		{{0x323, 0x301}, {0x323, 0x301}},
		{{0x301, 0x323}, {0x323, 0x301}},
		{{0x301, 0x323, 0x41}, {0x323, 0x301, 0x41}},
		{{0x345, 0x315, 0x301, 0x323, 0x327, 0x338}, {0x338, 0x327, 0x323, 0x301, 0x315, 0x345}},
		{{0x35d, 0x345, 0x338}, {0x338, 0x35d, 0x345}},
		// Those of one class stay as they are, whatever is between them.
		{{0x301, 0x323, 0x300}, {0x323, 0x301, 0x300}},
		{{0x300, 0x323, 0x301}, {0x323, 0x300, 0x301}},
		{{0x307, 0x323, 0x301, 0x316, 0x300}, {0x323, 0x316, 0x307, 0x301, 0x300}},
		{{0x301, 0x301, 0x323, 0x323}, {0x323, 0x323, 0x301, 0x301}},
		// No mark goes past what is none: a letter, a nought, a syllable's letter, what is no code point, a joiner.
		{{0x301, 0x41, 0x323}, {0x301, 0x41, 0x323}},
		{{0x301, 0, 0x323}, {0x301, 0, 0x323}},
		{{0x301, 0x1161, 0x323}, {0x301, 0x1161, 0x323}},
		{{0x301, 0xd800, 0x323}, {0x301, 0xd800, 0x323}},
		{{0x301, 0x110000, 0x323}, {0x301, 0x110000, 0x323}},
		{{0x301, 1<<32 - 1, 0x323}, {0x301, 1<<32 - 1, 0x323}},
		{{0x301, 0x34f, 0x323}, {0x301, 0x34f, 0x323}},
		{{0x301, 0x80000323, 0x323}, {0x301, 0x80000323, 0x323}},
		// What is composed with one ahead, and of class 0, is no mark.
		{{0x301, 0x9be, 0x323}, {0x301, 0x9be, 0x323}},
		// What is none stays, however it stands to others.
		{{0x62, 0x61}, {0x62, 0x61}},
		{{0x62, 0x301, 0x323, 0x61, 0x61, 0x300, 0x316, 0}, {0x62, 0x323, 0x301, 0x61, 0x61, 0x316, 0x300, 0}},
		// Nothing is taken apart or composed.
		{{0xe9, 0x301, 0x323}, {0xe9, 0x323, 0x301}},
		{{0x65, 0x301}, {0x65, 0x301}},
		{{0x344, 0x323}, {0x323, 0x344}},
		// Marks of other scripts: Hebrew points, Arabic ones, and musical ones far up.
		{{0x5d0, 0x5c1, 0x5bc, 0x5b8}, {0x5d0, 0x5b8, 0x5bc, 0x5c1}},
		{{0x628, 0x651, 0x64e}, {0x628, 0x64e, 0x651}},
		{{0x1d158, 0x1d16e, 0x1d165, 0x301, 0x338}, {0x1d158, 0x338, 0x1d16e, 0x1d165, 0x301}},
	}
}

// P6.1 to P6.3: the chapter's examples, and more.
func TestCases(t *testing.T) {
	classes := table(t)
	for _, x := range cases() {
		if got := order.Order(x[0]); !slices.Equal(got, x[1]) {
			t.Errorf("Order(%x) = %x, want %x", x[0], got, x[1])
		}
		if got := order.Is(x[0]); got != slices.Equal(x[0], x[1]) {
			t.Errorf("Is(%x) = %v", x[0], got)
		}
		check(t, classes, x[0])
	}
}

// P6.2: the classes of some, told by hand.
func TestClasses(t *testing.T) {
	l := []uint32{0x41, 0x323, 0x338, 0x301, 0x301, 0, 0x345, 0x94d, 0x3099, 0x5b0, 0xd800, 0x110000, 1<<32 - 1, 0xac00, 0x34f, 0x1e94a}
	want := []int{0, 220, 1, 230, 230, 0, 240, 9, 8, 10, 0, 0, 0, 0, 0, 7}
	if got := order.Classes(l); !slices.Equal(got, want) {
		t.Errorf("Classes(%x) = %d, want %d", l, got, want)
	}
	for n := range l {
		if got := order.Classes(l[n:]); !slices.Equal(got, want[n:]) {
			t.Errorf("Classes(%x) = %d, want %d", l[n:], got, want[n:])
		}
	}
	if got := order.Classes(nil); len(got) != 0 {
		t.Errorf("Classes of nothing = %d", got)
	}
}

// P6.1 to P6.3: all code points and some numbers behind them, and each mark but for bits above; a mark of the greatest
// class ahead and one of the least behind tell a mark from what is none.
func TestNumbers(t *testing.T) {
	classes := table(t)
	one := ones(classes)
	least, greatest := one[0], one[len(one)-1]
	for c := uint32(0); c < 0x110100; c++ {
		if got := order.Classes([]uint32{c}); len(got) != 1 || got[0] != classes[c] {
			t.Errorf("Classes(%x) = %d, want %d", c, got, classes[c])
		}
	}
	for c := range classes {
		check(t, classes, []uint32{greatest, c, least})
		for _, above := range []uint32{1 << 20, 1 << 21, 1 << 24, 1 << 31, 0xfff00000} {
			check(t, classes, []uint32{greatest, c | above, least})
		}
	}
	r := rand.New(rand.NewSource(10))
	for range 10000 {
		check(t, classes, []uint32{greatest, r.Uint32(), least})
		check(t, classes, []uint32{greatest, r.Uint32() % 0x110000, least})
	}
}

// P6.1 and P6.2: each class ahead of each, next to it, and with what is no mark between.
func TestEachTwoClasses(t *testing.T) {
	classes := table(t)
	one := ones(classes)
	if len(one) < 50 {
		t.Fatalf("%d classes alone", len(one))
	}
	for i, a := range one {
		for j, b := range one {
			want := []uint32{a, b}
			if i > j {
				want = []uint32{b, a}
			}
			if got := order.Order([]uint32{a, b}); !slices.Equal(got, want) {
				t.Errorf("Order(%x %x) = %x", a, b, got)
			}
			if got := order.Is([]uint32{a, b}); got != (i <= j) {
				t.Errorf("Is(%x %x) = %v", a, b, got)
			}
			if apart := []uint32{a, 0x41, b}; !order.Is(apart) || !slices.Equal(order.Order(apart), apart) {
				t.Errorf("Order(%x) = %x", apart, order.Order(apart))
			}
		}
	}
}

// P6.2: one fault, at each place of a long list, is found; and it is mended by that exchange alone.
func TestOneFault(t *testing.T) {
	classes := table(t)
	rising := ones(classes)
	for i := 1; i < len(rising); i++ {
		l := slices.Clone(rising)
		l[i-1], l[i] = l[i], l[i-1]
		for _, starters := range [][2][]uint32{{nil, nil}, {{0x41}, nil}, {nil, {0x41}}, {{0x301, 0x41}, {0x41, 0x338}}} {
			whole := slices.Concat(starters[0], l, starters[1])
			want := slices.Concat(starters[0], rising, starters[1])
			if order.Is(whole) || !order.Is(want) {
				t.Errorf("Is(%x) = %v, Is(%x) = %v", whole, order.Is(whole), want, order.Is(want))
			}
			if got := order.Order(whole); !slices.Equal(got, want) {
				t.Errorf("Order(%x) = %x, want %x", whole, got, want)
			}
		}
	}
}

// P6.1 to P6.3: all lists of up to six numbers out of a letter, and marks of which some have one class.
func TestAllShort(t *testing.T) {
	classes := table(t)
	from := []uint32{0x41, 0x323, 0x316, 0x301, 0x300, 0x345}
	count := 1
	for n := range 7 {
		for i := range count {
			l := make([]uint32, n)
			for k := range l {
				l[k], i = from[i%len(from)], i/len(from)
			}
			check(t, classes, l)
		}
		count *= len(from)
	}
}

// P6.1: those of one class stay as they are in rows far longer than a sort's small cases.
func TestLongRowsStay(t *testing.T) {
	classes := table(t)
	low, high := []uint32{}, []uint32{}
	for _, c := range sorted(classes) {
		switch classes[c] {
		case 220:
			low = append(low, c)
		case 230:
			high = append(high, c)
		}
	}
	r := rand.New(rand.NewSource(11))
	for n := range 300 {
		l := make([]uint32, 20+10*n)
		var lows, highs []uint32
		for i := range l {
			if r.Intn(2) == 0 {
				l[i] = low[r.Intn(len(low))]
				lows = append(lows, l[i])
			} else {
				l[i] = high[r.Intn(len(high))]
				highs = append(highs, l[i])
			}
		}
		if got := order.Order(l); !slices.Equal(got, slices.Concat(lows, highs)) {
			t.Fatalf("Order of a row of %d = %x", len(l), got)
		}
	}
}

// P6.1 to P6.3: lists of all kinds, from marks alone to few marks.
func TestLists(t *testing.T) {
	classes := table(t)
	marks := sorted(classes)
	r := rand.New(rand.NewSource(12))
	for n := range 3000 {
		check(t, classes, some(r, marks, n%70, 1+n%9))
	}
	check(t, classes, marks)
	check(t, classes, some(r, marks, 100000, 1000000))
	check(t, classes, some(r, marks, 100000, 2))
	check(t, classes, make([]uint32, 100000))
}

// P6.1: rows have nothing in common, so a list that is cut ahead of what is no mark, or behind it, is put into order
// part by part.
func TestParts(t *testing.T) {
	classes := table(t)
	marks := sorted(classes)
	r := rand.New(rand.NewSource(13))
	for n := range 1000 {
		l := some(r, marks, 1+n%40, 4)
		whole := order.Order(l)
		for i, c := range l {
			if classes[c] != 0 {
				continue
			}
			parts := slices.Concat(order.Order(l[:i]), []uint32{c}, order.Order(l[i+1:]))
			if !slices.Equal(whole, parts) {
				t.Errorf("Order(%x) = %x, but of its parts about place %d %x", l, whole, i, parts)
			}
		}
	}
}

// spoil overwrites a list with its spare room.
func spoil[T uint32 | int](l []T) {
	l = l[:cap(l)]
	for i := range l {
		l[i] = 0xbad
	}
}

// Rule 3: an argument is not changed, and an answer is new memory with its spare room: not that of an argument, nor
// that of another answer.
func TestNewMemory(t *testing.T) {
	// What is in order, what is not, and what has no mark, with room behind what is handed in.
	for _, room := range [][]uint32{
		{0x41, 0x323, 0x301, 0x42, 0x338, 7, 7, 7},
		{0x41, 0x301, 0x323, 0x42, 0x345, 0x338, 0x301, 0x323},
		{0x41, 0x42, 0x43, 7, 7, 7, 7, 7},
	} {
		kept := slices.Clone(room)
		for n := range len(room) + 1 {
			for _, l := range [][]uint32{room[:n], room[:n:n]} {
				order.Is(l)
				one, other, classes, again := order.Order(l), order.Order(l), order.Classes(l), order.Classes(l)
				want, wantClasses := slices.Clone(other), slices.Clone(again)
				spoil(one)
				spoil(classes)
				if !slices.Equal(room, kept) {
					t.Fatalf("the first %d of %x were changed to %x", n, kept, room)
				}
				if !slices.Equal(other, want) || !slices.Equal(order.Order(l), want) {
					t.Errorf("Order(%x) shares its memory with another answer", l)
				}
				if !slices.Equal(again, wantClasses) || !slices.Equal(order.Classes(l), wantClasses) {
					t.Errorf("Classes(%x) shares its memory with another answer", l)
				}
			}
		}
	}
}
