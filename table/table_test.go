package table_test

import (
	"math"
	"math/rand"
	"runtime"
	"slices"
	"strings"
	"testing"
	"unsafe"

	"herald/api"
	"herald/table"
)

const greatest = 65536 // that a max may be

var wrongMaxes = []int64{-1, -2, -32, -greatest, math.MinInt64, greatest + 1, 2 * greatest, 1 << 32, 1<<32 + 100, math.MaxInt64}

func made(t *testing.T, max int64) *table.Table {
	t.Helper()
	x, e := table.New(max)
	if x == nil || e != api.OK {
		t.Fatalf("P4.1: New(%d) = %v, %d", max, x, e)
	}
	return x
}

// with is a table of that max to which the pairs were added one by one.
func with(t *testing.T, max int64, pairs ...pair) *table.Table {
	t.Helper()
	x := made(t, max)
	for _, p := range pairs {
		x.Add(p.name, p.value)
	}
	return x
}

func wantAt(t *testing.T, x *table.Table, i int, want pair) {
	t.Helper()
	if n, v, e := x.At(i); n != want.name || v != want.value || e != api.OK {
		t.Errorf("P4.1: At(%d) = %.40q, %.40q, %d, want %.40q, %.40q", i, n, v, e, want.name, want.value)
	}
}

func wantNone(t *testing.T, x *table.Table, i int) {
	t.Helper()
	if n, v, e := x.At(i); n != "" || v != "" || e != api.ErrNone {
		t.Errorf("P4.1: At(%d) of a table with %d moving entries = %.40q, %.40q, %d, want ErrNone", i, x.Len(), n, v, e)
	}
}

func wantFind(t *testing.T, x *table.Table, name, value string, i int, whole bool) {
	t.Helper()
	if j, w := x.Find(name, value); j != i || w != whole {
		t.Errorf("P4.4: Find(%.40q, %.40q) = %d, %v, want %d, %v", name, value, j, w, i, whole)
	}
}

func wantResize(t *testing.T, x *table.Table, max int64, want api.Errno) {
	t.Helper()
	if e := x.Resize(max); e != want {
		t.Errorf("P4.1: Resize(%d) = %d, want %d", max, e, want)
	}
}

// wantMoving: the table's max and its moving entries, the newest first.
func wantMoving(t *testing.T, x *table.Table, max int64, newest ...pair) {
	t.Helper()
	if x.Max() != max || x.Len() != len(newest) || x.Size() != sum(newest) {
		t.Errorf("P4.2: Max %d, Len %d, Size %d, want %d, %d, %d", x.Max(), x.Len(), x.Size(), max, len(newest), sum(newest))
	}
	for i, p := range newest {
		wantAt(t, x, 62+i, p)
	}
	for _, i := range []int{math.MinInt, -62, -1, 0, 62 + len(newest), 63 + len(newest), 62 + 1<<32, math.MaxInt} {
		wantNone(t, x, i)
	}
}

func wantAsModel(t *testing.T, x *table.Table, m *model) {
	t.Helper()
	newest := slices.Clone(m.moving)
	slices.Reverse(newest)
	wantMoving(t, x, m.max, newest...)
}

// wantFindAsModel asks for each name with each value.
func wantFindAsModel(t *testing.T, x *table.Table, m *model, names, values []string) {
	t.Helper()
	for _, n := range names {
		for _, v := range values {
			i, whole := m.find(n, v)
			wantFind(t, x, n, v, i, whole)
		}
	}
}

// agree: P4.4, of one name and one value, by At alone.
func agree(t *testing.T, x *table.Table, name, value string) {
	t.Helper()
	i, whole := x.Find(name, value)
	if i == 0 && whole {
		t.Errorf("P4.4: Find(%.40q, %.40q) = 0, true", name, value)
	}
	if i != 0 {
		n, v, e := x.At(i)
		if n != name || whole != (v == value) || e != api.OK {
			t.Errorf("P4.4: Find(%.40q, %.40q) = %d, %v, but At(%d) = %.40q, %.40q, %d", name, value, i, whole, i, n, v, e)
		}
	}
	for j := 1; j <= 61+x.Len(); j++ {
		n, v, _ := x.At(j)
		sooner := i == 0 || j < i
		if n == name && (v == value && (!whole || sooner) || !whole && sooner) {
			t.Errorf("P4.4: Find(%.40q, %.40q) = %d, %v, but %d has %.40q, %.40q", name, value, i, whole, j, n, v)
		}
	}
}

func repeated(n int) string { return strings.Repeat("n", n) }

func TestExampleOne(t *testing.T) {
	x := made(t, 4096)
	wantMoving(t, x, 4096)
	wantAt(t, x, 2, pair{":method", "GET"})
	wantAt(t, x, 61, pair{"www-authenticate", ""})
	wantFind(t, x, ":method", "GET", 2, true)
	wantFind(t, x, ":method", "PUT", 2, false)
	wantFind(t, x, ":path", "/index.html", 5, true)
	wantFind(t, x, "x", "y", 0, false)
}

func TestExamplesTwoAndThree(t *testing.T) {
	x := made(t, 100)
	x.Add("a", "b")
	wantMoving(t, x, 100, pair{"a", "b"})
	if x.Size() != 34 {
		t.Errorf("P4.1: Size %d, want 34", x.Size())
	}
	x.Add("cc", "d")
	wantMoving(t, x, 100, pair{"cc", "d"}, pair{"a", "b"})
	if x.Size() != 69 {
		t.Errorf("P4.1: Size %d, want 69", x.Size())
	}
	wantFind(t, x, "a", "b", 63, true)
	wantFind(t, x, "a", "q", 63, false)
	x.Add("e", "f")
	wantMoving(t, x, 100, pair{"e", "f"}, pair{"cc", "d"})
	wantFind(t, x, "a", "b", 0, false)

	wantResize(t, x, 68, api.OK)
	wantMoving(t, x, 68, pair{"e", "f"})
	wantResize(t, x, 4096, api.OK)
	wantMoving(t, x, 4096, pair{"e", "f"})
	x.Add(repeated(5000), "")
	wantMoving(t, x, 4096)
	wantResize(t, x, -1, api.ErrArg)
	wantResize(t, x, 65537, api.ErrArg)

	wantMoving(t, with(t, 0, pair{"a", "b"}), 0)
	x = with(t, 33, pair{"", ""})
	wantMoving(t, x, 33, pair{"", ""})
	x.Add("a", "b")
	wantMoving(t, x, 33)
}

func TestExampleFour(t *testing.T) {
	x := with(t, 4096, pair{"a", "b"}, pair{"a", "b"})
	wantFind(t, x, "a", "b", 62, true)
	x.Add(":method", "GET")
	wantAt(t, x, 62, pair{":method", "GET"})
	wantFind(t, x, ":method", "GET", 2, true)
	x.Add(":method", "PUT")
	wantFind(t, x, ":method", "PUT", 62, true)
	wantFind(t, x, ":method", "X", 2, false)
}

// The fixed entries are the same whatever moved in.
func TestFixed(t *testing.T) {
	if len(fixedPairs) != 61 {
		t.Fatalf("the test has %d rows", len(fixedPairs))
	}
	full := made(t, greatest)
	for range 3000 {
		full.Add("", "")
	}
	for _, x := range []*table.Table{made(t, 0), made(t, 4096), with(t, 100, pair{"a", "b"}, pair{":path", "/"}), full} {
		first := map[string]int{}
		for k, p := range fixedPairs {
			i := k + 1
			wantAt(t, x, i, p)
			wantFind(t, x, p.name, p.value, i, true)
			if first[p.name] == 0 {
				first[p.name] = i
			}
			wantFind(t, x, p.name, p.value+"?", first[p.name], false)
			wantFind(t, x, strings.ToUpper(p.name), p.value, 0, false)
			wantFind(t, x, p.name+"?", p.value, 0, false)
		}
		wantNone(t, x, 0)
	}
}

func TestNewMax(t *testing.T) {
	for _, max := range []int64{0, 1, 31, 32, 33, 34, 100, 4096, greatest - 1, greatest} {
		x := made(t, max)
		wantMoving(t, x, max)
		x.Add("", "")
		if max < 32 {
			wantMoving(t, x, max)
		} else {
			wantMoving(t, x, max, pair{})
		}
	}
	for _, max := range wrongMaxes {
		if x, e := table.New(max); x != nil || e != api.ErrArg {
			t.Errorf("P4.1: New(%d) = %v, %d, want nil and ErrArg", max, x, e)
		}
	}
}

func TestAtIndexes(t *testing.T) {
	for n := range 5 {
		x := made(t, 4096)
		for i := range n {
			x.Add(repeated(i), "v")
		}
		wantAt(t, x, 1, pair{":authority", ""})
		wantAt(t, x, 61, pair{"www-authenticate", ""})
		for i := range n {
			wantAt(t, x, 62+i, pair{repeated(n - 1 - i), "v"})
		}
		wantNone(t, x, 62+n)
		for bit := range 64 {
			wantNone(t, x, -1<<bit)
			if bit > 6 && bit < 63 {
				wantNone(t, x, 1<<bit)
				wantNone(t, x, 1<<bit+1)
				wantNone(t, x, 1<<bit+62)
			}
		}
	}
}

// An entry of just max bytes is there alone; one of a byte more empties the table.
func TestEntryAsGreatAsMax(t *testing.T) {
	for _, max := range []int64{32, 33, 34, 100, 4096, greatest} {
		room := int(max - 32)
		for _, name := range []int{0, min(1, room), room / 2, room} {
			just := pair{repeated(name), repeated(room - name)}
			x := with(t, max, pair{"", ""}, just)
			wantMoving(t, x, max, just)
			x.Add(just.name, just.value)
			wantMoving(t, x, max, just)
			x.Add(just.name+"n", just.value)
			wantMoving(t, x, max)
			x.Add(just.name, just.value)
			x.Add(just.name, just.value+"n")
			wantMoving(t, x, max)
			x.Add(just.name, just.value)
			wantMoving(t, x, max, just)
			x.Add("", "")
			wantMoving(t, x, max, pair{})
		}
	}
}

func TestEntryFarGreaterThanMax(t *testing.T) {
	for _, max := range []int64{0, 31, 100, greatest} {
		x := with(t, max, pair{"", ""}, pair{repeated(1 << 20), repeated(1 << 20)})
		wantMoving(t, x, max)
		wantFind(t, x, repeated(1<<20), repeated(1<<20), 0, false)
	}
}

// Three entries of 34 bytes: what is left at every max.
func TestResizeEvery(t *testing.T) {
	a, b, c := pair{"a", "1"}, pair{"b", "2"}, pair{"c", "3"}
	for max := range int64(120) {
		x := with(t, 4096, a, b, c)
		wantResize(t, x, max, api.OK)
		left := []pair{c, b, a}[:min(3, max/34)]
		wantMoving(t, x, max, left...)
		wantResize(t, x, greatest, api.OK) // what went doesn't come back
		wantMoving(t, x, greatest, left...)
		wantResize(t, x, max, api.OK)
		wantMoving(t, x, max, left...)
	}
}

func TestResizeGreater(t *testing.T) {
	x := with(t, 34, pair{"a", "1"})
	wantResize(t, x, 67, api.OK)
	x.Add("b", "2")
	wantMoving(t, x, 67, pair{"b", "2"})
	wantResize(t, x, 68, api.OK)
	x.Add("c", "3")
	wantMoving(t, x, 68, pair{"c", "3"}, pair{"b", "2"})
	wantResize(t, x, 0, api.OK)
	x.Add("", "")
	wantMoving(t, x, 0)
	wantResize(t, x, greatest, api.OK)
	x.Add("d", "4")
	wantMoving(t, x, greatest, pair{"d", "4"})
}

// R2: a refused Resize changes nothing.
func TestResizeRefused(t *testing.T) {
	a, b := pair{"a", "1"}, pair{"b", "2"}
	for _, max := range wrongMaxes {
		x := with(t, 100, a, b)
		wantResize(t, x, max, api.ErrArg)
		wantMoving(t, x, 100, b, a)
		x.Add("c", "3") // by the max that it has still
		wantMoving(t, x, 100, pair{"c", "3"}, b)
		x = with(t, 0)
		wantResize(t, x, max, api.ErrArg)
		wantMoving(t, x, 0)
	}
}

func TestTwiceThere(t *testing.T) {
	x := with(t, 4096, pair{"a", "b"}, pair{"x", "y"}, pair{"a", "b"}, pair{"a", "c"})
	wantMoving(t, x, 4096, pair{"a", "c"}, pair{"a", "b"}, pair{"x", "y"}, pair{"a", "b"})
	wantFind(t, x, "a", "b", 63, true)
	wantFind(t, x, "a", "c", 62, true)
	wantFind(t, x, "a", "d", 62, false)
	wantFind(t, x, "a", "", 62, false)
	wantResize(t, x, 102, api.OK)
	wantFind(t, x, "a", "b", 63, true)
	wantResize(t, x, 34, api.OK)
	wantFind(t, x, "a", "b", 62, false)
	wantFind(t, x, "x", "y", 0, false)
}

func TestFixedOnesMovedIn(t *testing.T) {
	x := made(t, greatest)
	for i := range fixedPairs {
		x.Add(fixedPairs[i].name, fixedPairs[i].value)
		x.Add(fixedPairs[i].name, "mine")
	}
	if x.Len() != 122 {
		t.Errorf("P4.2: Len %d, want 122", x.Len())
	}
	for i, p := range fixedPairs {
		wantFind(t, x, p.name, p.value, i+1, true)
		wantAt(t, x, 62+121-2*i, p)
		wantAt(t, x, 62+120-2*i, pair{p.name, "mine"})
		agree(t, x, p.name, "mine") // the newest of that name, and whole
		agree(t, x, p.name, "none")
	}
	wantFind(t, x, "www-authenticate", "mine", 62, true)
	wantFind(t, x, ":authority", "mine", 182, true)
	wantFind(t, x, ":authority", "none", 1, false)
}

func TestTextsWithoutBytes(t *testing.T) {
	x := made(t, 4096)
	wantFind(t, x, "", "", 0, false)
	wantFind(t, x, "", "GET", 0, false)
	wantFind(t, x, ":method", "", 2, false)
	wantFind(t, x, "accept", "", 19, true)
	x.Add("", "v")
	wantMoving(t, x, 4096, pair{"", "v"})
	wantFind(t, x, "", "", 62, false)
	wantFind(t, x, "", "v", 62, true)
	x.Add("", "")
	x.Add("v", "")
	wantMoving(t, x, 4096, pair{"v", ""}, pair{"", ""}, pair{"", "v"})
	wantFind(t, x, "", "", 63, true)
	wantFind(t, x, "", "v", 64, true)
	wantFind(t, x, "", "w", 63, false)
	wantFind(t, x, "v", "", 62, true)
}

// Names and values are bytes, held against each other one by one: "A" is not
// "a", and it counts where the name ends and the value begins.
func TestAnyBytes(t *testing.T) {
	list := []pair{{"\xff\x00", "\x80"}, {"\xff", "\x00\x80"}, {"", "\xff\x00\x80"}, {"\n", "\r"}, {"A", "b"}, {"a", "B"}, {"é", "é"}}
	x := with(t, 4096, list...)
	for i, p := range list {
		at := 62 + len(list) - 1 - i
		wantAt(t, x, at, p)
		wantFind(t, x, p.name, p.value, at, true)
	}
	wantFind(t, x, "a", "b", 63, false)
	wantFind(t, x, "B", "a", 0, false)
	wantFind(t, x, "\xff\x00\x80", "", 0, false)
}

// As many entries as there can be, and the turn of all of them.
func TestFull(t *testing.T) {
	x := made(t, greatest)
	m := &model{max: greatest}
	for range 2048 + 3 {
		x.Add("", "")
	}
	if x.Len() != 2048 || x.Size() != greatest {
		t.Errorf("P4.2: Len %d, Size %d, want 2048, %d", x.Len(), x.Size(), greatest)
	}
	wantAt(t, x, 62+2047, pair{})
	wantNone(t, x, 62+2048)
	for i := range 2048 {
		x.Add(string([]byte{byte(i), byte(i >> 8)}), "")
		m.moving = append(m.moving, pair{string([]byte{byte(i), byte(i >> 8)}), ""})
	}
	m.moving = m.moving[2048-greatest/34:]
	wantAsModel(t, x, m)
	wantFind(t, x, "", "", 0, false)
	wantResize(t, x, 0, api.OK)
	wantMoving(t, x, 0)
}

// P4.2: told by the whole history of Adds.
func TestLastOnes(t *testing.T) {
	g := rand.New(rand.NewSource(4))
	for range 300 {
		max := g.Int63n(400)
		x := made(t, max)
		var history []pair
		for range 40 {
			p := pair{repeated(g.Intn(1 + g.Intn(200))), repeated(g.Intn(1 + g.Intn(300)))}
			history = append(history, p)
			x.Add(p.name, p.value)
			wantAsModel(t, x, &model{max, lastOnes(history, max)})
		}
	}
}

var fewNames = []string{"", "a", "aa", "b", ":method", ":path", "cookie"}

var fewValues = []string{"", "a", "b", "GET", "/", "x"}

// step does with the table and with the model what a number says.
func step(t *testing.T, x *table.Table, m *model, n int) {
	t.Helper()
	name, value := fewNames[n%len(fewNames)], fewValues[n/len(fewNames)%len(fewValues)]
	maxes := []int64{0, 31, 32, 33, 34, 67, 68, 100, 4096, greatest, -1, greatest + 1}
	switch n / 64 % 4 {
	case 0, 1:
		x.Add(name, value)
		m.add(name, value)
	case 2:
		value += repeated(n % 64)
		x.Add(name, value)
		m.add(name, value)
	case 3:
		max := maxes[n%len(maxes)]
		want := api.ErrArg
		if m.resize(max) {
			want = api.OK
		}
		wantResize(t, x, max, want)
	}
}

func TestManyOrders(t *testing.T) {
	g := rand.New(rand.NewSource(44))
	for range 400 {
		max := []int64{0, 31, 32, 33, 64, 65, 100, 200, 1000, greatest}[g.Intn(10)]
		x, m := made(t, max), &model{max: max}
		for range 40 {
			step(t, x, m, g.Intn(256))
			wantAsModel(t, x, m)
			n, v := fewNames[g.Intn(len(fewNames))], fewValues[g.Intn(len(fewValues))]
			wantFindAsModel(t, x, m, []string{n, "a"}, []string{v, "b"})
			agree(t, x, n, v)
		}
		wantFindAsModel(t, x, m, fewNames, fewValues)
	}
}

// Every order of five steps out of eight.
func TestEveryShortOrder(t *testing.T) {
	steps := []func(x *table.Table, m *model){
		func(x *table.Table, m *model) { x.Add("", ""); m.add("", "") },
		func(x *table.Table, m *model) { x.Add("a", "b"); m.add("a", "b") },
		func(x *table.Table, m *model) { x.Add("a", "cc"); m.add("a", "cc") },
		func(x *table.Table, m *model) { x.Add(":path", "/a"); m.add(":path", "/a") },
		func(x *table.Table, m *model) { x.Add(repeated(69), ""); m.add(repeated(69), "") },
		func(x *table.Table, m *model) { x.Resize(68); m.resize(68) },
		func(x *table.Table, m *model) { x.Resize(101); m.resize(101) },
		func(x *table.Table, m *model) { x.Resize(greatest + 1); m.resize(greatest + 1) },
	}
	for order := range 1 << 15 {
		x, m := made(t, 100), &model{max: 100}
		for rest := order; rest > 0; rest /= 8 {
			steps[rest%8](x, m)
		}
		wantAsModel(t, x, m)
		wantFindAsModel(t, x, m, []string{"a", ":path"}, []string{"b", "/a"})
	}
}

// P4.3: of two tables with one history the one is asked all the time, and
// copied, and refuses maxes.
func TestAskingChangesNothing(t *testing.T) {
	g := rand.New(rand.NewSource(43))
	for range 200 {
		max := g.Int63n(300)
		x, y, m := made(t, max), made(t, max), &model{max: max}
		for range 30 {
			n := g.Intn(256)
			step(t, x, m.copy(), n)
			step(t, y, m, n)
			for i := -1; i < 70; i++ {
				y.At(i)
			}
			y.Find(fewNames[g.Intn(len(fewNames))], "b")
			y.Find("none", "")
			y.Size()
			y.Len()
			y.Max()
			y.Copy().Add("gone", "")
			y.Resize(-1)
		}
		wantAsModel(t, x, m)
		wantAsModel(t, y, m)
		wantFindAsModel(t, x, m, fewNames, fewValues)
		wantFindAsModel(t, y, m, fewNames, fewValues)
	}
}

func TestAskedTwice(t *testing.T) {
	x := with(t, 100, pair{"a", "b"}, pair{":method", "PUT"})
	for range 3 {
		wantMoving(t, x, 100, pair{":method", "PUT"}, pair{"a", "b"})
		wantFind(t, x, ":method", "PUT", 62, true)
		wantFind(t, x, ":method", "X", 2, false)
		wantFind(t, x, "a", "q", 63, false)
		wantFind(t, x, "x", "y", 0, false)
		wantAt(t, x, 5, pair{":path", "/index.html"})
		wantResize(t, x, -1, api.ErrArg)
	}
}

// R4: tables are each their own.
func TestEachItsOwn(t *testing.T) {
	for range 3 {
		x, y := made(t, 100), made(t, 200)
		x.Add("a", "b")
		wantMoving(t, y, 200)
		y.Add(":path", "/c")
		wantMoving(t, x, 100, pair{"a", "b"})
		wantFind(t, x, ":path", "/c", 4, false)
		wantResize(t, y, 0, api.OK)
		wantMoving(t, x, 100, pair{"a", "b"})
		wantMoving(t, y, 0)
	}
}

func TestCopyOfFew(t *testing.T) {
	x := with(t, 100, pair{"a", "b"}, pair{"c", "d"})
	y := x.Copy()
	wantMoving(t, y, 100, pair{"c", "d"}, pair{"a", "b"})
	x.Add("e", "f")
	wantMoving(t, y, 100, pair{"c", "d"}, pair{"a", "b"})
	y.Add("g", "h")
	wantMoving(t, x, 100, pair{"e", "f"}, pair{"c", "d"})
	wantMoving(t, y, 100, pair{"g", "h"}, pair{"c", "d"})
	wantResize(t, y, 34, api.OK)
	wantMoving(t, x, 100, pair{"e", "f"}, pair{"c", "d"})
	wantResize(t, x, 0, api.OK)
	wantMoving(t, y, 34, pair{"g", "h"})
	wantMoving(t, made(t, 0).Copy(), 0)
	wantMoving(t, made(t, greatest).Copy(), greatest)
}

// Copies of copies, each with a history of its own from then on.
func TestCopiesInManyOrders(t *testing.T) {
	g := rand.New(rand.NewSource(45))
	for range 200 {
		tables, models := []*table.Table{made(t, 150)}, []*model{{max: 150}}
		for range 40 {
			i := g.Intn(len(tables))
			if len(tables) < 6 && g.Intn(4) == 0 {
				tables, models = append(tables, tables[i].Copy()), append(models, models[i].copy())
			}
			step(t, tables[i], models[i], g.Intn(256))
			for k := range tables {
				wantAsModel(t, tables[k], models[k])
			}
		}
		for k := range tables {
			wantFindAsModel(t, tables[k], models[k], fewNames, fewValues)
		}
	}
}

func TestFindAndAtAgree(t *testing.T) {
	g := rand.New(rand.NewSource(46))
	for range 60 {
		x, m := made(t, 600), &model{max: 600}
		for range 30 {
			step(t, x, m, g.Intn(192))
		}
		for _, n := range append([]string{"none"}, fewNames...) {
			for _, v := range fewValues {
				agree(t, x, n, v)
			}
		}
		for i := 1; i <= 61+x.Len(); i++ {
			n, v, _ := x.At(i)
			if j, whole := x.Find(n, v); !whole || j > i {
				t.Errorf("P4.4: At(%d) = %q, %q, but Find of it = %d, %v", i, n, v, j, whole)
			}
		}
	}
}

// same tells whether two texts stand in one memory.
func same(a, b string) bool { return unsafe.StringData(a) == unsafe.StringData(b) }

// R3: neither what was added nor what was answered is shared.
func TestNewMemory(t *testing.T) {
	name, value := repeated(20), repeated(30)
	x := with(t, 100, pair{name, value})
	y := x.Copy()
	n, v, _ := x.At(62)
	for _, z := range []*table.Table{x, y} {
		a, b, _ := z.At(62)
		if same(a, name) || same(b, value) {
			t.Errorf("R3: At's texts share memory with those that were added")
		}
		if same(a, n) || same(b, v) {
			t.Errorf("R3: two answers of At share memory")
		}
	}
	n, v, _ = x.At(16)
	if a, b, _ := x.At(16); same(a, n) || same(b, v) {
		t.Errorf("R3: two answers of At share memory of a fixed entry")
	}
}

// held tells the bytes that nothing lets go.
func held() int64 {
	var s runtime.MemStats
	runtime.GC()
	runtime.GC()
	runtime.ReadMemStats(&s)
	return int64(s.HeapAlloc)
}

// A table holds on neither to the memory that an entry's texts were cut from,
// nor to an entry that went.
func TestHoldsNoMore(t *testing.T) {
	before := held()
	x := made(t, greatest)
	for range 64 {
		b := repeated(1 << 20)
		x.Add(b[:1], b[1:2])
	}
	if n := held() - before; n > 16<<20 {
		t.Errorf("64 entries of two bytes hold %d bytes", n)
	}
	tables := []*table.Table{x}
	for range 1000 {
		y := with(t, greatest, pair{repeated(60000), ""})
		wantResize(t, y, 0, api.OK)
		tables = append(tables, y)
	}
	if n := held() - before; n > 16<<20 {
		t.Errorf("empty tables hold %d bytes", n)
	}
	runtime.KeepAlive(tables)
}

func FuzzCalls(f *testing.F) {
	f.Add(int64(100), "\x00\x41\x82\xc3")
	f.Add(int64(33), "\x08\x08\xc9\x01")
	f.Add(int64(-1), "")
	f.Fuzz(func(t *testing.T, max int64, calls string) {
		x, e := table.New(max)
		if max < 0 || max > greatest {
			if x != nil || e != api.ErrArg {
				t.Errorf("P4.1: New(%d) = %v, %d, want nil and ErrArg", max, x, e)
			}
			return
		}
		m := &model{max: max}
		var old *table.Table
		var oldModel *model
		for i := range min(len(calls), 100) {
			if i%7 == 3 {
				old, oldModel = x.Copy(), m.copy()
			}
			step(t, x, m, int(calls[i]))
			wantAsModel(t, x, m)
		}
		wantFindAsModel(t, x, m, fewNames, fewValues)
		if old != nil {
			wantAsModel(t, old, oldModel)
		}
	})
}
