package pack_test

import (
	"fmt"
	"math"
	"math/rand"
	"runtime"
	"slices"
	"strings"
	"testing"

	"herald/api"
	"herald/pack"
	"herald/table"
)

const plenty = math.MaxInt64 // a most that no list reaches

// listOf reads "name value"; with a ! ahead it is Never.
func listOf(texts ...string) []api.Field {
	var list []api.Field
	for _, s := range texts {
		rest, isNever := strings.CutPrefix(s, "!")
		name, value, _ := strings.Cut(rest, " ")
		list = append(list, api.Field{Name: name, Value: value, Never: isNever})
	}
	return list
}

func pairsOf(texts ...string) []pair {
	var list []pair
	for _, f := range listOf(texts...) {
		list = append(list, pair{f.Name, f.Value})
	}
	return list
}

func repeated(n int) string { return strings.Repeat("n", n) }

// shown keeps what a failed test tells readable.
func shown(list []api.Field) string {
	out := fmt.Sprintf("%d fields", len(list))
	for _, f := range list[:min(len(list), 8)] {
		out += fmt.Sprintf(" {%.40q %.40q %v}", f.Name, f.Value, f.Never)
	}
	return out
}

// wantTable: the max and the moving entries, the newest first.
func wantTable(t *testing.T, x *table.Table, max int64, newest ...pair) {
	t.Helper()
	if x == nil {
		t.Fatal("P5.4, P5.7: there is no table")
	}
	if x.Max() != max || x.Len() != len(newest) || x.Size() != pairsSize(newest) {
		t.Errorf("P5.4, P5.7: a table of Max %d, Len %d, Size %d, want %d, %d, %d", x.Max(), x.Len(), x.Size(), max, len(newest), pairsSize(newest))
	}
	for i, p := range newest {
		if n, v, e := x.At(62 + i); n != p.name || v != p.value || e != api.OK {
			t.Errorf("P5.4, P5.7: the table's entry %d is %.40q, %.40q, %d, want %.40q, %.40q", 62+i, n, v, e, p.name, p.value)
		}
	}
}

func TestSize(t *testing.T) {
	for _, x := range []struct {
		list []api.Field
		want int64
	}{
		{nil, 0}, {[]api.Field{}, 0}, {listOf(" "), 32}, {listOf("a"), 33}, {listOf(" b"), 33}, {listOf("a b"), 34}, {listOf("!a b"), 34},
		{listOf("ab c", "d"), 68}, {listOf("a b", "a b", "!a b"), 102}, {listOf(":method GET"), 42},
		{[]api.Field{{Name: "é", Value: "\x00\xff"}}, 36},
		{[]api.Field{{Name: repeated(1 << 17), Value: repeated(1 << 18)}, {Name: "a"}}, 1<<17 + 1<<18 + 65},
		{slices.Repeat(listOf("abc defgh"), 1000), 40000},
	} {
		if n := pack.Size(x.list); n != x.want {
			t.Errorf("P5.1: Size(%s) = %d, want %d", shown(x.list), n, x.want)
		}
	}
}

// Sizes that are together above 32 bits: the fields share one text.
func TestSizeOfMuch(t *testing.T) {
	if n := pack.Size(slices.Repeat([]api.Field{{Name: repeated(1 << 20), Value: repeated(1 << 20)}}, 2048)); n != 2048*(2<<20+32) {
		t.Errorf("P5.1: Size = %d", n)
	}
}

// A least max that is told lets entries go, which the last one doesn't bring back.
func TestLeastLetsGo(t *testing.T) {
	a, b := pair{"a", "1"}, pair{"b", "2"}
	for _, x := range []struct {
		maxes []int64
		left  []pair
	}{
		{[]int64{68}, []pair{b, a}}, {[]int64{67}, []pair{b}}, {[]int64{34}, []pair{b}}, {[]int64{33}, nil},
		{[]int64{68, 4096}, []pair{b, a}}, {[]int64{67, 4096}, []pair{b}}, {[]int64{33, 4096}, nil},
		{[]int64{67, 68}, []pair{b}}, {[]int64{4096, 9000}, []pair{b, a}},
	} {
		e, d := pack.NewEncoder(), pack.NewDecoder()
		block, _ := e.Encode(listOf("a 1", "b 2"))
		d.Decode(block, plenty)
		for _, n := range x.maxes {
			e.SetMax(n)
			d.SetMax(n)
		}
		wantTable(t, e.Table(), 4096, b, a)
		wantTable(t, d.Table(), 4096, b, a)
		block, _ = e.Encode(nil)
		wantList(t, d, block, plenty)
		last := min(x.maxes[len(x.maxes)-1], 4096)
		wantTable(t, e.Table(), last, x.left...)
		wantTable(t, d.Table(), last, x.left...)
	}
}

// A field is told by what the fields ahead of it in the block left in the table.
func TestFieldsAheadCount(t *testing.T) {
	e, d := pack.NewEncoder(), pack.NewDecoder()
	list := listOf("a 1", "a 1", "a 2", "a 1", "b 1", "a 1", "a 3", "!a 2", "a 2")
	want := "\x40\x01a\x011\xbe\x7e\x012\xbf\x40\x01b\x011\xc0\x7f\x00\x013\x1f\x31\x012\xc0"
	wantBlock(t, e, want, list...)
	wantList(t, d, want, plenty, list...)
	wantTable(t, e.Table(), 4096, pairsOf("a 3", "b 1", "a 2", "a 1")...)
	wantTable(t, d.Table(), 4096, pairsOf("a 3", "b 1", "a 2", "a 1")...)
}

// The name is that of an entry that goes as the field comes in.
func TestNameOfAnEntryThatGoes(t *testing.T) {
	e, d := pack.NewEncoder(), pack.NewDecoder()
	e.SetMax(40)
	d.SetMax(40)
	for _, x := range []struct {
		want  string
		field string
	}{{"\x3f\x09\x40\x01a\x011", "a 1"}, {"\x7e\x012", "a 2"}, {"\x7e\x013", "a 3"}, {"\xbe", "a 3"}} {
		wantBlock(t, e, x.want, listOf(x.field)...)
		wantList(t, d, x.want, plenty, listOf(x.field)...)
		wantTable(t, d.Table(), 40, pairsOf(x.field)...)
	}
}

// Indexes of two and of three bytes.
func TestManyEntries(t *testing.T) {
	e, d, m := pack.NewEncoder(), pack.NewDecoder(), newModelEncoder()
	var list []api.Field
	for i := range 130 {
		list = append(list, api.Field{Name: string([]byte{byte(i)})})
	}
	for _, l := range [][]api.Field{list, list, {list[129], list[20], list[10], list[9], list[0]}, slices.Repeat(list[60:61], 300)} {
		block, _ := m.encode(l)
		wantBlock(t, e, block, l...)
		wantList(t, d, block, plenty, l...)
		wantTable(t, e.Table(), 4096, m.table.moving...)
		wantTable(t, d.Table(), 4096, m.table.moving...)
	}
	if n := e.Table().Len(); n != 124 {
		t.Errorf("P5.3: %d entries of 33 bytes in 4096, want 124", n)
	}
	d = pack.NewDecoder()
	d.SetMax(greatest)
	wantList(t, d, "\x3f\xe1\xff\x03"+strings.Repeat("\x40\x00\x00", 2048), plenty, make([]api.Field, 2048)...)
	wantList(t, d, "\xff\xbe\x0f\xff\xbd\x0f", plenty, api.Field{}, api.Field{}) // 2109 and 2108
	wantBroken(t, d, "\xff\xbf\x0f", greatest, make([]pair, 2048)...)
}

var (
	fewNames  = []string{"", "a", "aa", "b", ":method", ":path", "cookie", "x-long-name", "www-authenticate", "\xff"}
	fewValues = []string{"", "a", "b", "GET", "PUT", "/", "x", "aaa", "0000000", "\x00\xff", "a value that is somewhat longer than others"}
)

func someField(g *rand.Rand) api.Field {
	f := api.Field{Name: fewNames[g.Intn(len(fewNames))], Value: fewValues[g.Intn(len(fewValues))], Never: g.Intn(6) == 0}
	switch g.Intn(12) {
	case 0:
		f.Value += repeated(g.Intn(200))
	case 1:
		f.Name += strings.Repeat("0", g.Intn(200))
	case 2:
		f.Value += strings.Repeat("\x01", g.Intn(5000))
	}
	return f
}

func someList(g *rand.Rand) []api.Field {
	var list []api.Field
	for range g.Intn(12) {
		list = append(list, someField(g))
	}
	return list
}

func someMax(g *rand.Rand) int64 {
	maxes := []int64{-1, 0, 31, 32, 33, 34, 67, 68, 100, 300, 1000, 4095, 4096, 4097, greatest, greatest + 1, math.MaxInt64, math.MinInt64}
	return maxes[g.Intn(len(maxes))]
}

func wantAlike(t *testing.T, a, b *table.Table) {
	t.Helper()
	if a.Max() != b.Max() || a.Len() != b.Len() || a.Size() != b.Size() {
		t.Fatalf("P5.8: tables of Max %d, Len %d, Size %d and %d, %d, %d", a.Max(), a.Len(), a.Size(), b.Max(), b.Len(), b.Size())
	}
	for i := range a.Len() {
		n, v, _ := a.At(62 + i)
		if m, w, _ := b.At(62 + i); n != m || v != w {
			t.Fatalf("P5.8: the entries %d are %.40q %.40q and %.40q %.40q", 62+i, n, v, m, w)
		}
	}
}

// P5.8, and the bytes and the tables as the models have them.
func TestSideBySide(t *testing.T) {
	g := rand.New(rand.NewSource(5))
	for range 150 {
		e, d, em, dm := pack.NewEncoder(), pack.NewDecoder(), newModelEncoder(), newModelDecoder()
		for range 25 {
			for range g.Intn(4) * g.Intn(2) {
				n := someMax(g)
				e.SetMax(n)
				d.SetMax(n)
				em.setMax(n)
				dm.setMax(n)
			}
			if g.Intn(8) == 0 {
				wantRefused(t, e, someField(g), api.Field{Name: repeated(65537)})
			}
			list := someList(g)
			block, _ := em.encode(list)
			wantBlock(t, e, block, list...)
			size := pack.Size(list)
			switch g.Intn(4) {
			case 0:
				asModel(t, d, dm, block, size-1)
			case 1:
				asModel(t, d, dm, block, g.Int63n(size+100))
			default:
				wantList(t, d, block, size, list...)
				dm.decode(block, size)
			}
			wantAlike(t, e.Table(), d.Table())
			wantTable(t, e.Table(), em.table.max, em.table.moving...)
			if t.Failed() {
				return
			}
		}
	}
}

// P5.4, P5.7: what is done to a table that was answered is not seen, and what is
// done later is not seen in it.
func TestTablesAreCopies(t *testing.T) {
	e, d := pack.NewEncoder(), pack.NewDecoder()
	wantBlock(t, e, "\x40\x01a\x01b", listOf("a b")...)
	wantList(t, d, "\x40\x01a\x01b", plenty, listOf("a b")...)
	early, late := e.Table(), d.Table()
	for _, x := range []*table.Table{e.Table(), d.Table()} {
		x.Add("c", "d")
		x.Resize(33)
	}
	for _, x := range []*table.Table{e.Table(), d.Table()} {
		x.Resize(50)
		x.Add("c", "d")
	}
	wantTable(t, e.Table(), 4096, pair{"a", "b"})
	wantTable(t, d.Table(), 4096, pair{"a", "b"})
	wantBlock(t, e, "\xbe\x40\x01c\x01d", listOf("a b", "c d")...)
	wantList(t, d, "\xbe\x40\x01c\x01d", plenty, listOf("a b", "c d")...)
	e.SetMax(0)
	wantBlock(t, e, "\x20")
	wantList(t, d, "\x20", plenty)
	wantTable(t, early, 4096, pair{"a", "b"})
	wantTable(t, late, 4096, pair{"a", "b"})
	wantTable(t, e.Table(), 0)
	wantTable(t, d.Table(), 0)
}

// An encoder keeps no memory of the texts, nor does a decoder of the block.
func TestHoldsNoMore(t *testing.T) {
	held := func() int64 {
		var s runtime.MemStats
		runtime.GC()
		runtime.GC()
		runtime.ReadMemStats(&s)
		return int64(s.HeapAlloc)
	}
	before := held()
	var all []any
	for range 64 {
		e, d := pack.NewEncoder(), pack.NewDecoder()
		long := repeated(1 << 20)
		e.Encode([]api.Field{{Name: long[:1], Value: long[1:2]}})
		d.Decode("\x40\x01a\x01b"+strings.Repeat("\x04\x7e"+repeated(126), 1<<13), 100)
		all = append(all, e, d)
	}
	if n := held() - before; n > 16<<20 {
		t.Errorf("P5.9: encoders and decoders with an entry each hold %d bytes", n)
	}
	runtime.KeepAlive(all)
}

// R4: each encoder and each decoder is its own, and begins alike.
func TestEachItsOwn(t *testing.T) {
	for range 3 {
		e, f := pack.NewEncoder(), pack.NewEncoder()
		e.SetMax(100)
		wantBlock(t, f, "\x40\x01a\x01b", listOf("a b")...)
		wantBlock(t, e, "\x3f\x45\x40\x01a\x01b", listOf("a b")...)
		wantBlock(t, f, "\xbe", listOf("a b")...)
		c, d := pack.NewDecoder(), pack.NewDecoder()
		c.SetMax(10)
		wantErr(t, c, "\x80", plenty, api.ErrBlock)
		wantErr(t, d, "\xbe", -1, api.ErrBlock)
		d = pack.NewDecoder()
		wantList(t, d, "\x40\x01a\x01b\xbe", plenty, listOf("a b", "a b")...)
		wantTable(t, c.Table(), 4096)
	}
}

func FuzzEncode(f *testing.F) {
	f.Add("a b c d", int64(100), int64(4096), false)
	f.Add(":method GET :path /x :method PUT", int64(34), int64(33), true)
	f.Fuzz(func(t *testing.T, words string, one, two int64, never bool) {
		if len(words) > 4000 {
			return
		}
		e, d, m := pack.NewEncoder(), pack.NewDecoder(), newModelEncoder()
		list := strings.Split(words, " ")
		for _, maxes := range [][]int64{{}, {one}, {two, one}, {}} {
			for _, n := range maxes {
				e.SetMax(n)
				d.SetMax(n)
				m.setMax(n)
			}
			var fields []api.Field
			for i := range len(list) / 2 {
				fields = append(fields, api.Field{Name: list[2*i], Value: list[2*i+1], Never: never && i%2 == 1})
			}
			block, _ := m.encode(fields)
			wantBlock(t, e, block, fields...)
			wantList(t, d, block, pack.Size(fields), fields...)
			wantAlike(t, e.Table(), d.Table())
			list = list[min(1, len(list)-1):]
		}
	})
}
