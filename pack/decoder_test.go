package pack_test

import (
	"math"
	"math/rand"
	"runtime"
	"slices"
	"strings"
	"testing"
	"unsafe"

	"herald/api"
	"herald/pack"
)

func wantList(t *testing.T, d *pack.Decoder, block string, most int64, want ...api.Field) {
	t.Helper()
	if l, e := d.Decode(block, most); !slices.Equal(l, want) || e != api.OK {
		t.Errorf("P5.6: Decode(% .80x, %d) = %s, %d, want %s", block, most, shown(l), e, shown(want))
	}
}

func wantErr(t *testing.T, d *pack.Decoder, block string, most int64, want api.Errno) {
	t.Helper()
	if l, e := d.Decode(block, most); len(l) != 0 || e != want {
		t.Errorf("P5.6: Decode(% .80x, %d) = %s, %d, want error %d", block, most, shown(l), e, want)
	}
}

// wantBroken: the block is refused, and so is whatever comes behind it, and
// neither does anything more to the table.
func wantBroken(t *testing.T, d *pack.Decoder, block string, max int64, newest ...pair) {
	t.Helper()
	wantErr(t, d, block, plenty, api.ErrBlock)
	wantTable(t, d.Table(), max, newest...)
	for _, b := range []string{"", "\x20", "\x82", "\x40\x01a\x01b", "\x2a\x82", "\x80", block} {
		wantErr(t, d, b, plenty, api.ErrBlock)
		wantErr(t, d, b, -1, api.ErrBlock)
		d.SetMax(4096)
	}
	wantTable(t, d.Table(), max, newest...)
}

func TestExampleSix(t *testing.T) {
	d := pack.NewDecoder()
	wantTable(t, d.Table(), 4096)
	wantList(t, d, "\x82\x86", 1000, listOf(":method GET", ":scheme http")...)
	wantErr(t, d, "\x82", 41, api.ErrList)
	wantErr(t, d, "\x80", 1000, api.ErrBlock)
	wantErr(t, d, "\x82", 1000, api.ErrBlock)
}

func TestExampleSeven(t *testing.T) {
	for _, block := range []string{"\xbe", "\x82\x20", "\x3f\xe2\x1f", "\x41"} {
		wantBroken(t, pack.NewDecoder(), block, 4096)
	}
	wantBroken(t, pack.NewDecoder(), "\x20\x21\x20", 1)
	d := pack.NewDecoder()
	d.SetMax(5000)
	wantList(t, d, "\x3f\xe2\x1f", 1000)
	wantTable(t, d.Table(), 4097)
	d = pack.NewDecoder()
	d.SetMax(10)
	wantBroken(t, d, "\x82", 4096)
	d = pack.NewDecoder()
	d.SetMax(10)
	wantList(t, d, "\x2a\x82", 1000, listOf(":method GET")...)
	wantTable(t, d.Table(), 10)
	d = pack.NewDecoder()
	wantList(t, d, "\x10\x01a\x01b", 1000, listOf("!a b")...)
	wantList(t, d, "\x00\x01a\x01b", 1000, listOf("a b")...)
	wantTable(t, d.Table(), 4096)
}

// RFC 7541's appendix C.3 and C.5: without and with codes, and a table of 256
// bytes out of which the oldest go.
func TestBlocksOfTheRFC(t *testing.T) {
	d := pack.NewDecoder()
	first := listOf(":method GET", ":scheme http", ":path /", ":authority www.example.com")
	wantList(t, d, "\x82\x86\x84\x41\x0fwww.example.com", plenty, first...)
	wantList(t, d, "\x82\x86\x84\xbe\x58\x08no-cache", plenty, append(first, listOf("cache-control no-cache")...)...)
	wantList(t, d, "\x82\x87\x85\xbf\x40\x0acustom-key\x0ccustom-value", plenty, listOf(":method GET", ":scheme https", ":path /index.html", ":authority www.example.com", "custom-key custom-value")...)
	wantTable(t, d.Table(), 4096, pairsOf("custom-key custom-value", "cache-control no-cache", ":authority www.example.com")...)

	d = pack.NewDecoder()
	wantList(t, d, "\x3f\xe1\x01", plenty)
	wantTable(t, d.Table(), 256)
	date, where := "date Mon, 21 Oct 2013 20:13:21 GMT", "location https://www.example.com"
	wantList(t, d, "\x48\x03302\x58\x07private\x61\x1dMon, 21 Oct 2013 20:13:21 GMT\x6e\x17https://www.example.com", plenty, listOf(":status 302", "cache-control private", date, where)...)
	wantTable(t, d.Table(), 256, pairsOf(where, date, "cache-control private", ":status 302")...)
	wantList(t, d, "\x48\x03307\xc1\xc0\xbf", plenty, listOf(":status 307", "cache-control private", date, where)...)
	wantTable(t, d.Table(), 256, pairsOf(":status 307", where, date, "cache-control private")...)
}

// Each form that a decoder may read, with an index, with 0, and with an index of
// no entry.
func TestFormsRead(t *testing.T) {
	for _, x := range []struct {
		block string
		want  string
		adds  bool
	}{
		{"\x81", ":authority ", false},
		{"\x82", ":method GET", false},
		{"\xbd", "www-authenticate ", false},
		{"\xbe", "new two", false},
		{"\xbf", "old one", false},
		{"\x41\x01x", ":authority x", true},
		{"\x7d\x01x", "www-authenticate x", true},
		{"\x7e\x01x", "new x", true},
		{"\x7f\x00\x01x", "old x", true},
		{"\x40\x01a\x01b", "a b", true},
		{"\x40\x00\x00", " ", true},
		{"\x42\x03GET", ":method GET", true},
		{"\x40\x07:method\x03GET", ":method GET", true},
		{"\x01\x01x", ":authority x", false},
		{"\x0e\x01x", ":status x", false},
		{"\x0f\x00\x01x", "accept-charset x", false},
		{"\x0f\x2f\x01x", "new x", false},
		{"\x0f\x30\x01x", "old x", false},
		{"\x00\x01a\x01b", "a b", false},
		{"\x00\x00\x00", " ", false},
		{"\x11\x01x", "!:authority x", false},
		{"\x1e\x01x", "!:status x", false},
		{"\x1f\x00\x01x", "!accept-charset x", false},
		{"\x1f\x2f\x01x", "!new x", false},
		{"\x1f\x30\x01x", "!old x", false},
		{"\x10\x01a\x01b", "!a b", false},
		{"\x10\x00\x00", "! ", false},
		{"\x40\x81\x1f\x81\x8f", "a b", true},               // coded where the plain form is as long
		{"\x10\x83\x18\xc6\x3f\x03bbb", "!aaaa bbb", false}, // the one coded, the other plain
		{"\xff\x80\x80\x80\x80\x00\x82", "", false},         // 127 is no entry
		{"\x7f\x80\x80\x80\x80\x00\x01x", "old x", true},    // 63, in as many bytes as may be
		{"\x0f\xb0\x80\x00\x01x", "old x", false},           // 63, in more bytes than it needs
		{"\x10\x7f\x80\x00" + repeated(127) + "\x00", "!" + repeated(127) + " ", false},
		{"\x80", "", false},
		{"\xc0", "", false},
		{"\xc1", "", false},
		{"\xfe", "", false},
		{"\xff\x00", "", false},
		{"\xff\x80\xff\xff\xff\x07", "", false},
		{"\x7f\x01\x01x", "", false},
		{"\x7f\xc0\xff\xff\xff\x07\x01x", "", false},
		{"\x0f\x31\x01x", "", false},
		{"\x1f\x31\x01x", "", false},
		{"\x1f\xf0\xff\xff\xff\x07\x01x", "", false},
	} {
		d := pack.NewDecoder()
		wantList(t, d, "\x40\x03old\x03one\x40\x03new\x03two", plenty, listOf("old one", "new two")...)
		there := pairsOf("new two", "old one")
		if x.want == "" {
			wantBroken(t, d, x.block, 4096, there...)
			continue
		}
		wantList(t, d, x.block, plenty, listOf(x.want)...)
		if x.adds {
			there = append(pairsOf(x.want), there...)
		}
		wantTable(t, d.Table(), 4096, there...)
	}
}

// What chapter 2's and chapter 3's Take refuse.
func TestNumbersAndTextsRefused(t *testing.T) {
	for _, block := range []string{
		"\xff\x81\xff\xff\xff\x07", "\xff\x80\x80\x80\x80\x80", "\xff\x80\x80\x80\x80\x80\x00", "\xff\xff\xff\xff\xff\x7f", // numbers
		"\x7f\xff\xff\xff\xff\xff\x01x", "\x0f\xff\xff\xff\xff\x7f\x01x", "\x1f\xff\xff\xff\xff\x7f\x01x", "\x3f\xff\xff\xff\xff\xff\x00", "\x3f\x80\x80\x80\x80\x80\x00",
		"\x40\x7f\xff\xff\xff\xff\xff\x00\x01a", "\x40\x01a\x7f\xff\xff\xff\xff\x7f", "\x10\x7f\x81\xff\xff\xff\x07", // lengths
		"\x40\x81\x18\x01b", "\x40\x01a\x81\x18", "\x00\x81\xff\x00", "\x10\x82\x18\x00\x00", "\x44\x81\x00", "\x04\x84\xff\xff\xff\xff", "\x14\x81\xff", // codes
	} {
		wantBroken(t, pack.NewDecoder(), block, 4096)
	}
}

// A text has at most 65536 bytes, those that its code stands for.
func TestTextsTooLong(t *testing.T) {
	just := strings.Repeat("0", 65536) // five bits each
	code := strings.Repeat("\x00", 40960)
	forms := func(text string) []string {
		return []string{"\x40" + text + "\x00", "\x40\x00" + text, "\x44" + text, "\x00" + text + "\x00", "\x00\x00" + text, "\x04" + text, "\x10" + text + "\x00", "\x10\x00" + text, "\x14" + text}
	}
	for _, block := range slices.Concat(forms("\x7f\x81\xff\x03"+just), forms("\xff\x81\xbf\x02"+code)) {
		d := pack.NewDecoder()
		l, e := d.Decode(block, plenty)
		if len(l) != 1 || e != api.OK || l[0].Name != just && l[0].Value != just {
			t.Errorf("P5.6: a text of 65536 bytes: Decode(% .20x) = %s, %d", block, shown(l), e)
		}
		wantErr(t, d, "", plenty, api.OK)
	}
	for _, block := range slices.Concat(forms("\x7f\x82\xff\x03"+just+"0"), forms("\xff\x82\xbf\x02"+code+"\x07"), forms("\x7f\x81\x80\x08"+just+just)) {
		wantBroken(t, pack.NewDecoder(), block, 4096)
	}
}

// A block that is cut off is one of fewer parts, or broken: then what stood
// ahead was done.
func TestCutOff(t *testing.T) {
	starts := []string{"", "\x2a", "\x3f\x45", "\x3f\x45\x3f\xa0\x01", "\x20\x3f\xe1\x1f"}
	for _, start := range starts {
		block := start + "\x82\x40\x01a\x01b\x41\x8c\xf1\xe3\xc2\xe5\xf2\x3a\x6b\xa0\xab\x90\xf4\xff\xbe\x7f\x00\x02cc\x0f\x30\x01x\x1f\x2f\x01y\x10\x01n\x81\x8f\x00\x03abc\x00\x84"
		for n := range len(block) + 1 {
			d, m := pack.NewDecoder(), newModelDecoder()
			asModel(t, d, m, block[:n], plenty)
			asModel(t, d, m, "\x82", plenty)
			d.SetMax(4000)
			m.setMax(4000)
			asModel(t, d, m, "\x20", plenty)
		}
	}
}

// asModel: the answers are the model's, and the table is.
func asModel(t *testing.T, d *pack.Decoder, m *modelDecoder, block string, most int64) {
	t.Helper()
	limit, max, broken := m.limit, m.table.max, m.broken
	l, e := d.Decode(block, most)
	want, err := m.decode(block, most)
	if !slices.Equal(l, want) || e != err {
		t.Errorf("P5.6: Decode(% .200x, %d) = %s, %d, want %s, %d (limit %d, max %d, broken %v)", block, most, shown(l), e, shown(want), err, limit, max, broken)
	}
	wantTable(t, d.Table(), m.table.max, m.table.moving...)
}

func TestChangesRead(t *testing.T) {
	for _, x := range []struct {
		limit int64
		block string
		max   int64
		left  int // of the two entries of 34 bytes
	}{
		{4096, "", 4096, 2},
		{4096, "\x20", 0, 0},
		{4096, "\x3f\x25", 68, 2},
		{4096, "\x3f\x24", 67, 1},
		{4096, "\x3f\x03", 34, 1},
		{4096, "\x3f\x02", 33, 0},
		{4096, "\x3f\xe1\x1f", 4096, 2},
		{4096, "\x3f\xe1\x9f\x00", 4096, 2}, // in more bytes than it needs
		{4096, "\x20\x3f\xe1\x1f", 4096, 0},
		{4096, "\x3f\x24\x3f\xe1\x1f", 4096, 1},
		{4096, "\x3f\xe1\x1f\x20", 0, 0}, // in any order
		{4096, "\x3f\x25\x3f\x25", 68, 2},
		{5000, "\x3f\xe9\x26", 5000, 2},
		{greatest, "\x3f\xe1\xff\x03", greatest, 2},
		{greatest + 1, "\x3f\xe1\xff\x03", greatest, 2},
		{math.MaxInt64, "\x3f\xe1\xff\x03", greatest, 2},
		{greatest - 1, "\x3f\xe0\xff\x03", greatest - 1, 2},
		{68, "\x3f\x25", 68, 2},
		{68, "\x3f\x24", 67, 1},
		{68, "\x20\x3f\x25", 68, 0},
		{0, "\x20", 0, 0},
		{-1, "\x20", 0, 0},
		{math.MinInt64, "\x20\x20", 0, 0},
		{4095, "\x3f\xe0\x1f", 4095, 2},
	} {
		d := twoEntries(t)
		d.SetMax(x.limit)
		wantList(t, d, x.block, plenty)
		wantTable(t, d.Table(), x.max, pairsOf("b 2", "a 1")[:x.left]...)
	}
}

func twoEntries(t *testing.T) *pack.Decoder {
	t.Helper()
	d := pack.NewDecoder()
	wantList(t, d, "\x40\x01a\x011\x40\x01b\x012", plenty, listOf("a 1", "b 2")...)
	return d
}

func TestChangesRefused(t *testing.T) {
	for _, x := range []struct {
		limit int64
		block string
		max   int64 // the table's, behind the fault
		left  int
	}{
		{4096, "\x3f\xe2\x1f", 4096, 2}, // above the limit
		{4095, "\x3f\xe1\x1f", 4096, 2},
		{68, "\x3f\x26", 4096, 2},
		{0, "\x21", 4096, 2},
		{-5, "\x21", 4096, 2},
		{greatest, "\x3f\xe2\xff\x03", 4096, 2},
		{greatest + 1, "\x3f\xe2\xff\x03", 4096, 2},
		{math.MaxInt64, "\x3f\xe2\xff\x03", 4096, 2},
		{math.MaxInt64, "\x3f\xe0\xff\xff\xff\x07", 4096, 2},
		{4096, "\x3f\x24\x3f\xe2\x1f", 67, 1}, // the second one is
		{68, "\x20\x3f\x26", 0, 0},
		{4096, "\x20\x20\x20", 0, 0}, // a third one
		{4096, "\x3f\x25\x3f\x24\x20", 67, 1},
		{4096, "\x3f\x25\x3f\x25\x3f\x25\x82", 68, 2},
		{4096, "\x82\x20", 4096, 2}, // behind a field
		{4096, "\xbe\x20", 4096, 2},
		{4096, "\x00\x01a\x01b\x20", 4096, 2},
		{4096, "\x10\x01a\x01b\x3f\xe1\x1f", 4096, 2},
		{4096, "\x3f\x25\x82\x20", 68, 2},
		{4096, "\x3f\x25\x3f\x24\xbe\x20", 67, 1},
		{4095, "", 4096, 2}, // missing
		{4095, "\x82", 4096, 2},
		{4095, "\x40\x01a\x01b", 4096, 2},
		{4095, "\x00\x01a\x01b", 4096, 2},
		{4095, "\x10\x01a\x01b", 4096, 2},
		{4095, "\x82\x20", 4096, 2},
		{0, "", 4096, 2},
		{-1, "\x82", 4096, 2},
		{4096, "\x3f", 4096, 2}, // not whole
		{4096, "\x3f\x80", 4096, 2},
		{100, "\x3f", 4096, 2},
		{4096, "\x3f\x24\x3f\x80", 67, 1},
	} {
		d := twoEntries(t)
		d.SetMax(x.limit)
		wantBroken(t, d, x.block, x.max, pairsOf("b 2", "a 1")[:x.left]...)
	}
}

// The limit counts at the beginning of a block, and for the changes in it.
func TestLimitGoesDownAndUp(t *testing.T) {
	d := twoEntries(t)
	d.SetMax(10)
	d.SetMax(4096) // no block in between: nothing must be told
	wantList(t, d, "\xbe", plenty, listOf("b 2")...)
	d.SetMax(68)
	wantList(t, d, "\x3f\x24\xbe", plenty, listOf("b 2")...)
	wantList(t, d, "\xbe", plenty, listOf("b 2")...) // 67 is below the limit
	d.SetMax(67)
	wantList(t, d, "\xbe", plenty, listOf("b 2")...) // 67 is not above it
	wantList(t, d, "", plenty)
	d.SetMax(4096)
	wantList(t, d, "\xbe", plenty, listOf("b 2")...) // a greater limit asks for nothing
	wantTable(t, d.Table(), 67, pairsOf("b 2")...)
	wantList(t, d, "\x3f\xe1\x1f\xbe", plenty, listOf("b 2")...)
	d.SetMax(66)
	wantTable(t, d.Table(), 4096, pairsOf("b 2")...) // nothing happens till it is told
	wantErr(t, d, "\xbe", plenty, api.ErrBlock)
	wantTable(t, d.Table(), 4096, pairsOf("b 2")...)
}

func TestDoneAheadOfAFault(t *testing.T) {
	ahead := "\x3f\x45\x40\x01a\x01b\x82\x10\x01e\x01f\x40\x01c\x01d\x00\x01i\x01j"
	done := pairsOf("c d", "a b")
	for _, cut := range []string{"\xff", "\x3f", "\x40", "\x40\x01", "\x40\x01c", "\x40\x01c\x05d", "\x7f\x00", "\x41\x01", "\x10\x01c\x81"} {
		wantBroken(t, pack.NewDecoder(), ahead+cut, 100, done...)
	}
	for _, fault := range []string{"\x80", "\xff\x80\x80\x80\x80\x80", "\x20", "\x7f\x7f\x01x", "\x40\x81\x18\x01x", "\x10\x01c\x81\x18", "\xfe"} {
		for _, behind := range []string{"", "\x40\x01g\x01h", "\x82"} {
			wantBroken(t, pack.NewDecoder(), ahead+fault+behind, 100, done...)
		}
	}
}

func TestMost(t *testing.T) {
	for _, x := range []struct {
		block string
		size  int64
		list  []api.Field
	}{
		{"", 0, nil}, {"\x20", 0, nil}, {"\x82", 42, listOf(":method GET")}, {"\x82\x86", 85, listOf(":method GET", ":scheme http")},
		{"\x00\x00\x00", 32, listOf(" ")}, {"\x10\x01a\x01b", 34, listOf("!a b")}, {"\x40\x01a\x01b\xbe", 68, listOf("a b", "a b")},
		{"\x40\x81\x1f\x81\x8f\x7e\x83\x18\xc6\x3f", 71, listOf("a b", "a aaaa")},
	} {
		for _, most := range []int64{x.size, x.size + 1, plenty} {
			wantList(t, pack.NewDecoder(), x.block, most, x.list...)
		}
		for _, most := range []int64{x.size - 1, x.size - 32, -1, math.MinInt64} {
			if most < x.size {
				wantErr(t, pack.NewDecoder(), x.block, most, api.ErrList)
			}
		}
		if n := pack.Size(x.list); n != x.size {
			t.Errorf("P5.1: Size(%s) = %d, want %d", shown(x.list), n, x.size)
		}
	}
}

// A block whose list is too long is read all the same, and nothing is broken by it.
func TestListTooLong(t *testing.T) {
	for _, most := range []int64{101, 68, 67, 34, 33, 1, 0, -1, math.MinInt64} {
		d := pack.NewDecoder()
		wantErr(t, d, "\x20\x3f\x45\x40\x01a\x01b\x40\x01c\x01d\xbf", most, api.ErrList)
		wantTable(t, d.Table(), 100, pairsOf("c d", "a b")...)
		wantErr(t, d, "\x40\x01e\x01f\x82\xbf", most, api.ErrList)
		wantTable(t, d.Table(), 100, pairsOf("e f", "c d")...)
		wantList(t, d, "\xbe\xbf", plenty, listOf("e f", "c d")...)
		wantBroken(t, d, "\x82\xbe\xbf\x82\x40\x01g\x01h\xfe", 100, pairsOf("g h", "e f")...)
	}
	for _, most := range []int64{101, 33, -1} { // a fault comes ahead of a list that is too long
		d := pack.NewDecoder()
		wantErr(t, d, "\x82\x82\x82\x82\x80", most, api.ErrBlock)
		wantErr(t, d, "\x82", plenty, api.ErrBlock)
		wantErr(t, d, "\x82", -1, api.ErrBlock)
	}
}

// heap tells the bytes that the heap has taken so far.
func heap() int64 {
	var s runtime.MemStats
	runtime.ReadMemStats(&s)
	return int64(s.HeapSys)
}

// A short block may tell a list that is far too long: that needs no memory for it.
func TestShortBlockOfMuch(t *testing.T) {
	d := pack.NewDecoder()
	before := heap()
	block := "\x40\x01a\x7f\xbe\x1e" + repeated(4029) + strings.Repeat("\xbe", 150000)
	wantErr(t, d, block, 65536, api.ErrList)
	if n := heap() - before; n > 200<<20 {
		t.Errorf("P5.6: a block of %d bytes took %d bytes of memory", len(block), n)
	}
	wantTable(t, d.Table(), 4096, pair{"a", repeated(4029)})
	wantList(t, d, "\xbe", plenty, api.Field{Name: "a", Value: repeated(4029)})
}

// All blocks of one and two bytes, at some limits and behind two entries.
func TestEveryShortBlock(t *testing.T) {
	blocks := []string{""}
	for a := range 256 {
		blocks = append(blocks, string([]byte{byte(a)}))
		for b := range 256 {
			blocks = append(blocks, string([]byte{byte(a), byte(b)}))
		}
	}
	for _, limit := range []int64{4096, 40} {
		for _, block := range blocks {
			d, m := pack.NewDecoder(), newModelDecoder()
			if limit == 4096 {
				d.Decode("\x40\x01a\x011\x40\x01b\x012", plenty)
				m.decode("\x40\x01a\x011\x40\x01b\x012", plenty)
			}
			d.SetMax(limit)
			m.setMax(limit)
			asModel(t, d, m, block, plenty)
		}
	}
}

// All blocks of up to five of some bytes: each form, short texts, ends of numbers.
func TestEveryBlockOfSomeBytes(t *testing.T) {
	some := "\x00\x01\x82\xbe\x40\x7e\x20\x3f\x10\xff"
	var grow func(block string)
	grow = func(block string) {
		d, m := pack.NewDecoder(), newModelDecoder()
		asModel(t, d, m, block, 68)
		if len(block) < 5 {
			for i := range len(some) {
				grow(block + some[i:i+1])
			}
		}
	}
	grow("")
}

// Blocks of pieces that are right by themselves, with some bytes changed, left
// out or laid in.
func TestForgedBlocks(t *testing.T) {
	g := rand.New(rand.NewSource(55))
	pieces := []string{"\x20", "\x3f\x45", "\x3f\xe1\x1f", "\x3f\xe2\x1f", "\x2a", "\x82", "\xbd", "\xbe", "\xbf", "\xc0", "\x40\x01a\x01b", "\x41\x01x", "\x7e\x01y", "\x7f\x00\x01z", "\x00\x01c\x01d", "\x0f\x2f\x01e", "\x10\x81\x1f\x82\x64\x02", "\x1f\x30\x00", "\x04\x00", "\x40\x00\x00"}
	for range 6000 {
		d, m := pack.NewDecoder(), newModelDecoder()
		for range 4 {
			if g.Intn(3) == 0 {
				n := someMax(g)
				d.SetMax(n)
				m.setMax(n)
			}
			block := ""
			for range g.Intn(6) {
				block += pieces[g.Intn(len(pieces))]
			}
			if block != "" && g.Intn(3) == 0 {
				i := g.Intn(len(block))
				block = block[:i] + []string{"", "\x00", "\xff", string([]byte{byte(g.Intn(256))})}[g.Intn(4)] + block[i+g.Intn(2):]
			}
			asModel(t, d, m, block, []int64{plenty, 0, 100, 34}[g.Intn(4)])
		}
	}
}

// same tells whether two texts stand in one memory.
func same(a, b string) bool { return unsafe.StringData(a) == unsafe.StringData(b) }

// R3: a decoder's lists are each their own, and so are their texts.
func TestNewMemory(t *testing.T) {
	block := "\x40\x05n-a-m\x05v-a-l\xbe\x7e\x05other\x10\x05n-a-m\x05v-a-l\x83"
	d := pack.NewDecoder()
	first, _ := d.Decode(block, plenty)
	second, _ := d.Decode(block, plenty)
	if len(first) != 5 || len(second) != 5 {
		t.Fatalf("P5.6: %s and %s", shown(first), shown(second))
	}
	texts := []string{block[2:7], block[8:13], block[16:21], block[24:29], block[30:35]}
	for _, f := range slices.Concat(first, second) {
		for _, s := range texts {
			if same(f.Name, s) || same(f.Value, s) {
				t.Errorf("P5.9: %q, %q shares memory with an argument or with another answer", f.Name, f.Value)
			}
		}
		texts = append(texts, f.Name, f.Value)
	}
	want := slices.Clone(second)
	for i := range first {
		first[i] = api.Field{}
	}
	first = append(first[:0], listOf("x y", "x y", "x y", "x y", "x y", "x y")...)
	if !slices.Equal(second, want) {
		t.Errorf("P5.9: what was done to a list shows in a later one: %s", shown(second))
	}
	wantTable(t, d.Table(), 4096, pairsOf("n-a-m other", "n-a-m v-a-l", "n-a-m other", "n-a-m v-a-l")...)
	runtime.KeepAlive(first)
}

func FuzzDecode(f *testing.F) {
	f.Add("\x82\x86\x84\x41\x8c\xf1\xe3\xc2\xe5\xf2\x3a\x6b\xa0\xab\x90\xf4\xff", "\x82\xbe\x58\x86\xa8\xeb\x10\x64\x9c\xbf", int64(4096), int64(1000))
	f.Add("\x40\x01a\x01b", "\x2a\x3f\x02\x1f\x2f\x01x", int64(50), int64(40))
	f.Add("\x20\x3f\xe1\x1f\x10\x01a\x01b", "\x20\x20\x20", int64(-1), int64(-1))
	f.Fuzz(func(t *testing.T, first, second string, limit, most int64) {
		if len(first)+len(second) > 4000 {
			return
		}
		d, m := pack.NewDecoder(), newModelDecoder()
		asModel(t, d, m, first, plenty)
		d.SetMax(limit)
		m.setMax(limit)
		asModel(t, d, m, second, most)
		asModel(t, d, m, first+second, plenty)
	})
}
