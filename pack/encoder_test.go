package pack_test

import (
	"math"
	"slices"
	"strings"
	"testing"

	"herald/api"
	"herald/pack"
)

func wantBlock(t *testing.T, e *pack.Encoder, want string, list ...api.Field) {
	t.Helper()
	if b, err := e.Encode(list); b != want || err != api.OK {
		t.Errorf("P5.3: Encode(%s) = % .80x, %d, want % .80x", shown(list), b, err, want)
	}
}

func wantRefused(t *testing.T, e *pack.Encoder, list ...api.Field) {
	t.Helper()
	if b, err := e.Encode(list); b != "" || err != api.ErrLong {
		t.Errorf("P5.3: Encode(%s) = % .80x, %d, want ErrLong", shown(list), b, err)
	}
}

func TestExamplesOneToFour(t *testing.T) {
	e := pack.NewEncoder()
	wantTable(t, e.Table(), 4096)
	request := listOf(":method GET", ":scheme http", ":path /", ":authority www.example.com")
	wantBlock(t, e, "\x82\x86\x84\x41\x8c\xf1\xe3\xc2\xe5\xf2\x3a\x6b\xa0\xab\x90\xf4\xff", request...)
	wantTable(t, e.Table(), 4096, pairsOf(":authority www.example.com")...)
	if n := e.Table().Size(); n != 57 {
		t.Errorf("P5.4: the table's size is %d, want 57", n)
	}
	wantBlock(t, e, "\x82\x86\x84\xbe\x58\x86\xa8\xeb\x10\x64\x9c\xbf", append(request, listOf("cache-control no-cache")...)...)
	both := pairsOf("cache-control no-cache", ":authority www.example.com")
	wantTable(t, e.Table(), 4096, both...)
	if n := e.Table().Size(); n != 110 {
		t.Errorf("P5.4: the table's size is %d, want 110", n)
	}
	wantBlock(t, e, "\x10\x01a\x01b", listOf("!a b")...)
	wantBlock(t, e, "\x14\x02/x", listOf("!:path /x")...)
	wantTable(t, e.Table(), 4096, both...)

	e.SetMax(0)
	e.SetMax(4096)
	wantTable(t, e.Table(), 4096, both...)
	wantBlock(t, e, "\x20\x3f\xe1\x1f")
	wantTable(t, e.Table(), 4096)
	e.SetMax(100)
	wantBlock(t, e, "\x3f\x45")
	wantTable(t, e.Table(), 100)
	e.SetMax(100)
	e.SetMax(9000)
	wantBlock(t, e, "\x3f\xe1\x1f")
	wantTable(t, e.Table(), 4096)
}

func TestExampleFive(t *testing.T) {
	e := pack.NewEncoder()
	e.SetMax(33)
	wantBlock(t, e, "\x3f\x02\x00\x01a\x01b", listOf("a b")...)
	wantTable(t, e.Table(), 33)
}

// What is told behind the maxes that SetMax was given, if the table's max was old.
func TestChangesOfTheMax(t *testing.T) {
	c0, c50, c100, c4096 := "\x20", "\x3f\x13", "\x3f\x45", "\x3f\xe1\x1f"
	for _, x := range []struct {
		old   int64
		maxes []int64
		want  string
		max   int64
	}{
		{4096, nil, "", 4096},
		{4096, []int64{4096}, "", 4096},
		{4096, []int64{4097}, "", 4096},
		{4096, []int64{math.MaxInt64}, "", 4096},
		{4096, []int64{4095}, "\x3f\xe0\x1f", 4095},
		{4096, []int64{0}, c0, 0},
		{4096, []int64{1}, "\x21", 1},
		{4096, []int64{30}, "\x3e", 30},
		{4096, []int64{31}, "\x3f\x00", 31},
		{4096, []int64{-1}, c0, 0},
		{4096, []int64{math.MinInt64}, c0, 0},
		{4096, []int64{100}, c100, 100},
		{4096, []int64{50, 100}, c50 + c100, 100},                  // least below old and below last
		{4096, []int64{100, 50}, c50, 50},                          // least is last
		{4096, []int64{50, 50}, c50, 50},                           // and twice the same
		{4096, []int64{0, 100, 50}, c0 + c50, 50},                  // least comes first
		{4096, []int64{100, 0, 50}, c0 + c50, 50},                  // least comes between
		{4096, []int64{-7, 50}, c0 + c50, 50},                      // least counts as 0
		{4096, []int64{50, 4096}, c50 + c4096, 4096},               // last is old
		{4096, []int64{50, 70000}, c50 + c4096, 4096},              // last counts as old
		{4096, []int64{4096, 4096}, "", 4096},                      // all of them are old
		{4096, []int64{9000, 4096, 5000}, "", 4096},                // count as old
		{100, []int64{100}, "", 100},                               // last is old
		{100, []int64{4096}, c4096, 4096},                          // least isn't below old
		{100, []int64{100, 4096}, c4096, 4096},                     // least is old
		{100, []int64{4096, 100}, "", 100},                         // greater in between
		{100, []int64{4096, 50}, c50, 50},                          // greater in between
		{100, []int64{50, 100}, c50 + c100, 100},                   // last is old, least below
		{100, []int64{4096, 50, 100}, c50 + c100, 100},             // the greatest is not told
		{100, []int64{50, 4096, 100, 4096}, c50 + c4096, 4096},     // least below old
		{100, []int64{200, 150, 4096}, c4096, 4096},                // least above old
		{0, []int64{0}, "", 0},                                     // last is old
		{0, []int64{100, 50, 100}, c100, 100},                      // nothing is below old
		{0, []int64{-1, 50}, c50, 50},                              // not even what counts as 0
		{50, []int64{100, 50, 0, 50, 4096, 100}, c0 + c100, 100},   // many
		{50, []int64{100, 4096, 0, 50, -5, 50}, c0 + c50, 50},      // many, last is old
		{50, []int64{100, 4096, 70, 50, 99999, 50}, "", 50},        // many, none below
		{50, []int64{100, 4096, 70, 60, 99999, 4096}, c4096, 4096}, // many, least above old
	} {
		e := pack.NewEncoder()
		if x.old != 4096 {
			e.SetMax(x.old)
			e.Encode(nil)
		}
		for _, n := range x.maxes {
			e.SetMax(n)
			wantTable(t, e.Table(), x.old) // nothing happens till the next block
		}
		b, err := e.Encode(nil)
		if b != x.want || err != api.OK {
			t.Errorf("P5.2, P5.3: of max %d, SetMax of %d, Encode(none) = % x, %d, want % x", x.old, x.maxes, b, err, x.want)
		}
		wantTable(t, e.Table(), x.max)
		wantBlock(t, e, "") // it is told once
		wantTable(t, e.Table(), x.max)
		e.SetMax(x.max)
		wantBlock(t, e, "")
	}
}

// A new max counts for the fields of the very next block.
func TestMaxAheadOfFields(t *testing.T) {
	e := pack.NewEncoder()
	wantBlock(t, e, "\x40\x01a\x011", listOf("a 1")...)
	wantBlock(t, e, "\xbe", listOf("a 1")...)
	e.SetMax(33)
	wantBlock(t, e, "\x3f\x02\x00\x01a\x011", listOf("a 1")...)
	e.SetMax(34)
	wantBlock(t, e, "\x3f\x03\x40\x01a\x011\xbe", listOf("a 1", "a 1")...)
	e.SetMax(0)
	e.SetMax(34)
	wantBlock(t, e, "\x20\x3f\x03\x40\x01a\x011", listOf("a 1")...)
}

func TestLongTexts(t *testing.T) {
	just, more := repeated(65536), repeated(65537)
	e := pack.NewEncoder()
	wantBlock(t, e, "\x40\x01a\x01b", listOf("a b")...)
	e.SetMax(50)
	e.SetMax(100)
	for _, list := range [][]api.Field{
		{{Name: more}}, {{Value: more}}, {{Name: more, Value: more}}, {{Name: just, Value: more}}, {{Name: more, Value: just}},
		{{Name: more, Never: true}}, {{Value: more, Never: true}}, {{Name: ":path", Value: more}},
		{{Name: "c", Value: "d"}, {Name: "e", Value: "f", Never: true}, {Name: more}},
		{{Value: more}, {Name: "c", Value: "d"}},
		{{Name: "c", Value: "d"}, {Value: more}, {Name: "c", Value: "d"}},
	} {
		wantRefused(t, e, list...)
		wantTable(t, e.Table(), 4096, pair{"a", "b"})
	}
	e.SetMax(70) // the two ahead of the refused blocks count still
	wantBlock(t, e, "\x3f\x13\x3f\x27\xbe", listOf("a b")...)
	wantTable(t, e.Table(), 70, pair{"a", "b"})

	for _, f := range []api.Field{{Name: just}, {Value: just}, {Name: just, Value: just}, {Name: just, Value: "v", Never: true}, {Name: "cookie", Value: just, Never: true}} {
		e, m := pack.NewEncoder(), newModelEncoder()
		block, _ := m.encode([]api.Field{f})
		wantBlock(t, e, block, f)
		wantTable(t, e.Table(), 4096)
		d := pack.NewDecoder()
		wantList(t, d, block, plenty, f)
		wantTable(t, d.Table(), 4096)
	}
}

// An entry of just the table's max goes in; one of a byte more doesn't, and
// takes nothing out.
func TestEntryAsGreatAsMax(t *testing.T) {
	for _, max := range []int64{34, 35, 100, 200, 4095, 4096} {
		room := int(max - 32)
		for _, name := range []int{1, room / 2, room - 1} {
			just := api.Field{Name: repeated(name), Value: strings.Repeat("0", room-name)}
			for _, above := range []api.Field{{Name: just.Name + "n", Value: just.Value}, {Name: just.Name, Value: just.Value + "0"}} {
				e, m, d := pack.NewEncoder(), newModelEncoder(), pack.NewDecoder()
				e.SetMax(max)
				m.setMax(max)
				for _, list := range [][]api.Field{{just}, {above}, {just, above, above}, {{Name: above.Name, Value: above.Value, Never: true}}} {
					block, _ := m.encode(list)
					wantBlock(t, e, block, list...)
					wantList(t, d, block, plenty, list...)
					wantTable(t, e.Table(), max, pair{just.Name, just.Value})
					wantTable(t, d.Table(), max, pair{just.Name, just.Value})
				}
			}
		}
	}
}

// Each form that an encoder may tell, with an index and with 0.
func TestFormsTold(t *testing.T) {
	for _, x := range []struct {
		max   int64
		field string
		want  string
		left  []pair
	}{
		{4096, ":method GET", "\x82", nil},
		{4096, "www-authenticate ", "\xbd", nil},
		{4096, "old one", "\xbe", nil},
		{4096, ":method PUT", "\x42\x03PUT", pairsOf(":method PUT")},
		{4096, "www-authenticate x", "\x7d\x01x", pairsOf("www-authenticate x")},
		{4096, "old two", "\x7e\x03two", pairsOf("old two")},
		{4096, "a b", "\x40\x01a\x01b", pairsOf("a b")},
		{4096, "a ", "\x40\x01a\x00", pairsOf("a ")},
		{4096, " ", "\x40\x00\x00", pairsOf(" ")},
		{4096, " b", "\x40\x00\x01b", pairsOf(" b")},
		{38, ":method PUT", "\x02\x03PUT", nil},
		{38, "accept-charset x", "\x0f\x00\x01x", nil},
		{38, "www-authenticate x", "\x0f\x2e\x01x", nil},
		{38, "old seven", "\x0f\x2f\x84\x41\x7b\x96\xaf", nil},
		{38, "abcd efg", "\x00\x83\x1c\x64\x93\x03efg", nil},
		{4096, "!:method GET", "\x12\x03GET", nil},
		{4096, "!:method PUT", "\x12\x03PUT", nil},
		{4096, "!accept-ranges ", "\x1f\x03\x00", nil},
		{4096, "!old one", "\x1f\x2f\x82\x3d\x45", nil},
		{4096, "!old two", "\x1f\x2f\x03two", nil},
		{4096, "!a b", "\x10\x01a\x01b", nil},
		{4096, "! ", "\x10\x00\x00", nil},
		{38, "!abcd efg", "\x10\x83\x1c\x64\x93\x03efg", nil},
	} {
		e, m := pack.NewEncoder(), newModelEncoder()
		e.SetMax(x.max)
		m.setMax(x.max)
		e.Encode(listOf("old one"))
		m.encode(listOf("old one"))
		if b, _ := m.encode(listOf(x.field)); b != x.want {
			t.Fatalf("the model tells % x of %q, the test % x", b, x.field, x.want)
		}
		wantBlock(t, e, x.want, listOf(x.field)...)
		wantTable(t, e.Table(), x.max, append(x.left, pair{"old", "one"})...)
	}
}

// The code of a value may be as long as the value, and a byte shorter.
func TestShorterTexts(t *testing.T) {
	for _, x := range []struct{ field, want string }{
		{"!a b", "\x10\x01a\x01b"},            // both as long
		{"!:path bb", "\x14\x02bb"},           // 12 bits
		{"!:path aa", "\x14\x02aa"},           // 10 bits
		{"!:path aaa", "\x14\x82\x18\xc7"},    // 15 bits
		{"!:path XX", "\x14\x02XX"},           // 16 bits
		{"!:path <", "\x14\x01<"},             // 15 bits: the code is longer
		{"!:path \x01", "\x14\x01\x01"},       // 23 bits
		{"!aaa bb", "\x10\x82\x18\xc7\x02bb"}, // each text by itself
		{"!bb aaa", "\x10\x02bb\x82\x18\xc7"},
	} {
		wantBlock(t, pack.NewEncoder(), x.want, listOf(x.field)...)
	}
}

// The same with every length around which the length's own bytes grow.
func TestShorterLongTexts(t *testing.T) {
	for _, c := range []string{"0", "n", "X", "@", "\xff"} {
		for _, n := range []int{0, 1, 2, 3, 4, 5, 6, 7, 8, 100, 125, 126, 127, 128, 129, 130, 144, 145, 146, 203, 204, 254, 255, 256, 382, 383, 384, 16510, 16511, 16512, 20000} {
			s := strings.Repeat(c, n)
			for _, f := range []api.Field{{Value: s, Never: true}, {Name: s, Value: "v", Never: true}, {Name: ":path", Value: s, Never: true}} {
				block, _ := newModelEncoder().encode([]api.Field{f})
				wantBlock(t, pack.NewEncoder(), block, f)
				wantList(t, pack.NewDecoder(), block, plenty, f)
			}
		}
	}
}

// R3: lists that are handed in, with their spare room, stay as they are.
func TestListsStay(t *testing.T) {
	room := listOf("a b", ":path /", "!c d", "e f", "g h", "!i j")
	before := slices.Clone(room)
	e := pack.NewEncoder()
	wantBlock(t, e, "\x40\x01a\x01b\x84\x10\x01c\x01d", room[:3]...)
	pack.Size(room[:3])
	wantBlock(t, e, "\xbe", room[:1]...)
	wantBlock(t, e, "")
	if !slices.Equal(room, before) {
		t.Errorf("P5.9: the list became %s", shown(room))
	}
	long := []api.Field{{Name: repeated(65537)}, {Name: "x"}}
	wantRefused(t, e, long[:1]...)
	if long[0].Name != repeated(65537) || long[1].Name != "x" {
		t.Errorf("P5.9: a refused list became %s", shown(long))
	}
	for i := range room { // and what is done to them later is not seen
		room[i] = api.Field{}
	}
	wantTable(t, e.Table(), 4096, pair{"a", "b"})
	wantBlock(t, e, "\xbe", listOf("a b")...)
}
