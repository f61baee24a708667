package origin_test

import (
	"slices"
	"strconv"
	"testing"
	"unsafe"

	"herald/api"
	"herald/lists"
	"herald/origin"
)

// someLists are those that are taken, and those that each error refuses.
func someLists() [][]api.Origin {
	many := someOrigins(17)
	return [][]api.Origin{
		nil, {}, many[:1], many[:2], many[:7], many[:15], many[:16], many,
		{many[0], many[0]}, {many[0], {}}, {{}}, append(slices.Clone(many), many[3]), append(slices.Clone(many), of("http", "A", 1)),
	}
}

// TestHandedInStays: neither a list nor its spare room is changed, by any call.
func TestHandedInStays(t *testing.T) {
	for _, l := range someLists() {
		x, unchanged := lists.Watched(l, origin80("spare"), of("ftp", "S", -1), api.Origin{})
		if s, e := origin.Of(x); e == api.OK {
			s.Has("https", "h0")
			lists.Scribble(s.List(), origin80("over"))
			s.Has("http", "spare")
			s.List()
		}
		if !unchanged() {
			t.Errorf("P15.6: the list %s or the room behind it was changed", shown(l...))
		}
	}
}

// TestHandedInIsNotKept: with the list written over, and the room behind it, the
// set is as it was.
func TestHandedInIsNotKept(t *testing.T) {
	for _, l := range someLists() {
		x := append(slices.Clone(l), origin80("spare"))[:len(l)]
		b := holdOf(t, x)
		if b == nil {
			continue
		}
		for _, over := range []api.Origin{origin443("over"), origin80("spare"), {}} {
			lists.Scribble(x, over)
			b.look(t, "P15.6")
			b.wantHas(t, "https", "over", false)
			b.wantHas(t, "http", "spare", false)
			for _, o := range b.l {
				b.wantHas(t, o.Scheme, o.Host+":"+strconv.Itoa(o.Port), true)
			}
		}
	}
}

// TestListIsNew: an answer of List can be written over, its spare room too,
// without being seen in the set or in another answer.
func TestListIsNew(t *testing.T) {
	over := origin443("over")
	for _, l := range someLists() {
		b := holdOf(t, l)
		if b == nil {
			continue
		}
		first, second := b.s.List(), b.s.List()
		lists.Scribble(first, over)
		if !slices.Equal(second, b.l) {
			t.Errorf("P15.6: with one answer of List written over the other is %v", second)
		}
		b.look(t, "P15.6")
		b.wantHas(t, "https", "over", false)
		lists.Scribble(second, api.Origin{})
		b.look(t, "P15.6")
		for _, o := range b.l {
			b.wantHas(t, o.Scheme, o.Host+":"+strconv.Itoa(o.Port), true)
		}
		for _, o := range first {
			if o != over {
				t.Errorf("P15.6: a call writes into an earlier answer of List: %v", first)
			}
		}
	}
}

// TestNothingShared: two sets of one list, and one of another's List, go their own ways.
func TestNothingShared(t *testing.T) {
	l := someOrigins(6)
	a, b := wantSet(t, l...), wantSet(t, l...)
	told := a.s.List()
	c := wantSet(t, told...)
	d := wantSet(t, told[:3]...)
	lists.Scribble(told, origin80("over"))
	lists.Scribble(l, origin80("gone"))
	e := wantSet(t, l[0])
	for _, x := range []*both{a, b, c, d, e} {
		x.look(t, "P15.6")
		x.wantHas(t, "http", "over", false)
	}
	a.wantHas(t, "http", "gone", false)
	b.wantHas(t, "http", "gone", false)
	e.wantHas(t, "http", "gone", true)
	e.wantHas(t, "https", "h0", false)
	d.wantHas(t, "https", "h1", false)
	c.wantHas(t, "https", "h1", true)
}

// borrowed is the text in memory that can be written over, and what does so.
func borrowed(s string) (string, func()) {
	if s == "" {
		return "", func() {}
	}
	b := []byte(s)
	return unsafe.String(&b[0], len(b)), func() { lists.Scribble(b, '#') }
}

// TestTextsAreNotShared: what is answered and what a set keeps stands in no memory
// of a text that was handed in, nor does one answer's in another's.
func TestTextsAreNotShared(t *testing.T) {
	for _, s := range []string{"https://example.com", "http://a:8080", "HTTP://A.b"} {
		text, over := borrowed(s)
		o, e := origin.Parse(text)
		over()
		if want, _ := modelParse(s); o != want || e != api.OK {
			t.Errorf("R3: with the text written over Parse(%q) is %s", s, shown(o))
		}
	}

	scheme, overScheme := borrowed("https")
	host, overHost := borrowed("a.b")
	s, _ := origin.Of([]api.Origin{of(scheme, host, 443)})
	printed, _ := origin.Print(of(scheme, host, 443))
	first := s.List()[0]
	overScheme()
	overHost()
	b := &both{s, []api.Origin{origin443("a.b")}}
	b.look(t, "R3")
	b.wantHas(t, "https", "a.b", true)
	if printed != "https://a.b" || first != origin443("a.b") {
		t.Errorf("R3: with the texts written over Print's answer is %q, List's %s", printed, shown(first))
	}
	if second := s.List()[0]; unsafe.StringData(first.Host) == unsafe.StringData(second.Host) || unsafe.StringData(first.Scheme) == unsafe.StringData(second.Scheme) {
		t.Error("R3: two answers of List share a text")
	}
}
