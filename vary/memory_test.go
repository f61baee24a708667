package vary_test

import (
	"slices"
	"strconv"
	"strings"
	"testing"
	"unsafe"

	"herald/api"
	"herald/lists"
	"herald/vary"
)

// someVarying are responses with and without names, with and without a star.
func someVarying() []api.Response {
	return []api.Response{
		{}, {Fields: []api.Field{}}, varying(""), varying("a"), varying("*"), varying("A, b,*,a", "C", "b"), varying("a", "b", "c", "d", "e"), varying("a,b,c,d,e"),
		{Status: 200, Fields: lists.Of("x", "y", "vary", " Accept ", "Vary", "z"), Body: "b"}, {Fields: lists.Filled(lists.Of("vary", "x-1"), 64)},
	}
}

// TestHandedInStays: neither fields nor names nor the room behind them is changed.
func TestHandedInStays(t *testing.T) {
	for _, r := range someVarying() {
		want := r.Fields
		l, unchanged := lists.Guarded(r.Fields)
		r.Fields = l
		names, _ := vary.Names(r)
		lists.Scribble(names, "over")
		if vary.Names(r); !unchanged() {
			t.Errorf("P16.4: Names changes %s or the room behind it", lists.Shown(want))
		}
	}
	for _, names := range [][]string{nil, {}, {"a"}, {"b", "a", "b"}, {"c", "x-3", "a"}, {"", "A"}} {
		for _, l := range [][]api.Field{nil, lists.Of("a", "1"), lists.Of("b", "2", "a", "1", "b", "1"), lists.Filled(lists.Of("A", "1"), 64)} {
			by, sameNames := lists.Watched(names, "spare", "a", "")
			promised, samePromised := lists.Guarded(l)
			asked, sameAsked := lists.Guarded(slices.Concat(l, lists.Of("c", "3")))
			vary.Match(getX(promised...), getX(asked...), by)
			vary.Match(getX(asked...), api.Request{Fields: promised}, by)
			vary.Match(getX(promised...), getX(promised...), by)
			if !sameNames() || !samePromised() || !sameAsked() {
				t.Errorf("P16.4: Match changes %q, %s, or the room behind them", names, lists.Shown(l))
			}
		}
	}
}

// TestSpareRoom: what stands behind a list isn't looked at.
func TestSpareRoom(t *testing.T) {
	l := lists.Of("vary", "a", "vary", "b, *")
	wantNames(t, api.Response{Fields: l[:1]}, false, "a")
	wantNames(t, api.Response{Fields: l[:0]}, false)
	f := lists.Of("a", "1", "b", "2")
	wantMatch(t, true, getX(f[:1]...), getWith("a", "1"), "a", "b")
	wantMatch(t, false, getX(f[:1]...), getX(f...), "a", "b")
	names := []string{"a", "b"}
	wantMatch(t, true, getX(f[:1]...), getX(f...), names[:1]...)
	wantMatch(t, true, getX(), getX(f...), names[:0]...)
}

// TestAnsweredIsNew: the names can be written over and made longer, without being
// seen in another answer or in what was handed in; and the other way about.
func TestAnsweredIsNew(t *testing.T) {
	for _, r := range someVarying() {
		want, wantStar := modelNames(r)
		l, unchanged := lists.Guarded(r.Fields)
		r.Fields = l
		first, _ := vary.Names(r)
		second, _ := vary.Names(r)
		lists.Scribble(first, "over")
		longer := append(first, "more", "still")
		if !slices.Equal(second, want) || !unchanged() {
			t.Errorf("P16.4: with one answer written over the other is %q, of %s", second, lists.Shown(r.Fields))
		}
		if third, star := vary.Names(r); !slices.Equal(third, want) || star != wantStar {
			t.Errorf("P16.4: with an answer written over the next is %q, %v, want %q", third, star, want)
		}
		lists.Scribble(r.Fields, api.Field{Name: "vary", Value: "gone"})
		if !slices.Equal(second, want) {
			t.Errorf("P16.4: with the fields written over the answer is %q, want %q", second, want)
		}
		wantNames(t, varying("z, Y"), false, "z", "y")
		for _, name := range first {
			if name != "over" {
				t.Errorf("P16.4: a call writes into an earlier answer: %q", first)
			}
		}
		if !slices.Equal(longer[len(first):], []string{"more", "still"}) {
			t.Errorf("P16.4: a call writes behind an earlier answer: %q", longer)
		}
	}
}

// TestNothingIsKept: what came ahead of a call is not to be seen in it.
func TestNothingIsKept(t *testing.T) {
	wantNames(t, varying("a, *"), true, "a")
	wantNames(t, varying("a, b"), false, "a", "b")
	wantNames(t, api.Response{}, false)
	names := []string{"a"}
	p, q := getWith("a", "1"), getWith("a", "2")
	wantMatch(t, false, p, q, names...)
	q.Fields[0].Value = "1"
	wantMatch(t, true, p, q, names...)
	p.Fields[0].Value = "2"
	wantMatch(t, false, p, q, names...)
	names[0] = "b"
	wantMatch(t, true, p, q, names...)
}

// borrowed is the text in memory that can be written over, and what does so.
func borrowed(s string) (string, func()) {
	b := []byte(s)
	return unsafe.String(&b[0], len(b)), func() { lists.Scribble(b, '#') }
}

// TestTextsAreNotShared: a name that is told stands in no memory of a value that
// was handed in, whether its letters were small or not, nor in another answer's.
func TestTextsAreNotShared(t *testing.T) {
	for _, s := range []string{"accept", "Accept", " ab ,Cd,*", "ab,cd,ab", "a,B"} {
		want, _ := modelNames(varying(s))
		text, over := borrowed(s)
		first, _ := vary.Names(varying(text))
		second, _ := vary.Names(varying(text))
		over()
		if !slices.Equal(first, want) || !slices.Equal(second, want) {
			t.Errorf("P16.4: with the value %q written over the names are %q, want %q", s, first, want)
		}
		for i := range first {
			// A text of one byte is the language's own, the same for all.
			if len(first[i]) > 1 && unsafe.StringData(first[i]) == unsafe.StringData(second[i]) {
				t.Errorf("P16.4: two answers of Names share the text %q", first[i])
			}
		}
	}
}

// TestLarge: long values, and many fields and names, are gone through to the end.
func TestLarge(t *testing.T) {
	const many = 100000
	var each []string
	for i := range many {
		each = append(each, "n"+strconv.Itoa(i))
	}
	for _, r := range []api.Response{varying(strings.Join(each, ",")), varying(each...), varying(strings.ToUpper(strings.Join(each, " ,\t")), strings.Join(each, ","))} {
		if names, star := vary.Names(r); !slices.Equal(names, each) || star {
			t.Errorf("P16.1: of %d names %d are told, %v", many, len(names), star)
		}
	}
	for _, s := range []string{",", " ", "\t,", " , "} {
		if names, star := vary.Names(varying(strings.Repeat(s, many) + "*")); len(names) > 0 || !star {
			t.Errorf("P16.1: %q %d times, and a star: %d names, %v", s, many, len(names), star)
		}
	}
	long := strings.Repeat("L", many)
	if names, star := vary.Names(varying(long)); len(names) != 1 || names[0] != strings.ToLower(long) || star {
		t.Errorf("P16.1: a name of %d bytes isn't told", many)
	}

	one, other := lists.Filled(nil, many), lists.Filled(nil, many)
	other[many-1].Value = "?"
	last := other[many-1].Name
	for _, c := range []struct {
		names []string
		want  bool
	}{{nil, true}, {[]string{last}, false}, {[]string{"x-0", "x-1", last}, false}, {[]string{"x-0", "x-1", "x-0"}, true}} {
		if got := vary.Match(getX(one...), getX(other...), c.names); got != c.want {
			t.Errorf("P16.2: of %d fields the last is unlike: by %q %v", many, c.names, got)
		}
	}
	if !vary.Match(getWith("a", "1", "n9", "2"), getWith("a", "2", "n9", "2"), each) || vary.Match(getWith("n99999", "1"), getX(), each) {
		t.Errorf("P16.2: by %d names requests are told wrong", many)
	}
}
