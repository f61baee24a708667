package field_test

import (
	"slices"
	"testing"

	"herald/api"
	"herald/field"
	"herald/lists"
)

// TestHandedInStays: neither a list nor its spare room is changed, whether it is
// taken or refused.
func TestHandedInStays(t *testing.T) {
	all := [][]api.Field{
		nil, someRequest(), someResponse(), someRequest()[:4], someResponse()[:1], someRequest()[4:],
		orders(someRequest()[:4])[23], lists.Put(someRequest(), 0, p("A", "x")), lists.Put(someResponse(), 2, p("te", "x")),
		lists.Filled(nil, 60), lists.Filled(nil, 61), lists.Filled(nil, 63), lists.Filled(nil, 64), lists.Filled(someRequest(), 64), lists.Filled(someRequest(), 65),
	}
	for _, l := range all {
		x, unchanged := lists.Guarded(l)
		field.ReadRequest(x)
		field.ReadResponse(x)
		field.WriteRequest(api.Request{Method: "GET", Scheme: "http", Authority: "a", Path: "/", Fields: x})
		field.WriteRequest(api.Request{Fields: x})
		field.WriteResponse(api.Response{Status: 200, Fields: x})
		field.WriteResponse(api.Response{Status: 2000, Fields: x})
		field.Size(x)
		field.Values(x, "accept")
		if !unchanged() {
			t.Errorf("P13.1: %s or the room behind it was changed", lists.Shown(l))
		}
	}
}

// TestAnsweredIsNew: an answer can be written over, its spare room too, without
// being seen in another or in what was handed in; and the other way about.
func TestAnsweredIsNew(t *testing.T) {
	other := never("written", "over")
	for _, plain := range [][]api.Field{nil, lists.Of("a", "1"), lists.Of("a", "1", "b", "2", "a", "3"), lists.Filled(nil, 60)} {
		q := api.Request{Method: "GET", Scheme: "http", Authority: "a", Path: "/", Fields: plain}
		r := api.Response{Status: 200, Fields: plain}
		requestList, responseList := modelRequestList(q), modelResponseList(r)
		for _, c := range []struct {
			given []api.Field
			want  []api.Field
			call  func([]api.Field) []api.Field
		}{
			{requestList, plain, func(l []api.Field) []api.Field { x, _ := field.ReadRequest(l); return x.Fields }},
			{responseList, plain, func(l []api.Field) []api.Field { x, _ := field.ReadResponse(l); return x.Fields }},
			{plain, requestList, func(l []api.Field) []api.Field { q.Fields = l; x, _ := field.WriteRequest(q); return x }},
			{plain, responseList, func(l []api.Field) []api.Field { r.Fields = l; x, _ := field.WriteResponse(r); return x }},
		} {
			x, unchanged := lists.Guarded(c.given)
			one, two := c.call(x), c.call(x)
			if !lists.Same(one, c.want) || !lists.Same(two, c.want) {
				t.Fatalf("P13.1: of %s: %s, %s, want %s", lists.Shown(c.given), lists.Shown(one), lists.Shown(two), lists.Shown(c.want))
			}
			lists.Scribble(one, other)
			if !unchanged() {
				t.Errorf("P13.1: with an answer written over what was handed in is %s", lists.Shown(x))
			}
			if !lists.Same(two, c.want) || !lists.Same(c.call(x), c.want) {
				t.Errorf("P13.1: with one answer written over the other is %s", lists.Shown(two))
			}
			lists.Scribble(x, p("", "gone"))
			if !lists.Same(two, c.want) {
				t.Errorf("P13.1: with what was handed in written over the answer is %s", lists.Shown(two))
			}
			for i := range one {
				if one[i] != other {
					t.Errorf("P13.1: a call writes into an earlier answer: %s", lists.Shown(one))
				}
			}
		}
	}
}

func TestValuesAreNew(t *testing.T) {
	want := []string{"1", "2", "3"}
	l := lists.Of("a", "1", "a", "2", "b", "x", "a", "3")
	one, two := field.Values(l, "a"), field.Values(l, "a")
	lists.Scribble(one, "over")
	if !slices.Equal(two, want) || !slices.Equal(field.Values(l, "a"), want) {
		t.Errorf("P13.1: with one answer of Values written over the other is %q", two)
	}
	lists.Scribble(l, p("a", "gone"))
	if !slices.Equal(two, want) {
		t.Errorf("P13.1: with the list written over Values' answer is %q", two)
	}
}
