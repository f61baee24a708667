package field_test

import (
	"slices"
	"testing"

	"herald/api"
	"herald/field"
)

// guarded is the list with room behind it, and a look at whether any of that was
// changed.
func guarded(l []api.Field) ([]api.Field, func() bool) {
	room := joined(l, never("spare-1", "1"), never("spare-2", "2"), never(":path", "/"), p("A", " "), p("spare-5", "5"))
	before := slices.Clone(room)
	return room[:len(l)], func() bool { return slices.Equal(room, before) }
}

func scribble[T any](l []T, x T) {
	l = l[:cap(l)]
	for i := range l {
		l[i] = x
	}
}

// TestHandedInStays: neither a list nor its spare room is changed, whether it is
// taken or refused.
func TestHandedInStays(t *testing.T) {
	lists := [][]api.Field{
		nil, someRequest(), someResponse(), someRequest()[:4], someResponse()[:1], someRequest()[4:],
		orders(someRequest()[:4])[23], put(someRequest(), 0, p("A", "x")), put(someResponse(), 2, p("te", "x")),
		filled(nil, 60), filled(nil, 61), filled(nil, 63), filled(nil, 64), filled(someRequest(), 64), filled(someRequest(), 65),
	}
	for _, l := range lists {
		x, same := guarded(l)
		field.ReadRequest(x)
		field.ReadResponse(x)
		field.WriteRequest(api.Request{Method: "GET", Scheme: "http", Authority: "a", Path: "/", Fields: x})
		field.WriteRequest(api.Request{Fields: x})
		field.WriteResponse(api.Response{Status: 200, Fields: x})
		field.WriteResponse(api.Response{Status: 2000, Fields: x})
		field.Size(x)
		field.Values(x, "accept")
		if !same() {
			t.Errorf("P13.1: %s or the room behind it was changed", shown(l))
		}
	}
}

// TestAnsweredIsNew: an answer can be written over, its spare room too, without
// being seen in another or in what was handed in; and the other way about.
func TestAnsweredIsNew(t *testing.T) {
	other := never("written", "over")
	for _, plain := range [][]api.Field{nil, list("a", "1"), list("a", "1", "b", "2", "a", "3"), filled(nil, 60)} {
		q := api.Request{Method: "GET", Scheme: "http", Authority: "a", Path: "/", Fields: plain}
		r := api.Response{Status: 200, Fields: plain}
		requestList, responseList := modelRequestList(q), modelResponseList(r)
		for _, c := range []struct {
			given []api.Field
			want  []api.Field
			call  func([]api.Field) []api.Field
		}{
			{requestList, plain, func(l []api.Field) []api.Field { x, _ := field.ReadRequest(l); return x.Fields }},
			{responseList, plain, func(l []api.Field) []api.Field { x, _ := field.ReadResponse(l); return x.Fields }},
			{plain, requestList, func(l []api.Field) []api.Field { q.Fields = l; x, _ := field.WriteRequest(q); return x }},
			{plain, responseList, func(l []api.Field) []api.Field { r.Fields = l; x, _ := field.WriteResponse(r); return x }},
		} {
			x, unchanged := guarded(c.given)
			one, two := c.call(x), c.call(x)
			if !same(one, c.want) || !same(two, c.want) {
				t.Fatalf("P13.1: of %s: %s, %s, want %s", shown(c.given), shown(one), shown(two), shown(c.want))
			}
			scribble(one, other)
			if !unchanged() {
				t.Errorf("P13.1: with an answer written over what was handed in is %s", shown(x))
			}
			if !same(two, c.want) || !same(c.call(x), c.want) {
				t.Errorf("P13.1: with one answer written over the other is %s", shown(two))
			}
			scribble(x, p("", "gone"))
			if !same(two, c.want) {
				t.Errorf("P13.1: with what was handed in written over the answer is %s", shown(two))
			}
			for i := range one {
				if one[i] != other {
					t.Errorf("P13.1: a call writes into an earlier answer: %s", shown(one))
				}
			}
		}
	}
}

func TestValuesAreNew(t *testing.T) {
	want := []string{"1", "2", "3"}
	l := list("a", "1", "a", "2", "b", "x", "a", "3")
	one, two := field.Values(l, "a"), field.Values(l, "a")
	scribble(one, "over")
	if !slices.Equal(two, want) || !slices.Equal(field.Values(l, "a"), want) {
		t.Errorf("P13.1: with one answer of Values written over the other is %q", two)
	}
	scribble(l, p("a", "gone"))
	if !slices.Equal(two, want) {
		t.Errorf("P13.1: with the list written over Values' answer is %q", two)
	}
}
