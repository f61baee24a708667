package lists_test

import (
	"testing"

	"herald/api"
	"herald/lists"
)

// TestMade: each list that is made of another is new, and the other stays as it was.
func TestMade(t *testing.T) {
	abc := lists.Of("a", "1", "b", "2", "c", "3")
	x := api.Field{Name: "x", Value: "9", Never: true}
	l, unchanged := lists.Guarded(abc)
	for _, c := range []struct{ got, want []api.Field }{
		{lists.Joined(l), abc},
		{lists.Joined(nil), nil},
		{lists.Joined(l[:1], x, l[0]), []api.Field{abc[0], x, abc[0]}},
		{lists.Put(l, 0, x), []api.Field{x, abc[0], abc[1], abc[2]}},
		{lists.Put(l, 3, x), []api.Field{abc[0], abc[1], abc[2], x}},
		{lists.Without(l, 1), lists.Of("a", "1", "c", "3")},
		{lists.Instead(l, 2, x), []api.Field{abc[0], abc[1], x}},
		{lists.Filled(l, 5), lists.Of("a", "1", "b", "2", "c", "3", "x-3", "3", "x-4", "4")},
		{lists.Filled(l, 2), abc},
	} {
		if !lists.Same(c.got, c.want) {
			t.Errorf("%s, want %s", lists.Shown(c.got), lists.Shown(c.want))
		}
		lists.Scribble(c.got, api.Field{Name: "over"})
		if !unchanged() {
			t.Errorf("a list made of %s shares memory with it", lists.Shown(l))
		}
	}
}

// TestGuard: the guard tells of every change, in the list and behind it.
func TestGuard(t *testing.T) {
	for at := range 7 {
		l, unchanged := lists.Guarded(lists.Of("a", "1", "b", "2"))
		l[:7][at].Value += "!"
		if unchanged() {
			t.Errorf("a change at %d isn't told", at)
		}
	}
	for at := range 5 {
		l, unchanged := lists.Watched([]int{1, 2}, 3, 4, 5)
		if len(l) != 2 || !unchanged() {
			t.Errorf("%v is told as changed", l)
		}
		l[:5][at]++
		if unchanged() {
			t.Errorf("a change at %d of a list of numbers isn't told", at)
		}
	}
}

// TestAlike: all that a field, a request or a response has counts.
func TestAlike(t *testing.T) {
	q := api.Request{Method: "GET", Scheme: "http", Authority: "a", Path: "/", Fields: lists.Of("a", "1"), Body: "b"}
	if !lists.SameRequest(q, q) || !lists.SameRequest(api.Request{Fields: []api.Field{}}, api.Request{}) {
		t.Error("requests that are alike are told apart")
	}
	for _, change := range []func(*api.Request){
		func(q *api.Request) { q.Method = "PUT" }, func(q *api.Request) { q.Scheme = "s" }, func(q *api.Request) { q.Authority = "" },
		func(q *api.Request) { q.Path = "*" }, func(q *api.Request) { q.Fields = nil }, func(q *api.Request) { q.Body = "" },
		func(q *api.Request) { q.Fields = []api.Field{{Name: "a", Value: "1", Never: true}} },
	} {
		other := q
		change(&other)
		if lists.SameRequest(q, other) {
			t.Errorf("%s and %s are taken for alike", lists.ShownRequest(q), lists.ShownRequest(other))
		}
	}
	r := api.Response{Status: 200, Fields: lists.Of("a", "1"), Body: "b"}
	for _, other := range []api.Response{{Status: 201, Fields: r.Fields, Body: "b"}, {Status: 200, Body: "b"}, {Status: 200, Fields: r.Fields}} {
		if lists.SameResponse(r, other) || !lists.SameResponse(r, r) {
			t.Errorf("%s and %s are taken for alike, or one isn't itself", lists.ShownResponse(r), lists.ShownResponse(other))
		}
	}
}

func TestShown(t *testing.T) {
	l := lists.Filled([]api.Field{{Name: "a\n", Value: "0123456789012345678901234", Never: true}}, 13)
	want := `["a\n" "01234567".. (25 bytes) never; "x-1" "1"; "x-2" "2"; "x-3" "3"; "x-4" "4"; "x-5" "5"; "x-6" "6"; "x-7" "7"; "x-8" "8"; "x-9" "9"; "x-10" "10"; "x-11" "11"; .. (13 fields)]`
	if got := lists.Shown(l); got != want {
		t.Errorf("%s, want %s", got, want)
	}
	if got := lists.ShownRequest(api.Request{Method: "GET", Path: "/", Body: "b"}); got != `{"GET" "" "" "/" [] body "b"}` {
		t.Error(got)
	}
	if got := lists.ShownResponse(api.Response{Status: 200, Fields: l[1:2]}); got != `{200 ["x-1" "1"] body ""}` {
		t.Error(got)
	}
}
