package field_test

import (
	"slices"
	"strings"
	"testing"

	"herald/api"
	"herald/field"
	"herald/lists"
)

// wantRead holds both kinds of reading against the model, and what a list that is
// taken leads to against what is promised of it.
func wantRead(t *testing.T, l []api.Field) {
	t.Helper()
	q, qe := field.ReadRequest(l)
	if want, e := modelRequest(l); qe != e || !lists.SameRequest(q, want) {
		t.Errorf("P13.1: ReadRequest(%s) = %s, %d, want %s, %d", lists.Shown(l), lists.ShownRequest(q), qe, lists.ShownRequest(want), e)
	}
	r, re := field.ReadResponse(l)
	if want, e := modelResponse(l); re != e || !lists.SameResponse(r, want) {
		t.Errorf("P13.1: ReadResponse(%s) = %s, %d, want %s, %d", lists.Shown(l), lists.ShownResponse(r), re, lists.ShownResponse(want), e)
	}
	switch {
	case qe == api.OK && re == api.OK:
		t.Errorf("P13.3: %s is a request's list and a response's", lists.Shown(l))
	case qe == api.OK:
		wantRequestBack(t, l, q)
	case re == api.OK:
		wantResponseBack(t, l, r)
	}
}

// wantRequestBack: P13.2, of what was read.
func wantRequestBack(t *testing.T, l []api.Field, q api.Request) {
	t.Helper()
	back, e := field.WriteRequest(q)
	if want := modelRequestList(q); e != api.OK || !lists.Same(back, want) || !lists.Same(back[4:], modelPlain(l)) {
		t.Errorf("P13.2: %s read and written: %s, %d, want %s", lists.Shown(l), lists.Shown(back), e, lists.Shown(want))
	}
	if again, e := field.ReadRequest(back); e != api.OK || !lists.SameRequest(again, q) {
		t.Errorf("P13.2: %s read, written and read: %s, %d, want %s", lists.Shown(l), lists.ShownRequest(again), e, lists.ShownRequest(q))
	}
}

func wantResponseBack(t *testing.T, l []api.Field, r api.Response) {
	t.Helper()
	back, e := field.WriteResponse(r)
	if e != api.OK || !lists.Same(back, modelResponseList(r)) || !lists.Same(back[1:], modelPlain(l)) {
		t.Errorf("P13.2: %s read and written: %s, %d", lists.Shown(l), lists.Shown(back), e)
	}
	if again, e := field.ReadResponse(back); e != api.OK || !lists.SameResponse(again, r) {
		t.Errorf("P13.2: %s read, written and read: %s, %d, want %s", lists.Shown(l), lists.ShownResponse(again), e, lists.ShownResponse(r))
	}
}

// wantRequest: the request and nothing else is read of a list.
func wantRequest(t *testing.T, l []api.Field, want api.Request) {
	t.Helper()
	if q, e := field.ReadRequest(l); e != api.OK || !lists.SameRequest(q, want) {
		t.Errorf("P13.1: ReadRequest(%s) = %s, %d, want %s", lists.Shown(l), lists.ShownRequest(q), e, lists.ShownRequest(want))
	}
	wantRead(t, l)
}

func wantResponse(t *testing.T, l []api.Field, want api.Response) {
	t.Helper()
	if r, e := field.ReadResponse(l); e != api.OK || !lists.SameResponse(r, want) {
		t.Errorf("P13.1: ReadResponse(%s) = %s, %d, want %s", lists.Shown(l), lists.ShownResponse(r), e, lists.ShownResponse(want))
	}
	wantRead(t, l)
}

// wantNoRequest: an error, and nothing beside it.
func wantNoRequest(t *testing.T, l []api.Field, want api.Errno) {
	t.Helper()
	if q, e := field.ReadRequest(l); e != want || !lists.SameRequest(q, api.Request{}) {
		t.Errorf("P13.1: ReadRequest(%s) = %s, %d, want none, %d", lists.Shown(l), lists.ShownRequest(q), e, want)
	}
	wantRead(t, l)
}

func wantNoResponse(t *testing.T, l []api.Field, want api.Errno) {
	t.Helper()
	if r, e := field.ReadResponse(l); e != want || !lists.SameResponse(r, api.Response{}) {
		t.Errorf("P13.1: ReadResponse(%s) = %s, %d, want none, %d", lists.Shown(l), lists.ShownResponse(r), e, want)
	}
	wantRead(t, l)
}

// wantWriteRequest: P13.1, P13.2, of any request.
func wantWriteRequest(t *testing.T, q api.Request) {
	t.Helper()
	l, e := field.WriteRequest(q)
	want := modelRequestList(q)
	_, wantError := modelRequest(want)
	if wantError != 0 {
		want = nil
	}
	if e != wantError || !lists.Same(l, want) {
		t.Errorf("P13.1: WriteRequest(%s) = %s, %d, want %s, %d", lists.ShownRequest(q), lists.Shown(l), e, lists.Shown(want), wantError)
	}
	if e != api.OK {
		return
	}
	q.Body = ""
	if back, e := field.ReadRequest(l); e != api.OK || !lists.SameRequest(back, q) {
		t.Errorf("P13.2: %s written and read: %s, %d", lists.ShownRequest(q), lists.ShownRequest(back), e)
	}
}

func wantWriteResponse(t *testing.T, r api.Response) {
	t.Helper()
	l, e := field.WriteResponse(r)
	want := modelResponseList(r)
	_, wantError := modelResponse(want)
	if wantError != 0 {
		want = nil
	}
	if e != wantError || !lists.Same(l, want) {
		t.Errorf("P13.1: WriteResponse(%s) = %s, %d, want %s, %d", lists.ShownResponse(r), lists.Shown(l), e, lists.Shown(want), wantError)
	}
	if e != api.OK {
		return
	}
	r.Body = ""
	if back, e := field.ReadResponse(l); e != api.OK || !lists.SameResponse(back, r) {
		t.Errorf("P13.2: %s written and read: %s, %d", lists.ShownResponse(r), lists.ShownResponse(back), e)
	}
}

func wantName(t *testing.T, s string, want bool) {
	t.Helper()
	if field.Name(s) != want {
		t.Errorf("P13.1: Name(%s) = %v", lists.ShownText(s), !want)
	}
}

func wantValue(t *testing.T, s string, want bool) {
	t.Helper()
	if field.Value(s) != want {
		t.Errorf("P13.1: Value(%s) = %v", lists.ShownText(s), !want)
	}
}

func TestExampleOne(t *testing.T) {
	for _, s := range []string{"accept", "x-1", "~"} {
		wantName(t, s, true)
	}
	for _, s := range []string{"", "Accept", ":path", "a b", strings.Repeat("a", 65)} {
		wantName(t, s, false)
	}
	for _, s := range []string{"", "a b", "\xc8"} {
		wantValue(t, s, true)
	}
	for _, s := range []string{" a", "a\t", "a\nb", strings.Repeat("a", 4097)} {
		wantValue(t, s, false)
	}
}

func TestExampleTwo(t *testing.T) {
	right := lists.Of(":path", "/", ":method", "GET", ":scheme", "https", ":authority", "a.test", "accept", "x")
	request := api.Request{Method: "GET", Scheme: "https", Authority: "a.test", Path: "/", Fields: lists.Of("accept", "x")}
	wantRequest(t, right, request)
	wantNoRequest(t, lists.Without(right, 0), api.ErrHead)
	wantNoRequest(t, lists.Put(right, 0, p(":path", "/")), api.ErrHead)
	wantNoRequest(t, lists.Put(right, 4, p(":status", "200")), api.ErrHead)
	wantNoRequest(t, lists.Put(lists.Without(right, 4), 0, p("accept", "x")), api.ErrHead)
	for _, f := range lists.Of("Accept", "x", ":", "x", "accept", " x") {
		wantNoRequest(t, lists.Instead(right, 4, f), api.ErrField)
	}
	for _, path := range []string{"a", "*", "/a b", ""} {
		wantNoRequest(t, lists.Instead(right, 0, p(":path", path)), api.ErrHead)
	}
	request.Method, request.Path = "OPTIONS", "*"
	wantRequest(t, lists.Instead(lists.Instead(right, 0, p(":path", "*")), 1, p(":method", "OPTIONS")), request)
	wantNoRequest(t, lists.Instead(right, 4, p("connection", "close")), api.ErrHead)
	wantNoRequest(t, lists.Instead(right, 4, p("te", "gzip")), api.ErrHead)
	wantRequest(t, lists.Instead(right, 4, p("te", "trailers")), api.Request{Method: "GET", Scheme: "https", Authority: "a.test", Path: "/", Fields: lists.Of("te", "trailers")})
}

func TestExampleThree(t *testing.T) {
	wantResponse(t, lists.Of(":status", "200", "vary", "accept"), api.Response{Status: 200, Fields: lists.Of("vary", "accept")})
	for _, status := range []string{"99", "0200", "600", "", "+20"} {
		wantNoResponse(t, lists.Of(":status", status), api.ErrHead)
	}
	wantNoResponse(t, nil, api.ErrHead)
	wantNoRequest(t, nil, api.ErrHead)
	wantNoRequest(t, lists.Filled(someRequest(), 65), api.ErrLong)
	wantNoResponse(t, lists.Filled(lists.Of(":status", "200"), 65), api.ErrLong)
}

func TestExampleFour(t *testing.T) {
	q := api.Request{Method: "GET", Scheme: "https", Authority: "a.test", Path: "/", Fields: lists.Of("accept", "x")}
	l, e := field.WriteRequest(q)
	if e != api.OK || !lists.Same(l, lists.Of(":method", "GET", ":scheme", "https", ":authority", "a.test", ":path", "/", "accept", "x")) {
		t.Errorf("P13.1: WriteRequest(%s) = %s, %d", lists.ShownRequest(q), lists.Shown(l), e)
	}
	q.Fields = lists.Filled(nil, 61)
	if l, e = field.WriteRequest(q); e != api.ErrLong || l != nil {
		t.Errorf("P13.1: WriteRequest(%s) = %s, %d", lists.ShownRequest(q), lists.Shown(l), e)
	}
	q.Fields = lists.Of(":method", "PUT")
	if l, e = field.WriteRequest(q); e != api.ErrHead || l != nil {
		t.Errorf("P13.1: WriteRequest(%s) = %s, %d", lists.ShownRequest(q), lists.Shown(l), e)
	}
	if l, e = field.WriteResponse(api.Response{Status: 200}); e != api.OK || !lists.Same(l, lists.Of(":status", "200")) {
		t.Errorf("P13.1: WriteResponse of 200: %s, %d", lists.Shown(l), e)
	}
	for _, status := range []int{0, -200} {
		if l, e = field.WriteResponse(api.Response{Status: status}); e != api.ErrHead || l != nil {
			t.Errorf("P13.1: WriteResponse of %d: %s, %d", status, lists.Shown(l), e)
		}
	}
}

func TestExampleFive(t *testing.T) {
	if n := field.Size(nil); n != 0 {
		t.Errorf("P13.1: Size of none: %d", n)
	}
	if n := field.Size(lists.Of("a", "bc")); n != 35 {
		t.Errorf("P13.1: Size of a bc: %d", n)
	}
	l := lists.Of("a", "1", "b", "2", "a", "3")
	if v := field.Values(l, "a"); !slices.Equal(v, []string{"1", "3"}) {
		t.Errorf("P13.1: Values(%s, a) = %q", lists.Shown(l), v)
	}
	if v := field.Values(l, "c"); len(v) != 0 {
		t.Errorf("P13.1: Values(%s, c) = %q", lists.Shown(l), v)
	}
}

// TestLimits: the numbers that the model and the other tests go by are those of api.
func TestLimits(t *testing.T) {
	if api.MaxName != 64 || api.MaxValue != 4096 || api.MaxFields != 64 {
		t.Error("the limits are not the document's")
	}
	if longError != api.ErrLong || fieldError != api.ErrField || headError != api.ErrHead {
		t.Error("the errors are not the document's")
	}
	if len(letters) != 26 || len(capitals) != 26 || len(digits) != 10 || len(marks) != 15 || len(visible) != 94 {
		t.Error("the words' bytes are not the chapter's")
	}
}

// someRequest has plain fields of every kind that may stand there.
func someRequest() []api.Field {
	return lists.Joined(lists.Of(":method", "GET", ":scheme", "https", ":authority", "a.test", ":path", "/p"),
		p("accept", "x"), never("cookie", "secret"), p("te", "trailers"), p("accept", ""), p("host", "b"))
}

func someResponse() []api.Field {
	return lists.Joined(lists.Of(":status", "204"), p("vary", "accept"), never("set-cookie", "secret"), p("vary", ""))
}
