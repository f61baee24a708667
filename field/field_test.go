package field_test

import (
	"slices"
	"strings"
	"testing"

	"herald/api"
	"herald/field"
)

// wantRead holds both kinds of reading against the model, and what a list that is
// taken leads to against what is promised of it.
func wantRead(t *testing.T, l []api.Field) {
	t.Helper()
	q, qe := field.ReadRequest(l)
	if want, e := modelRequest(l); qe != e || !sameRequest(q, want) {
		t.Errorf("P13.1: ReadRequest(%s) = %s, %d, want %s, %d", shown(l), shownRequest(q), qe, shownRequest(want), e)
	}
	r, re := field.ReadResponse(l)
	if want, e := modelResponse(l); re != e || !sameResponse(r, want) {
		t.Errorf("P13.1: ReadResponse(%s) = %s, %d, want %s, %d", shown(l), shownResponse(r), re, shownResponse(want), e)
	}
	switch {
	case qe == api.OK && re == api.OK:
		t.Errorf("P13.3: %s is a request's list and a response's", shown(l))
	case qe == api.OK:
		wantRequestBack(t, l, q)
	case re == api.OK:
		wantResponseBack(t, l, r)
	}
}

// wantRequestBack: P13.2, of what was read.
func wantRequestBack(t *testing.T, l []api.Field, q api.Request) {
	t.Helper()
	back, e := field.WriteRequest(q)
	if want := modelRequestList(q); e != api.OK || !same(back, want) || !same(back[4:], modelPlain(l)) {
		t.Errorf("P13.2: %s read and written: %s, %d, want %s", shown(l), shown(back), e, shown(want))
	}
	if again, e := field.ReadRequest(back); e != api.OK || !sameRequest(again, q) {
		t.Errorf("P13.2: %s read, written and read: %s, %d, want %s", shown(l), shownRequest(again), e, shownRequest(q))
	}
}

func wantResponseBack(t *testing.T, l []api.Field, r api.Response) {
	t.Helper()
	back, e := field.WriteResponse(r)
	if e != api.OK || !same(back, modelResponseList(r)) || !same(back[1:], modelPlain(l)) {
		t.Errorf("P13.2: %s read and written: %s, %d", shown(l), shown(back), e)
	}
	if again, e := field.ReadResponse(back); e != api.OK || !sameResponse(again, r) {
		t.Errorf("P13.2: %s read, written and read: %s, %d, want %s", shown(l), shownResponse(again), e, shownResponse(r))
	}
}

// wantRequest: the request and nothing else is read of a list.
func wantRequest(t *testing.T, l []api.Field, want api.Request) {
	t.Helper()
	if q, e := field.ReadRequest(l); e != api.OK || !sameRequest(q, want) {
		t.Errorf("P13.1: ReadRequest(%s) = %s, %d, want %s", shown(l), shownRequest(q), e, shownRequest(want))
	}
	wantRead(t, l)
}

func wantResponse(t *testing.T, l []api.Field, want api.Response) {
	t.Helper()
	if r, e := field.ReadResponse(l); e != api.OK || !sameResponse(r, want) {
		t.Errorf("P13.1: ReadResponse(%s) = %s, %d, want %s", shown(l), shownResponse(r), e, shownResponse(want))
	}
	wantRead(t, l)
}

// wantNoRequest: an error, and nothing beside it.
func wantNoRequest(t *testing.T, l []api.Field, want api.Errno) {
	t.Helper()
	if q, e := field.ReadRequest(l); e != want || !sameRequest(q, api.Request{}) {
		t.Errorf("P13.1: ReadRequest(%s) = %s, %d, want none, %d", shown(l), shownRequest(q), e, want)
	}
	wantRead(t, l)
}

func wantNoResponse(t *testing.T, l []api.Field, want api.Errno) {
	t.Helper()
	if r, e := field.ReadResponse(l); e != want || !sameResponse(r, api.Response{}) {
		t.Errorf("P13.1: ReadResponse(%s) = %s, %d, want none, %d", shown(l), shownResponse(r), e, want)
	}
	wantRead(t, l)
}

// wantWriteRequest: P13.1, P13.2, of any request.
func wantWriteRequest(t *testing.T, q api.Request) {
	t.Helper()
	l, e := field.WriteRequest(q)
	want := modelRequestList(q)
	_, wantError := modelRequest(want)
	if wantError != 0 {
		want = nil
	}
	if e != wantError || !same(l, want) {
		t.Errorf("P13.1: WriteRequest(%s) = %s, %d, want %s, %d", shownRequest(q), shown(l), e, shown(want), wantError)
	}
	if e != api.OK {
		return
	}
	q.Body = ""
	if back, e := field.ReadRequest(l); e != api.OK || !sameRequest(back, q) {
		t.Errorf("P13.2: %s written and read: %s, %d", shownRequest(q), shownRequest(back), e)
	}
}

func wantWriteResponse(t *testing.T, r api.Response) {
	t.Helper()
	l, e := field.WriteResponse(r)
	want := modelResponseList(r)
	_, wantError := modelResponse(want)
	if wantError != 0 {
		want = nil
	}
	if e != wantError || !same(l, want) {
		t.Errorf("P13.1: WriteResponse(%s) = %s, %d, want %s, %d", shownResponse(r), shown(l), e, shown(want), wantError)
	}
	if e != api.OK {
		return
	}
	r.Body = ""
	if back, e := field.ReadResponse(l); e != api.OK || !sameResponse(back, r) {
		t.Errorf("P13.2: %s written and read: %s, %d", shownResponse(r), shownResponse(back), e)
	}
}

func wantName(t *testing.T, s string, want bool) {
	t.Helper()
	if field.Name(s) != want {
		t.Errorf("P13.1: Name(%s) = %v", shownText(s), !want)
	}
}

func wantValue(t *testing.T, s string, want bool) {
	t.Helper()
	if field.Value(s) != want {
		t.Errorf("P13.1: Value(%s) = %v", shownText(s), !want)
	}
}

func TestExampleOne(t *testing.T) {
	for _, s := range []string{"accept", "x-1", "~"} {
		wantName(t, s, true)
	}
	for _, s := range []string{"", "Accept", ":path", "a b", strings.Repeat("a", 65)} {
		wantName(t, s, false)
	}
	for _, s := range []string{"", "a b", "\xc8"} {
		wantValue(t, s, true)
	}
	for _, s := range []string{" a", "a\t", "a\nb", strings.Repeat("a", 4097)} {
		wantValue(t, s, false)
	}
}

func TestExampleTwo(t *testing.T) {
	right := list(":path", "/", ":method", "GET", ":scheme", "https", ":authority", "a.test", "accept", "x")
	request := api.Request{Method: "GET", Scheme: "https", Authority: "a.test", Path: "/", Fields: list("accept", "x")}
	wantRequest(t, right, request)
	wantNoRequest(t, without(right, 0), api.ErrHead)
	wantNoRequest(t, put(right, 0, p(":path", "/")), api.ErrHead)
	wantNoRequest(t, put(right, 4, p(":status", "200")), api.ErrHead)
	wantNoRequest(t, put(without(right, 4), 0, p("accept", "x")), api.ErrHead)
	for _, f := range list("Accept", "x", ":", "x", "accept", " x") {
		wantNoRequest(t, instead(right, 4, f), api.ErrField)
	}
	for _, path := range []string{"a", "*", "/a b", ""} {
		wantNoRequest(t, instead(right, 0, p(":path", path)), api.ErrHead)
	}
	request.Method, request.Path = "OPTIONS", "*"
	wantRequest(t, instead(instead(right, 0, p(":path", "*")), 1, p(":method", "OPTIONS")), request)
	wantNoRequest(t, instead(right, 4, p("connection", "close")), api.ErrHead)
	wantNoRequest(t, instead(right, 4, p("te", "gzip")), api.ErrHead)
	wantRequest(t, instead(right, 4, p("te", "trailers")), api.Request{Method: "GET", Scheme: "https", Authority: "a.test", Path: "/", Fields: list("te", "trailers")})
}

func TestExampleThree(t *testing.T) {
	wantResponse(t, list(":status", "200", "vary", "accept"), api.Response{Status: 200, Fields: list("vary", "accept")})
	for _, status := range []string{"99", "0200", "600", "", "+20"} {
		wantNoResponse(t, list(":status", status), api.ErrHead)
	}
	wantNoResponse(t, nil, api.ErrHead)
	wantNoRequest(t, nil, api.ErrHead)
	wantNoRequest(t, filled(someRequest(), 65), api.ErrLong)
	wantNoResponse(t, filled(list(":status", "200"), 65), api.ErrLong)
}

func TestExampleFour(t *testing.T) {
	q := api.Request{Method: "GET", Scheme: "https", Authority: "a.test", Path: "/", Fields: list("accept", "x")}
	l, e := field.WriteRequest(q)
	if e != api.OK || !same(l, list(":method", "GET", ":scheme", "https", ":authority", "a.test", ":path", "/", "accept", "x")) {
		t.Errorf("P13.1: WriteRequest(%s) = %s, %d", shownRequest(q), shown(l), e)
	}
	q.Fields = filled(nil, 61)
	if l, e = field.WriteRequest(q); e != api.ErrLong || l != nil {
		t.Errorf("P13.1: WriteRequest(%s) = %s, %d", shownRequest(q), shown(l), e)
	}
	q.Fields = list(":method", "PUT")
	if l, e = field.WriteRequest(q); e != api.ErrHead || l != nil {
		t.Errorf("P13.1: WriteRequest(%s) = %s, %d", shownRequest(q), shown(l), e)
	}
	if l, e = field.WriteResponse(api.Response{Status: 200}); e != api.OK || !same(l, list(":status", "200")) {
		t.Errorf("P13.1: WriteResponse of 200: %s, %d", shown(l), e)
	}
	for _, status := range []int{0, -200} {
		if l, e = field.WriteResponse(api.Response{Status: status}); e != api.ErrHead || l != nil {
			t.Errorf("P13.1: WriteResponse of %d: %s, %d", status, shown(l), e)
		}
	}
}

func TestExampleFive(t *testing.T) {
	if n := field.Size(nil); n != 0 {
		t.Errorf("P13.1: Size of none: %d", n)
	}
	if n := field.Size(list("a", "bc")); n != 35 {
		t.Errorf("P13.1: Size of a bc: %d", n)
	}
	l := list("a", "1", "b", "2", "a", "3")
	if v := field.Values(l, "a"); !slices.Equal(v, []string{"1", "3"}) {
		t.Errorf("P13.1: Values(%s, a) = %q", shown(l), v)
	}
	if v := field.Values(l, "c"); len(v) != 0 {
		t.Errorf("P13.1: Values(%s, c) = %q", shown(l), v)
	}
}

// TestLimits: the numbers that the model and the other tests go by are those of api.
func TestLimits(t *testing.T) {
	if api.MaxName != 64 || api.MaxValue != 4096 || api.MaxFields != 64 {
		t.Error("the limits are not the document's")
	}
	if longError != api.ErrLong || fieldError != api.ErrField || headError != api.ErrHead {
		t.Error("the errors are not the document's")
	}
	if len(letters) != 26 || len(capitals) != 26 || len(digits) != 10 || len(marks) != 15 || len(visible) != 94 {
		t.Error("the words' bytes are not the chapter's")
	}
}

// someRequest has plain fields of every kind that may stand there.
func someRequest() []api.Field {
	return joined(list(":method", "GET", ":scheme", "https", ":authority", "a.test", ":path", "/p"),
		p("accept", "x"), never("cookie", "secret"), p("te", "trailers"), p("accept", ""), p("host", "b"))
}

func someResponse() []api.Field {
	return joined(list(":status", "204"), p("vary", "accept"), never("set-cookie", "secret"), p("vary", ""))
}
