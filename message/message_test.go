package message_test

import (
	"fmt"
	"strings"
	"testing"

	"herald/api"
	"herald/lists"
	"herald/message"
)

// both are a message and the model of it, under the same calls.
type both struct {
	m    *message.Message
	want *model
	done []string
}

// newBoth holds New against the model; nil: there is no such message.
func newBoth(t *testing.T, request bool, method string, l []api.Field) *both {
	t.Helper()
	m, e := message.New(request, method, l)
	want, wantError := newModel(request, method, l)
	if e != wantError || (m == nil) != (want == nil) {
		t.Fatalf("P14.1: New(%v, %s, %s): %d, nil %v, want %d, nil %v", request, lists.ShownText(method), lists.Shown(l), e, m == nil, wantError, want == nil)
	}
	if want == nil {
		return nil
	}
	b := &both{m: m, want: want, done: []string{fmt.Sprintf("New(%v, %s, %s)", request, lists.ShownText(method), lists.Shown(l))}}
	b.look(t, "P14.1")
	return b
}

// begun is a message that must be one.
func begun(t *testing.T, request bool, method string, l []api.Field) *both {
	t.Helper()
	b := newBoth(t, request, method, l)
	if b == nil {
		t.Fatalf("P14.1: New(%v, %s, %s) is no message", request, lists.ShownText(method), lists.Shown(l))
	}
	return b
}

func response(t *testing.T, status string, more ...api.Field) *both {
	t.Helper()
	return begun(t, false, "GET", someResponse(status, more...))
}

// Data and End make the call on both, and hold all that can be asked against one another.
func (b *both) Data(t *testing.T, text string, end bool) api.Errno {
	t.Helper()
	b.done = append(b.done, fmt.Sprintf("Data(%s, %v)", lists.ShownText(text), end))
	return b.did(t, func() api.Errno { return b.m.Data(text, end) }, text, end)
}

func (b *both) End(t *testing.T) api.Errno {
	t.Helper()
	b.done = append(b.done, "End()")
	return b.did(t, b.m.End, "", true)
}

func (b *both) did(t *testing.T, call func() api.Errno, text string, end bool) api.Errno {
	t.Helper()
	promise := "P14.1"
	if b.want.now != "under way" {
		promise = "P14.4"
	}
	got, want := call(), b.want.data(text, end)
	if got != want {
		t.Fatalf("%s: %v: %d, want %d", promise, b.done, got, want)
	}
	b.look(t, promise)
	return got
}

func (b *both) look(t *testing.T, promise string) {
	t.Helper()
	if got := b.m.Whole(); got != b.want.whole() {
		t.Fatalf("%s: %v: Whole() = %v", promise, b.done, got)
	}
	if got, want := b.m.Request(), b.want.asRequest(); !lists.SameRequest(got, want) {
		t.Fatalf("%s: %v: Request() = %s, want %s", promise, b.done, lists.ShownRequest(got), lists.ShownRequest(want))
	}
	if got, want := b.m.Response(), b.want.asResponse(); !lists.SameResponse(got, want) {
		t.Fatalf("%s: %v: Response() = %s, want %s", promise, b.done, lists.ShownResponse(got), lists.ShownResponse(want))
	}
}

// body is what either kind tells.
func (b *both) body() string { return b.m.Request().Body + b.m.Response().Body }

func (b *both) wantData(t *testing.T, text string, end bool, want api.Errno) {
	t.Helper()
	if e := b.Data(t, text, end); e != want {
		t.Fatalf("P14.1: %v: %d, want %d", b.done, e, want)
	}
}

func (b *both) wantEnd(t *testing.T, want api.Errno) {
	t.Helper()
	if e := b.End(t); e != want {
		t.Fatalf("P14.1: %v: %d, want %d", b.done, e, want)
	}
}

func (b *both) wantWhole(t *testing.T, want bool, body string) {
	t.Helper()
	if b.m.Whole() != want || b.body() != body {
		t.Fatalf("P14.1: %v: Whole() = %v, body %s, want %v, %s", b.done, b.m.Whole(), lists.ShownText(b.body()), want, lists.ShownText(body))
	}
}

func wantNone(t *testing.T, request bool, method string, l []api.Field, want api.Errno) {
	t.Helper()
	if m, e := message.New(request, method, l); m != nil || e != want {
		t.Errorf("P14.1: New(%v, %s, %s): %d, nil %v, want %d", request, lists.ShownText(method), lists.Shown(l), e, m == nil, want)
	}
	newBoth(t, request, method, l)
}

func TestExampleOne(t *testing.T) {
	b := begun(t, true, "", lists.Of(":method", "GET", ":scheme", "http", ":authority", "a", ":path", "/"))
	b.wantWhole(t, false, "")
	b.wantEnd(t, api.OK)
	b.wantWhole(t, true, "")
	want := api.Request{Method: "GET", Scheme: "http", Authority: "a", Path: "/"}
	if r := b.m.Request(); !lists.SameRequest(r, want) {
		t.Errorf("P14.1: Request() = %s, want %s", lists.ShownRequest(r), lists.ShownRequest(want))
	}
	b.wantData(t, "", false, api.ErrState)
}

func TestExampleTwo(t *testing.T) {
	b := response(t, "200", declares("5"))
	b.wantData(t, "abc", false, api.OK)
	b.wantData(t, "", false, api.OK)
	b.wantData(t, "de", true, api.OK)
	b.wantWhole(t, true, "abcde")
	want := api.Response{Status: 200, Fields: lists.Of("content-length", "5"), Body: "abcde"}
	if r := b.m.Response(); !lists.SameResponse(r, want) {
		t.Errorf("P14.1: Response() = %s, want %s", lists.ShownResponse(r), lists.ShownResponse(want))
	}

	b = response(t, "200", declares("5"))
	b.wantData(t, "abcdef", false, api.ErrBody)
	b.wantWhole(t, false, "")
	b.wantData(t, "abcde", true, api.ErrState)

	b = response(t, "200", declares("5"))
	b.wantData(t, "abcd", true, api.ErrBody)
	response(t, "200", declares("5")).wantEnd(t, api.ErrBody)
}

func TestExampleThree(t *testing.T) {
	head := someResponse("200", declares("5"))
	b := begun(t, false, "HEAD", head)
	b.wantEnd(t, api.OK)
	b.wantWhole(t, true, "")
	begun(t, false, "HEAD", head).wantData(t, "a", false, api.ErrBody)
	response(t, "304", declares("7")).wantEnd(t, api.OK)
}

func TestExampleFour(t *testing.T) {
	wantNone(t, false, "GET", someResponse("100"), api.ErrHead)
	for _, s := range []string{"", "-1", "12345678901", "2147483648", "+5", "5a"} {
		wantNone(t, false, "GET", someResponse("200", declares(s)), api.ErrBody)
	}
	wantNone(t, false, "GET", someResponse("200", declares("5 ")), api.ErrField)
	wantNone(t, false, "GET", someResponse("200", declares("5"), declares("5")), api.ErrBody)
	response(t, "200", declares("0000000005")).wantData(t, "abcde", true, api.OK)
	response(t, "200", declares("0")).wantEnd(t, api.OK)
}

func TestExampleFive(t *testing.T) {
	b := response(t, "200")
	b.wantData(t, strings.Repeat("x", 65536), false, api.OK)
	b.wantData(t, "x", false, api.ErrLong)
	b.wantWhole(t, false, strings.Repeat("x", 65536))
	b.wantEnd(t, api.ErrState)

	b = response(t, "200", declares("70000"))
	b.wantData(t, strings.Repeat("x", 65536), false, api.OK)
	b.wantData(t, "x", false, api.ErrLong)
}

// TestLimits: the numbers that the model and the other tests go by are those of api.
func TestLimits(t *testing.T) {
	if api.MaxBody != mostBody || api.MaxInt != 2147483647 || api.MaxFields != 64 {
		t.Error("the limits are not the document's")
	}
	if longError != api.ErrLong || stateError != api.ErrState || fieldError != api.ErrField || headError != api.ErrHead || bodyError != api.ErrBody {
		t.Error("the errors are not the document's")
	}
}
