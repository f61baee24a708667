package client_test

import (
	"strings"
	"testing"

	"herald/api"
	"herald/lists"
)

func get(path string, more ...api.Field) api.Request {
	return api.Request{Method: "GET", Scheme: "https", Authority: "x", Path: path, Fields: more}
}

// post is one with a body.
func post(path, body string, more ...api.Field) api.Request {
	r := get(path, more...)
	r.Method, r.Body = "POST", body
	return r
}

// by is a request by another method.
func by(method string, r api.Request) api.Request {
	r.Method = method
	return r
}

func status(s string, more ...api.Field) []api.Field {
	return lists.Joined(lists.Of(":status", s), more...)
}

func length(s string) api.Field { return api.Field{Name: "content-length", Value: s} }

func long(n int) string { return strings.Repeat("0123456789abcdef", n/16+1)[:n] }

// opened is a request's head as it is heard.
func opened(id int64, r api.Request) api.Event { return headEvent(id, listOf(r), r.Body == "") }

// direct is the answer of a response that has no fields.
func direct(number int, stream int64, body string) api.Answer {
	return api.Answer{Number: number, Stream: stream, Response: api.Response{Status: 200, Body: body}}
}

func cached(number int, stream int64, body string) api.Answer {
	a := direct(number, stream, body)
	a.Cached = true
	return a
}

func failed(number int, code int64) api.Answer { return api.Answer{Number: number, Code: code} }

func TestExampleOne(t *testing.T) {
	b := newBoth(t, standard(), usual(), "https://x")
	b.wantBusy()
	if n := b.asks(get("/a")); n != 1 {
		t.Errorf("P23.1: the first request is %d", n)
	}
	b.wantCounts(1, 0, 0)
	b.wantStep(0, settled())
	b.wantBusy()
	b.wantStep(0)
	b.recv(bytes(settingsFrame()))
	b.wantStep(0, acked(), opened(1, get("/a")))
	b.wantCounts(0, 1, 0)
	b.wantIdle()
	b.whole()
}

// afterTwo is a client behind the first half of example 2.
func afterTwo(t *testing.T) *both {
	t.Helper()
	b := flown(t)
	b.promise(1, listOf(get("/b")))
	b.wantCounts(0, 1, 1)
	b.tick(3)
	b.reply(2, "B")
	b.wantCounts(0, 1, 0)
	b.wantHeld(1, 1)
	return b
}

func TestExampleTwo(t *testing.T) {
	b := afterTwo(t)
	b.tick(13)
	if n := b.asks(get("/b")); n != 2 {
		t.Errorf("P23.1: the second request is %d", n)
	}
	b.wantAnswers(cached(2, 2, "B"))
	b.wantHeld(0, 0)
	if n := b.wantWaits(get("/b")); n != 3 {
		t.Errorf("P23.1: the third request is %d", n)
	}
	b.whole()

	b = afterTwo(t)
	b.tick(14)
	b.wantHeld(0, 0)
	b.wantWaits(get("/b"))
	b.whole()
}

func TestExampleThree(t *testing.T) {
	b := afterTwo(t)
	foreign := get("/c")
	foreign.Authority = "y"
	id := b.promise(1, listOf(foreign))
	b.wantBusy()
	b.wantStep(0, resetEvent(id, protocol))
	id = b.promise(1, listOf(by("POST", get("/c"))))
	b.wantStep(0, resetEvent(id, protocol))
	id = b.promise(1, listOf(get("/b")))
	b.wantStep(0, resetEvent(id, cancel))
	for _, path := range []string{"/1", "/2", "/3", "/4"} {
		b.promise(1, listOf(get(path)))
		b.wantIdle()
	}
	id = b.promise(1, listOf(get("/5")))
	b.wantStep(0, resetEvent(id, refused))
	b.wantCounts(0, 1, 4)
	b.whole()
}

func TestExampleFour(t *testing.T) {
	b := flown(t)
	if e := b.cancel(1); e != api.OK {
		t.Errorf("P23.1: Cancel: %d", e)
	}
	b.wantAnswers(failed(1, cancel))
	b.wantCounts(0, 0, 0)
	id := b.promise(1, listOf(get("/b")))
	b.wantStep(0, resetEvent(1, cancel), resetEvent(id, cancel))
	b.wantCounts(0, 0, 0)
	b.wantIdle()
	b.whole()
}

func TestExampleFive(t *testing.T) {
	b := flown(t)
	b.recv(bytes(goAwayFrame(0, 0)))
	b.wantAnswers(failed(1, refused))
	b.wantIdle()
	b.whole()

	b = flown(t)
	b.asks(get("/c"))
	b.recv("garbage, of which no frame can be made")
	code, dead := b.c.Dead()
	if !dead {
		t.Error("P23.1: it lives")
	}
	b.wantAnswers(failed(1, code), failed(2, refused))
	b.wantStep(0, goneAway(0, code))
	b.wantIdle()
	b.whole()
}
