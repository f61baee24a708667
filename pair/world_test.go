package pair_test

import (
	"strings"

	"herald/api"
)

// The document's numbers, written out.
const (
	moveAsk      = 1
	moveCancel   = 2
	moveServer   = 3
	moveClient   = 4
	moveToServer = 5
	moveToClient = 6
	moveTick     = 7
	movePut      = 8
	moveSet      = 9
	moveForge    = 10

	protocol  = 1
	internal  = 2
	frameSize = 6
	refused   = 7
	cancel    = 8

	data     = 0
	headers  = 1
	reset    = 3
	settings = 4
	promises = 5
	goAway   = 7
	update   = 8
	further  = 9

	top     = 1<<31 - 1 // the greatest Streams, Window and List
	longest = 1<<63 - 1 // the greatest N
)

// standard is the default.
func standard() api.Set {
	return api.Set{Table: 4096, Push: 1, Streams: top, Window: 65535, Frame: 16384, List: top}
}

// changed is the default, but for what a change makes of it.
func changed(change func(*api.Set)) api.Set {
	set := standard()
	change(&set)
	return set
}

func usual() api.Conf { return api.Conf{Entries: 4, Bytes: 1000, Life: 10, Pending: 4} }

// page is one of x.
func page(path, body string) api.Page { return pageOf("x", path, body) }

func pageOf(authority, path, body string) api.Page {
	return api.Page{Authority: authority, Path: path, Status: 200, Choices: []api.Choice{{Body: body}}}
}

// varied is a page of x with a body for each accept, and a last one for none.
func varied(path string) api.Page {
	return api.Page{Authority: "x", Path: path, Status: 200, Vary: "accept", Choices: []api.Choice{{Value: "1", Body: "one"}, {Value: "2", Body: "two"}, {Value: "", Body: "none"}}}
}

func target(path string) api.Target { return api.Target{Authority: "x", Path: path} }

// rule is one of pages of x.
func rule(of string, push ...string) api.Rule {
	r := api.Rule{Of: target(of)}
	for _, path := range push {
		r.Push = append(r.Push, target(path))
	}
	return r
}

// world is that of the examples.
func world() api.World {
	return api.World{
		Server:  standard(),
		Client:  standard(),
		Conf:    usual(),
		Pages:   []api.Page{page("/a", "A"), page("/b", "B")},
		Rules:   []api.Rule{rule("/a", "/b")},
		Origins: []string{"https://x"},
	}
}

// worldWith is that of the examples, but for what a change makes of it.
func worldWith(change func(*api.World)) api.World {
	w := world()
	change(&w)
	return w
}

// get is a request for a page of x.
func get(path string, fields ...api.Field) api.Request {
	return api.Request{Method: "GET", Scheme: "https", Authority: "x", Path: path, Fields: fields}
}

func by(method string, r api.Request) api.Request {
	r.Method = method
	return r
}

func with(body string, r api.Request) api.Request {
	r.Body = body
	return r
}

// move is one that has a number alone.
func move(kind int, n int64) api.Move { return api.Move{Kind: kind, N: n} }

func ask(r api.Request) api.Move { return api.Move{Kind: moveAsk, Request: r} }

func put(p api.Page) api.Move { return api.Move{Kind: movePut, Page: p} }

func set(s api.Set) api.Move { return api.Move{Kind: moveSet, Set: s} }

// forge lays bytes into the pipe to the client (0) or to the server (1).
func forge(n int64, bytes string) api.Move { return api.Move{Kind: moveForge, N: n, Bytes: bytes} }

// oneRound is the four moves of a round.
func oneRound() []api.Move {
	return []api.Move{move(moveClient, 0), move(moveToServer, -1), move(moveServer, 0), move(moveToClient, -1)}
}

var endless = func() string {
	var b strings.Builder
	for i := 0; b.Len() < 70000; i++ {
		b.WriteString(string(rune('a'+i%26)) + strings.Repeat(string(rune('A'+i/26%26)), i%5))
	}
	return b.String()
}()

// long is a body of so many bytes, no two pieces of it alike.
func long(n int) string { return endless[:n] }
