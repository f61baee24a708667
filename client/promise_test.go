package client_test

import (
	"fmt"
	"testing"

	"herald/api"
	"herald/lists"
)

// wantPromise wants a promise to be reset with a code at once, just once; of 0: to be
// under way.
func wantPromise(b *both, on int64, l []api.Field, code int64) int64 {
	b.t.Helper()
	pending, answers := b.c.Pending(), len(b.c.Answers())
	id := b.promise(on, l)
	if code == 0 {
		b.wantStep(0)
		pending++
	} else {
		b.wantBusy()
		b.wantStep(0, resetEvent(id, code))
		if s := b.m.c.State(id); s != closed {
			b.t.Fatalf("P23.5: %s: stream %d is in state %d", b.history(), id, s)
		}
	}
	if b.c.Pending() != pending || len(b.c.Answers()) != answers {
		b.t.Fatalf("P23.5: %s: %d pend", b.history(), b.c.Pending())
	}
	b.wantIdle()
	b.wantAlive()
	return id
}

// at is a list that promises a path of an authority.
func at(scheme, authority, path string) []api.Field {
	return lists.Of(":method", "GET", ":scheme", scheme, ":authority", authority, ":path", path)
}

// wrongPromises are lists that message refuses.
func wrongPromises() [][]api.Field {
	right := listOf(get("/q"))
	return [][]api.Field{
		nil, right[1:], right[:3], lists.Without(right, 1), lists.Without(right, 2), lists.Joined(right, right[0]), lists.Joined(right, api.Field{Name: ":status", Value: "200"}),
		lists.Put(right, 0, api.Field{Name: "a", Value: "b"}), lists.Joined(right, api.Field{Name: "A", Value: "b"}), lists.Joined(right, api.Field{Name: "a", Value: " b"}),
		lists.Joined(right, lists.Of("connection", "close")...), lists.Instead(right, 3, api.Field{Name: ":path", Value: "q"}), lists.Instead(right, 2, api.Field{Name: ":authority", Value: ""}),
		lists.Filled(right, 65), status("200"),
		lists.Joined(right, length("")), lists.Joined(right, length("a")), lists.Joined(right, length("0"), length("0")), lists.Joined(right, length("-0")), lists.Joined(right, length("00000000000")),
	}
}

// TestWrongPromises: what message refuses, other methods, a content-length.
func TestWrongPromises(t *testing.T) {
	b := flown(t)
	for _, l := range wrongPromises() {
		wantPromise(b, 1, l, protocol)
	}
	for _, method := range []string{"POST", "PUT", "DELETE", "OPTIONS", "get", "head", "GETS", "CONNECT", "PATCH"} {
		wantPromise(b, 1, listOf(by(method, get("/q"))), protocol)
		wantPromise(b, 1, listOf(by(method, get("/q", length("0")))), protocol)
	}
	for _, s := range []string{"1", "00", "0000000000", "01", "65536", "2147483647"} {
		wantPromise(b, 1, listOf(get("/q", length(s))), protocol)
		wantPromise(b, 1, listOf(by("HEAD", get("/q", length(s)))), protocol)
	}
	b.wantCounts(0, 1, 0)
	wantPromise(b, 1, listOf(get("/q", length("0"))), 0)
	wantPromise(b, 1, listOf(by("HEAD", get("/q"))), 0)
	wantPromise(b, 1, lists.Filled(listOf(get("/q")), 64), 0)
	wantPromise(b, 1, lists.Of(":path", "/q", ":authority", "x", ":scheme", "https", ":method", "GET"), 0)
	b.wantCounts(0, 1, 4)
	b.wantAnswers()
	b.whole()
}

// TestWrongPromisesAheadOfAll: what is wrong comes ahead of how many there are, and that
// ahead of what the cache holds.
func TestWrongPromisesAheadOfAll(t *testing.T) {
	b := flown(t)
	b.push(1, "/b", "B")
	b.step(0)
	for i := range 4 {
		wantPromise(b, 1, listOf(get(fmt.Sprint("/", i))), 0)
	}
	wantPromise(b, 1, listOf(get("/b")), refused)
	wantPromise(b, 1, listOf(get("/new")), refused)
	for _, l := range wrongPromises() {
		wantPromise(b, 1, l, protocol)
	}
	wantPromise(b, 1, listOf(by("PUT", get("/b"))), protocol)
	wantPromise(b, 1, listOf(get("/b", length("1"))), protocol)
	wantPromise(b, 1, at("https", "y", "/b"), protocol)
	b.recv(bytes(resetFrame(4, 0)))
	wantPromise(b, 1, listOf(get("/b")), cancel)
	wantPromise(b, 1, listOf(get("/new")), 0)
	wantPromise(b, 1, listOf(get("/b")), refused)
	b.whole()
}

// TestOrigins: those of the set, however they are spelt, and no others.
func TestOrigins(t *testing.T) {
	conf := usual()
	conf.Pending = 64
	b := newBoth(t, standard(), conf, "https://x", "HTTP://Sub.Example.com:8080", "http://plain")
	b.meets()
	b.fly(get("/a"))
	ours := [][2]string{{"https", "x"}, {"https", "X"}, {"https", "x:443"}, {"https", "X:443"}, {"http", "sub.example.com:8080"}, {"http", "SUB.example.COM:8080"}, {"http", "plain"}, {"http", "plain:80"}, {"http", "PLAIN:80"}}
	for _, o := range ours {
		wantPromise(b, 1, at(o[0], o[1], "/q"), 0)
	}
	for _, o := range [][2]string{
		{"http", "x"}, {"https", "x:80"}, {"https", "x:444"}, {"https", "y"}, {"https", "xx"}, {"https", "a.x"}, {"https", "x.a"}, {"https", "x."}, {"https", ".x"}, {"https", "u@x"}, {"https", "x:"}, {"https", "x:0443"}, {"https", "x/"}, {"https", "[x]"},
		{"https", "sub.example.com:8080"}, {"http", "sub.example.com"}, {"http", "example.com:8080"}, {"https", "plain"}, {"http", "plain:443"}, {"http", "plain:8080"}, {"ftp", "x"}, {"httpss", "x"}, {"https", "x:65536"}, {"https", "https://x"},
	} {
		wantPromise(b, 1, at(o[0], o[1], "/q"), protocol)
	}
	b.wantCounts(0, 1, len(ours))
	b.whole()
}

// TestOriginsAreSpeltAsAsked: what was promised under one spelling answers no other.
func TestOriginsAreSpeltAsAsked(t *testing.T) {
	b := flown(t)
	id := b.promise(1, at("https", "X:443", "/q"))
	b.reply(id, "Q")
	b.wantHeld(1, 1)
	b.wantWaits(get("/q"))
	r := get("/q")
	r.Authority = "X:443"
	b.asks(r)
	b.wantAnswers(cached(3, id, "Q"))
	b.whole()
}

// TestNoOrigins: without any every promise is foreign.
func TestNoOrigins(t *testing.T) {
	b := newBoth(t, standard(), usual())
	b.meets()
	b.fly(get("/a"))
	wantPromise(b, 1, listOf(get("/b")), protocol)
	b.reply(1, "A")
	b.wantAnswers(direct(1, 1, "A"))
	b.whole()
}

// TestPending: as many as the conf says are under way, none more; what is kept, reset,
// wrong or too old makes room.
func TestPending(t *testing.T) {
	for _, most := range []int{0, 1, 2, 5, 64} {
		conf := usual()
		conf.Pending = int64(most)
		b := begunWith(t, conf)
		b.fly(get("/a"))
		first := b.promised + 2
		for i := range most {
			wantPromise(b, 1, listOf(get(fmt.Sprint("/", i))), 0)
		}
		wantPromise(b, 1, listOf(get("/more")), refused)
		for i, room := range []func(id int64){
			func(id int64) { b.reply(id, "kept") },
			func(id int64) { b.reply(id, long(2000)) }, // not kept
			func(id int64) { b.recv(bytes(resetFrame(id, 0))) },
			func(id int64) {
				b.recv(bytes(headersFrame(id, nil, false)))
				b.wantStep(0, resetEvent(id, protocol))
			},
			func(id int64) { b.recv(bytes(headersFrame(id, nil, true))) },
		} {
			if most == 0 {
				break
			}
			room(first)
			b.step(0)
			b.wantCounts(0, 1, most-1)
			wantPromise(b, 1, listOf(get(fmt.Sprint("/new", i))), 0)
			wantPromise(b, 1, listOf(get("/more")), refused)
			b.wantCounts(0, 1, most)
			if first = b.m.pending()[0].stream; most > 1 {
				first = b.m.pending()[most/2].stream
			}
		}
		b.tick(11)
		b.wantCounts(0, 1, 0)
		b.step(0)
		if most > 0 {
			wantPromise(b, 1, listOf(get("/more")), 0)
		}
		b.whole()
	}
}

// TestPromisesOfWhatIsHeld: while it is held, and not when it was claimed, thrown out or
// is too old; by the fields that its response names.
func TestPromisesOfWhatIsHeld(t *testing.T) {
	b := flown(t)
	b.push(1, "/b", "B")
	b.step(0)
	wantPromise(b, 1, listOf(get("/b")), cancel)
	wantPromise(b, 1, listOf(get("/b", lists.Of("accept", "x")...)), cancel)
	wantPromise(b, 1, listOf(by("HEAD", get("/b"))), 0)
	b.asks(get("/b"))
	b.wantAnswers(cached(2, 2, "B"))
	id := wantPromise(b, 1, listOf(get("/b")), 0)
	wantPromise(b, 1, listOf(get("/b")), 0) // what is under way isn't held
	b.reply(id, "B2")
	b.step(0)
	wantPromise(b, 1, listOf(get("/b")), cancel)
	b.tick(10)
	wantPromise(b, 1, listOf(get("/b")), cancel)
	b.tick(11)
	b.wantStep(0, resetEvent(8, cancel), resetEvent(12, cancel))
	wantPromise(b, 1, listOf(get("/b")), 0)
	b.whole()

	b = flown(t)
	id = b.promise(1, listOf(get("/v", lists.Of("accept", "x")...)))
	b.recv(bytes(headersFrame(id, status("200", lists.Of("vary", "accept")...), true)))
	wantPromise(b, 1, listOf(get("/v", lists.Of("accept", "x")...)), cancel)
	wantPromise(b, 1, listOf(get("/v", lists.Of("accept", "y")...)), 0)
	wantPromise(b, 1, listOf(get("/v")), 0)
	b.whole()

	conf := usual()
	conf.Entries = 1
	b = begunWith(t, conf)
	b.fly(get("/a"))
	b.push(1, "/b", "B")
	b.push(1, "/c", "C")
	b.step(0)
	wantPromise(b, 1, listOf(get("/c")), cancel)
	wantPromise(b, 1, listOf(get("/b")), 0)
	b.whole()
}

// TestPromisesOfAnsweredStreams: promises all the same, where the conn lets them come.
func TestPromisesOfAnsweredStreams(t *testing.T) {
	b := flown(t)
	b.recv(bytes(goAwayFrame(0, 0)))
	b.wantAnswers(failed(1, refused))
	id := wantPromise(b, 1, listOf(get("/b")), 0)
	wantPromise(b, 1, at("https", "y", "/"), protocol)
	b.reply(id, "B")
	b.wantHeld(1, 1)
	b.step(0)
	wantPromise(b, 1, listOf(get("/b")), cancel)
	b.asks(get("/b"))
	b.wantAnswers(cached(2, id, "B"))
	b.asks(get("/b"))
	b.wantAnswers(failed(3, refused))
	b.whole()
}

// TestPromisesOfCancelledStreams: the conn resets them, and tells no promise.
func TestPromisesOfCancelledStreams(t *testing.T) {
	b := flown(t)
	b.cancel(1)
	b.step(0)
	for _, l := range [][]api.Field{listOf(get("/b")), listOf(by("POST", get("/b"))), at("https", "y", "/"), nil} {
		wantPromise(b, 1, l, cancel)
	}
	b.wantCounts(0, 0, 0)
	b.reply(2, "late")
	b.wantHeld(0, 0)
	b.whole()

	b = flown(t)
	b.recv(bytes(headersFrame(1, nil, false)))
	b.wantAnswers(failed(1, protocol))
	b.step(0)
	wantPromise(b, 1, listOf(get("/b")), cancel)
	b.whole()
}

// TestPromisesOfClosedStreams: of a stream that is over, or that the server reset, the
// conn dies.
func TestPromisesOfClosedStreams(t *testing.T) {
	for name, over := range map[string]func(b *both){
		"whole":     func(b *both) { b.reply(1, "A") },
		"reset":     func(b *both) { b.recv(bytes(resetFrame(1, 8))) },
		"not asked": func(b *both) { b.promised = 2 },
	} {
		b := flown(t)
		on := int64(1)
		if name == "not asked" {
			on = 3
		}
		over(b)
		b.promise(on, listOf(get("/b")))
		if code, dead := b.c.Dead(); !dead || code != protocol {
			t.Errorf("P23.1: %s: %s: Dead() = %d, %v", name, b.history(), code, dead)
		}
		b.wantCounts(0, 0, 0)
		b.whole()
	}
}

// TestPromisesWithoutPush: a client that has said Push 0, and was heard, gets none.
func TestPromisesWithoutPush(t *testing.T) {
	set := standard()
	set.Push = 0
	b := newBoth(t, set, usual(), "https://x")
	b.wantStep(0, settled())
	b.recv(bytes(settingsFrame()))
	b.wantStep(0, acked())
	b.fly(get("/a"))
	wantPromise(b, 1, listOf(get("/b")), 0) // it wasn't acknowledged
	b.recv(bytes(ackFrame()))
	b.promise(1, listOf(get("/c")))
	if code, dead := b.c.Dead(); !dead || code != protocol {
		t.Errorf("P23.1: %s: Dead() = %d, %v", b.history(), code, dead)
	}
	b.wantAnswers(failed(1, protocol))
	b.wantCounts(0, 0, 0)
	b.whole()
}

// TestPromisesAboveOurs: a list above ours List is reset by the conn, and tells no promise.
func TestPromisesAboveOurs(t *testing.T) {
	b := flown(t)
	set := standard()
	set.List = 65536
	b.settings(set)
	b.step(0)
	b.recv(bytes(ackFrame()))
	l := blockOf(listOf(sized(65537)))
	text := bytes(api.Frame{Type: api.FramePromise, Stream: 1, Last: 2, Data: l[:16000]})
	for l = l[16000:]; len(l) > 16000; l = l[16000:] {
		text += bytes(api.Frame{Type: api.FrameContinuation, Stream: 1, Data: l[:16000]})
	}
	text += bytes(api.Frame{Type: api.FrameContinuation, Flags: api.EndHeaders, Stream: 1, Data: l})
	b.recv(text)
	b.wantCounts(0, 1, 0)
	b.wantStep(0, resetEvent(2, calm))
	b.promised = 2
	wantPromise(b, 1, listOf(get("/b")), 0)
	b.whole()
}
