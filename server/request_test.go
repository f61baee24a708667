package server_test

import (
	"fmt"
	"strings"
	"testing"

	"herald/api"
	"herald/lists"
	"herald/server"
)

func length(s string) api.Field { return api.Field{Name: "content-length", Value: s} }

// comes lets a request's body come, in these pieces; the last one ends it.
func (b *both) comes(id int64, pieces ...string) {
	b.t.Helper()
	for i, piece := range pieces {
		b.recv(bytes(dataFrame(id, piece, i == len(pieces)-1)))
	}
}

// wantAnswer wants one stream to be ready, with this head.
func (b *both) wantAnswer(id int64, status string, length int, end bool) {
	b.t.Helper()
	b.wantReady(id)
	b.wantStep(0, answered(id, status, length, end))
}

// TestBodies: a request with a body is served when its end has come, and not ahead
// of that.
func TestBodies(t *testing.T) {
	for _, more := range [][]api.Field{nil, {length("8")}, {length("0000000008")}} {
		for _, pieces := range [][]string{{"the body"}, {"the", " body"}, {"", "the body"}, {"the body", ""}, {"", "t", "", "he", " body", "", ""}} {
			b := begun(t)
			id := b.begin("GET", "/c", more...)
			b.wantIdle()
			for i, piece := range pieces {
				b.wantLog()
				b.recv(bytes(dataFrame(id, piece, i == len(pieces)-1)))
				if i < len(pieces)-1 {
					b.wantReady()
					b.wantStep(0)
					b.wantIdle()
				}
			}
			b.wantLog(served(id, 1))
			b.wantAnswer(id, "200", 2, false)
			b.wantStep(0, dataEvent(id, "CC", true))
			b.wantIdle()
			b.whole()
		}
	}
}

// TestRequestsInTurns: several come at one time, each is served by its own end.
func TestRequestsInTurns(t *testing.T) {
	b := begun(t)
	one, two, three := b.begin("GET", "/a"), b.begin("POST", "/c", length("2")), b.begin("HEAD", "/c")
	b.recv(bytes(dataFrame(two, "x", false)))
	b.comes(three, "three", "")
	b.wantLog(served(three, 1))
	b.mustPut(page("/c", "new"))
	b.recv(bytes(dataFrame(one, "x", false)))
	b.comes(two, "y")
	b.wantLog(served(three, 1), served(two, 2))
	b.recv(bytes(resetFrame(one, cancel)))
	b.wantReady(two, three)
	b.wantStep(0, headEvent(two, lists.Of(":status", "405", "content-length", "0", "allow", "GET, HEAD"), true))
	b.wantStep(0, answered(three, "200", 2, true))
	b.wantIdle()
	b.whole()
}

// TestHeadInPieces: HEADERS with CONTINUATIONs, with padding and with a priority.
func TestHeadInPieces(t *testing.T) {
	b := begun(t)
	block := blockOf(request("GET", "/c"))
	b.recv(raw(1, 1, 1, "") + raw(9, 0, 1, block[:3]) + raw(9, 0, 1, block[3:]))
	b.wantLog()
	b.wantIdle()
	b.recv(raw(9, 4, 1, ""))
	b.wantLog(served(1, 1))
	b.wantStep(0, answered(1, "200", 2, false))
	b.recv(raw(1, 1|4|8|32, 3, "\x03\x00\x00\x00\x00\x07"+block+"\x00\x00\x00"))
	b.wantReady(1, 3)
	b.wantStep(1, answered(3, "200", 2, false))
	b.recv(raw(1, 4, 5, block) + raw(0, 8, 5, "\x02body\x00\x00") + raw(0, 1|8, 5, "\x00"))
	b.wantReady(1, 3, 5)
	b.wantLog(served(1, 1), served(3, 1), served(5, 1))
	b.whole()
}

// wrongHeads are lists that are no request's.
func wrongHeads() [][]api.Field {
	right := request("GET", "/a")
	all := [][]api.Field{
		nil, right[1:], right[:3], lists.Of(":status", "200"), lists.Joined(right, right[0]), lists.Put(right, 0, api.Field{Name: "a", Value: "b"}),
		lists.Filled(right, 65), request("", "/a"), request("G T", "/a"), request("GET", "a"), request("GET", ""), request("GET", "*"), request("GET", "/a b"),
		lists.Joined(right, api.Field{Name: "A", Value: "b"}), lists.Joined(right, api.Field{Name: "a", Value: " b"}), lists.Joined(right, api.Field{Name: "", Value: ""}),
		lists.Joined(right, api.Field{Name: "connection", Value: "close"}), lists.Joined(right, api.Field{Name: "te", Value: "gzip"}), lists.Joined(right, api.Field{Name: ":x", Value: "1"}),
		lists.Instead(right, 1, api.Field{Name: ":scheme", Value: "HTTP"}), lists.Instead(right, 2, api.Field{Name: ":authority", Value: ""}),
	}
	for _, s := range []string{"", "-1", "+1", "1a", "12345678901", "2147483648", "0x1"} {
		all = append(all, request("GET", "/a", length(s)))
	}
	return append(all, request("GET", "/a", length("0"), length("0")))
}

// TestWrongHeads: their streams are reset, and nothing else is harmed.
func TestWrongHeads(t *testing.T) {
	for _, l := range wrongHeads() {
		for _, end := range []bool{true, false} {
			b := begun(t)
			id := b.next()
			b.note("%s", lists.Shown(l))
			b.recv(bytes(headersFrame(id, l, end)))
			b.wantLog()
			b.wantReady()
			b.wantBusy()
			b.recv(bytes(windowFrame(id, 1), resetFrame(id, 0))) // they crossed
			if !end {
				b.comes(id, "late", "")
			}
			b.wantStep(0, resetEvent(id, protocol))
			b.wantIdle()
			wantStillServes(b)
		}
	}
}

// wantStillServes asks for a page, as if nothing had been.
func wantStillServes(b *both) {
	b.t.Helper()
	before := len(b.s.Log())
	id := b.ask("GET", "/c")
	b.wantReady(id)
	b.wantStep(0, answered(id, "200", 2, false))
	b.wantStep(0, dataEvent(id, "CC", true))
	b.wantIdle()
	if log := b.s.Log(); len(log) != before+1 || log[before] != served(id, b.s.Version()) {
		b.t.Fatalf("P22.2: %s: Log() = %v", b.history(), log)
	}
	b.whole()
}

// TestRightHeads: those that stand beside the wrong ones.
func TestRightHeads(t *testing.T) {
	right := request("GET", "/c")
	for _, l := range [][]api.Field{
		lists.Filled(right, 64), {right[3], right[1], right[0], right[2]}, request("GET", "/c", length("0")), request("GET", "/c", length("0000000000")),
		request("GET", "/c", api.Field{Name: "te", Value: "trailers"}), request("GET", "/c", api.Field{Name: "a", Value: "b", Never: true}),
	} {
		b := begun(t)
		b.recv(bytes(headersFrame(1, l, true)))
		b.wantLog(served(1, 1))
		b.wantAnswer(1, "200", 2, false)
	}
}

// TestSecondHead: wherever it comes, and whatever is in it, its stream is reset.
func TestSecondHead(t *testing.T) {
	for _, pieces := range [][]string{nil, {""}, {"bo"}, {"bo", "dy"}} {
		for _, end := range []bool{true, false} {
			for _, l := range [][]api.Field{request("GET", "/a"), lists.Of("trailer", "x"), nil, {length("9")}} {
				b := begun(t)
				id := b.begin("POST", "/a", length("4"))
				for _, piece := range pieces {
					b.recv(bytes(dataFrame(id, piece, false)))
				}
				b.note("%s", lists.Shown(l))
				b.recv(bytes(headersFrame(id, l, end)))
				b.wantLog()
				b.wantReady()
				b.wantBusy()
				b.recv(bytes(dataFrame(id, "", true))) // it was under way
				b.recv(bytes(headersFrame(id, request("GET", "/a"), true)))
				b.wantStep(0, resetEvent(id, protocol))
				b.wantIdle()
				wantStillServes(b)
			}
		}
	}
}

// TestHeadBehindTheEnd: the conn resets the stream, and the work is gone.
func TestHeadBehindTheEnd(t *testing.T) {
	b := begun(t)
	b.ask("GET", "/a")
	b.wantStep(0, pushed(1, 2, "/b"))
	b.recv(bytes(headersFrame(1, request("GET", "/a"), true)))
	b.wantReady(2)
	b.wantStep(0, resetEvent(1, api.StreamClosed), answered(2, "200", 0, true))
	b.wantIdle()
	b.ask("GET", "/a")
	b.recv(bytes(dataFrame(3, "more", false)))
	b.wantReady()
	b.wantStep(0, resetEvent(3, api.StreamClosed))
	b.wantIdle()
	b.wantLog(served(1, 1), servedPush(2, 1), served(3, 1))
	b.whole()
}

// TestLengths: bodies of just the length that was told, and of others.
func TestLengths(t *testing.T) {
	for _, x := range []struct {
		length string
		pieces []string // the last one ends the stream
		at     int      // which piece is refused; below 0: none
	}{
		{"4", []string{"body"}, -1}, {"4", []string{"bo", "", "dy"}, -1}, {"4", []string{"body", ""}, -1}, {"0", []string{""}, -1}, {"0", []string{"", ""}, -1},
		{"4", []string{""}, 0}, {"4", []string{"bod"}, 0}, {"4", []string{"bod", ""}, 1}, {"4", []string{"bodyx"}, 0}, {"4", []string{"bodyx", ""}, 0}, {"4", []string{"body", "x"}, 1},
		{"4", []string{"body", "x", ""}, 1}, {"0", []string{"x"}, 0}, {"0", []string{"x", ""}, 0}, {"0", []string{"", "x"}, 1}, {"2147483647", []string{"x"}, 0}, {"2147483647", []string{"x", ""}, 1},
	} {
		b := begun(t)
		id := b.begin("POST", "/a", length(x.length))
		for i, piece := range x.pieces {
			b.wantLog()
			b.recv(bytes(dataFrame(id, piece, i == len(x.pieces)-1)))
			if i == x.at {
				b.wantLog()
				b.wantReady()
				b.wantBusy()
				b.wantStep(0, resetEvent(id, protocol))
			}
		}
		if x.at < 0 {
			b.wantLog(served(id, 1))
			b.wantStep(0, headEvent(id, lists.Of(":status", "405", "content-length", "0", "allow", "GET, HEAD"), true))
		} else {
			b.step(0) // what comes late is given back
		}
		b.wantIdle()
		wantStillServes(b)
	}
	b := begun(t)
	b.ask("POST", "/a", length("1")) // its head ends it
	b.wantLog()
	b.wantStep(0, resetEvent(1, protocol))
	b.wantIdle()
	wantStillServes(b)
}

// TestLongBodies: at api.MaxBody, and one byte above.
func TestLongBodies(t *testing.T) {
	full := strings.Repeat(bytes(dataFrame(1, long(16384), false)), 3)
	for _, x := range []struct {
		more   []api.Field
		rest   string
		last   bool
		code   int64 // 0: it isn't refused
		served bool
	}{
		{nil, long(16384), true, 0, true}, {nil, long(16384), false, 0, false}, {nil, long(16383), true, 0, true},
		{[]api.Field{length("65536")}, long(16384), true, 0, true}, {[]api.Field{length("65536")}, long(16383), true, protocol, false}, {[]api.Field{length("65535")}, long(16384), false, protocol, false},
		{[]api.Field{length("70000")}, long(16384), false, 0, false}, {[]api.Field{length("70000")}, long(16384), true, protocol, false},
	} {
		b := begun(t)
		b.begin("GET", "/c", x.more...)
		b.recv(full)
		b.recv(bytes(dataFrame(1, x.rest, x.last)))
		if (len(b.s.Log()) == 1) != x.served {
			t.Errorf("P22.2: %s: Log() = %v", b.history(), b.s.Log())
		}
		var want []api.Event
		switch {
		case x.code > 0:
			want = append(want, resetEvent(1, x.code))
		case x.served:
			want = append(want, answered(1, "200", 2, false))
		}
		b.wantStep(0, want...)
		if x.code > 0 || x.last {
			continue
		}
		b.wantIdle()
		b.recv(bytes(dataFrame(1, "x", true)))
		b.wantLog()
		b.wantStep(0, resetEvent(1, calm))
		b.wantIdle()
		wantStillServes(b)
	}
	b := begun(t)
	b.begin("GET", "/c")
	b.recv(full + bytes(dataFrame(1, long(16384), false), dataFrame(1, "", true)))
	b.wantLog(served(1, 1))
	b.wantAnswer(1, "200", 2, false)
}

// TestMethods: each one, of pages that there are and of one that there is not.
func TestMethods(t *testing.T) {
	for _, method := range []string{"GET", "HEAD", "POST", "PUT", "OPTIONS", "get", "GETS", "G", "~", strings.Repeat("M", 64)} {
		for _, path := range []string{"/a", "/c", "/b", "/q"} {
			b := begun(t)
			b.ask(method, path)
			b.wantLog(served(1, 1))
			r := api.Request{Method: method, Scheme: "https", Authority: "x", Path: path}
			a, _ := b.s.Serve(1, r)
			if path == "/a" && method == "GET" {
				b.wantStep(0, pushed(1, 2, "/b"))
				b.wantStep(0, pushed(1, 4, "/c"))
			}
			b.wantStep(0, headEvent(1, lists.Joined(lists.Of(":status", fmt.Sprint(a.Status)), a.Fields...), a.Body == ""))
			if a.Body != "" {
				b.wantStep(0, dataEvent(1, a.Body, true))
			}
			if path != "/a" || method != "GET" {
				b.wantIdle()
				b.wantLog(served(1, 1))
			}
			b.whole()
		}
	}
	b := begun(t)
	b.recv(bytes(headersFrame(1, request("OPTIONS", "*"), true)))
	b.wantAnswer(1, "404", 0, true)
}

// TestOtherNames: a page's authority and path are taken byte by byte.
func TestOtherNames(t *testing.T) {
	b := begun(t)
	for i, authority := range []string{"X", "x:443", "y", "x."} {
		id := int64(2*i + 1)
		b.recv(bytes(headersFrame(id, lists.Instead(request("GET", "/a"), 2, api.Field{Name: ":authority", Value: authority}), true)))
		b.wantAnswer(id, "404", 0, true)
		b.wantIdle()
	}
	b.recv(bytes(headersFrame(9, request("GET", "/a?"), true)))
	b.wantAnswer(9, "404", 0, true)
	b.whole()
}

// TestChoices: which body a page has hangs on the request's fields, a promised
// one's on none.
func TestChoices(t *testing.T) {
	pages := []api.Page{page("/a", "A"), varied("/v", "accept", "x", "for x", "", "for none", "y", "for y"), varied("/w", "*", "", "star")}
	b := begunWith(t, pages, []api.Rule{rule("/a /v /w")})
	for value, body := range map[string]string{"x": "for x", "y": "for y", "": "for none", "z": "for y"} {
		id := b.ask("GET", "/v", api.Field{Name: "accept", Value: value}, api.Field{Name: "accept", Value: "x"})
		b.wantStep(0, headEvent(id, lists.Of(":status", "200", "content-length", fmt.Sprint(len(body)), "vary", "accept"), false))
		b.wantStep(0, dataEvent(id, body, true))
	}
	id := b.ask("GET", "/a", api.Field{Name: "accept", Value: "x"})
	b.wantStep(0, pushed(id, 2, "/v"))
	b.wantStep(-1, pushed(id, 4, "/w"))
	b.wantReady(2, 4, id)
	b.wantStep(0, headEvent(2, lists.Of(":status", "200", "content-length", "8", "vary", "accept"), false))
	b.wantStep(0, dataEvent(2, "for none", true))
	b.wantStep(0, headEvent(4, lists.Of(":status", "200", "content-length", "4", "vary", "*"), false))
	b.wantStep(0, dataEvent(4, "star", true))
	b.whole()
}

// TestStatuses: a page's own status is told, with its body and what it pushes.
func TestStatuses(t *testing.T) {
	for _, status := range []int{200, 201, 206, 299, 301, 404, 500, 599} {
		p, q := page("/a", "A"), page("/b", "B")
		p.Status, q.Status = status, status
		b := begunWith(t, []api.Page{p, q}, []api.Rule{rule("/a /b")})
		b.ask("GET", "/a")
		b.wantStep(0, pushed(1, 2, "/b"))
		b.wantStep(0, answered(1, fmt.Sprint(status), 1, false))
		b.wantStep(1, answered(2, fmt.Sprint(status), 1, false))
		b.wantStep(0, dataEvent(1, "A", true))
		b.wantStep(0, dataEvent(2, "B", true))
		b.wantIdle()
		b.whole()
	}
}

// clientTexts are bytes of clients in which much comes about.
func clientTexts() []string {
	begin := api.Preface + bytes(settingsFrame(param(api.SetStreams, 1), param(api.SetWindow, 3)))
	piece := blockOf(request("GET", "/c", api.Field{Name: "accept", Value: "x"}))
	asks := bytes(headersFrame(1, request("GET", "/a"), true), headersFrame(3, request("POST", "/a", length("4")), false), dataFrame(3, "bo", false), pingFrame("12345678"), dataFrame(3, "dy", true)) +
		raw(1, 1, 5, piece[:9]) + raw(9, 4, 5, piece[9:]) + bytes(headersFrame(7, request("GET", "/c"), false), dataFrame(7, "", true))
	wrong := bytes(headersFrame(9, request("GET", "/a")[1:], true), headersFrame(11, request("GET", "/a", length("3")), false), dataFrame(11, "four", false), headersFrame(13, request("GET", "/c"), false),
		headersFrame(13, nil, true), windowFrame(7, 1), resetFrame(5, cancel))
	return []string{
		begin + asks,
		begin + asks + wrong + bytes(headersFrame(15, request("HEAD", "/c"), true)),
		begin + asks + bytes(goAwayFrame(0, 0), headersFrame(9, request("GET", "/a"), true)),
		begin + asks + bytes(settingsFrame(param(api.SetPush, 0), param(api.SetWindow, 0)), settingsFrame(param(api.SetList, 60))) + wrong,
		begin + asks + raw(0, 0, 99, "dead") + wrong,
		"GET / HTTP/1.1\r\n\r\n" + begin,
	}
}

// told is all that a server tells: each look, and what it sends in so many steps.
func told(s *server.Server) string {
	var b strings.Builder
	for i := range 40 {
		code, dead := s.Dead()
		fmt.Fprintln(&b, s.Version(), s.Log(), s.Ready(), s.Idle(), code, dead, s.Theirs())
		fmt.Fprintf(&b, "%x\n", s.Step(i*i-3))
	}
	for _, x := range s.Trace() {
		fmt.Fprintln(&b, x)
	}
	return b.String()
}

func newServer() *server.Server {
	s, _ := server.New(standard(), abc(), abcRules())
	return s
}

// TestCutAnywhere: every text in two pieces at each byte, byte by byte, and with
// empty pieces.
func TestCutAnywhere(t *testing.T) {
	for i, text := range clientTexts() {
		s := newServer()
		s.Recv(text)
		want := told(s)
		for at := range len(text) + 1 {
			s := newServer()
			s.Recv(text[:at])
			s.Recv("")
			s.Recv(text[at:])
			if got := told(s); got != want {
				t.Fatalf("P22.1: text %d cut at %d tells\n%s\nwant\n%s", i, at, got, want)
			}
		}
		s = newServer()
		for at := range len(text) {
			s.Recv(text[at : at+1])
		}
		if got := told(s); got != want {
			t.Errorf("P22.1: text %d byte by byte tells\n%s\nwant\n%s", i, got, want)
		}
	}
}

// TestTextsAgainstTheModel: the texts are told as the model tells them, and alike
// each time.
func TestTextsAgainstTheModel(t *testing.T) {
	for i, text := range clientTexts() {
		b := newBoth(t, standard(), abc(), abcRules())
		b.recv(text)
		for pick := range 40 {
			b.step(pick*pick - 3)
		}
		b.whole()
		if _, dead := b.s.Dead(); dead != (i > 3) {
			t.Errorf("text %d: dead is %v", i, dead)
		}
		s := newServer()
		s.Recv(text)
		want := told(s)
		for range 5 {
			s := newServer()
			s.Recv(text)
			if got := told(s); got != want {
				t.Fatalf("R4: text %d tells once\n%s\nand once\n%s", i, want, got)
			}
		}
	}
}
