package client_test

import (
	"fmt"
	"strings"
	"testing"

	"herald/api"
	"herald/lists"
)

// ways are the two kinds of streams on which a response comes: each is a client on
// whose stream one is to come, to a request by a method.
type way struct {
	name string
	made func(t *testing.T, method string) (*both, int64)
	// wantWhole wants the response to have come whole, wantWrong its stream to be at its
	// end with a code; isOver: it was closed by what came.
	wantWhole func(b *both, id int64, a api.Response)
	wantWrong func(b *both, id, code int64, isOver bool)
}

func ways() []way {
	return []way{
		{"a request's", func(t *testing.T, method string) (*both, int64) {
			b := begunWith(t, api.Conf{})
			return b, b.fly(by(method, get("/a")))
		}, func(b *both, id int64, a api.Response) {
			b.t.Helper()
			b.wantAnswers(api.Answer{Number: 1, Stream: id, Response: a})
			wantOver(b, id)
		}, func(b *both, id, code int64, isOver bool) {
			b.t.Helper()
			b.wantAnswers(failed(1, code))
			wantReset(b, id, code, isOver)
		}},
		{"a promised", func(t *testing.T, method string) (*both, int64) {
			b := begunWith(t, api.Conf{Entries: 4, Bytes: 1000000, Life: 10, Pending: 4})
			b.fly(get("/page"))
			id := b.promise(1, listOf(by(method, get("/a"))))
			b.wantCounts(0, 1, 1)
			return b, id
		}, func(b *both, id int64, a api.Response) {
			b.t.Helper()
			b.wantCounts(0, 1, 0)
			wantOver(b, id)
			b.wantHeld(1, int64(len(a.Body))+sizeOf(a.Fields))
			p := b.m.promises[0].asked
			n := b.asks(p)
			b.wantAnswers(api.Answer{Number: n, Cached: true, Stream: id, Response: a})
		}, func(b *both, id, code int64, isOver bool) {
			b.t.Helper()
			b.wantAnswers()
			b.wantCounts(0, 1, 0)
			wantReset(b, id, code, isOver)
			b.wantHeld(0, 0)
			b.wantWaits(get("/a"))
		}},
	}
}

// wantOver wants a stream to be closed without a reset.
func wantOver(b *both, id int64) {
	b.t.Helper()
	for range 3 {
		for _, e := range b.step(0) {
			if e.Kind == api.EventReset {
				b.t.Fatalf("P23.5: %s: %s", b.history(), shownEvents([]api.Event{e}))
			}
		}
	}
	if s := b.m.c.State(id); s != closed {
		b.t.Fatalf("P23.1: %s: stream %d is in state %d", b.history(), id, s)
	}
	b.wantAlive()
	b.whole()
}

// wantReset wants RST_STREAM of a stream, once; isOver: none, it was closed already.
func wantReset(b *both, id, code int64, isOver bool) {
	b.t.Helper()
	var want []api.Event
	if !isOver {
		want = append(want, resetEvent(id, code))
	}
	b.wantStep(0, want...)
	wantOver(b, id)
}

// each does the same on both kinds of streams.
func each(t *testing.T, method string, do func(b *both, id int64, w way)) {
	t.Helper()
	for _, w := range ways() {
		b, id := w.made(t, method)
		b.note("%s stream", w.name)
		do(b, id, w)
	}
}

// TestResponses: whole in their head, with bodies in one DATA and in several.
func TestResponses(t *testing.T) {
	more := lists.Of("vary", "accept", "x-a", "b")
	for _, pieces := range [][]string{nil, {""}, {"a"}, {"ab", "c"}, {"", "a", "", "bc", ""}, {long(16384)}, {long(16384), long(16384), long(16384), long(16384)}} {
		body := strings.Join(pieces, "")
		for _, l := range [][]api.Field{nil, more, {length(fmt.Sprint(len(body)))}, lists.Joined(more, length("000000"+fmt.Sprint(len(body))))} {
			if len(l) > 2 && len(body) > 9999 {
				continue
			}
			each(t, "GET", func(b *both, id int64, w way) {
				b.recv(bytes(headersFrame(id, status("200", l...), len(pieces) == 0)))
				for i, piece := range pieces {
					b.wantAnswers()
					b.recv(bytes(dataFrame(id, piece, i == len(pieces)-1)))
				}
				w.wantWhole(b, id, api.Response{Status: 200, Fields: l, Body: body})
			})
		}
	}
}

// TestStatuses: those of a response, and those below 200.
func TestStatuses(t *testing.T) {
	for _, s := range []int{200, 204, 299, 304, 404, 500, 599} {
		each(t, "GET", func(b *both, id int64, w way) {
			b.recv(bytes(headersFrame(id, status(fmt.Sprint(s)), true)))
			w.wantWhole(b, id, api.Response{Status: s})
		})
	}
	for _, s := range []string{"100", "103", "199", "99", "600", "", "20", "0200", "abc"} {
		for _, end := range []bool{false, true} {
			each(t, "GET", func(b *both, id int64, w way) {
				b.recv(bytes(headersFrame(id, status(s), end)))
				w.wantWrong(b, id, protocol, end)
			})
		}
	}
}

// wrongHeads are lists that message refuses.
func wrongHeads() [][]api.Field {
	return [][]api.Field{
		nil, lists.Of("a", "b"), lists.Of("a", "b", ":status", "200"), lists.Of(":status", "200", ":status", "200"), lists.Of(":path", "/"),
		status("200", lists.Of("A", "b")...), status("200", lists.Of("a", " b")...), status("200", lists.Of(":path", "/")...),
		status("200", lists.Of("connection", "close")...), status("200", lists.Of("te", "gzip")...),
		lists.Filled(status("200"), 65), status("200", lists.Of("a", long(4097))...), listOf(get("/a")),
		status("200", length("")), status("200", length("-1")), status("200", length("a")), status("200", length("2147483648")), status("200", length("00000000001")),
		status("200", length("1"), length("1")), status("200", length("0"), length("0")), status("204", length("x")),
	}
}

func TestWrongHeads(t *testing.T) {
	for _, method := range []string{"GET", "HEAD"} {
		for _, l := range wrongHeads() {
			for _, end := range []bool{false, true} {
				each(t, method, func(b *both, id int64, w way) {
					b.recv(bytes(headersFrame(id, l, end)))
					w.wantWrong(b, id, protocol, end)
				})
			}
		}
	}
	each(t, "GET", func(b *both, id int64, w way) {
		b.recv(bytes(headersFrame(id, lists.Filled(status("200"), 64), true)))
		w.wantWhole(b, id, api.Response{Status: 200, Fields: lists.Filled(status("200"), 64)[1:]})
	})
}

// TestLengthsOfHeads: a head that ends its stream, and says that there is more.
func TestLengthsOfHeads(t *testing.T) {
	for _, s := range []string{"1", "0000000001", "65537", "2147483647"} {
		each(t, "GET", func(b *both, id int64, w way) {
			b.recv(bytes(headersFrame(id, status("200", length(s)), true)))
			w.wantWrong(b, id, protocol, true)
		})
		for method, code := range map[string]string{"HEAD": "200", "GET": "204"} {
			each(t, method, func(b *both, id int64, w way) {
				b.recv(bytes(headersFrame(id, status(code, length(s)), true)))
				w.wantWhole(b, id, api.Response{Status: map[string]int{"200": 200, "204": 204}[code], Fields: []api.Field{length(s)}})
			})
		}
	}
}

// TestSecondHead: behind a head none may come, with or without body between them.
func TestSecondHead(t *testing.T) {
	for _, between := range []string{"", "body"} {
		for _, second := range [][]api.Field{status("200"), status("404"), lists.Of("trailer", "x"), nil} {
			for _, end := range []bool{false, true} {
				each(t, "GET", func(b *both, id int64, w way) {
					b.recv(bytes(headersFrame(id, status("200"), false)))
					if between != "" {
						b.recv(bytes(dataFrame(id, between, false)))
						b.wantStep(0)
					}
					b.recv(bytes(headersFrame(id, second, end)))
					w.wantWrong(b, id, protocol, end)
				})
			}
		}
	}
}

// TestDataAheadOfAHead: of a request's stream; of a promised one the conn dies.
func TestDataAheadOfAHead(t *testing.T) {
	for _, text := range []string{"", "a", long(16384)} {
		for _, end := range []bool{false, true} {
			w := ways()[0]
			b, id := w.made(t, "GET")
			b.recv(bytes(dataFrame(id, text, end)))
			w.wantWrong(b, id, protocol, end)

			b, id = ways()[1].made(t, "GET")
			b.recv(bytes(dataFrame(id, text, end)))
			if code, dead := b.c.Dead(); !dead || code != protocol {
				t.Errorf("P23.1: %s: Dead() = %d, %v", b.history(), code, dead)
			}
			b.wantAnswers(failed(1, protocol))
			b.wantCounts(0, 0, 0)
			b.whole()
		}
	}
}

// TestBodiesAndLengths: shorter and longer than the length says.
func TestBodiesAndLengths(t *testing.T) {
	for size := range 5 {
		for cut := range size + 1 {
			for declared := range 6 {
				for _, endsApart := range []bool{false, true} {
					each(t, "GET", func(b *both, id int64, w way) {
						b.recv(bytes(headersFrame(id, status("200", length(fmt.Sprint(declared))), false)))
						isOver := false
						for _, f := range piecesOf(id, size, cut, endsApart) {
							b.recv(bytes(f))
							isOver = f.Flags&api.EndStream > 0
							if n := len(b.c.Answers()); n > 0 || b.c.Pending() == 0 && w.name == "a promised" {
								break
							}
						}
						if size == declared {
							w.wantWhole(b, id, api.Response{Status: 200, Fields: []api.Field{length(fmt.Sprint(declared))}, Body: long(size)})
							return
						}
						w.wantWrong(b, id, protocol, isOver)
					})
				}
			}
		}
	}
}

// piecesOf is a body in two pieces, the end in the last, or apart.
func piecesOf(id int64, size, cut int, endsApart bool) []api.Frame {
	body := long(size)
	all := []api.Frame{dataFrame(id, body[:cut], false), dataFrame(id, body[cut:], !endsApart)}
	if endsApart {
		all = append(all, dataFrame(id, "", true))
	}
	return all
}

// TestBodiless: no bytes come to a HEAD, nor with 204 and 304.
func TestBodiless(t *testing.T) {
	for _, x := range []struct{ method, status string }{{"HEAD", "200"}, {"GET", "204"}, {"GET", "304"}, {"HEAD", "404"}} {
		for _, l := range [][]api.Field{nil, {length("1")}, {length("0")}, {length("7")}} {
			for _, end := range []bool{false, true} {
				each(t, x.method, func(b *both, id int64, w way) {
					b.recv(bytes(headersFrame(id, status(x.status, l...), false)))
					b.recv(bytes(dataFrame(id, "x", end)))
					w.wantWrong(b, id, protocol, end)
				})
			}
			each(t, x.method, func(b *both, id int64, w way) {
				b.recv(bytes(headersFrame(id, status(x.status, l...), false), dataFrame(id, "", false), dataFrame(id, "", true)))
				a := api.Response{Fields: l}
				fmt.Sscan(x.status, &a.Status)
				w.wantWhole(b, id, a)
			})
		}
	}
}

// TestLongBodies: api.MaxBody bytes are taken, one more is too much, whatever the head
// says.
func TestLongBodies(t *testing.T) {
	for _, l := range [][]api.Field{nil, {length("65536")}, {length("70000")}} {
		for _, end := range []bool{false, true} {
			each(t, "GET", func(b *both, id int64, w way) {
				b.recv(bytes(headersFrame(id, status("200", l...), false)))
				for range 4 {
					b.recv(bytes(dataFrame(id, long(16384), false)))
					b.step(0)
				}
				b.wantAnswers()
				b.recv(bytes(dataFrame(id, "x", end)))
				w.wantWrong(b, id, calm, end)
			})
		}
	}
}

// TestResetsByTheServer: with every code, NoError too, at every moment.
func TestResetsByTheServer(t *testing.T) {
	for _, code := range []int64{0, 1, 2, 3, 4, 5, 6, 7, 8, 9, 10, 11, 12, 13, 77, 1<<32 - 1} {
		for moment := range 3 {
			each(t, "GET", func(b *both, id int64, w way) {
				if moment > 0 {
					b.recv(bytes(headersFrame(id, status("200"), false)))
				}
				if moment > 1 {
					b.recv(bytes(dataFrame(id, "part", false)))
					b.step(0)
				}
				b.recv(bytes(resetFrame(id, code)))
				w.wantWrong(b, id, code, true)
			})
		}
	}
}

// TestFaultsOfStreams: what the conn resets answers the request, or lets the promise go.
func TestFaultsOfStreams(t *testing.T) {
	faults := []struct {
		name string
		code int64
		text func(id int64) string
		end  bool
	}{
		{"a WINDOW_UPDATE of 0", protocol, func(id int64) string {
			return bytes(headersFrame(id, status("200"), false)) + bytes(windowFrame(id, 0))
		}, false},
		{"a window too great", api.FlowControlError, func(id int64) string {
			return bytes(headersFrame(id, status("200"), false), windowFrame(id, top), windowFrame(id, top))
		}, false},
		{"a PRIORITY too short", api.FrameSizeError, func(id int64) string { return raw(2, 0, uint32(id), "123") }, false},
	}
	for _, x := range faults {
		each(t, "GET", func(b *both, id int64, w way) {
			b.note("%s", x.name)
			b.recv(x.text(id))
			w.wantWrong(b, id, x.code, x.end)
		})
	}
}

// TestListsAboveOurs: a head above ours List, and DATA above ours Window, end the stream.
func TestListsAboveOurs(t *testing.T) {
	for _, end := range []bool{false, true} {
		each(t, "GET", func(b *both, id int64, w way) {
			set := standard()
			set.List, set.Window = 65536, 10
			b.settings(set)
			b.step(0)
			b.recv(bytes(ackFrame()))
			l := blockOf(status("200", fields(16, 4090)...))
			text := ""
			for from := 0; from < len(l); from += 16000 {
				to := min(from+16000, len(l))
				flags, kind := 0, api.FrameContinuation
				if to == len(l) {
					flags = api.EndHeaders
				}
				if from == 0 {
					kind, flags = api.FrameHeaders, flags|endFlag(end)
				}
				text += bytes(api.Frame{Type: kind, Flags: flags, Stream: id, Data: l[from:to]})
			}
			b.recv(text)
			w.wantWrong(b, id, calm, end)
		})
		each(t, "GET", func(b *both, id int64, w way) {
			set := standard()
			set.Window = 10
			b.settings(set)
			b.step(0)
			b.recv(bytes(ackFrame(), headersFrame(id, status("200"), false), dataFrame(id, long(10), false)))
			b.step(0)
			b.recv(bytes(dataFrame(id, long(11), end)))
			w.wantWrong(b, id, api.FlowControlError, end)
		})
	}
}

// TestLateFrames: what comes for a request that is answered, or for a promise that was
// let go, is nothing.
func TestLateFrames(t *testing.T) {
	b := flown(t)
	id := b.promise(1, listOf(get("/b")))
	b.cancel(1)
	b.tick(11)
	b.wantAnswers(failed(1, cancel))
	b.wantStep(0, resetEvent(1, cancel), resetEvent(id, cancel))
	for _, stream := range []int64{1, id} {
		for _, f := range []api.Frame{headersFrame(stream, status("200"), false), dataFrame(stream, "late", false), headersFrame(stream, nil, false), dataFrame(stream, "", true), headersFrame(stream, status("200"), true), resetFrame(stream, 3), windowFrame(stream, 7)} {
			b.recv(bytes(f))
		}
	}
	b.wantAnswers()
	b.wantCounts(0, 0, 0)
	b.wantHeld(0, 0)
	b.wantAlive()
	wantOver(b, 1)
	b.whole()
}

// TestAnsweredAheadOfItsBody: nothing more of the body is sent, its stream is left.
func TestAnsweredAheadOfItsBody(t *testing.T) {
	for sent := range 3 {
		b := begun(t, param(api.SetWindow, 2))
		r := post("/p", "bodies")
		id := b.fly(r)
		if sent > 0 {
			b.wantStep(0, dataEvent(id, "bo", false))
		}
		if sent > 1 {
			b.recv(bytes(windowFrame(id, 2)))
			b.wantStep(0, dataEvent(id, "di", false))
		}
		b.wantBusy()
		b.recv(bytes(windowFrame(id, 1)))
		b.reply(id, "early")
		b.wantAnswers(direct(1, id, "early"))
		b.wantStep(0) // the WINDOW_UPDATEs alone
		b.wantIdle()
		if s := b.m.c.State(id); s != halfRemote {
			t.Errorf("P23.1: %s: stream %d is in state %d", b.history(), id, s)
		}
		b.recv(bytes(windowFrame(id, 100)))
		b.wantIdle()
		if e := b.cancel(1); e != noneError {
			t.Errorf("P23.1: %s: %d", b.history(), e)
		}
		b.recv(bytes(resetFrame(id, 0)))
		b.wantAnswers()
		b.wantIdle()
		b.whole()
	}
}

// TestWrongAheadOfItsBody: a wrong end of a stream that we haven't ended is reset.
func TestWrongAheadOfItsBody(t *testing.T) {
	for name, text := range map[string]func(id int64) string{
		"a wrong head": func(id int64) string { return bytes(headersFrame(id, nil, true)) },
		"a short body": func(id int64) string {
			return bytes(headersFrame(id, status("200", length("3")), false), dataFrame(id, "ab", true))
		},
		"a length": func(id int64) string { return bytes(headersFrame(id, status("200", length("3")), true)) },
		"Data":     func(id int64) string { return bytes(dataFrame(id, "ab", true)) },
		"a long body": func(id int64) string {
			return bytes(headersFrame(id, status("200", length("1")), false), dataFrame(id, "ab", true))
		},
	} {
		b := begun(t, param(api.SetWindow, 0))
		id := b.fly(post("/p", "body"))
		b.note("%s", name)
		b.recv(text(id))
		b.wantAnswers(failed(1, protocol))
		b.wantStep(0, resetEvent(id, protocol))
		b.recv(bytes(settingsFrame(param(api.SetWindow, 100))))
		b.wantStep(0, acked())
		b.wantIdle()
		b.whole()
	}
}

// TestResponsesInTurns: many streams at once, requests' and promised ones, in pieces.
func TestResponsesInTurns(t *testing.T) {
	b := begun(t)
	for i := range 3 {
		b.fly(get(fmt.Sprint("/", i)))
	}
	for i := range 3 {
		b.promise(int64(2*i+1), listOf(get(fmt.Sprint("/p", i))))
	}
	for _, id := range []int64{5, 2, 1, 6, 4, 3} {
		b.recv(bytes(headersFrame(id, status("200", length("6")), false)))
	}
	for piece := range 3 {
		for _, id := range []int64{1, 6, 3, 2, 5, 4} {
			b.recv(bytes(dataFrame(id, fmt.Sprint(id, piece)[:1]+fmt.Sprint(piece), piece == 2)))
		}
	}
	want := func(id int64) api.Response {
		return api.Response{Status: 200, Fields: []api.Field{length("6")}, Body: fmt.Sprintf("%d0%d1%d2", id, id, id)}
	}
	b.wantAnswers(api.Answer{Number: 1, Stream: 1, Response: want(1)}, api.Answer{Number: 2, Stream: 3, Response: want(3)}, api.Answer{Number: 3, Stream: 5, Response: want(5)})
	for i, id := range []int64{2, 4, 6} {
		b.asks(get(fmt.Sprint("/p", i)))
		b.wantAnswers(api.Answer{Number: 4 + i, Cached: true, Stream: id, Response: want(id)})
	}
	b.whole()
}
