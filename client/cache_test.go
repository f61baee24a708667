package client_test

import (
	"fmt"
	"testing"

	"herald/api"
	"herald/lists"
)

// holding is a client that holds /b, which came on stream 2 at tick 3.
func holding(t *testing.T) *both {
	t.Helper()
	b := afterTwo(t)
	b.step(0)
	b.wantIdle()
	return b
}

// TestClaims: by GET, HEAD and other methods, with and without a body.
func TestClaims(t *testing.T) {
	b := holding(t)
	n := 1
	waits := func(r api.Request) {
		t.Helper()
		b.wantWaits(r)
		b.wantHeld(1, 1)
		n++
	}
	for _, method := range []string{"HEAD", "POST", "PUT", "get", "OPTIONS"} {
		waits(by(method, get("/b")))
	}
	waits(by("GET", post("/b", "body")))
	waits(post("/b", "body"))
	waits(by("GET", post("/b", "B", length("1"))))
	waits(get("/B"))
	waits(get("/b/"))
	waits(get("/b?"))
	for _, change := range []func(*api.Request){func(r *api.Request) { r.Authority = "X" }, func(r *api.Request) { r.Authority = "x:443" }, func(r *api.Request) { r.Scheme = "http" }} {
		r := get("/b")
		change(&r)
		waits(r)
	}
	b.asks(get("/b", lists.Of("accept", "any", "content-length", "0")...))
	b.wantAnswers(cached(n+1, 2, "B"))
	b.wantHeld(0, 0)
	b.wantWaits(get("/b"))
	b.whole()
}

// TestClaimsOfHead: what was promised by HEAD answers a HEAD alone.
func TestClaimsOfHead(t *testing.T) {
	b := flown(t)
	id := b.promise(1, listOf(by("HEAD", get("/h"))))
	b.recv(bytes(headersFrame(id, status("200", length("7")), true)))
	b.wantHeld(1, 47)
	b.wantWaits(get("/h"))
	b.asks(by("HEAD", get("/h")))
	b.wantAnswers(api.Answer{Number: 3, Cached: true, Stream: id, Response: api.Response{Status: 200, Fields: []api.Field{length("7")}}})
	b.wantWaits(by("HEAD", get("/h")))
	b.whole()
}

// TestClaimsInTime: at arrival plus Life, and one tick later, however time went on.
func TestClaimsInTime(t *testing.T) {
	for _, life := range []int64{0, 1, 10, 1000, lastTick} {
		for _, arrival := range []int64{0, 1, 7, lastTick - 1000, lastTick} {
			for _, late := range []int64{0, 1, 5} {
				if arrival > lastTick-life-late {
					continue
				}
				conf := usual()
				conf.Life = life
				b := begunWith(t, conf)
				b.fly(get("/a"))
				b.tick(arrival)
				b.push(1, "/b", "B")
				if life > 0 {
					b.tick(arrival + life/2)
				}
				b.tick(arrival + life + late)
				if late > 0 {
					b.wantHeld(0, 0)
					b.wantWaits(get("/b"))
				} else {
					b.wantHeld(1, 1)
					b.asks(get("/b"))
					b.wantAnswers(cached(2, 2, "B"))
				}
				b.whole()
			}
		}
	}
}

// TestArrivalIsTheEnd: time counts from when a response was whole, not from its promise.
func TestArrivalIsTheEnd(t *testing.T) {
	b := flown(t)
	b.promise(1, listOf(get("/b")))
	b.tick(4)
	b.recv(bytes(headersFrame(2, status("200"), false), dataFrame(2, "x", false)))
	b.tick(10)
	b.recv(bytes(dataFrame(2, "y", true)))
	b.tick(20)
	b.asks(get("/b"))
	b.wantAnswers(cached(2, 2, "xy"))
	b.whole()
}

// TestClaimsInOrder: of several that match the oldest answers, each once.
func TestClaimsInOrder(t *testing.T) {
	b := flown(t)
	ids := []int64{}
	for range 3 {
		ids = append(ids, b.promise(1, listOf(get("/b"))))
	}
	for _, i := range []int{1, 0, 2} {
		b.reply(ids[i], fmt.Sprint("B", i))
	}
	b.wantHeld(3, 6)
	for n, i := range []int{1, 0, 2} {
		b.asks(get("/b"))
		b.wantAnswers(cached(n+2, ids[i], fmt.Sprint("B", i)))
	}
	b.wantWaits(get("/b"))
	b.whole()
}

// TestClaimsByVary: by the fields that the response names.
func TestClaimsByVary(t *testing.T) {
	b := flown(t)
	for _, x := range []string{"1", "2"} {
		id := b.promise(1, listOf(get("/v", lists.Of("accept", x, "other", "o")...)))
		b.recv(bytes(headersFrame(id, status("200", lists.Of("vary", "Accept")...), false), dataFrame(id, x, true)))
	}
	want := func(number int, stream int64, body string) api.Answer {
		a := cached(number, stream, body)
		a.Response.Fields = lists.Of("vary", "Accept")
		return a
	}
	b.wantWaits(get("/v"))
	b.wantWaits(get("/v", lists.Of("accept", "3")...))
	b.wantWaits(get("/v", lists.Of("accept", "1", "accept", "2")...))
	b.asks(get("/v", lists.Of("accept", "2")...))
	b.wantAnswers(want(5, 4, "2"))
	b.asks(get("/v", lists.Of("x", "y", "accept", "1")...))
	b.wantAnswers(want(6, 2, "1"))
	id := b.promise(1, listOf(get("/star")))
	b.recv(bytes(headersFrame(id, status("200", lists.Of("vary", "*")...), true)))
	b.wantHeld(0, 0)
	b.wantCounts(3, 1, 0)
	b.wantWaits(get("/star"))
	b.whole()
}

// TestWhatIsKept: within both bounds, the oldest go first; what is too great is not
// kept, and throws nothing out.
func TestWhatIsKept(t *testing.T) {
	b := begunWith(t, api.Conf{Entries: 3, Bytes: 100, Life: 10, Pending: 1})
	b.fly(get("/a"))
	b.push(1, "/1", long(30))
	b.push(1, "/2", long(30))
	b.push(1, "/big", long(101))
	b.wantHeld(2, 60)
	b.push(1, "/3", long(40))
	b.wantHeld(3, 100)
	b.push(1, "/4", long(1))
	b.wantHeld(3, 71)
	b.push(1, "/5", long(60))
	b.wantHeld(2, 61)
	b.wantWaits(get("/1"))
	b.wantWaits(get("/2"))
	b.wantWaits(get("/3"))
	b.wantWaits(get("/big"))
	b.push(1, "/6", long(100))
	b.wantHeld(1, 100)
	b.asks(get("/6"))
	b.wantAnswers(cached(6, b.promised, long(100)))
	b.wantHeld(0, 0)
	b.whole()

	for _, conf := range []api.Conf{{Entries: 0, Bytes: 1000, Life: 10, Pending: 4}, {Entries: 4, Bytes: 0, Life: 10, Pending: 4}} {
		b = begunWith(t, conf)
		b.fly(get("/a"))
		b.push(1, "/b", "B")
		b.wantHeld(0, 0)
		b.wantCounts(0, 1, 0)
		wantOver(b, 2)
		b.wantWaits(get("/b"))
		b.whole()
	}
}

// TestExpiredEntriesMakeRoom: when something is stored, and when time goes on.
func TestExpiredEntriesMakeRoom(t *testing.T) {
	b := begunWith(t, api.Conf{Entries: 2, Bytes: 1000, Life: 10, Pending: 4})
	b.fly(get("/a"))
	b.push(1, "/1", "1")
	b.tick(5)
	b.push(1, "/2", "2")
	b.tick(10)
	b.wantHeld(2, 2)
	b.tick(11)
	b.wantHeld(1, 1)
	b.push(1, "/3", "3")
	b.wantHeld(2, 2)
	b.tick(15)
	b.wantHeld(2, 2)
	b.tick(16)
	b.wantHeld(1, 1)
	b.tick(21)
	b.tick(22)
	b.wantHeld(0, 0)
	b.whole()
}

// TestAskedAheadOfThePush: a request that waits, or is under way, isn't answered by what
// is pushed later.
func TestAskedAheadOfThePush(t *testing.T) {
	b := flown(t, param(api.SetStreams, 1))
	b.wantWaits(get("/b"))
	b.push(1, "/b", "pushed")
	b.wantAnswers()
	b.wantHeld(1, 6)
	b.reply(1, "A")
	b.wantAnswers(direct(1, 1, "A"))
	b.wantStep(0, opened(3, get("/b")))
	b.reply(3, "asked")
	b.wantAnswers(direct(2, 3, "asked"))
	b.asks(get("/b"))
	b.wantAnswers(cached(3, 2, "pushed"))
	b.whole()
}

// TestPushedOfBigFields: the fields of what was promised count for nothing.
func TestPushedOfBigFields(t *testing.T) {
	b := flown(t)
	id := b.promise(1, listOf(get("/b", fields(3, 2000)...)))
	b.reply(id, "B")
	b.wantHeld(1, 1)
	b.asks(get("/b"))
	b.wantAnswers(cached(2, id, "B"))
	b.whole()
}
