package pair_test

import (
	"slices"

	"herald/api"
	"herald/field"
	"herald/vary"
)

// keeper is what a client makes of promises, by the document's words: which are
// reset, and with what, and what is kept for how long.
type keeper struct {
	conf     api.Conf
	origins  []string // as scheme://authority, as the tests write both
	now      int64
	underWay map[int64]*promised
	kept     []kept          // the oldest first
	due      map[int64]int64 // the codes of the resets that must be sent, by stream
	tried    map[string]int
}

type promised struct {
	request  api.Request
	came     int64
	response api.Response
}

type kept struct {
	request  api.Request
	response api.Response
	stream   int64
	came     int64
}

func newKeeper(w api.World, tried map[string]int) *keeper {
	return &keeper{conf: w.Conf, origins: w.Origins, underWay: map[int64]*promised{}, due: map[int64]int64{}, tried: tried}
}

func sizeOf(r api.Response) int64 {
	n := len(r.Body)
	for _, f := range r.Fields {
		n += len(f.Name) + len(f.Value) + 32
	}
	return int64(n)
}

func (k *keeper) bytes() int64 {
	var n int64
	for _, e := range k.kept {
		n += sizeOf(e.response)
	}
	return n
}

// find is the place of the oldest that answers a request; -1: none does.
func (k *keeper) find(r api.Request) int {
	return slices.IndexFunc(k.kept, func(e kept) bool {
		names, _ := vary.Names(e.response)
		return r.Body == "" && k.now-e.came <= k.conf.Life && vary.Match(e.request, r, names)
	})
}

// claim takes out what answers a request.
func (k *keeper) claim(r api.Request) (kept, bool) {
	at := k.find(r)
	if at < 0 {
		return kept{}, false
	}
	e := k.kept[at]
	k.kept = slices.Delete(k.kept, at, at+1)
	return e, true
}

// promise is for one that came; isCut: on a stream that the client has reset.
func (k *keeper) promise(stream int64, r api.Request, isCut bool) {
	why, code := "taken", int64(0)
	switch {
	case isCut:
		why, code = "on a cut stream", cancel
	case !slices.Contains(k.origins, r.Scheme+"://"+r.Authority):
		why, code = "foreign", protocol
	case int64(len(k.underWay)) >= k.conf.Pending:
		why, code = "too many", refused
	case k.find(r) >= 0:
		why, code = "held", cancel
	}
	k.tried["promise "+why]++
	if code != 0 {
		k.due[stream] = code
		return
	}
	k.underWay[stream] = &promised{request: r, came: k.now}
}

func (k *keeper) head(stream int64, l []api.Field, end bool) {
	if p := k.underWay[stream]; p != nil {
		p.response, _ = field.ReadResponse(l)
		k.piece(stream, "", end)
	}
}

func (k *keeper) piece(stream int64, text string, end bool) {
	p := k.underWay[stream]
	if p == nil {
		return
	}
	p.response.Body += text
	if end {
		delete(k.underWay, stream)
		k.store(kept{p.request, p.response, stream, k.now})
	}
}

func (k *keeper) store(e kept) {
	_, star := vary.Names(e.response)
	if size := sizeOf(e.response); star || k.conf.Entries == 0 || size > k.conf.Bytes {
		k.tried["not kept"]++
		return
	}
	k.kept = append(k.kept, e)
	for int64(len(k.kept)) > k.conf.Entries || k.bytes() > k.conf.Bytes {
		k.kept = k.kept[1:]
		k.tried["thrown out"]++
	}
	k.tried["kept"]++
}

// lose is for a stream that the server has reset.
func (k *keeper) lose(stream int64) { delete(k.underWay, stream) }

func (k *keeper) tick(now int64) {
	k.now = now
	for stream, p := range k.underWay {
		if now-p.came > k.conf.Life {
			delete(k.underWay, stream)
			k.due[stream] = cancel
			k.tried["promise expired"]++
		}
	}
	n := len(k.kept)
	k.kept = slices.DeleteFunc(k.kept, func(e kept) bool { return now-e.came > k.conf.Life })
	k.tried["expired"] += n - len(k.kept)
}
