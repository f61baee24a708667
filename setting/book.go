package setting

import (
	"slices"

	"herald/api"
)

const mostWaiting = 64 // lists, of one book

// Book is what one end has sent, and what is acknowledged of it. Lists are
// acknowledged in the order in which they were sent, so what each of them will
// make is known when it is sent: that set is kept, and no list.
type Book struct {
	client  bool
	acked   api.Set
	waiting []api.Set
}

// NewBook is a book of a client, or of a server, that has sent nothing yet.
func NewBook(client bool) *Book { return &Book{client: client, acked: Default()} }

// Send lets the list wait behind the others.
func (b *Book) Send(l []api.Param) api.Errno {
	s, code := Apply(b.last(), l, b.client)
	if code != api.NoError {
		return api.ErrArg
	}
	if len(b.waiting) == mostWaiting {
		return api.ErrFull
	}
	b.waiting = append(b.waiting, s)
	return api.OK
}

// Ack acknowledges the list that waits longest.
func (b *Book) Ack() (api.Set, bool) {
	if len(b.waiting) == 0 {
		return api.Set{}, false
	}
	b.acked = b.waiting[0]
	b.waiting = slices.Delete(b.waiting, 0, 1)
	return b.acked, true
}

// Acked is the acknowledged set.
func (b *Book) Acked() api.Set { return b.acked }

// Waiting is how many lists wait.
func (b *Book) Waiting() int { return len(b.waiting) }

// last is the set that holds once all that waits is acknowledged.
func (b *Book) last() api.Set {
	if len(b.waiting) == 0 {
		return b.acked
	}
	return b.waiting[len(b.waiting)-1]
}
